/- slices.Sort at []int64, by the shelf's contract. -/
import Derived.Test.YtaaocgppniflcaaS
import Derived.Shelf.SortM.Plain
import Derived.Shelf.SortM.SortNone
import Derived.Ground.SlgmProg
import Derived.Sort.OwnSortedInts
namespace Go.Proofs.Ytaaocgppniflcaa
open Go.RowKit Go.Sort Go.Shelf

shelf_lay_g SlLaysM.n5 Slgm 5 at Try 29 as laidSort

theorem sort_any (blk off cap : Nat) (zs : List Int) (w : World) (hH : Holds (Value.int .i64) w blk off zs.toArray) (hblk : blk < w.heap.size) (hsz : zs.length < 4611686018427387904) :
    Calls Try.prog 29 #[.slice (some ⟨blk, off, none⟩) zs.length cap] w fun e w' =>
      e = .returned (.tuple #[]) ∧ ∃ n os, w' = grow (putRow (Value.int .i64) (Sort.ahead w n) blk off (zs.mergeSort fun x y => decide (x ≤ y)).toArray) os :=
  AnyM.slices_Sort_int laidSort blk off cap zs w hH hblk hsz
theorem sort_none (p : Option Addr) (cap : Nat) (w : World) : Calls Try.prog 29 #[.slice p 0 cap] w fun e w' => e = .returned (.tuple #[]) ∧ w' = w :=
  AnyM.slices_Sort_int_none laidSort p cap w
#print axioms sort_any
end Go.Proofs.Ytaaocgppniflcaa
