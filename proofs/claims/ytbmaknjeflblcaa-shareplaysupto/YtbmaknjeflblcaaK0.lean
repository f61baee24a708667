/- slices.Sort at []int64, by the shelf's contract. -/
import Derived.Test.YtbmaknjeflblcaaS
import Derived.Shelf.SortM.Plain
import Derived.Shelf.SortM.SortNone
import Derived.Ground.SlgmProg
import Derived.Sort.OwnSortedInts
import Derived.Shelf.SlGeneric
namespace Go.Proofs.Ytbmaknjeflblcaa
open Go.RowKit Go.Sort Go.Shelf

def laidSort_ren : Go.Shelf.Ren := ⟨fun | 5 => 26 | 8 => 33 | 7 => 32 | 19 => 45 | 20 => 46 | 10 => 36 | 11 => 37 | 12 => 38 | 13 => 39 | 14 => 40 | 15 => 41 | 16 => 42 | 17 => 43 | 18 => 44 | 30 => 48 | 31 => 49 | 32 => 50 | 33 => 51 | 34 => 52 | 35 => 53 | 40 => 54 | n => n, fun | 23 => 22 | 25 => 2 | 3 => 3 | 32 => 79 | 22 => 22 | 0 => 0 | 44 => 92 | 46 => 94 | 4 => 4 | 36 => 86 | 35 => 85 | 41 => 34 | 5 => 5 | 9 => 9 | 53 => 96 | 57 => 100 | 63 => 102 | 64 => 103 | n => n, fun | n => n⟩
theorem laidSort : Go.Proofs.SlLaysM.n5 Try.prog laidSort_ren := {
  mixed := by kernel_rfl
  f5 := ⟨Try.f26.name, by decide, Try.func26.trans (congrArg some (by kernel_rfl))⟩
  f7 := ⟨Try.f32.name, by decide, Try.func32.trans (congrArg some (by kernel_rfl))⟩
  f8 := Try.func33.trans (congrArg some (by kernel_rfl))
  f10 := ⟨Try.f36.name, by decide, Try.func36.trans (congrArg some (by kernel_rfl))⟩
  f11 := ⟨Try.f37.name, by decide, Try.func37.trans (congrArg some (by kernel_rfl))⟩
  f12 := ⟨Try.f38.name, by decide, Try.func38.trans (congrArg some (by kernel_rfl))⟩
  f13 := ⟨Try.f39.name, by decide, Try.func39.trans (congrArg some (by kernel_rfl))⟩
  f14 := ⟨Try.f40.name, by decide, Try.func40.trans (congrArg some (by kernel_rfl))⟩
  f15 := ⟨Try.f41.name, by decide, Try.func41.trans (congrArg some (by kernel_rfl))⟩
  f16 := ⟨Try.f42.name, by decide, Try.func42.trans (congrArg some (by kernel_rfl))⟩
  f17 := ⟨Try.f43.name, by decide, Try.func43.trans (congrArg some (by kernel_rfl))⟩
  f18 := ⟨Try.f44.name, by decide, Try.func44.trans (congrArg some (by kernel_rfl))⟩
  f19 := Try.func45.trans (congrArg some (by kernel_rfl))
  f20 := Try.func46.trans (congrArg some (by kernel_rfl))
  f30 := ⟨Try.f48.name, by decide, Try.func48.trans (congrArg some (by kernel_rfl))⟩
  f31 := Try.func49.trans (congrArg some (by kernel_rfl))
  f32 := Try.func50.trans (congrArg some (by kernel_rfl))
  f33 := ⟨Try.f51.name, by decide, Try.func51.trans (congrArg some (by kernel_rfl))⟩
  f34 := ⟨Try.f52.name, by decide, Try.func52.trans (congrArg some (by kernel_rfl))⟩
  f35 := ⟨Try.f53.name, by decide, Try.func53.trans (congrArg some (by kernel_rfl))⟩
  f40 := ⟨Try.f54.name, by decide, Try.func54.trans (congrArg some (by kernel_rfl))⟩
  t0 := Try.underlying0
  a0 := Try.isAgg0
  z0 := Try.sizeOf0
  v0 := Try.zeroValue0
  t3 := Try.underlying3
  a3 := Try.isAgg3
  z3 := Try.sizeOf3
  v3 := Try.zeroValue3
  t4 := Try.underlying4
  a4 := Try.isAgg4
  z4 := Try.sizeOf4
  v4 := Try.zeroValue4
  t5 := Try.underlying5
  a5 := Try.isAgg5
  z5 := Try.sizeOf5
  v5 := Try.zeroValue5
  t9 := Try.underlying9
  a9 := Try.isAgg9
  z9 := Try.sizeOf9
  v9 := Try.zeroValue9
  t22 := Try.underlying22
  a22 := Try.isAgg22
  z22 := Try.sizeOf22
  v22 := Try.zeroValue22
  t23 := Try.underlying22
  a23 := Try.isAgg22
  z23 := Try.sizeOf22
  v23 := Try.zeroValue22
  t25 := Try.underlying2
  a25 := Try.isAgg2
  z25 := Try.sizeOf2
  v25 := Try.zeroValue2
  t32 := Try.underlying79
  a32 := Try.isAgg79
  z32 := Try.sizeOf79
  v32 := Try.zeroValue79
  t35 := Try.underlying85
  a35 := Try.isAgg85
  z35 := Try.sizeOf85
  v35 := Try.zeroValue85
  t36 := Try.underlying86
  a36 := Try.isAgg86
  z36 := Try.sizeOf86
  v36 := Try.zeroValue86
  t41 := Try.underlying34
  a41 := Try.isAgg34
  z41 := Try.sizeOf34
  v41 := Try.zeroValue34
  t44 := Try.underlying92
  a44 := Try.isAgg92
  z44 := Try.sizeOf92
  v44 := Try.zeroValue92
  t46 := Try.underlying94
  a46 := Try.isAgg94
  z46 := Try.sizeOf94
  v46 := Try.zeroValue94
  t53 := Try.underlying96
  a53 := Try.isAgg96
  z53 := Try.sizeOf96
  v53 := Try.zeroValue96
  t57 := Try.underlying100
  a57 := Try.isAgg100
  z57 := Try.sizeOf100
  v57 := Try.zeroValue100
  t63 := Try.underlying102
  a63 := Try.isAgg102
  z63 := Try.sizeOf102
  v63 := Try.zeroValue102
  t64 := Try.underlying103
  a64 := Try.isAgg103
  z64 := Try.sizeOf103
  v64 := Try.zeroValue103 }
theorem sort_any (blk off cap : Nat) (zs : List Int) (w : World) (hH : Holds (Value.int .i64) w blk off zs.toArray) (hblk : blk < w.heap.size) (hsz : zs.length < 4611686018427387904) :
    Calls Try.prog 26 #[.slice (some ⟨blk, off, none⟩) zs.length cap] w fun e w' =>
      e = .returned (.tuple #[]) ∧ ∃ n os, w' = grow (putRow (Value.int .i64) (Sort.ahead w n) blk off (zs.mergeSort fun x y => decide (x ≤ y)).toArray) os :=
  AnyM.slices_Sort_int laidSort blk off cap zs w hH hblk hsz
theorem sort_none (p : Option Addr) (cap : Nat) (w : World) : Calls Try.prog 26 #[.slice p 0 cap] w fun e w' => e = .returned (.tuple #[]) ∧ w' = w :=
  AnyM.slices_Sort_int_none laidSort p cap w
end Go.Proofs.Ytbmaknjeflblcaa
