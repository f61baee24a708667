/- slices.Sort at []int64, by the shelf's contract. -/
import Derived.Test.YtaaocgppniflcaaS
import Derived.Shelf.SortM.Plain
import Derived.Shelf.SortM.SortNone
import Derived.Ground.SlgmProg
import Derived.Sort.OwnSortedInts
import Derived.Shelf.SlGeneric
namespace Go.Proofs.Ytaaocgppniflcaa
open Go.RowKit Go.Sort Go.Shelf

def laidSort_ren : Go.Shelf.Ren := ⟨fun | 5 => 29 | 8 => 48 | 7 => 47 | 19 => 63 | 20 => 64 | 10 => 54 | 11 => 55 | 12 => 56 | 13 => 57 | 14 => 58 | 15 => 59 | 16 => 60 | 17 => 61 | 18 => 62 | 30 => 81 | 31 => 82 | 32 => 83 | 33 => 84 | 34 => 85 | 35 => 86 | 40 => 92 | n => n, fun | 23 => 30 | 25 => 2 | 3 => 3 | 32 => 81 | 22 => 30 | 0 => 0 | 44 => 97 | 46 => 99 | 4 => 4 | 36 => 90 | 35 => 89 | 41 => 63 | 5 => 5 | 9 => 9 | 53 => 101 | 57 => 105 | 63 => 108 | 64 => 109 | n => n, fun | n => n⟩
theorem laidSort : Go.Proofs.SlLaysM.n5 Try.prog laidSort_ren := {
  mixed := by kernel_rfl
  f5 := ⟨Try.f29.name, by decide, Try.func29.trans (congrArg some (by kernel_rfl))⟩
  f7 := ⟨Try.f47.name, by decide, Try.func47.trans (congrArg some (by kernel_rfl))⟩
  f8 := Try.func48.trans (congrArg some (by kernel_rfl))
  f10 := ⟨Try.f54.name, by decide, Try.func54.trans (congrArg some (by kernel_rfl))⟩
  f11 := ⟨Try.f55.name, by decide, Try.func55.trans (congrArg some (by kernel_rfl))⟩
  f12 := ⟨Try.f56.name, by decide, Try.func56.trans (congrArg some (by kernel_rfl))⟩
  f13 := ⟨Try.f57.name, by decide, Try.func57.trans (congrArg some (by kernel_rfl))⟩
  f14 := ⟨Try.f58.name, by decide, Try.func58.trans (congrArg some (by kernel_rfl))⟩
  f15 := ⟨Try.f59.name, by decide, Try.func59.trans (congrArg some (by kernel_rfl))⟩
  f16 := ⟨Try.f60.name, by decide, Try.func60.trans (congrArg some (by kernel_rfl))⟩
  f17 := ⟨Try.f61.name, by decide, Try.func61.trans (congrArg some (by kernel_rfl))⟩
  f18 := ⟨Try.f62.name, by decide, Try.func62.trans (congrArg some (by kernel_rfl))⟩
  f19 := Try.func63.trans (congrArg some (by kernel_rfl))
  f20 := Try.func64.trans (congrArg some (by kernel_rfl))
  f30 := ⟨Try.f81.name, by decide, Try.func81.trans (congrArg some (by kernel_rfl))⟩
  f31 := Try.func82.trans (congrArg some (by kernel_rfl))
  f32 := Try.func83.trans (congrArg some (by kernel_rfl))
  f33 := ⟨Try.f84.name, by decide, Try.func84.trans (congrArg some (by kernel_rfl))⟩
  f34 := ⟨Try.f85.name, by decide, Try.func85.trans (congrArg some (by kernel_rfl))⟩
  f35 := ⟨Try.f86.name, by decide, Try.func86.trans (congrArg some (by kernel_rfl))⟩
  f40 := ⟨Try.f92.name, by decide, Try.func92.trans (congrArg some (by kernel_rfl))⟩
  t0 := Try.underlying0
  a0 := Try.isAgg0
  z0 := Try.sizeOf0
  v0 := Try.zeroValue0
  t3 := Try.underlying3
  a3 := Try.isAgg3
  z3 := Try.sizeOf3
  v3 := Try.zeroValue3
  t4 := Try.underlying4
  a4 := Try.isAgg4
  z4 := Try.sizeOf4
  v4 := Try.zeroValue4
  t5 := Try.underlying5
  a5 := Try.isAgg5
  z5 := Try.sizeOf5
  v5 := Try.zeroValue5
  t9 := Try.underlying9
  a9 := Try.isAgg9
  z9 := Try.sizeOf9
  v9 := Try.zeroValue9
  t22 := Try.underlying30
  a22 := Try.isAgg30
  z22 := Try.sizeOf30
  v22 := Try.zeroValue30
  t23 := Try.underlying30
  a23 := Try.isAgg30
  z23 := Try.sizeOf30
  v23 := Try.zeroValue30
  t25 := Try.underlying2
  a25 := Try.isAgg2
  z25 := Try.sizeOf2
  v25 := Try.zeroValue2
  t32 := Try.underlying81
  a32 := Try.isAgg81
  z32 := Try.sizeOf81
  v32 := Try.zeroValue81
  t35 := Try.underlying89
  a35 := Try.isAgg89
  z35 := Try.sizeOf89
  v35 := Try.zeroValue89
  t36 := Try.underlying90
  a36 := Try.isAgg90
  z36 := Try.sizeOf90
  v36 := Try.zeroValue90
  t41 := Try.underlying63
  a41 := Try.isAgg63
  z41 := Try.sizeOf63
  v41 := Try.zeroValue63
  t44 := Try.underlying97
  a44 := Try.isAgg97
  z44 := Try.sizeOf97
  v44 := Try.zeroValue97
  t46 := Try.underlying99
  a46 := Try.isAgg99
  z46 := Try.sizeOf99
  v46 := Try.zeroValue99
  t53 := Try.underlying101
  a53 := Try.isAgg101
  z53 := Try.sizeOf101
  v53 := Try.zeroValue101
  t57 := Try.underlying105
  a57 := Try.isAgg105
  z57 := Try.sizeOf105
  v57 := Try.zeroValue105
  t63 := Try.underlying108
  a63 := Try.isAgg108
  z63 := Try.sizeOf108
  v63 := Try.zeroValue108
  t64 := Try.underlying109
  a64 := Try.isAgg109
  z64 := Try.sizeOf109
  v64 := Try.zeroValue109 }

theorem sort_any (blk off cap : Nat) (zs : List Int) (w : World) (hH : Holds (Value.int .i64) w blk off zs.toArray) (hblk : blk < w.heap.size) (hsz : zs.length < 4611686018427387904) :
    Calls Try.prog 29 #[.slice (some ⟨blk, off, none⟩) zs.length cap] w fun e w' =>
      e = .returned (.tuple #[]) ∧ ∃ n os, w' = grow (putRow (Value.int .i64) (Sort.ahead w n) blk off (zs.mergeSort fun x y => decide (x ≤ y)).toArray) os :=
  AnyM.slices_Sort_int laidSort blk off cap zs w hH hblk hsz
theorem sort_none (p : Option Addr) (cap : Nat) (w : World) : Calls Try.prog 29 #[.slice p 0 cap] w fun e w' => e = .returned (.tuple #[]) ∧ w' = w :=
  AnyM.slices_Sort_int_none laidSort p cap w
end Go.Proofs.Ytaaocgppniflcaa
