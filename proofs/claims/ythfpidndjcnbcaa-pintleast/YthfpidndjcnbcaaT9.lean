import Derived.Test.YthfpidndjcnbcaaT8
import Derived.Test.YthfpidndjcnbcaaT2
namespace Go.Proofs.Ythfpidndjcnbcaa
open Go.RowKit

theorem put_at (a f v : Int) (l : List UInt8) (n : Nat) (h : putI a f v = (l, n)) (w : World) :
    Calls Try.prog 13 #[.int .i64 a, .int .i64 f, .int .i64 v] w fun e w' => e = .returned (.tuple #[.string (strOf l), .int .i64 (n : Int)]) ∧ Below w.heap.size w w' := by
  have := put_any a f v w
  rwa [h] at this
theorem take_at (a : Int) (s : ByteArray) (x : Nat × Nat × Nat) (h : takeS a s = x) (hs : s.size ≤ 9223372036854775807) (w : World) :
    Calls Try.prog 8 #[.int .i64 a, .string s] w fun e w' => e = .returned (.tuple #[.int .i64 x.1, .int .i64 x.2.1, .int .i64 x.2.2]) ∧ w' = w := by
  have := take_any a s w hs
  rwa [h] at this

theorem strOf_toList (l : List UInt8) : (strOf l).toList = l := by rw [ByteArray.toList_eq]; rfl
theorem c1 : putI 5 0 10 = ([10], 0) := by decide +kernel
theorem c2 : putI 5 224 1337 = ([255, 154, 10], 0) := by decide +kernel
theorem c3 : takeS 5 ⟨#[255, 154, 10, 119]⟩ = (1337, 3, 0) := by decide +kernel
theorem c4 : takeS 5 ⟨#[31, 154]⟩ = (0, 0, 2) := by decide +kernel

set_option maxRecDepth 100000 in
set_option maxHeartbeats 800000 in
theorem first_any (w : World) :
    Calls Try.prog 10 #[] w fun e w' => e = .returned (.bool true) ∧ Below w.heap.size w w' := by
  have s1 := strOf_toList [10]
  have s2 := strOf_toList [255, 154, 10]
  go_enter Try.func10, Try.ntmps10
  go_wp2_with fail
  refine (put_at 5 0 10 _ _ c1 _).mono ?_
  rintro e w1 ⟨rfl, hb1⟩
  go_wp2_with fail
  refine (put_at 5 224 1337 _ _ c2 _).mono ?_
  rintro e w2 ⟨rfl, hb2⟩
  have hb := hb1.trans (hb2.mono hb1.size)
  clear hb1 hb2
  go_wp2_with fail
  refine (take_at 5 _ _ c3 (by decide) _).mono ?_
  rintro e w3 ⟨rfl, rfl⟩
  go_wp2_with fail
  refine (take_at 5 _ _ c4 (by decide) _).mono ?_
  rintro e w4 ⟨rfl, rfl⟩
  go_wp2
  go_ret
  exact ⟨rfl, hb⟩
end Go.Proofs.Ythfpidndjcnbcaa
