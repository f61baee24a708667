import Derived.Test.YthfpidndjcnbcaaGood
import Derived.Deep.RegionHeld3
namespace Go.Proofs.Ythfpidndjcnbcaa
open Go.RowKit

theorem number_at (n : Int) (v : Nat) (hv : n % 2147483648 = (v : Int)) (w : World) :
    Calls Try.prog 15 #[.int .i64 n] w fun e w' => e = .returned (.int .i64 (v : Int)) ∧ w' = w := by
  have := number_any n w
  rwa [hv] at this

set_option maxRecDepth 100000 in
set_option maxHeartbeats 600000 in
theorem back_walk (n u z : Int) (p x f v : Nat) (A tail : ByteArray) (w : World) (hp : 1 + n % 8 = (p : Int)) (hp1 : 1 ≤ p) (hp8 : p ≤ 8)
    (hx : bits .and .i64 u 255 = (x : Int)) (_hx8 : x ≤ 255) (hf : bits .andNot .i64 (x : Int) (fl p : Int) = (f : Int)) (_hf8 : f ≤ 255) (hz : z % 2147483648 = (v : Int))
    (_hv : v ≤ 2147483647) (h1 : 0 < A.size) (h6 : A.size ≤ 6) (hup : bits .andNot .i64 (A[0].toNat : Int) (fl p : Int) = (f : Int)) (ht : tail.size ≤ 140737488351232)
    (HP : Hid (∀ w : World, Calls Try.prog 13 #[.int .i64 (p : Int), .int .i64 (f : Int), .int .i64 (v : Int)] w fun e w' => e = .returned (.tuple #[.string A, .int .i64 0]) ∧ Below w.heap.size w w'))
    (HT : Hid (takeS (p : Int) (A ++ tail) = (v, A.size, 0))) (HS : Hid (∀ i, i < A.size → takeS (p : Int) (A.extract 0 i) = (0, 0, 2))) :
    Calls Try.prog 6 #[.int .i64 n, .int .i64 u, .int .i64 z, .string tail] w fun e w' => e = .returned (.bool true) ∧ Below w.heap.size w w' := by
  have hfl := fl_le hp8
  have hA0 := A[0].toNat_lt
  have HN := (show Hid (1 + n % 8 = (p : Int)) from hp)
  have HZ := (show Hid (z % 2147483648 = (v : Int)) from hz)
  clear hp hz
  have i0 : (0 : Int) < (A.size : Int) := by omega
  have d1 : decide ((A.size : Int) < 1) = false := by simp; omega
  go_enter Try.func6, Try.ntmps6
  go_wp2_with fail
  refine (prefix_at _ p HN.out _).mono ?_
  rintro e w ⟨rfl, rfl⟩
  go_wp2_with fail
  refine (number_at _ v HZ.out _).mono ?_
  rintro e w ⟨rfl, rfl⟩
  go_wp2_with fail
  refine (lfull_any _ _ hp1 hp8).mono ?_
  rintro e w ⟨rfl, rfl⟩
  go_wp2_with fail
  refine (HP.out _).mono ?_
  rintro e w1 ⟨rfl, hb1⟩
  go_wp2_with fail
  have hupw : bits .andNot .i64 (IntKind.i64.wrap (A[0].toNat : Int)) (fl p : Int) = (f : Int) := by rw [wraps_i64_63 _ (by omega) (by omega)]; exact hup
  go_region_held3 (fun _ => True) (trivial) (first | (go_at_call 12; refine (lfull_any _ _ hp1 hp8).mono ?_; rintro e w2 ⟨rfl, rfl⟩) | (go_at_call 10; refine (first_any _).mono ?_; rintro e w3 ⟨rfl, hb3⟩))
  all_goals
    have hb := (hb1.drew).trans (hb3.mono hb1.size)
    clear hb1 hb3 hup hupw hf hx
    go_wp2_with fail
    refine (take_at _ _ _ HT.out (by rw [ByteArray.size_append]; omega) _).mono ?_
    rintro e w4 ⟨rfl, rfl⟩
    go_wp2_with fail
    go_loop [14] (fun i => ∃ k : Nat, k ≤ A.size ∧ i = .int .i64 k) (fun i => A.size - (intOf i).toNat)
    case atStart => exact ⟨0, by omega, rfl⟩
    case round =>
      obtain ⟨k, hk, rfl⟩ := hrel
      by_cases hlt : k < A.size
      · have hC := HS.out k hlt
        have hsx : (A.extract 0 k).size ≤ 9223372036854775807 := by rw [ByteArray.size_extract]; omega
        go_wp2_with fail
        refine (take_at _ _ _ hC hsx _).mono ?_
        rintro e w5 ⟨rfl, rfl⟩
        go_wp2
        go_round
        case rel => exact ⟨k + 1, by omega, by go_num⟩
        case measure => simp [intOf]; omega
      · go_wp2
        go_ret
        exact ⟨rfl, hb⟩

theorem lo_up (p x : Nat) : lo p (x - lo p x) = 0 := by
  unfold lo
  have h := Nat.div_add_mod x (2 ^ p)
  have e : x - x % 2 ^ p = 2 ^ p * (x / 2 ^ p) := by omega
  rw [e]; exact Nat.mul_mod_right _ _
theorem strOf_size (l : List UInt8) : (strOf l).size = l.length := by simp [strOf, ByteArray.size]
theorem strOf_list (l : List UInt8) : (strOf l).data.toList = l := rfl

theorem pintBack_any (n u z : Int) (tail : ByteArray) (w : World) (ht : tail.size ≤ 140737488351232) :
    Calls Try.prog 6 #[.int .i64 n, .int .i64 u, .int .i64 z, .string tail] w fun e w' => e = .returned (.bool true) ∧ Below w.heap.size w w' := by
  obtain ⟨p, hp, hp1, hp8⟩ := prefix_nat n
  obtain ⟨x, hx, hx8⟩ : ∃ x : Nat, u % 256 = (x : Int) ∧ x ≤ 255 := ⟨(u % 256).toNat, by omega, by omega⟩
  obtain ⟨v, hz, hv⟩ : ∃ v : Nat, z % 2147483648 = (v : Int) ∧ v ≤ 2147483647 := ⟨(z % 2147483648).toNat, by omega, by omega⟩
  obtain ⟨l, g⟩ := good p (x - lo p x) v hp1 hp8 (by omega) (lo_up p x) hv
  have h1 : 0 < (strOf l).size := by rw [strOf_size]; exact g.one
  refine back_walk n u z p x (x - lo p x) v (strOf l) tail w hp hp1 hp8 (by rw [and255, hx]) hx8 (up_bits x p (by omega) hp8) (by omega) hz hv h1 (by rw [strOf_size]; exact g.six) ?_ ht ?_ ?_ ?_
  · have hc := list_cons (strOf l) h1
    rw [strOf_list] at hc
    rw [up_bits _ p (strOf l)[0].toNat_lt hp8, g.up _ _ hc]
  · exact fun w => put_at _ _ _ l 0 g.put w
  · show _ = _
    have e : (strOf l ++ tail).data.toList = l ++ tail.data.toList := by simp [strOf]
    rw [takeS_legal p _ hp1 hp8, e, g.take hv, strOf_size]
  · intro i hi
    rw [strOf_size] at hi
    rw [takeS_legal p _ hp1 hp8, extract_list, strOf_list, g.short i hi]
end Go.Proofs.Ythfpidndjcnbcaa
