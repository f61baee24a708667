import Derived.Test.YthfpidndjcnbcaaT9
import Derived.Test.YthfpidndjcnbcaaT5
import Derived.Test.YthfpidndjcnbcaaSays
namespace Go.Proofs.Ythfpidndjcnbcaa
open Go.RowKit

theorem prefix_at (n : Int) (p : Nat) (hp : 1 + n % 8 = (p : Int)) (w : World) :
    Calls Try.prog 11 #[.int .i64 n] w fun e w' => e = .returned (.int .i64 (p : Int)) ∧ w' = w := by
  have := prefix_any n w
  rwa [hp] at this
theorem said_at (p : Nat) (s : ByteArray) (x : Nat × Nat) (hx : saidS p s = x) (w : World) (hs : s.size ≤ 9223372036854775807) (hp1 : 1 ≤ p) (hp8 : p ≤ 8) :
    Calls Try.prog 16 #[.int .i64 (p : Int), .string s] w fun e w' => e = .returned (.tuple #[.int .i64 x.1, .int .i64 x.2]) ∧ Below w.heap.size w w' := by
  have := said_any p s w hs hp1 hp8
  rw [hx] at this
  refine this.mono ?_
  rintro e w' ⟨rfl, n, rfl⟩
  exact ⟨rfl, below_drewN (Below.refl _ _) n⟩
theorem takeS_legal (p : Nat) (s : ByteArray) (hp1 : 1 ≤ p) (hp8 : p ≤ 8) : takeS (p : Int) s = takeN p s.data.toList := by
  have h : 1 ≤ (p : Int) ∧ (p : Int) ≤ 8 := by omega
  simp [takeS, takeI, h]

set_option maxRecDepth 100000 in
set_option maxHeartbeats 800000 in
theorem says_none (p : Nat) (n : Int) (s : ByteArray) (w : World) (hs : s.size ≤ 9223372036854775807) (hp : 1 + n % 8 = (p : Int)) (hp1 : 1 ≤ p) (hp8 : p ≤ 8)
    (hT : takeS (p : Int) s = (0, 0, if 6 ≤ s.size then 20 else 2)) (z : Nat) (hS : saidS p s = (z, 0)) :
    Calls Try.prog 7 #[.int .i64 n, .string s] w fun e w' => e = .returned (.bool true) ∧ Below w.heap.size w w' := by
  by_cases h6 : 6 ≤ s.size
  · rw [if_pos h6] at hT
    have h5 : decide (5 < (s.size : Int)) = true := by simp; omega
    go_enter Try.func7, Try.ntmps7
    go_wp2_with fail
    refine (prefix_at _ p hp _).mono ?_
    rintro e w ⟨rfl, rfl⟩
    go_wp2_with fail
    refine (take_at _ _ _ hT hs _).mono ?_
    rintro e w ⟨rfl, rfl⟩
    go_wp2_with fail
    refine (said_at _ _ _ hS _ hs hp1 hp8).mono ?_
    rintro e w2 ⟨rfl, hb2⟩
    go_wp2_with fail
    refine (first_any _).mono ?_
    rintro e w3 ⟨rfl, hb3⟩
    have hb := hb2.trans (hb3.mono hb2.size)
    clear hb2 hb3
    go_wp2
    go_ret
    exact ⟨rfl, hb⟩
  · rw [if_neg h6] at hT
    have h5 : decide (5 < (s.size : Int)) = false := by simp; omega
    go_enter Try.func7, Try.ntmps7
    go_wp2_with fail
    refine (prefix_at _ p hp _).mono ?_
    rintro e w ⟨rfl, rfl⟩
    go_wp2_with fail
    refine (take_at _ _ _ hT hs _).mono ?_
    rintro e w ⟨rfl, rfl⟩
    go_wp2_with fail
    refine (said_at _ _ _ hS _ hs hp1 hp8).mono ?_
    rintro e w2 ⟨rfl, hb2⟩
    go_wp2_with fail
    refine (first_any _).mono ?_
    rintro e w3 ⟨rfl, hb3⟩
    have hb := hb2.trans (hb3.mono hb2.size)
    clear hb2 hb3
    go_wp2
    go_ret
    exact ⟨rfl, hb⟩

set_option maxRecDepth 100000 in
set_option maxHeartbeats 800000 in
theorem says_big (p : Nat) (n : Int) (s : ByteArray) (w : World) (hs : s.size ≤ 9223372036854775807) (hp : 1 + n % 8 = (p : Int)) (hp1 : 1 ≤ p) (hp8 : p ≤ 8)
    (hT : takeS (p : Int) s = (0, 0, 20)) (z m : Nat) (hm : m ≠ 0) (hz : 2147483647 < z) (hS : saidS p s = (z, m)) :
    Calls Try.prog 7 #[.int .i64 n, .string s] w fun e w' => e = .returned (.bool true) ∧ Below w.heap.size w w' := by
  have hm0 : ((m : Int) == 0) = false := beq_eq_false_iff_ne.2 (by omega)
  go_enter Try.func7, Try.ntmps7
  go_wp2_with fail
  refine (prefix_at _ p hp _).mono ?_
  rintro e w ⟨rfl, rfl⟩
  go_wp2_with fail
  refine (take_at _ _ _ hT hs _).mono ?_
  rintro e w ⟨rfl, rfl⟩
  go_wp2_with fail
  refine (said_at _ _ _ hS _ hs hp1 hp8).mono ?_
  rintro e w2 ⟨rfl, hb2⟩
  go_wp2_with fail
  refine (first_any _).mono ?_
  rintro e w3 ⟨rfl, hb3⟩
  have hb := hb2.trans (hb3.mono hb2.size)
  clear hb2 hb3
  go_wp2
  go_ret
  exact ⟨rfl, hb⟩

set_option maxRecDepth 100000 in
set_option maxHeartbeats 800000 in
theorem says_yes (p : Nat) (n : Int) (s : ByteArray) (w : World) (hs : s.size ≤ 9223372036854775807) (hp : 1 + n % 8 = (p : Int)) (hp1 : 1 ≤ p) (hp8 : p ≤ 8)
    (z m : Nat) (hT : takeS (p : Int) s = (z, m, 0)) (hm : m ≠ 0) (hms : m ≤ s.size) (hz : z ≤ 2147483647) (hS : saidS p s = (z, m))
    (hC : takeS (p : Int) (s.extract 0 m) = (z, m, 0)) :
    Calls Try.prog 7 #[.int .i64 n, .string s] w fun e w' => e = .returned (.bool true) ∧ Below w.heap.size w w' := by
  have hm0 : ((m : Int) == 0) = false := beq_eq_false_iff_ne.2 (by omega)
  go_enter Try.func7, Try.ntmps7
  go_wp2_with fail
  refine (prefix_at _ p hp _).mono ?_
  rintro e w ⟨rfl, rfl⟩
  go_wp2_with fail
  refine (take_at _ _ _ hT hs _).mono ?_
  rintro e w ⟨rfl, rfl⟩
  go_wp2_with fail
  refine (said_at _ _ _ hS _ hs hp1 hp8).mono ?_
  rintro e w2 ⟨rfl, hb2⟩
  go_wp2_with fail
  refine (first_any _).mono ?_
  rintro e w3 ⟨rfl, hb3⟩
  have hb := hb2.trans (hb3.mono hb2.size)
  clear hb2 hb3
  have hsx : (s.extract 0 m).size ≤ 9223372036854775807 := by rw [ByteArray.size_extract]; omega
  go_wp2_with fail
  refine (take_at _ _ _ hC hsx _).mono ?_
  rintro e w4 ⟨rfl, rfl⟩
  go_wp2
  go_ret
  exact ⟨rfl, hb⟩

theorem extract_list (s : ByteArray) (m : Nat) : (s.extract 0 m).data.toList = s.data.toList.take m := by
  rw [ByteArray.data_extract]; simp [List.extract]

theorem prefix_nat (n : Int) : ∃ p : Nat, 1 + n % 8 = (p : Int) ∧ 1 ≤ p ∧ p ≤ 8 := ⟨(1 + n % 8).toNat, by omega, by omega, by omega⟩

theorem pintSays_any (n : Int) (s : ByteArray) (w : World) (hs : s.size ≤ 9223372036854775807) :
    Calls Try.prog 7 #[.int .i64 n, .string s] w fun e w' => e = .returned (.bool true) ∧ Below w.heap.size w w' := by
  obtain ⟨p, hp, hp1, hp8⟩ := prefix_nat n
  have hT := takeS_legal p s hp1 hp8
  rw [take_said] at hT
  have hlen : s.data.toList.length = s.size := by simp
  generalize hS : saidN p s.data.toList = x at hT
  obtain ⟨z, m⟩ := x
  by_cases hm : m = 0
  · subst hm
    refine says_none p n s w hs hp hp1 hp8 ?_ z hS
    rw [hT, hlen]; simp [ans]
  · have hcut := said_cut p s.data.toList (by rw [hS]; exact hm)
    rw [hS] at hcut
    obtain ⟨g1, g2, _, g3⟩ := hcut
    by_cases hz : 2147483647 < z
    · refine says_big p n s w hs hp hp1 hp8 ?_ z m hm hz hS
      rw [hT]; simp [ans, hm, hz]
    · refine says_yes p n s w hs hp hp1 hp8 z m ?_ hm (by simpa using g2) (by omega) hS ?_
      · rw [hT]; simp [ans, hm, hz]
      · rw [takeS_legal p _ hp1 hp8, take_said, extract_list]
        have := g3 []
        rw [List.append_nil] at this
        rw [this]; simp [ans, hm, hz]
end Go.Proofs.Ythfpidndjcnbcaa
