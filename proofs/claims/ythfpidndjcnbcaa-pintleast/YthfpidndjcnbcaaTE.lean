import Derived.Test.YthfpidndjcnbcaaTF
namespace Go.Proofs.Ythfpidndjcnbcaa
open Go.RowKit

set_option maxRecDepth 100000 in
set_option maxHeartbeats 800000 in
theorem least_no (n : Int) (p : Nat) (s : ByteArray) (w : World) (hs : s.size ≤ 9223372036854775807) (hp : 1 + n % 8 = (p : Int))
    (x : Nat × Nat × Nat) (hT : takeS (p : Int) s = x) (hx : x.2.2 ≠ 0) :
    Calls Try.prog 4 #[.int .i64 n, .string s] w fun e w' => e = .returned (.bool true) ∧ Below w.heap.size w w' := by
  obtain ⟨a, b, c⟩ := x
  have hc : ((c : Int) != 0) = true := by rw [bne_iff_ne]; simp at hx; omega
  have HN := (show Hid (1 + n % 8 = (p : Int)) from hp)
  have HT := (show Hid (takeS (p : Int) s = (a, b, c)) from hT)
  clear hp hT
  go_enter Try.func4, Try.ntmps4
  go_wp2_with fail
  refine (prefix_at _ p HN.out _).mono ?_
  rintro e w ⟨rfl, rfl⟩
  go_wp2_with fail
  refine (take_at _ _ _ HT.out hs _).mono ?_
  rintro e w ⟨rfl, rfl⟩
  go_wp2_with fail
  refine (first_any _).mono ?_
  rintro e w1 ⟨rfl, hb⟩
  go_wp2
  go_ret
  exact ⟨rfl, hb⟩

theorem conv_two (w : World) (n : Nat) (hn : n < 256) :
    Sem.run Try.prog (convert 30 9 (Value.slice (some ⟨w.heap.size, 0, none⟩) 2 2)) (w.alloc (Obj.cells #[Value.int .u8 (n : Int), Value.int .u8 0] 5)).drew =
      .ok (.string ⟨#[B8 n, 0]⟩) (w.alloc (Obj.cells #[Value.int .u8 (n : Int), Value.int .u8 0] 5)).drew := by
  have h := run_convert_bytes_back (P := Try.prog) (w.alloc (Obj.cells #[Value.int .u8 (n : Int), Value.int .u8 0] 5)).drew 30 9 5 ⟨w.heap.size, 0, none⟩ 2 [B8 n, 0] Try.underlying30 Try.underlying5 Try.underlying9
    (by
      intro j hj
      simp only [List.length_cons, List.length_nil] at hj
      show (w.alloc (Obj.cells #[Value.int .u8 (n : Int), Value.int .u8 0] 5)).cell? _ = _
      obtain rfl | rfl : j = 0 ∨ j = 1 := by omega
      · simp [Addr.add, B8_toNat n hn]
      · simp [Addr.add])
  exact h

set_option maxRecDepth 100000 in
set_option maxHeartbeats 1600000 in
theorem least_yes (n : Int) (p v m f : Nat) (s A : ByteArray) (w : World) (hs : s.size ≤ 9223372036854775807) (hp : 1 + n % 8 = (p : Int)) (hp1 : 1 ≤ p) (hp8 : p ≤ 8)
    (hT : takeS (p : Int) s = (v, m, 0)) (hm1 : 1 ≤ m) (hms : m ≤ s.size) (hm6 : m ≤ 6) (_hv : v ≤ 2147483647)
    (h0 : 0 < s.size) (hup : bits .andNot .i64 (s[0].toNat : Int) (fl p : Int) = (f : Int))
    (HP : Hid (∀ w : World, Calls Try.prog 13 #[.int .i64 (p : Int), .int .i64 (f : Int), .int .i64 (v : Int)] w fun e w' => e = .returned (.tuple #[.string A, .int .i64 0]) ∧ Below w.heap.size w w'))
    (hA1 : 1 ≤ A.size) (hAm : A.size ≤ m) (HE : Hid (A.size = m → A = s.extract 0 m))
    (HL : Hid (∀ k (hk : k < A.size), k + 1 = A.size → A.size ≠ 1 → A.size ≠ 6 → takeS (p : Int) (A.extract 0 k ++ ⟨#[B8 (128 + A[k].toNat % 128), 0]⟩) = (v, A.size + 1, 0))) :
    Calls Try.prog 4 #[.int .i64 n, .string s] w fun e w' => e = .returned (.bool true) ∧ Below w.heap.size w w' := by
  have hfl := fl_le hp8
  have hx8 := s[0].toNat_lt
  have HN := (show Hid (1 + n % 8 = (p : Int)) from hp)
  have HT := (show Hid (takeS (p : Int) s = (v, m, 0)) from hT)
  clear hp hT
  have i0 : (0 : Int) < (s.size : Int) := by omega
  go_enter Try.func4, Try.ntmps4
  go_wp2_with fail
  refine (prefix_at _ p HN.out _).mono ?_
  rintro e w ⟨rfl, rfl⟩
  go_wp2_with fail
  refine (take_at _ _ _ HT.out hs _).mono ?_
  rintro e w ⟨rfl, rfl⟩
  go_wp2_with fail
  go_quiet ((go_at_call 12; exact Calls.quiet_of_same (lfull_any _ _ hp1 hp8)))
  go_wp2_with fail
  refine (HP.out _).mono ?_
  rintro e w1 ⟨rfl, hb1⟩
  have hb1' : Below w.heap.size w w1 := (below_drewN (Below.refl _ _) _).trans hb1
  clear hb1
  by_cases he : A.size = m
  · have hE : A.toList = (s.extract 0 m).toList := by rw [← HE.out he]
    have q1 : ((A.size : Int) == (m : Int)) = true := beq_iff_eq.2 (by omega)
    clear he
    go_wp2_with fail
    refine (first_any _).mono ?_
    rintro e w2 ⟨rfl, hb2⟩
    clear hE
    have hb := hb1'.trans (hb2.mono hb1'.size)
    clear hb1' hb2 q1
    by_cases h1 : A.size = 1
    · have q2 : ((A.size : Int) == 1) = true := beq_iff_eq.2 (by omega)
      clear h1
      go_wp2
      go_ret
      exact ⟨rfl, hb⟩
    · have q2 : ((A.size : Int) == 1) = false := beq_eq_false_iff_ne.2 (by omega)
      by_cases h6 : A.size = 6
      · have q3 : ((A.size : Int) == 6) = true := beq_iff_eq.2 (by omega)
        clear h1 h6
        go_wp2
        go_ret
        exact ⟨rfl, hb⟩
      · have q3 : ((A.size : Int) == 6) = false := beq_eq_false_iff_ne.2 (by omega)
        obtain ⟨k, hk, hkA⟩ : ∃ k : Nat, ((A.size : Int) - 1) = (k : Int) ∧ k < A.size := ⟨A.size - 1, by omega, by omega⟩
        have HL' := HL.out k hkA (by omega) h1 h6
        have hAk := A[k].toNat_lt
        have ho := or128 A[k].toNat hAk
        obtain ⟨X, hX, hX8⟩ : ∃ X : Nat, X = 128 + A[k].toNat % 128 ∧ X < 256 := ⟨_, rfl, by omega⟩
        rw [← hX] at HL' ho
        clear hX
        have HL2 := (show Hid (takeS (p : Int) (A.extract 0 k ++ ⟨#[B8 X, 0]⟩) = (v, A.size + 1, 0)) from HL')
        clear HL'
        have hconv := fun w => conv_two w X hX8
        have k1 : (0 : Int) ≤ (k : Int) := by omega
        have k2 : (k : Int) < (A.size : Int) := by omega
        have k3 : (k : Int) ≤ (A.size : Int) := by omega
        clear h1 h6
        go_wp2
        go_region
        have hsx : (A.extract 0 k ++ ⟨#[B8 X, 0]⟩ : ByteArray).size ≤ 9223372036854775807 := by
          rw [ByteArray.size_append, ByteArray.size_extract]
          have : (⟨#[B8 X, 0]⟩ : ByteArray).size = 2 := rfl
          omega
        go_wp2_with fail
        refine (take_at _ _ _ HL2.out hsx _).mono ?_
        rintro e w4 ⟨rfl, rfl⟩
        go_wp2
        go_ret
        exact ⟨rfl, (hb.alloc hb.size _).drew⟩
  · have q1 : ((A.size : Int) == (m : Int)) = false := beq_eq_false_iff_ne.2 (by omega)
    clear he
    go_wp2_with fail
    refine (first_any _).mono ?_
    rintro e w2 ⟨rfl, hb2⟩
    have hb := hb1'.trans (hb2.mono hb1'.size)
    clear hb1' hb2 q1
    by_cases h1 : A.size = 1
    · have q2 : ((A.size : Int) == 1) = true := beq_iff_eq.2 (by omega)
      clear h1
      go_wp2
      go_ret
      exact ⟨rfl, hb⟩
    · have q2 : ((A.size : Int) == 1) = false := beq_eq_false_iff_ne.2 (by omega)
      by_cases h6 : A.size = 6
      · have q3 : ((A.size : Int) == 6) = true := beq_iff_eq.2 (by omega)
        clear h1 h6
        go_wp2
        go_ret
        exact ⟨rfl, hb⟩
      · have q3 : ((A.size : Int) == 6) = false := beq_eq_false_iff_ne.2 (by omega)
        obtain ⟨k, hk, hkA⟩ : ∃ k : Nat, ((A.size : Int) - 1) = (k : Int) ∧ k < A.size := ⟨A.size - 1, by omega, by omega⟩
        have HL' := HL.out k hkA (by omega) h1 h6
        have hAk := A[k].toNat_lt
        have ho := or128 A[k].toNat hAk
        obtain ⟨X, hX, hX8⟩ : ∃ X : Nat, X = 128 + A[k].toNat % 128 ∧ X < 256 := ⟨_, rfl, by omega⟩
        rw [← hX] at HL' ho
        clear hX
        have HL2 := (show Hid (takeS (p : Int) (A.extract 0 k ++ ⟨#[B8 X, 0]⟩) = (v, A.size + 1, 0)) from HL')
        clear HL'
        have hconv := fun w => conv_two w X hX8
        have k1 : (0 : Int) ≤ (k : Int) := by omega
        have k2 : (k : Int) < (A.size : Int) := by omega
        have k3 : (k : Int) ≤ (A.size : Int) := by omega
        clear h1 h6
        go_wp2
        go_region
        have hsx : (A.extract 0 k ++ ⟨#[B8 X, 0]⟩ : ByteArray).size ≤ 9223372036854775807 := by
          rw [ByteArray.size_append, ByteArray.size_extract]
          have : (⟨#[B8 X, 0]⟩ : ByteArray).size = 2 := rfl
          omega
        go_wp2_with fail
        refine (take_at _ _ _ HL2.out hsx _).mono ?_
        rintro e w4 ⟨rfl, rfl⟩
        go_wp2
        go_ret
        exact ⟨rfl, (hb.alloc hb.size _).drew⟩
end Go.Proofs.Ythfpidndjcnbcaa
