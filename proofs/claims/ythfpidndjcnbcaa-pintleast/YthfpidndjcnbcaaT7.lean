import Derived.Test.YthfpidndjcnbcaaT6
namespace Go.Proofs.Ythfpidndjcnbcaa
open Go.RowKit

set_option maxHeartbeats 800000 in
theorem put_bad (a f v : Int) (w : World) (h : ¬ (1 ≤ a ∧ a ≤ 8) ∨ (1 ≤ a ∧ a ≤ 8 ∧ (upB f a.toNat = false ∨ v < 0))) :
    Calls Try.prog 13 #[.int .i64 a, .int .i64 f, .int .i64 v] w fun e w' => e = .returned (.tuple #[.string ByteArray.empty, .int .i64 1]) ∧ w' = w := by
  by_cases ha : 1 ≤ a ∧ a ≤ 8
  · have hd : decide (1 ≤ a ∧ a ≤ 8) = true := by simpa using ha
    obtain ⟨p, rfl⟩ := Int.eq_ofNat_of_zero_le (show 0 ≤ a by omega)
    have hp1 : 1 ≤ p := by omega
    have hp8 : p ≤ 8 := by omega
    have h' : upB f p = false ∨ v < 0 := by
      rcases h with h | h
      · exact absurd ha h
      · simpa using h.2.2
    clear h
    by_cases hu : upB f p = false
    · clear h'
      go_enter Try.func13, Try.ntmps13
      go_wp2_with (first | (go_at_call 17; refine (isPrefix_any _ _).mono ?_; rintro e w' ⟨rfl, rfl⟩) | (go_at_call 21; refine (isUpper_any _ _ _ hp1 hp8).mono ?_; rintro e w' ⟨rfl, rfl⟩))
      go_ret2
      exact ⟨rfl, rfl⟩
    · have hv : v < 0 := by simpa [hu] using h'
      have hu' : upB f p = true := by simpa using hu
      clear h' hu
      go_enter Try.func13, Try.ntmps13
      go_wp2_with (first | (go_at_call 17; refine (isPrefix_any _ _).mono ?_; rintro e w' ⟨rfl, rfl⟩) | (go_at_call 21; refine (isUpper_any _ _ _ hp1 hp8).mono ?_; rintro e w' ⟨rfl, rfl⟩))
      go_ret2
      exact ⟨rfl, rfl⟩
  · have hd : decide (1 ≤ a ∧ a ≤ 8) = false := by simpa using ha
    clear h
    go_enter Try.func13, Try.ntmps13
    go_wp2_with (first | (go_at_call 17; refine (isPrefix_any _ _).mono ?_; rintro e w' ⟨rfl, rfl⟩))
    go_ret2
    exact ⟨rfl, rfl⟩

set_option maxHeartbeats 800000 in
theorem put_big (p : Nat) (f v : Int) (w : World) (hp1 : 1 ≤ p) (hp8 : p ≤ 8) (hu : upB f p = true) (hv : 2147483647 < v) :
    Calls Try.prog 13 #[.int .i64 (p : Int), .int .i64 f, .int .i64 v] w fun e w' => e = .returned (.tuple #[.string ByteArray.empty, .int .i64 20]) ∧ w' = w := by
  have hd : decide (1 ≤ (p : Int) ∧ (p : Int) ≤ 8) = true := by simp; omega
  go_enter Try.func13, Try.ntmps13
  go_wp2_with (first | (go_at_call 17; refine (isPrefix_any _ _).mono ?_; rintro e w' ⟨rfl, rfl⟩) | (go_at_call 21; refine (isUpper_any _ _ _ hp1 hp8).mono ?_; rintro e w' ⟨rfl, rfl⟩))
  go_ret2
  exact ⟨rfl, rfl⟩

theorem conv_one (w : World) (n : Nat) (x : Int) (hn : n < 256) (hx : x = (n : Int)) :
    Sem.run Try.prog (convert 30 9 (Value.slice (some ⟨w.heap.size, 0, none⟩) 1 1)) (w.alloc (Obj.cells #[Value.int .u8 x] 5)) = .ok (.string ⟨#[B8 n]⟩) (w.alloc (Obj.cells #[Value.int .u8 x] 5)) := by
  subst hx
  have h := run_convert_bytes_back (P := Try.prog) (w.alloc (Obj.cells #[Value.int .u8 (n : Int)] 5)) 30 9 5 ⟨w.heap.size, 0, none⟩ 1 [B8 n] Try.underlying30 Try.underlying5 Try.underlying9
    (by
      intro j hj
      simp only [List.length_singleton] at hj
      obtain rfl : j = 0 := by omega
      simp [Addr.add, B8_toNat n hn])
  exact h

set_option maxHeartbeats 800000 in
theorem put_small (p f v : Nat) (w : World) (hp1 : 1 ≤ p) (hp8 : p ≤ 8) (hu : upB f p = true) (hf : f ≤ 255) (hfv : f + v ≤ 255) (hv : v < fl p) :
    Calls Try.prog 13 #[.int .i64 (p : Int), .int .i64 (f : Int), .int .i64 (v : Int)] w fun e w' => e = .returned (.tuple #[.string ⟨[B8 (f + v)].toArray⟩, .int .i64 0]) ∧ Below w.heap.size w w' := by
  have hd : decide (1 ≤ (p : Int) ∧ (p : Int) ≤ 8) = true := by simp; omega
  have ht := fl_le hp8
  have hconv := fun w => conv_one w (f + v) ((f : Int) + (v : Int)) (by omega) (by omega)
  go_enter Try.func13, Try.ntmps13
  go_wp2_with (first | (go_at_call 17; refine (isPrefix_any _ _).mono ?_; rintro e w' ⟨rfl, rfl⟩) | (go_at_call 21; refine (isUpper_any _ _ _ hp1 hp8).mono ?_; rintro e w' ⟨rfl, rfl⟩) | (go_at_call 18; refine (pfull_any _ _ hp1 hp8).mono ?_; rintro e w' ⟨rfl, rfl⟩))
  go_ret2
  exact ⟨rfl, (Below.refl _ _).alloc (Nat.le_refl _) _⟩
end Go.Proofs.Ythfpidndjcnbcaa
