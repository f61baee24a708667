/- The kinds of bytes. -/
import Derived.Test.YtnbaojdildelmaaDoorA3
namespace Go.Proofs.YtnbaojdildelmaaDoor
open Go.RowKit
set_option linter.unusedVariables false
set_option linter.unusedSimpArgs false

theorem indexRune_high (s : ByteArray) (r : Int) (w : World) (h1 : 128 ≤ r) (hs : Asc s) (hsz : s.size ≤ 1000000) : Calls Tryd.prog 76 #[.string s, .int .i32 r] w fun e w' => e = .returned (.int .i64 (-1)) ∧ Below w.heap.size w w' := by
  by_cases hr : r = 65533
  · subst hr
    exact indexRune_err s w hs
  · cases hv : Lib.validRune r
    · exact indexRune_bad s r w h1 hr hv
    · exact indexRune_def s r w h1 hr hv hs hsz

def markB (m : ByteArray) (r : Int) : Bool := decide (0 ≤ Lib.indexByte m.data.toList r.toNat.toUInt8)
set_option maxHeartbeats 1000000 in
theorem containsRune_low (s : ByteArray) (r : Int) (w : World) (h0 : 0 ≤ r) (h1 : r < 128) : Calls Tryd.prog 66 #[.string s, .int .i32 r] w fun e w' => e = .returned (.bool (markB s r)) ∧ w' = w := Tryd.strings_ContainsRune_ascii s r w h0 h1
set_option maxHeartbeats 1000000 in
theorem containsRune_high (s : ByteArray) (r : Int) (w : World) (h1 : 128 ≤ r) (hs : Asc s) (hsz : s.size ≤ 1000000) : Calls Tryd.prog 66 #[.string s, .int .i32 r] w fun e w' => e = .returned (.bool false) ∧ Below w.heap.size w w' := by
  have hC : Hid (Calls Tryd.prog 76 #[.string s, .int .i32 r] w fun e w' => e = .returned (.int .i64 (-1)) ∧ Below w.heap.size w w') := indexRune_high s r w h1 hs hsz
  clear hs h1
  go_enter Tryd.func66, Tryd.ntmps66
  go_wp2_with fail
  go_at_call 76
  refine hC.out.mono ?_
  rintro e w' ⟨rfl, hb⟩
  go_wp2_with fail
  go_ret
  exact ⟨rfl, hb⟩

def nameMarks : ByteArray := ⟨#[33, 35, 36, 37, 38, 39, 42, 43, 45, 46, 94, 95, 126, 124, 96]⟩
def schemeMarks : ByteArray := ⟨#[43, 45, 46]⟩
theorem asc_list {s : ByteArray} (h : s.data.toList.all (fun b => decide (b.toNat < 128)) = true) : Asc s := fun j hj => by
  have := List.all_eq_true.1 h (s[j]'hj) (by simp [ByteArray.getElem_eq_getElem_data])
  exact of_decide_eq_true this
theorem asc_name : Asc nameMarks := asc_list (by decide)
theorem asc_scheme : Asc schemeMarks := asc_list (by decide)
def nameB (r : Int) : Bool := lowB r || digB r || markB nameMarks r
def methB (r : Int) : Bool := nameB r || capB r
def schB (r : Int) : Bool := lowB r || digB r || markB schemeMarks r
theorem low_high {r : Int} (h : 128 ≤ r) : lowB r = false ∧ digB r = false ∧ visB r = false ∧ capB r = false := by
  unfold lowB digB visB capB
  simp only [Bool.and_eq_false_iff, decide_eq_false_iff_not]
  omega

/-- what a kind's function tells -/
structure Kd (f : Nat) (B : Int → Bool) : Prop where
  lo : ∀ (r : Int) (w : World), 0 ≤ r → r < 128 → Calls Tryd.prog f #[.int .i32 r] w fun e w' => e = .returned (.bool (B r)) ∧ w' = w
  hi : ∀ (r : Int) (w : World), 128 ≤ r → Calls Tryd.prog f #[.int .i32 r] w fun e w' => e = .returned (.bool false) ∧ Below w.heap.size w w'

theorem kd_digit : Kd 55 digB := ⟨fun r w _ _ => isDigit_any r w, fun r w h => (isDigit_any r w).mono fun e w' ⟨h1, h2⟩ => ⟨by rw [h1, (low_high h).2.1], by rw [h2]; exact Below.refl _ _⟩⟩
theorem kd_visible : Kd 54 visB := ⟨fun r w _ _ => isVisible_any r w, fun r w h => (isVisible_any r w).mono fun e w' ⟨h1, h2⟩ => ⟨by rw [h1, (low_high h).2.2.1], by rw [h2]; exact Below.refl _ _⟩⟩

set_option maxHeartbeats 2000000 in
theorem isOfName_lo (r : Int) (w : World) (h0 : 0 ≤ r) (h1 : r < 128) : Calls Tryd.prog 65 #[.int .i32 r] w fun e w' => e = .returned (.bool (nameB r)) ∧ w' = w := by
  have hC : Hid (Calls Tryd.prog 66 #[.string nameMarks, .int .i32 r] w fun e w' => e = .returned (.bool (markB nameMarks r)) ∧ w' = w) := containsRune_low _ r w h0 h1
  have hA : Hid (Calls Tryd.prog 53 #[.int .i32 r] w fun e w' => e = .returned (.bool (lowB r)) ∧ w' = w) := isLetter_any r w
  have hD : Hid (Calls Tryd.prog 55 #[.int .i32 r] w fun e w' => e = .returned (.bool (digB r)) ∧ w' = w) := isDigit_any r w
  unfold nameB
  unfold nameMarks at hC ⊢
  obtain ⟨M, hM⟩ : ∃ M, markB ⟨#[33, 35, 36, 37, 38, 39, 42, 43, 45, 46, 94, 95, 126, 124, 96]⟩ r = M := ⟨_, rfl⟩
  obtain ⟨A, hAA⟩ : ∃ M, lowB r = M := ⟨_, rfl⟩
  obtain ⟨D, hDD⟩ : ∃ M, digB r = M := ⟨_, rfl⟩
  rw [hM] at hC ⊢
  rw [hAA] at hA ⊢
  rw [hDD] at hD ⊢
  clear hM hAA hDD
  cases A <;> cases D
  all_goals
    go_enter Tryd.func65, Tryd.ntmps65
    go_wp2_with (first | (go_at_call 53; refine hA.out.mono ?_; rintro e w' ⟨rfl, hw⟩; rw [hw]) | (go_at_call 55; refine hD.out.mono ?_; rintro e w' ⟨rfl, hw⟩; rw [hw]) | (go_at_call 66; refine hC.out.mono ?_; rintro e w' ⟨rfl, hw⟩; rw [hw]))
    go_ret
    exact ⟨rfl, rfl⟩
set_option maxHeartbeats 2000000 in
theorem isOfName_hi (r : Int) (w : World) (h1 : 128 ≤ r) : Calls Tryd.prog 65 #[.int .i32 r] w fun e w' => e = .returned (.bool false) ∧ Below w.heap.size w w' := by
  have hC : Hid (Calls Tryd.prog 66 #[.string nameMarks, .int .i32 r] w fun e w' => e = .returned (.bool false) ∧ Below w.heap.size w w') := containsRune_high _ r w h1 asc_name (by decide)
  have hA : Hid (Calls Tryd.prog 53 #[.int .i32 r] w fun e w' => e = .returned (.bool false) ∧ w' = w) := by have := isLetter_any r w; rw [(low_high h1).1] at this; exact this
  have hD : Hid (Calls Tryd.prog 55 #[.int .i32 r] w fun e w' => e = .returned (.bool false) ∧ w' = w) := by have := isDigit_any r w; rw [(low_high h1).2.1] at this; exact this
  unfold nameMarks at hC
  clear h1
  go_enter Tryd.func65, Tryd.ntmps65
  go_wp2_with (first | (go_at_call 53; refine hA.out.mono ?_; rintro e w' ⟨rfl, hw⟩; rw [hw]) | (go_at_call 55; refine hD.out.mono ?_; rintro e w' ⟨rfl, hw⟩; rw [hw]) | (go_at_call 66; refine hC.out.mono ?_; rintro e w' ⟨rfl, hb⟩))
  go_ret
  exact ⟨rfl, hb⟩
theorem kd_name : Kd 65 nameB := ⟨isOfName_lo, isOfName_hi⟩

set_option maxHeartbeats 2000000 in
theorem isOfScheme_lo (r : Int) (w : World) (h0 : 0 ≤ r) (h1 : r < 128) : Calls Tryd.prog 52 #[.int .i32 r] w fun e w' => e = .returned (.bool (schB r)) ∧ w' = w := by
  have hC : Hid (Calls Tryd.prog 66 #[.string schemeMarks, .int .i32 r] w fun e w' => e = .returned (.bool (markB schemeMarks r)) ∧ w' = w) := containsRune_low _ r w h0 h1
  have hA : Hid (Calls Tryd.prog 53 #[.int .i32 r] w fun e w' => e = .returned (.bool (lowB r)) ∧ w' = w) := isLetter_any r w
  have hD : Hid (Calls Tryd.prog 55 #[.int .i32 r] w fun e w' => e = .returned (.bool (digB r)) ∧ w' = w) := isDigit_any r w
  unfold schB
  unfold schemeMarks at hC ⊢
  obtain ⟨M, hM⟩ : ∃ M, markB ⟨#[43, 45, 46]⟩ r = M := ⟨_, rfl⟩
  obtain ⟨A, hAA⟩ : ∃ M, lowB r = M := ⟨_, rfl⟩
  obtain ⟨D, hDD⟩ : ∃ M, digB r = M := ⟨_, rfl⟩
  rw [hM] at hC ⊢
  rw [hAA] at hA ⊢
  rw [hDD] at hD ⊢
  clear hM hAA hDD
  cases A <;> cases D
  all_goals
    go_enter Tryd.func52, Tryd.ntmps52
    go_wp2_with (first | (go_at_call 53; refine hA.out.mono ?_; rintro e w' ⟨rfl, hw⟩; rw [hw]) | (go_at_call 55; refine hD.out.mono ?_; rintro e w' ⟨rfl, hw⟩; rw [hw]) | (go_at_call 66; refine hC.out.mono ?_; rintro e w' ⟨rfl, hw⟩; rw [hw]))
    go_ret
    exact ⟨rfl, rfl⟩
set_option maxHeartbeats 2000000 in
theorem isOfScheme_hi (r : Int) (w : World) (h1 : 128 ≤ r) : Calls Tryd.prog 52 #[.int .i32 r] w fun e w' => e = .returned (.bool false) ∧ Below w.heap.size w w' := by
  have hC : Hid (Calls Tryd.prog 66 #[.string schemeMarks, .int .i32 r] w fun e w' => e = .returned (.bool false) ∧ Below w.heap.size w w') := containsRune_high _ r w h1 asc_scheme (by decide)
  have hA : Hid (Calls Tryd.prog 53 #[.int .i32 r] w fun e w' => e = .returned (.bool false) ∧ w' = w) := by have := isLetter_any r w; rw [(low_high h1).1] at this; exact this
  have hD : Hid (Calls Tryd.prog 55 #[.int .i32 r] w fun e w' => e = .returned (.bool false) ∧ w' = w) := by have := isDigit_any r w; rw [(low_high h1).2.1] at this; exact this
  unfold schemeMarks at hC
  clear h1
  go_enter Tryd.func52, Tryd.ntmps52
  go_wp2_with (first | (go_at_call 53; refine hA.out.mono ?_; rintro e w' ⟨rfl, hw⟩; rw [hw]) | (go_at_call 55; refine hD.out.mono ?_; rintro e w' ⟨rfl, hw⟩; rw [hw]) | (go_at_call 66; refine hC.out.mono ?_; rintro e w' ⟨rfl, hb⟩))
  go_ret
  exact ⟨rfl, hb⟩
theorem kd_scheme : Kd 52 schB := ⟨isOfScheme_lo, isOfScheme_hi⟩

set_option maxHeartbeats 2000000 in
theorem isOfMethod_lo (r : Int) (w : World) (h0 : 0 ≤ r) (h1 : r < 128) : Calls Tryd.prog 51 #[.int .i32 r] w fun e w' => e = .returned (.bool (methB r)) ∧ w' = w := by
  have hC : Hid (Calls Tryd.prog 65 #[.int .i32 r] w fun e w' => e = .returned (.bool (nameB r)) ∧ w' = w) := isOfName_lo r w h0 h1
  unfold methB capB
  obtain ⟨M, hM⟩ : ∃ M, nameB r = M := ⟨_, rfl⟩
  rw [hM] at hC ⊢
  clear hM
  by_cases h : 65 ≤ r
  all_goals
    cases M
    all_goals
      go_enter Tryd.func51, Tryd.ntmps51
      go_wp2_with (go_at_call 65; refine hC.out.mono ?_; rintro e w' ⟨rfl, hw⟩; rw [hw])
      go_ret
      exact ⟨by first | rfl | (simp [h]; done) | (simp [h]; omega), rfl⟩
set_option maxHeartbeats 2000000 in
theorem isOfMethod_hi (r : Int) (w : World) (h1 : 128 ≤ r) : Calls Tryd.prog 51 #[.int .i32 r] w fun e w' => e = .returned (.bool false) ∧ Below w.heap.size w w' := by
  have hC : Hid (Calls Tryd.prog 65 #[.int .i32 r] w fun e w' => e = .returned (.bool false) ∧ Below w.heap.size w w') := isOfName_hi r w h1
  have a1 : 65 ≤ r := by omega
  have a2 : ¬ r ≤ 90 := by omega
  go_enter Tryd.func51, Tryd.ntmps51
  go_wp2_with (go_at_call 65; refine hC.out.mono ?_; rintro e w' ⟨rfl, hb⟩)
  go_ret
  exact ⟨by first | rfl | (simp [a1, a2]; done) | (simp; omega), hb⟩
theorem kd_method : Kd 51 methB := ⟨isOfMethod_lo, isOfMethod_hi⟩
end Go.Proofs.YtnbaojdildelmaaDoor
