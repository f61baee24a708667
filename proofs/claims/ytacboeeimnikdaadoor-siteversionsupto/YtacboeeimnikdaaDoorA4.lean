/- The kinds of bytes. -/
import Derived.Test.YtacboeeimnikdaaDoorA3
namespace Go.Proofs.YtacboeeimnikdaaDoor
open Go.RowKit
set_option linter.unusedVariables false
set_option linter.unusedSimpArgs false

theorem indexRune_high (s : ByteArray) (r : Int) (w : World) (h1 : 128 ≤ r) (hs : Asc s) (hsz : s.size ≤ 1000000) : Calls Tryd.prog 109 #[.string s, .int .i32 r] w fun e w' => e = .returned (.int .i64 (-1)) ∧ Below w.heap.size w w' := by
  by_cases hr : r = 65533
  · subst hr
    exact indexRune_err s w hs
  · cases hv : Lib.validRune r
    · exact indexRune_bad s r w h1 hr hv
    · exact indexRune_def s r w h1 hr hv hs hsz

def markB (m : ByteArray) (r : Int) : Bool := decide (0 ≤ Lib.indexByte m.data.toList r.toNat.toUInt8)
set_option maxHeartbeats 1000000 in
theorem containsRune_low (s : ByteArray) (r : Int) (w : World) (h0 : 0 ≤ r) (h1 : r < 128) : Calls Tryd.prog 99 #[.string s, .int .i32 r] w fun e w' => e = .returned (.bool (markB s r)) ∧ w' = w := Tryd.strings_ContainsRune_ascii s r w h0 h1
set_option maxHeartbeats 1000000 in
theorem containsRune_high (s : ByteArray) (r : Int) (w : World) (h1 : 128 ≤ r) (hs : Asc s) (hsz : s.size ≤ 1000000) : Calls Tryd.prog 99 #[.string s, .int .i32 r] w fun e w' => e = .returned (.bool false) ∧ Below w.heap.size w w' := by
  have hC : Hid (Calls Tryd.prog 109 #[.string s, .int .i32 r] w fun e w' => e = .returned (.int .i64 (-1)) ∧ Below w.heap.size w w') := indexRune_high s r w h1 hs hsz
  clear hs h1
  go_enter Tryd.func99, Tryd.ntmps99
  go_wp2_with fail
  go_at_call 109
  refine hC.out.mono ?_
  rintro e w' ⟨rfl, hb⟩
  go_wp2_with fail
  go_ret
  exact ⟨rfl, hb⟩

def nameMarks : ByteArray := ⟨#[33, 35, 36, 37, 38, 39, 42, 43, 45, 46, 94, 95, 126, 124, 96]⟩
def schemeMarks : ByteArray := ⟨#[43, 45, 46]⟩
theorem asc_list {s : ByteArray} (h : s.data.toList.all (fun b => decide (b.toNat < 128)) = true) : Asc s := fun j hj => by
  have := List.all_eq_true.1 h (s[j]'hj) (by simp [ByteArray.getElem_eq_getElem_data])
  exact of_decide_eq_true this
theorem asc_name : Asc nameMarks := asc_list (by decide)
theorem asc_scheme : Asc schemeMarks := asc_list (by decide)
def nameB (r : Int) : Bool := lowB r || digB r || markB nameMarks r
def methB (r : Int) : Bool := nameB r || capB r
def schB (r : Int) : Bool := lowB r || digB r || markB schemeMarks r
theorem low_high {r : Int} (h : 128 ≤ r) : lowB r = false ∧ digB r = false ∧ visB r = false ∧ capB r = false := by
  unfold lowB digB visB capB
  simp only [Bool.and_eq_false_iff, decide_eq_false_iff_not]
  omega

/-- what a kind's function tells -/
structure Kd (f : Nat) (B : Int → Bool) : Prop where
  lo : ∀ (r : Int) (w : World), 0 ≤ r → r < 128 → Calls Tryd.prog f #[.int .i32 r] w fun e w' => e = .returned (.bool (B r)) ∧ w' = w
  hi : ∀ (r : Int) (w : World), 128 ≤ r → Calls Tryd.prog f #[.int .i32 r] w fun e w' => e = .returned (.bool false) ∧ Below w.heap.size w w'

theorem kd_digit : Kd 82 digB := ⟨fun r w _ _ => isDigit_any r w, fun r w h => (isDigit_any r w).mono fun e w' ⟨h1, h2⟩ => ⟨by rw [h1, (low_high h).2.1], by rw [h2]; exact Below.refl _ _⟩⟩
set_option maxHeartbeats 2000000 in
theorem isOfName_lo (r : Int) (w : World) (h0 : 0 ≤ r) (h1 : r < 128) : Calls Tryd.prog 88 #[.int .i32 r] w fun e w' => e = .returned (.bool (nameB r)) ∧ w' = w := by
  have hC : Hid (Calls Tryd.prog 99 #[.string nameMarks, .int .i32 r] w fun e w' => e = .returned (.bool (markB nameMarks r)) ∧ w' = w) := containsRune_low _ r w h0 h1
  have hA : Hid (Calls Tryd.prog 98 #[.int .i32 r] w fun e w' => e = .returned (.bool (lowB r)) ∧ w' = w) := isLetter_any r w
  have hD : Hid (Calls Tryd.prog 82 #[.int .i32 r] w fun e w' => e = .returned (.bool (digB r)) ∧ w' = w) := isDigit_any r w
  unfold nameB
  unfold nameMarks at hC ⊢
  obtain ⟨M, hM⟩ : ∃ M, markB ⟨#[33, 35, 36, 37, 38, 39, 42, 43, 45, 46, 94, 95, 126, 124, 96]⟩ r = M := ⟨_, rfl⟩
  obtain ⟨A, hAA⟩ : ∃ M, lowB r = M := ⟨_, rfl⟩
  obtain ⟨D, hDD⟩ : ∃ M, digB r = M := ⟨_, rfl⟩
  rw [hM] at hC ⊢
  rw [hAA] at hA ⊢
  rw [hDD] at hD ⊢
  clear hM hAA hDD
  cases A <;> cases D
  all_goals
    go_enter Tryd.func88, Tryd.ntmps88
    go_wp2_with (first | (go_at_call 98; refine hA.out.mono ?_; rintro e w' ⟨rfl, hw⟩; rw [hw]) | (go_at_call 82; refine hD.out.mono ?_; rintro e w' ⟨rfl, hw⟩; rw [hw]) | (go_at_call 99; refine hC.out.mono ?_; rintro e w' ⟨rfl, hw⟩; rw [hw]))
    go_ret
    exact ⟨rfl, rfl⟩
set_option maxHeartbeats 2000000 in
theorem isOfName_hi (r : Int) (w : World) (h1 : 128 ≤ r) : Calls Tryd.prog 88 #[.int .i32 r] w fun e w' => e = .returned (.bool false) ∧ Below w.heap.size w w' := by
  have hC : Hid (Calls Tryd.prog 99 #[.string nameMarks, .int .i32 r] w fun e w' => e = .returned (.bool false) ∧ Below w.heap.size w w') := containsRune_high _ r w h1 asc_name (by decide)
  have hA : Hid (Calls Tryd.prog 98 #[.int .i32 r] w fun e w' => e = .returned (.bool false) ∧ w' = w) := by have := isLetter_any r w; rw [(low_high h1).1] at this; exact this
  have hD : Hid (Calls Tryd.prog 82 #[.int .i32 r] w fun e w' => e = .returned (.bool false) ∧ w' = w) := by have := isDigit_any r w; rw [(low_high h1).2.1] at this; exact this
  unfold nameMarks at hC
  clear h1
  go_enter Tryd.func88, Tryd.ntmps88
  go_wp2_with (first | (go_at_call 98; refine hA.out.mono ?_; rintro e w' ⟨rfl, hw⟩; rw [hw]) | (go_at_call 82; refine hD.out.mono ?_; rintro e w' ⟨rfl, hw⟩; rw [hw]) | (go_at_call 99; refine hC.out.mono ?_; rintro e w' ⟨rfl, hb⟩))
  go_ret
  exact ⟨rfl, hb⟩
theorem kd_name : Kd 88 nameB := ⟨isOfName_lo, isOfName_hi⟩

end Go.Proofs.YtacboeeimnikdaaDoor
