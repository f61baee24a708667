/- Several texts in one. -/
import Derived.Test.YtcadlpmopplkeaaDoorM
import Derived.Test.YtcadlpmopplkeaaDoorSh
import Derived.Laws.RangeAny
import Derived.Lib.Strings
import Derived.Laws.Runes
import Derived.Deep.LoopGhost
import Derived.Deep.QuietTactic
import Derived.BigQuiet
import Derived.Lib.IndexAny
import Derived.Deep.Cut
import Derived.WalkMore
import Derived.Deep.RegionWith
/- The bytes' kinds. -/
namespace Go.Proofs.YtcadlpmopplkeaaDoor
open Go.RowKit
set_option linter.unusedVariables false
set_option linter.unusedSimpArgs false

def lowB (r : Int) : Bool := decide (97 ≤ r) && decide (r ≤ 122)
def digB (r : Int) : Bool := decide (48 ≤ r) && decide (r ≤ 57)
def visB (r : Int) : Bool := decide (33 ≤ r) && decide (r ≤ 126)
def capB (r : Int) : Bool := decide (65 ≤ r) && decide (r ≤ 90)

set_option maxHeartbeats 1000000 in
theorem isLetter_any (r : Int) (w : World) : Calls Tryd.prog 98 #[.int .i32 r] w fun e w' => e = .returned (.bool (lowB r)) ∧ w' = w := by
  unfold lowB
  by_cases h : 97 ≤ r
  · have h' : decide (97 ≤ r) = true := decide_eq_true h
    go_enter Tryd.func98, Tryd.ntmps98
    go_wp2
    go_ret
    exact ⟨by simp [h'], rfl⟩
  · have h' : decide (97 ≤ r) = false := decide_eq_false h
    go_enter Tryd.func98, Tryd.ntmps98
    go_wp2
    go_ret
    exact ⟨by simp [h'], rfl⟩
set_option maxHeartbeats 1000000 in
theorem isDigit_any (r : Int) (w : World) : Calls Tryd.prog 82 #[.int .i32 r] w fun e w' => e = .returned (.bool (digB r)) ∧ w' = w := by
  unfold digB
  by_cases h : 48 ≤ r
  · have h' : decide (48 ≤ r) = true := decide_eq_true h
    go_enter Tryd.func82, Tryd.ntmps82
    go_wp2
    go_ret
    exact ⟨by simp [h'], rfl⟩
  · have h' : decide (48 ≤ r) = false := decide_eq_false h
    go_enter Tryd.func82, Tryd.ntmps82
    go_wp2
    go_ret
    exact ⟨by simp [h'], rfl⟩
end Go.Proofs.YtcadlpmopplkeaaDoor

/- strings.IndexRune at a rune from 128 on, in a text of ASCII bytes: it is not there. -/
namespace Go.Proofs.YtcadlpmopplkeaaDoor
open Go.RowKit
set_option linter.unusedVariables false
set_option linter.unusedSimpArgs false

/-- all bytes below 128 -/
def Asc (s : ByteArray) : Prop := ∀ (j : Nat) (h : j < s.size), (s[j]'h).toNat < 128

theorem iter_bel (w : World) (s : ByteArray) (i : Nat) : Below w.heap.size w (w.iter s i) := bel1 w _

set_option maxHeartbeats 4000000 in
set_option maxRecDepth 100000 in
theorem indexRune_err (s : ByteArray) (w : World) (hs : Asc s) : Calls Tryd.prog 109 #[.string s, .int .i32 65533] w fun e w' => e = .returned (.int .i64 (-1)) ∧ Below w.heap.size w w' := by
  have HS : Hid (Asc s) := hs
  clear hs
  go_enter Tryd.func109, Tryd.ntmps109
  go_wp2_with fail
  go_loopg [5, 6] s.size (fun g _ _ wx => ∃ i : Nat, i + g = s.size ∧ wx = w.iter s i)
  case atStart => exact ⟨0, by omega, rfl⟩
  case round =>
    obtain ⟨i, hig, rfl⟩ := hrel
    cases gk with
    | zero =>
      obtain rfl : i = s.size := by omega
      have hnx := run_next_end (P := Tryd.prog) w s s.size
      go_wp2_with fail
      go_ret
      exact ⟨rfl, iter_bel _ _ _⟩
    | succ g =>
      have hi : i < s.size := by omega
      obtain ⟨x, hx⟩ : ∃ x : UInt8, s[i]'hi = x := ⟨_, rfl⟩
      have hx128 : x.toNat < 128 := by rw [← hx]; exact HS.out i hi
      have hnx := fun ty => run_next_ascii (P := Tryd.prog) w s i ty hi (by rw [hx]; exact hx128)
      rw [hx] at hnx
      have hne : ((x.toNat : Int) == 65533) = false := beq_eq_false_iff_ne.2 (by omega)
      clear hx
      go_wp2_with fail
      go_roundg g
      case measure => omega
      case rel => exact ⟨i + 1, by omega, rfl⟩
end Go.Proofs.YtcadlpmopplkeaaDoor

/- strings.IndexRune at a rune from 128 on: the other roads. -/
namespace Go.Proofs.YtcadlpmopplkeaaDoor
open Go.RowKit
set_option linter.unusedVariables false
set_option linter.unusedSimpArgs false

set_option maxHeartbeats 4000000 in
set_option maxRecDepth 100000 in
theorem indexRune_bad (s : ByteArray) (r : Int) (w : World) (h1 : 128 ≤ r) (hr : r ≠ 65533) (hv : Lib.validRune r = false) : Calls Tryd.prog 109 #[.string s, .int .i32 r] w fun e w' => e = .returned (.int .i64 (-1)) ∧ Below w.heap.size w w' := by
  have a1 : (0 : Int) ≤ r := by omega
  have a2 : ¬ (r < 128) := by omega
  have a3 : decide (r < 128) = false := decide_eq_false a2
  have a4 : (r == 65533) = false := beq_eq_false_iff_ne.2 hr
  have hC : Hid (Calls Tryd.prog 116 #[.int .i32 r] w fun e w' => e = .returned (.bool false) ∧ w' = w) := by
    have := Tryd.utf8_ValidRune r w
    rw [hv] at this
    exact this
  clear hv hr
  go_enter Tryd.func109, Tryd.ntmps109
  go_wp2_with fail
  go_at_call 116
  refine hC.out.mono ?_
  rintro e w' ⟨rfl, rfl⟩
  go_wp2_with fail
  go_ret
  exact ⟨rfl, Below.refl _ _⟩

theorem valid_same (r : Int) (h : Lib.validRune r = true) : Utf8.valid r = true := by
  unfold Lib.validRune at h
  unfold Utf8.valid
  have := of_decide_eq_true h
  simp only [Bool.or_eq_true, Bool.and_eq_true, decide_eq_true_eq]
  omega

theorem idx_none (l : List UInt8) (y : UInt8) (hy : 128 ≤ y.toNat) (hl : ∀ b ∈ l, b.toNat < 128) : Lib.indexByte l y = -1 := by
  induction l with
  | nil => rfl
  | cons b l ih =>
    have h1 : (b == y) = false := beq_eq_false_iff_ne.2 fun e => by have := hl b (by simp); rw [e] at this; omega
    have h2 := ih fun b hb => hl b (by simp [hb])
    simp [Lib.indexByte, h1, h2]

set_option maxHeartbeats 8000000 in
set_option maxRecDepth 100000 in
theorem indexRune_def (s : ByteArray) (r : Int) (w : World) (h1 : 128 ≤ r) (hr : r ≠ 65533) (hv : Lib.validRune r = true) (hs : Asc s) (hsz : s.size ≤ 1000000) : Calls Tryd.prog 109 #[.string s, .int .i32 r] w fun e w' => e = .returned (.int .i64 (-1)) ∧ Below w.heap.size w w' := by
  have a1 : (0 : Int) ≤ r := by omega
  have a2 : ¬ (r < 128) := by omega
  have a3 : decide (r < 128) = false := decide_eq_false a2
  have a4 : (r == 65533) = false := beq_eq_false_iff_ne.2 hr
  have hC : Hid (Calls Tryd.prog 116 #[.int .i32 r] w fun e w' => e = .returned (.bool true) ∧ w' = w) := by
    have := Tryd.utf8_ValidRune r w
    rw [hv] at this
    exact this
  obtain ⟨f1, f2, f3⟩ := encode_facts r (valid_same r hv) h1
  obtain ⟨E, hE⟩ : ∃ E, Utf8.encode r = E := ⟨_, rfl⟩
  rw [hE] at f1 f2 f3
  obtain ⟨m, hm⟩ : ∃ m, E.size = m + 1 := ⟨E.size - 1, by omega⟩
  have hmE : m < E.size := by omega
  obtain ⟨y, hy⟩ : ∃ y : UInt8, E[m]'hmE = y := ⟨_, rfl⟩
  have hy128 : 128 ≤ y.toNat := by
    have := f3 (by omega)
    simp only [hm, Nat.add_sub_cancel] at this
    rw [← hy]
    exact this
  have HS : Hid (Asc s) := hs
  have hm3 : m ≤ 3 := by omega
  clear hv hr hs f1 f2 f3
  by_cases hlt : m < s.size
  · obtain ⟨x, hx⟩ : ∃ x : UInt8, s[m]'hlt = x := ⟨_, rfl⟩
    have hx128 : x.toNat < 128 := by rw [← hx]; exact HS.out m hlt
    have hI2 : Hid (∀ W, (∃ k, s.extract (m + 1) s.size = s.extract k s.size) → Calls Tryd.prog 115 #[.string (s.extract (m + 1) s.size), .int .u8 (y.toNat : Int)] W fun e w' => e = .returned (.int .i64 (-1)) ∧ w' = W) := fun W _ => by
      refine (Tryd.strings_IndexByte _ (y.toNat : Int) W).mono ?_
      rintro e w' ⟨rfl, rfl⟩
      have hb : ((y.toNat : Int)).toNat.toUInt8 = y := by simp
      rw [hb, idx_none _ y hy128 fun b hb => ?_]
      · exact ⟨rfl, rfl⟩
      · rw [ByteArray.data_extract, Array.toList_extract, List.extract_eq_drop_take'] at hb
        have := List.mem_of_mem_take (List.mem_of_mem_drop hb)
        obtain ⟨j, hj, e⟩ := List.getElem_of_mem this
        rw [← e]
        exact HS.out j (by simpa using hj)
    go_enter Tryd.func109, Tryd.ntmps109
    go_wp2_with fail
    go_at_call 116
    refine hC.out.mono ?_
    rintro e w' ⟨rfl, rfl⟩
    go_wp2_with fail
    go_step3
    go_wp2_with fail
    go_loopw [9, 10] (fun iv fv wr => iv = .int .i64 (m : Int) ∧ wr = w') (fun _ _ _ => 0)
    case atStart => exact ⟨rfl, rfl⟩
    case round =>
      obtain ⟨rfl, rfl⟩ := hrel
      have b1 : (m : Int) < (s.size : Int) := by omega
      have b2 : (m : Int) < (E.size : Int) := by omega
      have b3 : ((x.toNat : Int) != (y.toNat : Int)) = true := by simp only [bne_iff_ne, ne_eq]; omega
      have b4 : (m : Int) + 1 ≤ (s.size : Int) := by omega
      have b6 : IntKind.i64.wrap ((m : Int) + 1) = ((m + 1 : Nat) : Int) := by rw [IntKind.wrap_i64]; omega
      have b5 : (0 : Int) ≤ ((m + 1 : Nat) : Int) := by omega
      have b7 : ((m + 1 : Nat) : Int) ≤ (s.size : Int) := by omega
      go_wp2_with fail
      go_step3
      go_wp2_with fail
      go_region
      all_goals
        go_wp2_with fail
        go_region_with (go_at_call 115; refine (hI2.out _ ⟨m + 1, rfl⟩).mono ?_; rintro e w'' ⟨rfl, rfl⟩)
        all_goals
          go_wp2_with fail
          simp (config := { zetaDelta := true }) only [go_sem, Exit.noGoto_ret]
          go_ret
          exact ⟨rfl, by (repeat (first | exact Below.refl _ _ | refine Below.drew ?_))⟩
  · have c1 : ¬ ((m : Int) < (s.size : Int)) := by omega
    go_enter Tryd.func109, Tryd.ntmps109
    go_wp2_with fail
    go_at_call 116
    refine hC.out.mono ?_
    rintro e w' ⟨rfl, rfl⟩
    go_wp2_with fail
    go_step3
    go_wp2_with fail
    go_loopw [9, 10] (fun iv fv wr => iv = .int .i64 (m : Int) ∧ wr = w') (fun _ _ _ => 0)
    case atStart => exact ⟨rfl, rfl⟩
    case round =>
      obtain ⟨rfl, rfl⟩ := hrel
      go_wp2_with fail
      go_simp
      go_ret
      exact ⟨rfl, Below.refl _ _⟩
end Go.Proofs.YtcadlpmopplkeaaDoor

/- The kinds of bytes. -/
namespace Go.Proofs.YtcadlpmopplkeaaDoor
open Go.RowKit
set_option linter.unusedVariables false
set_option linter.unusedSimpArgs false

theorem indexRune_high (s : ByteArray) (r : Int) (w : World) (h1 : 128 ≤ r) (hs : Asc s) (hsz : s.size ≤ 1000000) : Calls Tryd.prog 109 #[.string s, .int .i32 r] w fun e w' => e = .returned (.int .i64 (-1)) ∧ Below w.heap.size w w' := by
  by_cases hr : r = 65533
  · subst hr
    exact indexRune_err s w hs
  · cases hv : Lib.validRune r
    · exact indexRune_bad s r w h1 hr hv
    · exact indexRune_def s r w h1 hr hv hs hsz

def markB (m : ByteArray) (r : Int) : Bool := decide (0 ≤ Lib.indexByte m.data.toList r.toNat.toUInt8)
set_option maxHeartbeats 1000000 in
theorem containsRune_low (s : ByteArray) (r : Int) (w : World) (h0 : 0 ≤ r) (h1 : r < 128) : Calls Tryd.prog 99 #[.string s, .int .i32 r] w fun e w' => e = .returned (.bool (markB s r)) ∧ w' = w := Tryd.strings_ContainsRune_ascii s r w h0 h1
set_option maxHeartbeats 1000000 in
theorem containsRune_high (s : ByteArray) (r : Int) (w : World) (h1 : 128 ≤ r) (hs : Asc s) (hsz : s.size ≤ 1000000) : Calls Tryd.prog 99 #[.string s, .int .i32 r] w fun e w' => e = .returned (.bool false) ∧ Below w.heap.size w w' := by
  have hC : Hid (Calls Tryd.prog 109 #[.string s, .int .i32 r] w fun e w' => e = .returned (.int .i64 (-1)) ∧ Below w.heap.size w w') := indexRune_high s r w h1 hs hsz
  clear hs h1
  go_enter Tryd.func99, Tryd.ntmps99
  go_wp2_with fail
  go_at_call 109
  refine hC.out.mono ?_
  rintro e w' ⟨rfl, hb⟩
  go_wp2_with fail
  go_ret
  exact ⟨rfl, hb⟩

def nameMarks : ByteArray := ⟨#[33, 35, 36, 37, 38, 39, 42, 43, 45, 46, 94, 95, 126, 124, 96]⟩
def schemeMarks : ByteArray := ⟨#[43, 45, 46]⟩
theorem asc_list {s : ByteArray} (h : s.data.toList.all (fun b => decide (b.toNat < 128)) = true) : Asc s := fun j hj => by
  have := List.all_eq_true.1 h (s[j]'hj) (by simp [ByteArray.getElem_eq_getElem_data])
  exact of_decide_eq_true this
theorem asc_name : Asc nameMarks := asc_list (by decide)
theorem asc_scheme : Asc schemeMarks := asc_list (by decide)
def nameB (r : Int) : Bool := lowB r || digB r || markB nameMarks r
def methB (r : Int) : Bool := nameB r || capB r
def schB (r : Int) : Bool := lowB r || digB r || markB schemeMarks r
theorem low_high {r : Int} (h : 128 ≤ r) : lowB r = false ∧ digB r = false ∧ visB r = false ∧ capB r = false := by
  unfold lowB digB visB capB
  simp only [Bool.and_eq_false_iff, decide_eq_false_iff_not]
  omega

/-- what a kind's function tells -/
structure Kd (f : Nat) (B : Int → Bool) : Prop where
  lo : ∀ (r : Int) (w : World), 0 ≤ r → r < 128 → Calls Tryd.prog f #[.int .i32 r] w fun e w' => e = .returned (.bool (B r)) ∧ w' = w
  hi : ∀ (r : Int) (w : World), 128 ≤ r → Calls Tryd.prog f #[.int .i32 r] w fun e w' => e = .returned (.bool false) ∧ Below w.heap.size w w'

theorem kd_digit : Kd 82 digB := ⟨fun r w _ _ => isDigit_any r w, fun r w h => (isDigit_any r w).mono fun e w' ⟨h1, h2⟩ => ⟨by rw [h1, (low_high h).2.1], by rw [h2]; exact Below.refl _ _⟩⟩
set_option maxHeartbeats 2000000 in
theorem isOfName_lo (r : Int) (w : World) (h0 : 0 ≤ r) (h1 : r < 128) : Calls Tryd.prog 88 #[.int .i32 r] w fun e w' => e = .returned (.bool (nameB r)) ∧ w' = w := by
  have hC : Hid (Calls Tryd.prog 99 #[.string nameMarks, .int .i32 r] w fun e w' => e = .returned (.bool (markB nameMarks r)) ∧ w' = w) := containsRune_low _ r w h0 h1
  have hA : Hid (Calls Tryd.prog 98 #[.int .i32 r] w fun e w' => e = .returned (.bool (lowB r)) ∧ w' = w) := isLetter_any r w
  have hD : Hid (Calls Tryd.prog 82 #[.int .i32 r] w fun e w' => e = .returned (.bool (digB r)) ∧ w' = w) := isDigit_any r w
  unfold nameB
  unfold nameMarks at hC ⊢
  obtain ⟨M, hM⟩ : ∃ M, markB ⟨#[33, 35, 36, 37, 38, 39, 42, 43, 45, 46, 94, 95, 126, 124, 96]⟩ r = M := ⟨_, rfl⟩
  obtain ⟨A, hAA⟩ : ∃ M, lowB r = M := ⟨_, rfl⟩
  obtain ⟨D, hDD⟩ : ∃ M, digB r = M := ⟨_, rfl⟩
  rw [hM] at hC ⊢
  rw [hAA] at hA ⊢
  rw [hDD] at hD ⊢
  clear hM hAA hDD
  cases A <;> cases D
  all_goals
    go_enter Tryd.func88, Tryd.ntmps88
    go_wp2_with (first | (go_at_call 98; refine hA.out.mono ?_; rintro e w' ⟨rfl, hw⟩; rw [hw]) | (go_at_call 82; refine hD.out.mono ?_; rintro e w' ⟨rfl, hw⟩; rw [hw]) | (go_at_call 99; refine hC.out.mono ?_; rintro e w' ⟨rfl, hw⟩; rw [hw]))
    go_ret
    exact ⟨rfl, rfl⟩
set_option maxHeartbeats 2000000 in
theorem isOfName_hi (r : Int) (w : World) (h1 : 128 ≤ r) : Calls Tryd.prog 88 #[.int .i32 r] w fun e w' => e = .returned (.bool false) ∧ Below w.heap.size w w' := by
  have hC : Hid (Calls Tryd.prog 99 #[.string nameMarks, .int .i32 r] w fun e w' => e = .returned (.bool false) ∧ Below w.heap.size w w') := containsRune_high _ r w h1 asc_name (by decide)
  have hA : Hid (Calls Tryd.prog 98 #[.int .i32 r] w fun e w' => e = .returned (.bool false) ∧ w' = w) := by have := isLetter_any r w; rw [(low_high h1).1] at this; exact this
  have hD : Hid (Calls Tryd.prog 82 #[.int .i32 r] w fun e w' => e = .returned (.bool false) ∧ w' = w) := by have := isDigit_any r w; rw [(low_high h1).2.1] at this; exact this
  unfold nameMarks at hC
  clear h1
  go_enter Tryd.func88, Tryd.ntmps88
  go_wp2_with (first | (go_at_call 98; refine hA.out.mono ?_; rintro e w' ⟨rfl, hw⟩; rw [hw]) | (go_at_call 82; refine hD.out.mono ?_; rintro e w' ⟨rfl, hw⟩; rw [hw]) | (go_at_call 99; refine hC.out.mono ?_; rintro e w' ⟨rfl, hb⟩))
  go_ret
  exact ⟨rfl, hb⟩
theorem kd_name : Kd 88 nameB := ⟨isOfName_lo, isOfName_hi⟩

end Go.Proofs.YtcadlpmopplkeaaDoor

