/- Fields that are named and that are not: plain facts; named. -/
import Derived.Test.YtckdldbheejmhaaDoorD1
namespace Go.Proofs.YtckdldbheejmhaaDoor
open Go.RowKit
set_option linter.unusedVariables false
set_option linter.unusedSimpArgs false

def nmB (l : List ByteArray) (s : ByteArray) : Bool := l.any fun x => decide (x = s)
theorem nmB_iff {l : List ByteArray} {s : ByteArray} : nmB l s = true ↔ s ∈ l := by
  unfold nmB
  rw [List.any_eq_true]
  constructor
  · rintro ⟨x, hx, h⟩
    have : x = s := by simpa using h
    rw [← this]; exact hx
  · intro h
    exact ⟨s, h, by simp⟩
theorem vsL_app (a b : List Fd) (s : ByteArray) : vsL (a ++ b) s = vsL a s ++ vsL b s := by unfold vsL; rw [List.filterMap_append]
theorem vsL_one (f : Fd) (s : ByteArray) : vsL [f] s = if f.n = s then [f.v] else [] := by
  unfold vsL
  by_cases h : f.n = s <;> simp [h]
theorem mt_not {p q : Rq} {P Q : List Fd} {l : List ByteArray} {s : ByteArray} (hh : hdL p = hdL q) (h1 : vsL P s ≠ vsL Q s) (h2 : ∀ x, x ≠ s → vsL P x = vsL Q x) : mtB p q P Q l = !nmB l s := by
  cases hn : nmB l s
  · refine mtB_iff.2 ⟨hh, fun x hx => h2 x fun e => ?_⟩
    rw [e] at hx
    rw [nmB_iff.2 hx] at hn
    cases hn
  · cases hm : mtB p q P Q l
    · rfl
    · exact absurd ((mtB_iff.1 hm).2 s (nmB_iff.1 hn)) h1
def inL (P : List Fd) (a : Nat) (f : Fd) : List Fd := P.take a ++ [f] ++ P.drop a
theorem vs_in (P : List Fd) (a : Nat) (f : Fd) (x : ByteArray) : vsL (inL P a f) x = vsL (P.take a) x ++ (if f.n = x then [f.v] else []) ++ vsL (P.drop a) x := by
  unfold inL
  rw [vsL_app, vsL_app, vsL_one]
theorem vs_parts (P : List Fd) (a : Nat) (x : ByteArray) : vsL P x = vsL (P.take a) x ++ vsL (P.drop a) x := by
  rw [← vsL_app, List.take_append_drop]
theorem in_len {P : List Fd} {a : Nat} (h : a ≤ P.length) (f : Fd) : (inL P a f).length = P.length + 1 := by
  unfold inL; simp; omega
theorem in_set {P : List Fd} {a : Nat} (h : a ≤ P.length) (f g : Fd) : (inL P a f).set a g = inL P a g := by
  unfold inL
  rw [List.append_assoc, List.append_assoc, List.set_append_right _ _ (by simp <;> omega)]
  congr 1
  have : a - (P.take a).length = 0 := by simp; omega
  rw [this]
  rfl
theorem in_at {P : List Fd} {a : Nat} (h : a ≤ P.length) (f : Fd) (h' : a < (inL P a f).length) : (inL P a f)[a] = f := by
  unfold inL
  have hl : (P.take a).length = a := by simp; omega
  simp only [List.append_assoc]
  rw [List.getElem_append_right (by omega)]
  simp [hl]
/-- one field more -/
theorem mt_more (p q : Rq) (P : List Fd) (l : List ByteArray) (a : Nat) (f : Fd) (hh : hdL p = hdL q) : mtB p q P (inL P a f) l = !nmB l f.n := by
  refine mt_not hh (fun e => ?_) fun x hx => ?_
  · have := congrArg List.length e
    rw [vs_in, vs_parts P a] at this
    simp at this
  · rw [vs_in, vs_parts P a, if_neg (fun e => hx e.symm)]
    simp
/-- another value -/
theorem mt_other (p q : Rq) (P : List Fd) (l : List ByteArray) (a : Nat) (f g : Fd) (hh : hdL p = hdL q) (hn : g.n = f.n) (hv : g.v ≠ f.v) : mtB p q (inL P a g) (inL P a f) l = !nmB l f.n := by
  refine mt_not hh (fun e => ?_) fun x hx => ?_
  · rw [vs_in, vs_in, hn, if_pos rfl, if_pos rfl, List.append_assoc, List.append_assoc] at e
    have := List.append_cancel_left e
    simp at this
    exact hv this
  · rw [vs_in, vs_in, hn, if_neg (fun e => hx e.symm), if_neg (fun e => hx e.symm)]
/-- the same value -/
theorem mt_same (p q : Rq) (P : List Fd) (l : List ByteArray) (a : Nat) (f g : Fd) (hh : hdL p = hdL q) (hn : g.n = f.n) (hv : g.v = f.v) : mtB p q (inL P a g) (inL P a f) l = true := by
  refine mtB_iff.2 ⟨hh, fun x _ => ?_⟩
  rw [vs_in, vs_in, hn, hv]
theorem more_ne (v w : ByteArray) (h : 0 < w.size) : v ++ w ≠ v := fun e => by
  have := congrArg ByteArray.size e
  rw [ByteArray.size_append] at this
  omega

set_option maxHeartbeats 4000000 in
set_option maxRecDepth 100000 in
theorem named_any (t : SV) (l : List ByteArray) (s : ByteArray) (w : World) (hI : In ES w (sv t) l) :
    Calls Tryd.prog 10 #[sv t, .string s] w fun e w' => e = .returned (.bool (nmB l s)) ∧ Below w.heap.size w w' := by
  obtain ⟨tb, tl, tc⟩ := t
  have HI : Hid (In ES w (.slice tb tl tc) l) := hI
  obtain ⟨e1, e2, e3⟩ := slice_len HI.out
  have E1 : Hid (tl = l.length) := e1
  have e2' : tl ≤ tc := by omega
  simp only [sv]
  clear hI e1 e2
  go_enter Tryd.func10, Tryd.ntmps10
  go_wp2_with fail
  go_loopw [5] (fun iv wr => ∃ k : Nat, iv = .int .i64 (k : Int) ∧ k ≤ tl ∧ Hid (nmB (l.take k) s = false) ∧ Hid (Below w.heap.size w wr)) (fun iv _ => tl - (intOf iv).toNat)
  case atStart => exact ⟨0, rfl, by omega, by show _ = _; simp [nmB], Below.refl _ _⟩
  case round =>
    obtain ⟨k, rfl, hk, hp, hb⟩ := hrel
    by_cases hlt : k < tl
    · have ka : k < l.length := by have := E1.out; omega
      obtain ⟨B1, o1, c1, e, c0⟩ := HI.out.str k ka
      injection e with e1 e2 e3
      subst e1
      clear e2 e3
      replace c0 := c0 wr hb.out
      have hlt' : (k : Int) < (tl : Int) := by omega
      obtain ⟨x, hx⟩ : ∃ x, l[k] = x := ⟨_, rfl⟩
      rw [hx] at c0
      by_cases hxy : x = s
      · have hy : Hid (nmB l s = true) := nmB_iff.2 (by rw [← hxy, ← hx]; exact List.getElem_mem ka)
        have q1 := str_eq hxy
        clear hp hx hxy ka
        go_wp2_with fail
        go_ret
        exact ⟨by rw [hy.out]; rfl, hb.out⟩
      · have hnx : Hid (nmB (l.take (k + 1)) s = false) := by
          show _ = _
          unfold nmB
          rw [List.take_succ_eq_append_getElem ka, List.any_append]
          have h1 := hp.out
          unfold nmB at h1
          rw [h1, hx]
          simp [hxy]
        have q1 := str_ne hxy
        clear hp hx hxy ka
        go_wp2_with fail
        go_roundw
        case rel => exact ⟨k + 1, by simp, by omega, hnx.out, hb.out⟩
        case measure => simp [intOf] <;> omega
    · obtain rfl : k = tl := by omega
      have hlt' : ¬ (k : Int) < (k : Int) := by omega
      have hy : Hid (nmB l s = false) := by
        have h := hp.out
        rw [E1.out, List.take_length] at h
        exact h
      clear hp
      go_wp2_with fail
      go_ret
      exact ⟨by rw [hy.out]; rfl, hb.out⟩
end Go.Proofs.YtckdldbheejmhaaDoor
