/- same, head. -/
import Derived.Test.YtfponcdhaefkdaaDoorS
import Derived.BigQuiet
import Derived.Deep.QuietTactic
namespace Go.Proofs.YtfponcdhaefkdaaDoor
open Go.RowKit
set_option linter.unusedVariables false
set_option linter.unusedSimpArgs false

def eqB (a b : List ByteArray) : Bool := decide (a = b)
theorem eqB_true {a b : List ByteArray} (h : a = b) : eqB a b = true := decide_eq_true h
theorem eqB_false {a b : List ByteArray} (h : a ≠ b) : eqB a b = false := decide_eq_false h
theorem In.str {w : World} {v : Value} {l : List ByteArray} (h : In ES w v l) (k : Nat) (hk : k < l.length) : ∃ B off cap, v = .slice (some ⟨B, off, none⟩) l.length cap ∧ ∀ W, Below w.heap.size w W → W.cell? ⟨B, off + k, none⟩ = some (.string l[k]) := by
  obtain ⟨B, off, cap, e, hB, d⟩ := h.get okS k hk
  refine ⟨B, off, cap, e, fun W hb => ?_⟩
  have := (hb.cell hB).trans (d 0 _ rfl)
  simpa [ES] using this
theorem below_drewN {B : Nat} {a w : World} (h : Below B a w) (n : Nat) : Below B a (w.drewN n) := h.trans ⟨rfl, rfl, rfl, Nat.le_refl _, fun _ _ => rfl⟩
theorem below_drew1 {B : Nat} {w w' : World} (h : Below B w w') : Below B w w'.drew := h.drew
set_option maxHeartbeats 4000000 in
set_option maxRecDepth 100000 in
theorem vsame_any (s t : SV) (a b : List ByteArray) (w : World) (hI : In ES w (sv s) a) (hJ : In ES w (sv t) b) :
    Calls Tryd.prog 83 #[sv s, sv t] w fun e w' => e = .returned (.bool (eqB a b)) ∧ Below w.heap.size w w' := by
  have HI : Hid (In ES w (sv s) a) := hI
  have HJ : Hid (In ES w (sv t) b) := hJ
  obtain ⟨sb, sl, sc⟩ := s
  obtain ⟨tb, tl, tc⟩ := t
  simp only [sv] at HI HJ ⊢
  obtain ⟨e1, e2, e3⟩ := slice_len HI.out
  obtain ⟨f1, f2, f3⟩ := slice_len HJ.out
  clear hI hJ
  by_cases hl : a.length = b.length
  · have hl1 : tl = sl := by omega
    have E1 : Hid (sl = a.length) := e1
    have HL : Hid (a.length = b.length) := hl
    have hsc : sl ≤ sc := by omega
    have hsc3 : sc ≤ 9223372036854775807 := e3
    have htc : sl ≤ tc := by omega
    subst hl1
    clear e1 f1 e2 f2 f3 hl e3
    go_enter Tryd.func83, Tryd.ntmps83
    go_wp2_with fail
    go_loopw [5, 13] (fun _ iv wr => ∃ k : Nat, iv = .int .i64 (k : Int) ∧ k ≤ tl ∧ Hid (a.take k = b.take k) ∧ Hid (Below w.heap.size w wr)) (fun _ iv _ => tl - (intOf iv).toNat)
    case atStart => exact ⟨0, rfl, by omega, by show _ = _; simp, Below.refl _ _⟩
    case round =>
      obtain ⟨k, rfl, hk, hp, hb⟩ := hrel
      by_cases hlt : k < tl
      · have ka : k < a.length := by have := E1.out; omega
        have kb : k < b.length := by have := E1.out; have := HL.out; omega
        obtain ⟨B1, o1, c1, e, c0⟩ := HI.out.str k ka
        injection e with e1 e2 e3
        subst e1
        clear e2 e3
        obtain ⟨B2, o2, c2, e, d0⟩ := HJ.out.str k kb
        injection e with e1 e2 e3
        subst e1
        clear e2 e3
        replace c0 := c0 wr hb.out
        replace d0 := d0 wr hb.out
        have hlt' : (k : Int) < (tl : Int) := by omega
        obtain ⟨x, hx⟩ : ∃ x, a[k] = x := ⟨_, rfl⟩
        obtain ⟨y, hy⟩ : ∃ y, b[k] = y := ⟨_, rfl⟩
        rw [hx] at c0
        rw [hy] at d0
        by_cases hxy : x = y
        · have hnx : Hid (a.take (k + 1) = b.take (k + 1)) := by
            show _ = _
            rw [List.take_succ_eq_append_getElem ka, List.take_succ_eq_append_getElem kb, hp.out, hx, hy, hxy]
          have q1 := str_eq hxy
          have q2 : (x.toList != y.toList) = false := by rw [bne, q1]; rfl
          clear hp hx hy hxy ka kb
          go_wp2_with fail
          go_quiet (fail)
          go_wp2_with fail
          go_roundw
          case rel => exact ⟨k + 1, by simp, by omega, hnx.out, below_drewN hb.out _⟩
          case measure => simp [intOf]; omega
        · have hne : Hid (eqB a b = false) := by
            show _ = _
            refine eqB_false fun e => hxy ?_
            subst e
            rw [← hx, ← hy]
          have q1 := str_ne hxy
          have q2 : (x.toList != y.toList) = true := by rw [bne, q1]; rfl
          clear hp hx hy hxy ka kb
          go_wp2_with fail
          go_quiet (fail)
          go_wp2_with fail
          go_ret
          exact ⟨by rw [hne.out]; rfl, below_drewN hb.out _⟩
      · obtain rfl : k = tl := by omega
        have hlt' : ¬ (k : Int) < (k : Int) := by omega
        have hye : Hid (eqB a b = true) := by
          show _ = _
          refine eqB_true ?_
          have := hp.out
          rw [E1.out, List.take_length] at this
          rw [this, HL.out, List.take_length]
        clear hp
        go_wp2_with fail
        go_ret
        exact ⟨by rw [hye.out]; rfl, hb.out⟩
  · have hl1 : ((sl : Int) != (tl : Int)) = true := by simp; omega
    have hl2 : ¬ (sl : Int) = (tl : Int) := by omega
    have hne : Hid (eqB a b = false) := eqB_false fun e => hl (by rw [e])
    clear e1 f1 hl
    go_enter Tryd.func83, Tryd.ntmps83
    go_wp2_with fail
    go_ret
    exact ⟨by rw [hne.out]; rfl, Below.refl _ _⟩

end Go.Proofs.YtfponcdhaefkdaaDoor
