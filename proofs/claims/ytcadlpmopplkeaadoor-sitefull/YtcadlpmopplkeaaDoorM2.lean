/- Rows of anything: one cell set. -/
import Derived.Test.YtcadlpmopplkeaaDoorM
import Derived.Lib.MinMax
namespace Go.Proofs.YtcadlpmopplkeaaDoor
open Go.RowKit
set_option linter.unusedVariables false
set_option linter.unusedSimpArgs false

theorem El.cs_set {α : Type} {E : El α} (ok : E.Ok) (l : List α) (j i : Nat) (hj : j < l.length) (hi : i < E.sz) (u : Value) (x : α) (hx : E.enc x = (E.enc l[j]).set i u) : E.cs (l.set j x) = (E.cs l).set (j * E.sz + i) u := by
  induction l generalizing j with
  | nil => exact absurd hj (by simp)
  | cons a r ih =>
    cases j with
    | zero =>
      simp only [El.cs, List.set_cons_zero, List.flatMap_cons, Nat.zero_mul, Nat.zero_add]
      rw [hx, List.set_append_left _ _ (by rw [ok.len]; exact hi)]
      rfl
    | succ j =>
      have := ih j (by simpa using hj) hx
      simp only [El.cs, List.set_cons_succ, List.flatMap_cons] at this ⊢
      rw [this, List.set_append_right _ _ (by rw [ok.len, Nat.succ_mul]; omega), ok.len, show (j + 1) * E.sz + i - E.sz = j * E.sz + i by rw [Nat.succ_mul]; omega]

theorem R.setc {α : Type} {E : El α} (ok : E.Ok) {w : World} {v : Value} {l : List α} (h : R E w v l) (j i : Nat) (hj : j < l.length) (hi : i < E.sz) : ∃ g cap, v = .slice (some ⟨g, 0, none⟩) l.length cap ∧ l.length ≤ cap ∧ cap ≤ 9223372036854775807 ∧ g < w.heap.size ∧ v.ownBlock = some g ∧
    (∀ i' u', (E.enc l[j])[i']? = some u' → w.cell? ⟨g, j * E.sz + i', none⟩ = some u') ∧ (∀ o, w.frozen? ⟨g, o, none⟩ = false) ∧
    (∀ u x, E.enc x = (E.enc l[j]).set i u → R E (w.setCell ⟨g, j * E.sz + i, none⟩ u) v (l.set j x)) := by
  obtain ⟨B, off, cap, e, hB, d⟩ := h.isIn.get ok j hj
  obtain ⟨h3, h4⟩ := h
  rcases h4 with ⟨hv, h0⟩ | ⟨g', cap', cur, hv, hb, hg, hn, hm, hs, ht⟩
  · omega
  · rw [hv] at e
    injection e with e1 e2 e3
    injection e1 with e1
    injection e1 with e1 e4
    subst e1
    subst e3
    subst e4
    subst hv
    refine ⟨g', cap', rfl, hn, by unfold maxLen at hm; omega, (Array.getElem?_eq_some_iff.1 hg).1, rfl, fun i' u' hu => by have := d i' u' hu; rw [Nat.zero_add] at this; exact this, fun o => by simp [World.frozen?, hg], fun u x hx => ⟨by rw [ok.length], .inr ⟨g', cap', cur.setIfInBounds (j * E.sz + i) u, by rw [List.length_set], hb, setCell_block _ _ _ _ _ _ _ hg, by rw [List.length_set]; exact hn, hm, by simp [hs], ?_⟩⟩⟩
    rw [List.length_set, El.cs_set ok l j i hj hi u x hx, ← ht]
    simp only [Array.toList_setIfInBounds, List.take_set]

/-- a row of one, just built -/
theorem R.one {α : Type} {E : El α} (ok : E.Ok) {w : World} {g : Nat} {c : Array Value} (x : α) (h : w.heap[g]? = some (.cells c E.e (0, 0))) (hc : c.toList = E.enc x) : R E w (.slice (some ⟨g, 0, none⟩) 1 1) [x] := by
  have hl : c.size = E.sz := by rw [← Array.length_toList, hc, ok.len]
  refine ⟨by rw [ok.length], .inr ⟨g, 1, c, rfl, Nat.zero_le _, h, Nat.le_refl _, by decide, by rw [hl, Nat.one_mul], ?_⟩⟩
  simp only [El.cs, List.flatMap_cons, List.flatMap_nil, List.append_nil, List.length_singleton, Nat.one_mul]
  rw [← hl, List.take_of_length_le (by simp), hc]
end Go.Proofs.YtcadlpmopplkeaaDoor
