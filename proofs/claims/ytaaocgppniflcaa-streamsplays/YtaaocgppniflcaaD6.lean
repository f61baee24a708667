/- The document's row, written in place. -/
import Derived.Test.YtaaocgppniflcaaD5
namespace Go.Proofs.Ytaaocgppniflcaa
open Go.RowKit Go.Maps
set_option linter.unusedVariables false
set_option linter.unusedSimpArgs false

theorem cs1_set (l : List O1) (j : Nat) (hj : j < l.length) (x : O1) : E1.cs (l.set j x) = (((E1.cs l).set (j * 3) (.int .i64 x.1)).set (j * 3 + 1) (.int .i64 x.2.1)).set (j * 3 + 2) (.bool x.2.2) := by
  induction l generalizing j with
  | nil => simp at hj
  | cons a r ih =>
    cases j with
    | zero => simp [El.cs, E1]
    | succ j =>
      have h3 : ∀ m, (j + 1) * 3 + m = j * 3 + m + 3 := fun m => by omega
      have h0 : (j + 1) * 3 = j * 3 + 3 := by omega
      have := ih j (by simpa using hj)
      simp only [El.cs, List.set_cons_succ, List.flatMap_cons] at this ⊢
      rw [this]
      rw [h3 1, h3 2, h0]
      simp [E1]
/-- one stream's state, or its mark, written anew -/
theorem R.set1 {w : World} {v : Value} {l : List O1} (h : R E1 w v l) (j : Nat) (hj : j < l.length) : ∃ g cap, v = .slice (some ⟨g, 0, none⟩) l.length cap ∧ l.length ≤ cap ∧ cap ≤ 9223372036854775807 ∧ g < w.heap.size ∧ v.ownBlock = some g ∧
    w.cell? ⟨g, j * 3 + 1, none⟩ = some (.int .i64 l[j].2.1) ∧ w.cell? ⟨g, j * 3 + 2, none⟩ = some (.bool l[j].2.2) ∧ w.frozen? ⟨g, j * 3 + 1, none⟩ = false ∧ w.frozen? ⟨g, j * 3 + 2, none⟩ = false ∧
    (∀ n, R E1 (w.setCell ⟨g, j * 3 + 1, none⟩ (.int .i64 n)) v (l.set j (l[j].1, n, l[j].2.2))) ∧ (∀ b, R E1 (w.setCell ⟨g, j * 3 + 2, none⟩ (.bool b)) v (l.set j (l[j].1, l[j].2.1, b))) := by
  obtain ⟨B, off, cap, e, hB, d0, d1, d2⟩ := h.isIn.one j hj
  obtain ⟨h3, h4⟩ := h
  rcases h4 with ⟨hv, h0⟩ | ⟨g', cap', cur, hv, hb, hg, hn, hm, hs, ht⟩
  · omega
  · rw [hv] at e
    injection e with e1 e2 e3
    injection e1 with e1
    injection e1 with e1 e4
    subst e1
    subst e3
    subst e4
    subst hv
    rw [Nat.zero_add] at d0 d1 d2
    have c0 : (E1.cs l)[j * 3]? = some (.int .i64 l[j].1) := by have := ok1.get l j 0 hj (by decide); simpa [E1] using this
    have c1 : (E1.cs l)[j * 3 + 1]? = some (.int .i64 l[j].2.1) := by have := ok1.get l j 1 hj (by decide); simpa [E1] using this
    have c2 : (E1.cs l)[j * 3 + 2]? = some (.bool l[j].2.2) := by have := ok1.get l j 2 hj (by decide); simpa [E1] using this
    have sam : ∀ (L : List Value) (i : Nat) (u : Value), L[i]? = some u → L.set i u = L := fun L i u hu => by
      apply List.ext_getElem?
      intro k
      rw [List.getElem?_set]
      split
      · rename_i hk
        subst hk
        split
        · exact hu.symm
        · rename_i hl
          rw [List.getElem?_eq_none (by omega)] at hu
          cases hu
      · rfl
    refine ⟨g', cap', rfl, hn, by unfold maxLen at hm; omega, (Array.getElem?_eq_some_iff.1 hg).1, rfl, d1, d2, by simp [World.frozen?, hg], by simp [World.frozen?, hg], fun n => ⟨by rw [ok1.length], .inr ⟨g', cap', cur.setIfInBounds (j * 3 + 1) (.int .i64 n), by rw [List.length_set], hb, setCell_block _ _ _ _ _ _ _ hg, by rw [List.length_set]; exact hn, hm, by simp [hs], ?_⟩⟩, fun b => ⟨by rw [ok1.length], .inr ⟨g', cap', cur.setIfInBounds (j * 3 + 2) (.bool b), by rw [List.length_set], hb, setCell_block _ _ _ _ _ _ _ hg, by rw [List.length_set]; exact hn, hm, by simp [hs], ?_⟩⟩⟩
    · rw [List.length_set, cs1_set l j hj, sam (E1.cs l) _ _ c0, sam ((E1.cs l).set (j * 3 + 1) _) (j * 3 + 2) _ (by rw [List.getElem?_set, if_neg (by omega)]; exact c2), ← ht]
      simp only [Array.toList_setIfInBounds, List.take_set]
    · rw [List.length_set, cs1_set l j hj, sam (E1.cs l) _ _ c0, sam (E1.cs l) _ _ c1, ← ht]
      simp only [Array.toList_setIfInBounds, List.take_set]
end Go.Proofs.Ytaaocgppniflcaa
