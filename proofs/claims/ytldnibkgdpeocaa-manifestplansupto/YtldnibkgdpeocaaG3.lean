/- For ManifestPlans: what is written over, what is kept. -/
import Derived.Test.YtldnibkgdpeocaaG2
namespace Go.Proofs.Ytldnibkgdpeocaa
open Go.RowKit Go.Maps
open Go.Shelf
set_option linter.unusedVariables false
set_option linter.unusedSimpArgs false

theorem ofE_eq {a b : List Ru} (h : a.map puR = b.map puR) : ofE a = ofE b := by
  have hl : a.length = b.length := by have := congrArg List.length h; simpa using this
  have key : ∀ (B : Pu → Bool), a.any (fun r => B (puR r)) = b.any (fun r => B (puR r)) := fun B => by
    have h1 : (a.map puR).any B = (b.map puR).any B := by rw [h]
    rw [List.any_map, List.any_map] at h1
    exact h1
  have h1 : a.any longB = b.any longB := key fun p => decide (8 < p.2.length)
  have h2 : a.any wrongB = b.any wrongB := key fun p => badT p.1 || p.2.any badT
  have h3 : a.any twiceB = b.any twiceB := key fun p => twB [] p.2
  have h4 : a.map Ru.t = b.map Ru.t := by
    have := congrArg (List.map Prod.fst) h
    rw [List.map_map, List.map_map] at this
    exact this
  unfold ofE
  rw [hl, h1, h2, h3, h4]
theorem pu_all {a b : List Ru} (h : a.map puR = b.map puR) {P : Pu → Prop} (hb : ∀ r ∈ b, P (puR r)) : ∀ r ∈ a, P (puR r) := fun r hr => by
  have : puR r ∈ b.map puR := by rw [← h]; exact List.mem_map_of_mem hr
  obtain ⟨r', hr', e⟩ := List.mem_map.1 this
  rw [← e]
  exact hb r' hr'
theorem nm_short {rs : List Ru} (h : ofE rs = 0) (t : Tg) : (nmP (rs.map puR) t).length ≤ 8 := by
  have hl : rs.any longB = false := by
    cases e : rs.any longB
    · rfl
    · unfold ofE at h
      rw [e] at h
      split at h
      · cases h
      · simp at h
  unfold nmP
  cases hf : (rs.map puR).find? (fun p => decide (p.1 = t)) with
  | none => simp
  | some p =>
    obtain ⟨r, hr, e⟩ := List.mem_map.1 (List.mem_of_find?_eq_some hf)
    have := List.any_eq_false.1 hl r hr
    unfold longB at this
    simp at this
    rw [← e]
    exact this
theorem of_len {rs : List Ru} (h : ofE rs = 0) : rs.length ≤ 64 ∧ ∀ r ∈ rs, r.l.length ≤ 8 := by
  have h1 : ¬ 64 < rs.length := fun e => by unfold ofE at h; rw [if_pos e] at h; cases h
  refine ⟨by omega, fun r hr => ?_⟩
  have hl : rs.any longB = false := by
    cases e : rs.any longB
    · rfl
    · unfold ofE at h
      rw [e, if_neg h1] at h
      simp at h
  have := List.any_eq_false.1 hl r hr
  unfold longB at this
  simp at this
  exact this

/-- a list's cells can be written -/
def Wb (lo hi : Nat) (W : World) (r : Ru) : Prop := r.l = [] ∨ ∃ g cur, sv r.y = .slice (some ⟨g, 0, none⟩) r.l.length r.y.2.2 ∧ r.l.length ≤ r.y.2.2 ∧ r.y.2.2 ≤ 9223372036854775807 ∧ lo ≤ g ∧ g < hi ∧ W.heap[g]? = some (.cells cur 26 (0, 0)) ∧ r.l.length * 2 ≤ cur.size
theorem Wb.of {w W : World} {r : Ru} (h : LT w.heap.size W r) : Wb w.heap.size W.heap.size W r := by
  by_cases he : r.l = []
  · exact .inl he
  obtain ⟨h1, h2, h3⟩ := h
  obtain ⟨t, ⟨b, n, c⟩, l⟩ := r
  simp only at h1 h2 h3 he
  subst h2
  rcases h1.2 with ⟨e, _⟩ | ⟨g, cap, cur, e, _, hg, hn, hm, hs, _⟩
  · cases e
  · injection e with e1 e2 e3
    subst e1 e3
    refine .inr ⟨g, cur, rfl, ?_, ?_, h3 g rfl, heap_lt hg, hg, ?_⟩
    · simp at hn ⊢; omega
    · show c ≤ _; unfold maxLen at hm; omega
    · rw [hs]; simp [ET] at hn ⊢; omega
theorem Wb.set {lo hi : Nat} {W : World} {r : Ru} (h : Wb lo hi W r) (g j : Nat) (f : Tg) : Wb lo hi (setT W g j f) r := by
  rcases h with h | ⟨g', cur, h1, h2, h2', h3, h4, h5, h6⟩
  · exact .inl h
  · by_cases e : g = g'
    · subst e
      refine .inr ⟨g, _, h1, h2, h2', h3, h4, setCell_block _ _ _ _ _ _ _ (setCell_block _ _ _ _ _ _ _ h5), ?_⟩
      simpa using h6
    · refine .inr ⟨g', cur, h1, h2, h2', h3, h4, ?_, h6⟩
      unfold setT
      rw [setCell_other _ _ _ _ _ (Ne.symm e), setCell_other _ _ _ _ _ (Ne.symm e)]
      exact h5
theorem Wb.stays {lo hi : Nat} {W W' : World} {r : Ru} (h : Wb lo hi W r) (hk : ∀ (k : Nat) (c : Array Value), W.heap[k]? = some (Obj.cells c 26 (0, 0)) → W'.heap[k]? = W.heap[k]?) : Wb lo hi W' r := by
  rcases h with h | ⟨g', cur, h1, h2, h2', h3, h4, h5, h6⟩
  · exact .inl h
  · exact .inr ⟨g', cur, h1, h2, h2', h3, h4, (hk g' cur h5).trans h5, h6⟩
def ovS : ByteArray := ⟨#[47, 111, 118, 101, 114]⟩
def ovU : Ru := ⟨(aS, ovS), (none, 0, 0), []⟩
def oL (ls : List Ru) (i : Nat) : List Ru := (List.replicate i ovU ++ ls.drop i) ++ [mkU]
theorem oL_len {ls : List Ru} {i : Nat} (h : i ≤ ls.length) : (oL ls i).length = ls.length + 1 := by unfold oL; simp; omega
theorem oL_get {ls : List Ru} {i : Nat} (h : i < ls.length) : (oL ls i)[i]'(by rw [oL_len (by omega)]; omega) = ls[i] := by
  unfold oL
  rw [List.getElem_append_left (by simp; omega), List.getElem_append_right (by simp)]
  simp
theorem oL_set {ls : List Ru} {i : Nat} (h : i < ls.length) : (oL ls i).set i ovU = oL ls (i + 1) := by
  unfold oL
  rw [List.set_append_left _ _ (by simp; omega), List.set_append_right _ _ (by simp), List.length_replicate, Nat.sub_self, List.drop_eq_getElem_cons h, List.set_cons_zero, List.replicate_succ']
  simp
/-- a rule written over -/
def setU (w : World) (g j : Nat) (r : Ru) : World := ((w.setCell ⟨g, j * 3, none⟩ (.string r.t.1)).setCell ⟨g, j * 3 + 1, none⟩ (.string r.t.2)).setCell ⟨g, j * 3 + 2, none⟩ (sv r.y)
theorem R.setU {w : World} {g n c : Nat} {l : List Ru} (h : R ER w (.slice (some ⟨g, 0, none⟩) n c) l) (j : Nat) (hj : j < l.length) (f : Ru) : R ER (setU w g j f) (.slice (some ⟨g, 0, none⟩) n c) (l.set j f) := by
  have h0 : R ER w (.slice (some ⟨g, 0, none⟩) n c) (l.set j l[j]) := by rw [List.set_getElem_self]; exact h
  obtain ⟨X, hX⟩ : ∃ X, l[j] = X := ⟨_, rfl⟩
  rw [hX] at h0
  have h1 := h0.setw okR hj (i := 0) (by decide) (.string f.t.1) ⟨(f.t.1, X.t.2), X.y, X.l⟩ rfl
  have h2 := h1.setw okR hj (i := 1) (by decide) (.string f.t.2) ⟨(f.t.1, f.t.2), X.y, X.l⟩ rfl
  exact h2.setw okR hj (i := 2) (by decide) (sv f.y) f rfl
/-- what is kept while the lent rules are written over -/
structure Kp (w : World) (h1 lo hi g lo2 g2 : Nat) (v : SV) (ps : List Pu) (W : World) : Prop where
  bel : Below w.heap.size w W
  man : MM W lo hi g ps
  doc : Dm W lo2 g2 v ps
  le : h1 ≤ lo ∧ h1 ≤ lo2 ∧ lo2 ≤ W.heap.size
theorem Kp.ks {w W W' : World} {h1 lo hi g lo2 g2 : Nat} {v : SV} {ps : List Pu} (h : Kp w h1 lo hi g lo2 g2 v ps W) {A : Nat → Prop} (hA : ∀ k, A k → w.heap.size ≤ k ∧ k < h1) (hk : Ks A W W') : Kp w h1 lo hi g lo2 g2 v ps W' := by
  obtain ⟨a, b, c, d1, d2, d3⟩ := h
  refine ⟨a.trans (hk.below a.size fun i hi e => by have := (hA i e).1; omega), b.keep hk.size fun k h h' => hk.block k ?_ fun e => by have := (hA k e).2; omega, c.keep fun k h h' => hk.block k h' fun e => by have := (hA k e).2; omega, d1, d2, Nat.le_trans d3 hk.size⟩
  obtain ⟨_, _, h7, _⟩ := b
  have := h7.lh
  omega
theorem Kp.below {w W W' : World} {h1 lo hi g lo2 g2 : Nat} {v : SV} {ps : List Pu} (h : Kp w h1 lo hi g lo2 g2 v ps W) (hb : Below W.heap.size W W') : Kp w h1 lo hi g lo2 g2 v ps W' := h.ks (A := fun _ => False) (fun k e => e.elim) (Ks.of_below hb)
theorem setT_ks (W : World) (g j : Nat) (f : Tg) (A : Nat → Prop) (h : A g) : Ks A W (setT W g j f) := by
  unfold setT
  exact (Ks.setCell A W g (j * 2) _ h).trans (Ks.setCell A _ g (j * 2 + 1) _ h) (fun _ _ h => h) (fun _ _ h => h)
theorem setU_ks (W : World) (g j : Nat) (f : Ru) (A : Nat → Prop) (h : A g) : Ks A W (setU W g j f) := by
  unfold setU
  exact ((Ks.setCell A W g (j * 3) _ h).trans (Ks.setCell A _ g (j * 3 + 1) _ h) (fun _ _ h => h) (fun _ _ h => h)).trans (Ks.setCell A _ g (j * 3 + 2) _ h) (fun _ _ h => h) (fun _ _ h => h)
end Go.Proofs.Ytldnibkgdpeocaa
