/- SettingBack: what the law keeps. -/
import Derived.Test.YtfkimdgbkfogcaaDoorG1
import Derived.Deep.CutBlock
namespace Go.Proofs.YtfkimdgbkfogcaaDoor
open Go.RowKit
set_option linter.unusedVariables false
set_option linter.unusedSimpArgs false

theorem six_ne {u1 u2 u3 u4 u5 u6 e1 e2 e3 e4 e5 e6 : Int} (h : St.mk u1 u2 u3 u4 u5 u6 ≠ St.mk e1 e2 e3 e4 e5 e6) : (u1 == e1) = false ∨ (u1 = e1 ∧ (u2 == e2) = false) ∨ (u1 = e1 ∧ u2 = e2 ∧ (u3 == e3) = false) ∨ (u1 = e1 ∧ u2 = e2 ∧ u3 = e3 ∧ (u4 == e4) = false) ∨ (u1 = e1 ∧ u2 = e2 ∧ u3 = e3 ∧ u4 = e4 ∧ (u5 == e5) = false) ∨ (u1 = e1 ∧ u2 = e2 ∧ u3 = e3 ∧ u4 = e4 ∧ u5 = e5 ∧ (u6 == e6) = false) := by
  simp only [beq_eq_false_iff_ne, ne_eq, St.mk.injEq] at *
  omega
/-- the law's two sets -/
def Sb (w : World) (a b : St) (g7 g8 : Nat) (W : World) : Prop := Below w.heap.size w W ∧ W.heap[g7]? = some (.cells a.a 27 (0, 0)) ∧ W.heap[g8]? = some (.cells b.a 27 (0, 0)) ∧ w.heap.size ≤ g8 ∧ g8 ≠ g7
theorem Sb.below {w : World} {a b : St} {g7 g8 : Nat} {W W' : World} (h : Sb w a b g7 g8 W) (hb : Below W.heap.size W W') : Sb w a b g7 g8 W' :=
  ⟨h.1.trans (hb.mono h.1.size), (hb.block _ (heap_lt h.2.1)).trans h.2.1, (hb.block _ (heap_lt h.2.2.1)).trans h.2.2.1, h.2.2.2⟩
/-- and its two lists, apart -/
def Sl (w : World) (a b : St) (g7 g8 : Nat) (L : List (Int × Int)) (lv mv : Value) (W : World) : Prop :=
  Sb w a b g7 g8 W ∧ R EP W lv L ∧ R EP W mv L ∧ (∀ k, lv.ownBlock = some k → w.heap.size ≤ k) ∧ ∀ k, lv.ownBlock = some k → mv.ownBlock ≠ some k
/-- where the first list is another by now -/
def Sm (w : World) (a b : St) (g7 g8 : Nat) (M L : List (Int × Int)) (lv mv : Value) (W : World) : Prop :=
  Sb w a b g7 g8 W ∧ R EP W lv M ∧ R EP W mv L ∧ (∀ k, lv.ownBlock = some k → w.heap.size ≤ k) ∧ ∀ k, lv.ownBlock = some k → mv.ownBlock ≠ some k
section
variable {w : World} {a b : St} {g7 g8 : Nat} {M L : List (Int × Int)} {lv mv : Value} {W W' : World}
theorem Sm.below (h : Sm w a b g7 g8 M L lv mv W) (hb : Below W.heap.size W W') : Sm w a b g7 g8 M L lv mv W' := ⟨h.1.below hb, h.2.1.below hb, h.2.2.1.below hb, h.2.2.2⟩
theorem Sm.ne (h : Sm w a b g7 g8 M L lv mv W) (k : Nat) (hk : lv.ownBlock = some k) : g7 ≠ k ∧ g8 ≠ k := by
  obtain ⟨c, hc⟩ := h.2.1.ty k hk
  refine ⟨fun e => ?_, fun e => ?_⟩
  · rw [← e, h.1.2.1] at hc; simp [EP] at hc
  · rw [← e, h.1.2.2.1] at hc; simp [EP] at hc
theorem Sm.kept (h : Sm w a b g7 g8 M L lv mv W) (hk : Ks (fun k => lv.ownBlock = some k) W W') : Sb w a b g7 g8 W' ∧ R EP W' mv L :=
  ⟨⟨h.1.1.trans (hk.below h.1.1.size fun i hi e => by have := h.2.2.2.1 i e; omega), (hk.block _ (heap_lt h.1.2.1) fun e => (h.ne _ e).1 rfl).trans h.1.2.1, (hk.block _ (heap_lt h.1.2.2.1) fun e => (h.ne _ e).2 rfl).trans h.1.2.2.1, h.1.2.2.2⟩, h.2.2.1.stays fun k e hl => hk.block k hl fun e2 => h.2.2.2.2 k e2 e⟩
theorem Sm.grown (h : Sm w a b g7 g8 M L lv mv W) {lv' : Value} (hG : Gr W W' lv lv') : Sb w a b g7 g8 W' ∧ R EP W' mv L := h.kept (Ks.of_gr hG)
theorem pcells_set (l : List (Int × Int)) (j : Nat) (x y : Int) (h : j < l.length) : EP.cs (l.set j (x, y)) = ((EP.cs l).set (j * 2) (.int .i64 x)).set (j * 2 + 1) (.int .i64 y) := by
  induction l generalizing j with
  | nil => exact absurd h (by simp)
  | cons q r ih =>
    cases j with
    | zero => rfl
    | succ j =>
      have e : (j + 1) * 2 = j * 2 + 1 + 1 := by omega
      have := ih j (by simpa using h)
      rw [e]
      simp only [List.set_cons_succ]
      have e2 : ∀ (q : Int × Int) (s : List (Int × Int)), EP.cs (q :: s) = .int .i64 q.1 :: .int .i64 q.2 :: EP.cs s := fun q s => rfl
      rw [e2, e2, this]
      rfl
theorem Sm.put {B n cap : Nat} (h : Sm w a b g7 g8 M L (.slice (some ⟨B, 0, none⟩) n cap) mv W) (j : Nat) (hj : j < M.length) (x y : Int) :
    (∃ u, W.cell? ⟨B, j * 2, none⟩ = some u) ∧ (∃ u, W.cell? ⟨B, j * 2 + 1, none⟩ = some u) ∧ W.frozen? ⟨B, j * 2, none⟩ = false ∧ W.frozen? ⟨B, j * 2 + 1, none⟩ = false ∧
    Sm w a b g7 g8 (M.set j (x, y)) L (.slice (some ⟨B, 0, none⟩) n cap) mv ((W.setCell ⟨B, j * 2, none⟩ (.int .i64 x)).setCell ⟨B, j * 2 + 1, none⟩ (.int .i64 y)) := by
  obtain ⟨B', off, cap', e, hBl, d1, d2⟩ := h.2.1.isIn.par j hj
  injection e with e1 _ _
  injection e1 with e1
  injection e1 with e1 e2 _
  subst e1
  subst e2
  rw [Nat.zero_add] at d1 d2
  have hR := h.2.1
  rcases hR.2 with ⟨hv, h0⟩ | ⟨g', cap'', cur, hv, hb, hg, hn, hm, hs, ht⟩
  · cases hv
  · injection hv with e1 e2 e3
    injection e1 with e1
    injection e1 with e1 _ _
    subst e1
    subst e3
    have hk : Ks (fun k => (Value.slice (some ⟨B, 0, none⟩) n cap).ownBlock = some k) W ((W.setCell ⟨B, j * 2, none⟩ (.int .i64 x)).setCell ⟨B, j * 2 + 1, none⟩ (.int .i64 y)) := Ks.set (Ks.set (Ks.refl (fun k => (Value.slice (some ⟨B, 0, none⟩) n cap).ownBlock = some k) W) B (j * 2) _ rfl) B (j * 2 + 1) _ rfl
    have hkept := h.kept hk
    refine ⟨⟨_, d1⟩, ⟨_, d2⟩, frozen_blk hg _, frozen_blk hg _, hkept.1, ?_, hkept.2, h.2.2.2⟩
    refine ⟨okP.length _, .inr ⟨B, cap, (cur.setIfInBounds (j * 2) (.int .i64 x)).setIfInBounds (j * 2 + 1) (.int .i64 y), by rw [List.length_set, e2], hb, setCell_block _ _ _ _ _ _ _ (setCell_block _ _ _ _ _ _ _ hg), by rw [List.length_set]; exact hn, hm, by simp only [Array.size_setIfInBounds]; exact hs, ?_⟩⟩
    rw [List.length_set, pcells_set M j x y hj, ← ht]
    simp only [Array.toList_setIfInBounds, List.take_set]
end
theorem Sl.below {w : World} {a b : St} {g7 g8 : Nat} {L : List (Int × Int)} {lv mv : Value} {W W' : World} (h : Sl w a b g7 g8 L lv mv W) (hb : Below W.heap.size W W') : Sl w a b g7 g8 L lv mv W' :=
  ⟨h.1.below hb, h.2.1.below hb, h.2.2.1.below hb, h.2.2.2⟩

end Go.Proofs.YtfkimdgbkfogcaaDoor
