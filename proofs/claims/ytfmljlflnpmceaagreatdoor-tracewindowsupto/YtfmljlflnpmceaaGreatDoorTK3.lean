/- move. -/
import Derived.Test.YtfmljlflnpmceaaGreatDoorVa
namespace Go.Proofs.YtfmljlflnpmceaaGreatDoor
open Go.RowKit Go.Maps
set_option linter.unusedVariables false
set_option linter.unusedSimpArgs false

theorem own_exact {w : World} {b n : Nat} {L : Mp} (h : w.ownsMap Tryz.prog 2 (plainElem Tryz.prog 3) b n (mD L)) : w.ownsMap Tryz.prog 2 (plainElem Tryz.prog 3) b L.length (mD L) := by
  obtain ⟨es, clock, h1, h2, h3, h4⟩ := h
  refine ⟨es, clock, h1, h2, ?_, h4⟩
  have h5 := congrArg Maps.size h4
  rw [size_mD] at h5
  simp [Maps.size, length_sorted] at h5
  omega
/-- all but a table's own two blocks are as they were -/
abbrev K2s (p b : Nat) (w w' : World) : Prop := Ks (fun i => i = p ∨ i = b) w w'
theorem K2s.of_below {p b : Nat} {w w' : World} (h : Below w.heap.size w w') : K2s p b w w' := Ks.of_below h
theorem K2s.tr {p b : Nat} {w w' w'' : World} (h : K2s p b w w') (k : K2s p b w' w'') : K2s p b w w'' := Ks.trans h k (fun _ _ h => h) (fun _ _ h => h)

/-- the end of a move: a field was stored, then the map was turned -/
theorem move_end {w w1 w3 : World} {p b i : Nat} {X : Value} {o : Obj} (hp : p < w.heap.size) (hB : Below (w.alloc o).heap.size (w.alloc o) w1) (hg : (w1.setCell ⟨p, i, none⟩ X).grownBy w3 (some b)) : K2s p b w w3 := by
  have h1 : Below w.heap.size w w1 := (bel1 w o).trans (hB.mono (by simp))
  refine (K2s.of_below h1).tr ⟨hg.os, hg.tape, hg.output, Nat.le_trans (by simp [World.setCell]) hg.size, fun k hk hn => ?_⟩
  rw [hg.block k (by simpa [World.setCell] using hk) (fun e => hn (.inr (Option.some.inj e)))]
  exact setCell_other _ _ _ _ _ (fun e => hn (.inl e))

set_option maxRecDepth 100000 in
set_option maxHeartbeats 4000000 in
theorem move_any (w : World) (p b : Nat) (T : Tb) (id n : Int) (g : Bool) (k : Int) (h : TI w p b T) (hid : 1 ≤ id ∧ id ≤ 2147483647) (hn : 1 ≤ n ∧ n ≤ 6) :
    Calls Tryz.prog 89 #[.pointer (some ⟨p, 0, none⟩), .int .i64 id, .int .i64 n, .agg #[.bool g, .int .i64 k]] w fun e w' => e = .returned (.tuple #[]) ∧ TI w' p b (T.mv id n g k) ∧ K2s p b w w' := by
  have hp := h.lt
  have hne := h.ne
  have hok := T.mv_ok h.ok g k hid hn
  have hlen := h.ok.length
  have h0 := h.al (.cells #[.bool g, .int .i64 k] 119)
  have hkey := keyOf_int_mk (a := id) Tryz.underlying2 (WalkArith.wf_i64 (by omega))
  have hval := plainElem_int (H := Unit) Tryz.underlying3 (q := .i64) (a := n) (WalkArith.wf_i64 (by omega))
  -- what is handed on behind isOurs
  have mid : ∀ w1, Below (w.alloc (.cells #[.bool g, .int .i64 k] 119)).heap.size (w.alloc (.cells #[.bool g, .int .i64 k] 119)) w1 → ∀ i, (i = 1 ∨ i = 2) → ∀ X,
      w1.frozen? ⟨p, i, none⟩ = false ∧ (w1.setCell ⟨p, i, none⟩ X).cell? ⟨w.heap.size, 0, none⟩ = some (.bool g) ∧ (w1.setCell ⟨p, i, none⟩ X).cell? ⟨w.heap.size, 1, none⟩ = some (.int .i64 k) ∧
      (w1.setCell ⟨p, i, none⟩ X).cell? ⟨p, 3, none⟩ = some (.map (some b)) ∧ (w1.setCell ⟨p, i, none⟩ X).ownsMap Tryz.prog 2 (plainElem Tryz.prog 3) b T.L.length (mD T.L) ∧
      (w1.setCell ⟨p, i, none⟩ X).heap[p]? = some (.cells (#[.bool T.cl, .int .i64 T.lo, .int .i64 T.lt, .map (some b)].setIfInBounds i X) 85) := by
    intro w1 hB i hi X
    have h1 := h0.below hB
    have hb : (w1.setCell ⟨p, i, none⟩ X).heap[w.heap.size]? = some (.cells #[.bool g, .int .i64 k] 119) :=
      (setCell_other _ _ _ _ _ (by omega)).trans ((hB.block _ (by simp)).trans (heap_alloc_new _ _))
    have hb2 := setCell_block w1 p i X _ _ _ h1.blk
    refine ⟨frozen_blk h1.blk i, cell_blk hb 0, cell_blk hb 1, ?_, h1.mp.setCell (fun e => hne e.symm) _, hb2⟩
    rw [cell_blk hb2]
    rcases hi with rfl | rfl <;> rfl
  have fin : ∀ (w1 w3 : World) (i : Nat) (X : Value) (L' : Mp) (T' : Tb), Below (w.alloc (.cells #[.bool g, .int .i64 k] 119)).heap.size (w.alloc (.cells #[.bool g, .int .i64 k] 119)) w1 → (i = 1 ∨ i = 2) → (w1.setCell ⟨p, i, none⟩ X).grownBy w3 (some b) →
      (∃ m, w3.ownsMap Tryz.prog 2 (plainElem Tryz.prog 3) b m (mD L')) → T.mv id n g k = T' → T'.L = L' → #[.bool T.cl, .int .i64 T.lo, .int .i64 T.lt, .map (some b)].setIfInBounds i X = #[.bool T'.cl, .int .i64 T'.lo, .int .i64 T'.lt, .map (some b)] → TI w3 p b (T.mv id n g k) ∧ K2s p b w w3 := by
    intro w1 w3 i X L' T' hB hi hg ho e1 e2 e3
    obtain ⟨m, ho⟩ := ho
    refine ⟨⟨?_, ?_, hok⟩, move_end hp hB hg⟩
    · rw [hg.block p (by have := (h0.below hB).lt; simpa [World.setCell] using this) (fun e => hne (Option.some.inj e)), (mid w1 hB i hi X).2.2.2.2.2, e3, e1]
    · rw [e1, e2]; exact own_exact ho
  cases ho : T.ours id
  · cases e6 : (n == 6) <;> cases e7 : (k == 6) <;> cases g <;>
    · go_enter Tryz.func89, Tryz.ntmps89
      go_wp2_with fail
      refine (isOurs_any _ p b T id h0).mono ?_
      rintro e w1 ⟨rfl, hB⟩
      rw [ho]
      obtain ⟨c0, c1, c2, c3, hp1⟩ := (h0.below hB).cells
      obtain ⟨f1, d0, d1, d3, hown, hblk⟩ := mid w1 hB 2 (.inr rfl) (.int .i64 (max T.lt id))
      have tok : True := trivial
      go_wp2_with (first
        | (at_mapUpdate; refine wpList_mapUpdate_own _ rfl _ _ _ 83 rfl 2 3 law2 Tryz.underlying83 _ b _ _ rfl hown (by unfold maxLen; omega) _ _ _ rfl rfl hkey _ [] hval ?_; intro w3 hown3 hg3)
        | (at_delete; refine wpList_delete_own _ rfl _ _ 83 2 rfl 3 law2 Tryz.underlying83 _ b _ _ rfl hown _ _ rfl hkey ?_; intro w3 hown3 ht3; have hg3 := ht3.grown)
        | go_in)
      first | (refine bodyPost_ret (results_none rfl _ _ _) rfl ⟨rfl, ?_⟩) | (go_end0; refine ⟨rfl, ?_⟩)
      first
        | exact fin w1 w3 2 _ (dele T.L id) _ hB (.inr rfl) hg3 ⟨_, by rw [← del_mD]; exact hown3⟩ rfl (by simp [Tb.mv, e6, e7]) (by simp [Tb.mv, ho])
        | exact fin w1 w3 2 _ (putm T.L id n) _ hB (.inr rfl) hg3 ⟨_, by rw [← put_mD]; exact hown3⟩ rfl (by simp [Tb.mv, e6, e7]) (by simp [Tb.mv, ho])
  · cases e6 : (n == 6) <;> cases e7 : (k == 6) <;> cases g <;>
    · go_enter Tryz.func89, Tryz.ntmps89
      go_wp2_with fail
      refine (isOurs_any _ p b T id h0).mono ?_
      rintro e w1 ⟨rfl, hB⟩
      rw [ho]
      obtain ⟨c0, c1, c2, c3, hp1⟩ := (h0.below hB).cells
      obtain ⟨f1, d0, d1, d3, hown, hblk⟩ := mid w1 hB 1 (.inl rfl) (.int .i64 (max T.lo id))
      have tok : True := trivial
      go_wp2_with (first
        | (at_mapUpdate; refine wpList_mapUpdate_own _ rfl _ _ _ 83 rfl 2 3 law2 Tryz.underlying83 _ b _ _ rfl hown (by unfold maxLen; omega) _ _ _ rfl rfl hkey _ [] hval ?_; intro w3 hown3 hg3)
        | (at_delete; refine wpList_delete_own _ rfl _ _ 83 2 rfl 3 law2 Tryz.underlying83 _ b _ _ rfl hown _ _ rfl hkey ?_; intro w3 hown3 ht3; have hg3 := ht3.grown)
        | go_in)
      first | (refine bodyPost_ret (results_none rfl _ _ _) rfl ⟨rfl, ?_⟩) | (go_end0; refine ⟨rfl, ?_⟩)
      first
        | exact fin w1 w3 1 _ (dele T.L id) _ hB (.inl rfl) hg3 ⟨_, by rw [← del_mD]; exact hown3⟩ rfl (by simp [Tb.mv, e6, e7]) (by simp [Tb.mv, ho])
        | exact fin w1 w3 1 _ (putm T.L id n) _ hB (.inl rfl) hg3 ⟨_, by rw [← put_mD]; exact hown3⟩ rfl (by simp [Tb.mv, e6, e7]) (by simp [Tb.mv, ho])
end Go.Proofs.YtfmljlflnpmceaaGreatDoor
