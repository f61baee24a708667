/- The document's Add, Copy. -/
import Derived.Test.YtlfbnhdcgldopaaF3
import Derived.Deep.RegionWith
namespace Go.Proofs.Ytlfbnhdcgldopaa
open Go.RowKit

/-- append(a, s...) on rows of the document's entries. -/
theorem rappend_list (W : World) (b0 : Nat) (hb0 : b0 ≤ W.heap.size) (v sv : Value) (l1 l2 : List E) (hrow : W.ownsRow b0 82 2 v l1.length (cellsOf l1)) (hE : REnts W sv l2) (hlen : (l1.length + l2.length) * 32 ≤ 140737488355328) :
    ∃ bb cc w', (Builtin.append_ #[73, 73] 73 #[v, sv]).run Try.prog W = .ok (.slice bb (l1 ++ l2).length cc) w' ∧ w'.ownsRow b0 82 2 (.slice bb (l1 ++ l2).length cc) (l1 ++ l2).length (cellsOf (l1 ++ l2)) ∧ W.grownBy w' v.ownBlock := by
  obtain ⟨i0, hi0, hz0, hz1, hz2⟩ := info_parts info82
  rcases hE with ⟨rfl, rfl⟩ | ⟨g, cap, rfl, hl, hc, hcell⟩
  · obtain ⟨bb, cc, rfl⟩ := row_slice hrow
    refine ⟨bb, cc, W, ?_, by rw [List.append_nil]; exact hrow, ⟨rfl, rfl, rfl, Nat.le_refl _, fun _ _ _ => rfl⟩⟩
    rw [List.append_nil]
    rcases hrow.2 with ⟨h1, hn⟩ | ⟨g, cap, cur, h1, _, hg, hcc, _⟩
    · obtain rfl : l1 = [] := List.length_eq_zero_iff.1 hn
      cases h1
      simp [Builtin.append_, run_underlying Try.underlying73, sizeOf, typeInfo, hi0, Builtin.lenOf, Builtin.firstCells]
    · cases h1
      simp [Builtin.append_, run_underlying Try.underlying73, sizeOf, typeInfo, hi0, Builtin.lenOf, Builtin.firstCells, storeCells, hcc]
  · obtain ⟨v', w', hrun, ho, hg, _⟩ := run_append_own (P := Try.prog) W b0 73 73 82 i0 _ 2 32 Try.underlying73 hi0 hz0 hz1 hz2 rfl (by omega) v l1.length (cellsOf l1) hrow ⟨g, 0, none⟩ l2.length cap (cellsOf l2) (by rw [length_cellsOf]) (fun j u hj => by rw [Addr.add_lit, Nat.zero_add]; exact hcell j u hj) (cellsOf_one l2) (by unfold maxLen; omega) (by omega) hb0
    rw [← cellsOf_append, ← List.length_append] at ho
    obtain ⟨bb, cc, rfl⟩ := row_slice ho
    exact ⟨bb, cc, w', hrun, ho, hg⟩

set_option maxRecDepth 100000 in
set_option maxHeartbeats 1000000 in
theorem radd_any (w : World) (b mx : Nat) (es : List E) (v : Value) (h : RTab w b mx es v) (n x : ByteArray) (hsz : n.size + x.size + 32 ≤ 4611686018427387904) :
    Calls Try.prog 36 #[.pointer (some ⟨b, 0, none⟩), .string n, .string x] w fun e w' => e = .returned (.tuple #[]) ∧ RChanged w w' b mx (keep mx ((n, x) :: es)) := by
  obtain ⟨k, hk⟩ : ∃ k : Nat, k = esz (n, x) := ⟨_, rfl⟩
  have hk' : k = n.size + x.size + 32 := hk
  have hmx := h.1
  have hlen := h.len
  have htot := h.2.1
  have hb := h.lt
  obtain ⟨c0, c1, f0, f1⟩ := rtab_cells h.2.2.1
  obtain ⟨base, cap, rfl⟩ := h.slice
  -- the box of the entry, and what the size's call leaves
  have hsize : Hid (Calls Try.prog 49 #[.agg #[.string n, .string x]] ((w.alloc (.cells #[.string n, .string x] 82)).drew) fun e w1 => e = .returned (.int .i64 (k : Int)) ∧ w1.cell? ⟨b, 0, none⟩ = some (.int .i64 (mx : Int)) ∧ w1.cell? ⟨b, 1, none⟩ = some (.slice base es.length cap) ∧ w1.frozen? ⟨b, 1, none⟩ = false ∧ w1.cell? ⟨w.heap.size, 0, none⟩ = some (.string n) ∧ w1.cell? ⟨w.heap.size, 1, none⟩ = some (.string x) ∧ b < w1.heap.size ∧ w.heap.size < w1.heap.size ∧ Hid (Below w.heap.size w w1)) := by
    refine (rsize_any n x _ (by omega)).mono ?_
    rintro e w1 ⟨rfl, hb1⟩
    have hN : w1.heap[w.heap.size]? = some (.cells #[.string n, .string x] 82 (0, 0)) := (hb1.block _ (by simp)).trans (heap_alloc_new w _)
    have hB : Below w.heap.size w w1 := ((Below.refl _ w).alloc (Nat.le_refl _) _).trans (Below.mono (B := (w.alloc (.cells #[.string n, .string x] 82)).heap.size) ⟨hb1.os, hb1.tape, hb1.output, hb1.size, hb1.block⟩ (by simp))
    obtain ⟨d0, d1, _, g1⟩ := rtab_cells (h.below hB).2.2.1
    exact ⟨by rw [hk], d0, d1, g1, by rw [cell_of_row _ _ _ _ _ _ hN]; rfl, by rw [cell_of_row _ _ _ _ _ _ hN]; rfl, (h.below hB).lt, (Array.getElem?_eq_some_iff.1 hN).1, hB⟩
  by_cases hover : mx < k
  · have hans : keep mx ((n, x) :: es) = [] := by rw [keep, if_neg (by omega)]
    have hfin : ∀ w1, Below w.heap.size w w1 → Hid (RChanged w (w1.setCell ⟨b, 1, none⟩ (.slice none 0 0)) b mx (keep mx ((n, x) :: es))) := fun w1 hB => by
      rw [hans]
      exact rstored rfl hmx (by simp [total]) hb (h.below hB).2.2.1 rfl (World.ownsRow_nil _ _ _ _) (Kept.of_below hB)
    replace hfin : Hid _ := hfin
    have hlt : (mx : Int) < (k : Int) := by omega
    clear hk hk' hans h
    go_enter Try.func36, Try.ntmps36
    go_wp2_with fail
    go_region_with (first | (go_at_call 49; refine hsize.out.mono ?_; rintro e w1 ⟨rfl, d0, d1, g1, e0, e1, l1, l2, hB⟩))
    all_goals
      go_wp2_with fail
      exact bodyPost_ret (results_none rfl _ _ _) rfl ⟨rfl, (hfin.out _ hB.out)⟩
  · have hlt : ¬ (mx : Int) < (k : Int) := by omega
    have hall : ∀ w1, Below w.heap.size w w1 → Hid (∃ bb cc w2, (Builtin.append_ #[73, 73] 73 #[.slice (some ⟨w1.heap.size, 0, none⟩) 1 1, .slice base es.length cap]).run Try.prog (w1.alloc (.cells #[.string n, .string x] 82)) = .ok (.slice bb (es.length + 1) cc) w2 ∧ w2.cell? ⟨b, 0, none⟩ = some (.int .i64 (mx : Int)) ∧
        Hid (Calls Try.prog 50 #[.slice bb (es.length + 1) cc, .int .i64 (mx : Int)] w2 fun e w' => ∃ b3 c3, e = .returned (.slice b3 (keep mx ((n, x) :: es)).length c3) ∧ w'.cell? ⟨b, 1, none⟩ = some (.slice base es.length cap) ∧ w'.frozen? ⟨b, 1, none⟩ = false ∧ Hid (RChanged w (w'.setCell ⟨b, 1, none⟩ (.slice b3 (keep mx ((n, x) :: es)).length c3)) b mx (keep mx ((n, x) :: es))))) := by
      intro w1 hB
      have hB1 : Below w.heap.size w (w1.alloc (.cells #[.string n, .string x] 82)) := hB.alloc hB.size _
      have hR := (h.below hB1).2.2.2
      have hrow : (w1.alloc (.cells #[.string n, .string x] 82)).ownsRow w.heap.size 82 2 (.slice (some ⟨w1.heap.size, 0, none⟩) 1 1) [(n, x)].length (cellsOf [(n, x)]) := ⟨rfl, .inr ⟨w1.heap.size, 1, _, rfl, hB.size, heap_alloc_new _ _, Nat.le_refl _, by unfold maxLen; omega, rfl, rfl⟩⟩
      obtain ⟨bb, cc, w2, hrun, ho, hg⟩ := rappend_list _ w.heap.size hB1.size _ _ [(n, x)] es hrow (rents_of_row hR) (by simp; omega)
      have hl1 : ([(n, x)] ++ es).length = es.length + 1 := by simp
      rw [hl1] at hrun ho
      have hB2 : Below w.heap.size w w2 := hB1.grown hg hB1.size fun k hk => by cases hk; exact hB.size
      obtain ⟨d0, _⟩ := rtab_cells (h.below hB2).2.2.1
      refine ⟨bb, cc, w2, hrun, d0, ?_⟩
      have hE2 : REnts w2 (.slice bb (es.length + 1) cc) ((n, x) :: es) := rents_of_row (base := w.heap.size) ho
      have htk : total ((n, x) :: es) = k + total es := by rw [hk]; rfl
      refine (shrunk_any w2 _ ((n, x) :: es) hE2 (by simp; omega) (by rw [htk]; omega) mx hmx).mono ?_
      rintro e w' ⟨b3, c3, rfl, hrow3, hb3⟩
      have hB3 : Below w.heap.size w w' := hB2.trans (hb3.mono hB2.size)
      obtain ⟨_, e1, _, e2⟩ := rtab_cells (h.below hB3).2.2.1
      refine ⟨b3, c3, rfl, e1, e2, rstored rfl hmx (Nat.le_trans (total_keep _ _) hmx) hb (h.below hB3).2.2.1 rfl ?_ (Kept.of_below hB3)⟩
      exact ⟨hrow3.1, hrow3.2.imp id fun ⟨g, c, cu, h1, h2, h3⟩ => ⟨g, c, cu, h1, Nat.le_trans hB2.size h2, h3⟩⟩
    replace hall : Hid _ := hall
    clear hk hk' h
    go_enter Try.func36, Try.ntmps36
    go_wp2_with fail
    go_region_with (first | (go_at_call 49; refine hsize.out.mono ?_; rintro e w1 ⟨rfl, d0, d1, g1, e0, e1, l1, l2, hB⟩))
    all_goals
      obtain ⟨bb, cc, w2, hrun, k0, hcall⟩ := (hall.out _ hB.out).out
      go_wp2_with (first | (at_builtin; refine Lib.wpList_append_run _ rfl _ _ _ _ rfl _ _ rfl rfl _ _ hrun ?_) | (go_at_call 50; refine hcall.out.mono ?_; rintro e w3 ⟨b3, c3, rfl, k1, k2, hfin⟩))
      go_end0
      exact ⟨rfl, hfin.out⟩

end Go.Proofs.Ytlfbnhdcgldopaa
