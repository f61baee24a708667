/- VaryMatches, walked. -/
import Derived.Test.YtckdldbheejmhaaDoorF4
import Derived.Test.YtckdldbheejmhaaDoorC2
import Derived.Deep.Cut
import Derived.Deep.CutRange
import Derived.Deep.RegionHeld3
namespace Go.Proofs.YtckdldbheejmhaaDoor
open Go.RowKit
set_option linter.unusedVariables false
set_option linter.unusedSimpArgs false
set_option maxHeartbeats 40000000 in
set_option maxRecDepth 100000 in
theorem varyMatches_any (p q : Rq) (t : SV) (P Q : List Fd) (l : List ByteArray) (w : World) (hP : In EFd w (sv p.y) P) (hQ : In EFd w (sv q.y) Q) (hl : In ES w (sv t) l) (zP : P.length * 40 ≤ 140737488351232) (zQ : Q.length * 40 ≤ 140737488351232) (zl : l.length * 16 ≤ 140737488351232) (zv : ∀ f ∈ P, f.v.size ≤ 140737488355328) :
    Calls Tryd.prog 6 #[.agg (rqv p), .agg (rqv q), sv t] w fun e w' => e = .returned (.bool true) ∧ Below w.heap.size w w' := by
  obtain ⟨w2, hw2⟩ : ∃ x, (w.alloc (.cells (rqv p) 24)).alloc (.cells (rqv q) 24) = x := ⟨_, rfl⟩
  have B2 : Below w.heap.size w w2 := by rw [← hw2]; exact bel2 w _ _
  have HB : Hid (RqB w2 w.heap.size p ∧ RqB w2 (w.heap.size + 1) q) := by
    rw [← hw2]
    exact ⟨by unfold RqB; rw [heap_al, if_neg (by simp), heap_al, if_pos rfl], by unfold RqB; exact fresh2 _ _ _⟩
  have BW : Hid (Below w.heap.size w w2) := B2
  have HI : Hid (∀ W, Below w2.heap.size w2 W → In EFd W (sv p.y) P ∧ In EFd W (sv q.y) Q ∧ In ES W (sv t) l) := fun W hb => ⟨(hP.below B2).below hb, (hQ.below B2).below hb, (hl.below B2).below hb⟩
  obtain ⟨tb, m, tc⟩ := t
  obtain ⟨pm, ps, pa, pp, ⟨pyb, n, pyc⟩, pb⟩ := p
  obtain ⟨qm, qs, qa, qp, ⟨qyb, k, qyc⟩, qb⟩ := q
  obtain ⟨e1, _, e3⟩ := slice_len (show In EFd w (.slice pyb n pyc) P from hP)
  obtain ⟨f1, _, f3⟩ := slice_len (show In EFd w (.slice qyb k qyc) Q from hQ)
  obtain ⟨h1, _, h3⟩ := slice_len (show In ES w (.slice tb m tc) l from hl)
  have EN : Hid (n = P.length ∧ k = Q.length ∧ m = l.length) := ⟨e1, f1, h1⟩
  have hn40 : n ≤ 3518437208781 := by omega
  have hk40 : k ≤ 3518437208781 := by omega
  have hm16 : m ≤ 8796093021952 := by omega
  have htc : m ≤ tc := by omega
  have HZS : Hid (P.length * 40 ≤ 140737488351232 ∧ Q.length * 40 ≤ 140737488351232 ∧ l.length * 16 ≤ 140737488351232) := ⟨zP, zQ, zl⟩
  have HZV : Hid (∀ f ∈ P, f.v.size ≤ 140737488355328) := zv
  have HW2 : Hid ((w.alloc (.cells #[.string pm, .string ps, .string pa, .string pp, .slice pyb n pyc, .string pb] 24)).alloc (.cells #[.string qm, .string qs, .string qa, .string qp, .slice qyb k qyc, .string qb] 24) = w2) := hw2
  simp only [rqv, sv] at HI ⊢
  clear hP hQ hl B2 hw2 e1 e3 f1 f3 h1 h3 zP zQ zl zv
  go_enter Tryd.func6, Tryd.ntmps6
  go_wp2_with fail
  go_at_call 8
  rw [HW2.out]
  refine (first_any w2).mono ?_
  rintro e w3 ⟨rfl, bx⟩
  have D0 : Hid (Below w2.heap.size w2 w3) := bx
  clear bx HW2
  obtain ⟨z0, z1, z2, z3, z4, z5, z6⟩ := (HB.out.1.below D0.out).cells
  obtain ⟨y0, y1, y2, y3, y4, y5, y6⟩ := (HB.out.2.below D0.out).cells
  go_upto_region 5 with fail
  obtain ⟨w4, hw4⟩ : ∃ x, (w3.alloc (.cells #[.string pm, .string ps, .string pa, .string pp, .slice pyb n pyc, .string pb] 24)).alloc (.cells #[.string qm, .string qs, .string qa, .string qp, .slice qyb k qyc, .string qb] 24) = x := ⟨_, rfl⟩
  have X4 : Hid (RqB w4 w3.heap.size ⟨pm, ps, pa, pp, (pyb, n, pyc), pb⟩ ∧ RqB w4 (w3.heap.size + 1) ⟨qm, qs, qa, qp, (qyb, k, qyc), qb⟩) := by
    rw [← hw4]
    exact ⟨by unfold RqB; rw [heap_al, if_neg (by simp), heap_al, if_pos rfl]; rfl, by unfold RqB; exact fresh2 _ _ _⟩
  have B4 : Hid (Below w3.heap.size w3 w4) := by rw [← hw4]; exact bel2 w3 _ _
  rw [hw4]
  clear hw4 z0 z1 z2 z3 z4 z5 z6 y0 y1 y2 y3 y4 y5 y6
  have H2 : Hid (∀ W, Below w3.heap.size w3 W → Below w2.heap.size w2 W) := fun W hb => D0.out.trans (hb.mono D0.out.size)
  have HBP : Hid (∀ W, Below w3.heap.size w3 W → RqB W w.heap.size ⟨pm, ps, pa, pp, (pyb, n, pyc), pb⟩ ∧ RqB W (w.heap.size + 1) ⟨qm, qs, qa, qp, (qyb, k, qyc), qb⟩) := fun W hb => ⟨HB.out.1.below (H2.out W hb), HB.out.2.below (H2.out W hb)⟩
  obtain ⟨_, _, _, _, p4, _, p6⟩ := (HBP.out _ B4.out).1.cells
  go_wp2_with fail
  go_at_call 14
  refine (lend_any (pyb, n, pyc) P w4 (HI.out _ (H2.out _ B4.out)).1 HZS.out.1).mono ?_
  rintro e w5 ⟨g1, c1, rfl, b5, o5, l5, m5, r5⟩
  rw [← EN.out.1] at l5 r5 ⊢
  have x5 := X4.out.1.below b5
  have y5 := X4.out.2.below b5
  have xl := heap_lt x5
  have xc := cell_blk x5 4
  have xf := frozen_blk x5 4
  have B5 : Hid (Below w3.heap.size w3 (w5.setCell ⟨w3.heap.size, 4, none⟩ (.slice (some ⟨g1, 0, none⟩) n c1))) := (B4.out.trans (b5.mono B4.out.size)).setCell (p := ⟨w3.heap.size, 4, none⟩) (Nat.le_refl _) _
  have X5 : Hid (RqB (w5.setCell ⟨w3.heap.size, 4, none⟩ (.slice (some ⟨g1, 0, none⟩) n c1)) w3.heap.size ⟨pm, ps, pa, pp, (some ⟨g1, 0, none⟩, n, c1), pb⟩ ∧ RqB (w5.setCell ⟨w3.heap.size, 4, none⟩ (.slice (some ⟨g1, 0, none⟩) n c1)) (w3.heap.size + 1) ⟨qm, qs, qa, qp, (qyb, k, qyc), qb⟩) := ⟨x5.setY (some ⟨g1, 0, none⟩, n, c1), (setCell_other _ _ _ _ _ (by omega)).trans y5⟩
  have R5 : Hid (R EFd (w5.setCell ⟨w3.heap.size, 4, none⟩ (.slice (some ⟨g1, 0, none⟩) n c1)) (.slice (some ⟨g1, 0, none⟩) (n + 1) c1) (P ++ [mkF])) := R.stays r5 fun b hb _ => setCell_other _ _ _ _ _ (fun e => row_ne_box r5 x5 (by rw [own_some] at hb; injection hb with hb; rw [hb, e]))
  have O1 : Hid (w3.heap.size ≤ g1 ∧ n + 1 ≤ c1 ∧ c1 ≤ 9223372036854775807) := ⟨Nat.le_trans B4.out.size o5, l5, m5⟩
  simp only [rqv, sv, List.getElem?_toArray, List.getElem?_cons_succ, List.getElem?_cons_zero] at xc
  clear b5 o5 l5 m5 r5 x5 y5 p4 p6 X4
  go_upto_region 6 with fail
  obtain ⟨v5, hv5⟩ : ∃ x, w5.setCell ⟨w3.heap.size, 4, none⟩ (.slice (some ⟨g1, 0, none⟩) n c1) = x := ⟨_, rfl⟩
  rw [hv5] at B5 X5 R5 ⊢
  clear hv5 xl xc xf B4
  obtain ⟨_, _, _, _, p4, _, p6⟩ := (HBP.out _ B5.out).2.cells
  go_wp2_with fail
  go_at_call 14
  refine (lend_any (qyb, k, qyc) Q v5 (HI.out _ (H2.out _ B5.out)).2.1 HZS.out.2.1).mono ?_
  rintro e w6 ⟨g2, c2, rfl, b6, o6, l6, m6, r6⟩
  rw [← EN.out.2.1] at l6 r6 ⊢
  have x6 := X5.out.1.below b6
  have y6 := X5.out.2.below b6
  have xl := heap_lt y6
  have xc := cell_blk y6 4
  have xf := frozen_blk y6 4
  have q6 := R.below R5.out b6
  have B6 : Hid (Below w3.heap.size w3 (w6.setCell ⟨w3.heap.size + 1, 4, none⟩ (.slice (some ⟨g2, 0, none⟩) k c2))) := (B5.out.trans (b6.mono B5.out.size)).setCell (p := ⟨w3.heap.size + 1, 4, none⟩) (Nat.le_succ _) _
  have X6 : Hid (RqB (w6.setCell ⟨w3.heap.size + 1, 4, none⟩ (.slice (some ⟨g2, 0, none⟩) k c2)) w3.heap.size ⟨pm, ps, pa, pp, (some ⟨g1, 0, none⟩, n, c1), pb⟩ ∧ RqB (w6.setCell ⟨w3.heap.size + 1, 4, none⟩ (.slice (some ⟨g2, 0, none⟩) k c2)) (w3.heap.size + 1) ⟨qm, qs, qa, qp, (some ⟨g2, 0, none⟩, k, c2), qb⟩) := ⟨(setCell_other _ _ _ _ _ (by omega)).trans x6, y6.setY (some ⟨g2, 0, none⟩, k, c2)⟩
  have R6 : Hid (R EFd (w6.setCell ⟨w3.heap.size + 1, 4, none⟩ (.slice (some ⟨g2, 0, none⟩) k c2)) (.slice (some ⟨g1, 0, none⟩) (n + 1) c1) (P ++ [mkF]) ∧ R EFd (w6.setCell ⟨w3.heap.size + 1, 4, none⟩ (.slice (some ⟨g2, 0, none⟩) k c2)) (.slice (some ⟨g2, 0, none⟩) (k + 1) c2) (Q ++ [mkF])) :=
    ⟨R.stays q6 fun b hb _ => setCell_other _ _ _ _ _ (fun e => row_ne_box q6 y6 (by rw [own_some] at hb; injection hb with hb; rw [hb, e])), R.stays r6 fun b hb _ => setCell_other _ _ _ _ _ (fun e => row_ne_box r6 y6 (by rw [own_some] at hb; injection hb with hb; rw [hb, e]))⟩
  have O2 : Hid (g1 ≠ g2 ∧ k + 1 ≤ c2 ∧ c2 ≤ 9223372036854775807) := ⟨fun e => by have := R.lt R5.out g1 rfl; omega, l6, m6⟩
  simp only [rqv, sv, List.getElem?_toArray, List.getElem?_cons_succ, List.getElem?_cons_zero] at xc
  clear b6 o6 l6 m6 r6 x6 y6 q6 p4 p6 X5 R5 B5
  go_upto_region 8 with fail
  obtain ⟨v6, hv6⟩ : ∃ x, w6.setCell ⟨w3.heap.size + 1, 4, none⟩ (.slice (some ⟨g2, 0, none⟩) k c2) = x := ⟨_, rfl⟩
  rw [hv6] at B6 X6 R6 ⊢
  clear hv6 xl xc xf
  obtain ⟨ab, ac, w7, a1, a2, a3⟩ := app okS v6 (.slice none 0 0) [] (R.nil _ _) _ _ (HI.out _ (H2.out _ B6.out)).2.2 (by have := HZS.out.2.2; simp only [ES, List.length_nil]; omega)
  simp only [List.length_nil, Nat.zero_add, List.nil_append] at a1 a2 a3
  have bm := bel1 w7 (.cells #[.string mkS] 9)
  obtain ⟨bb, c3, w8, h1, h2, h3⟩ := app okS (w7.alloc (.cells #[.string mkS] 9)) _ _ (R.below a2 bm) (.slice (some ⟨w7.heap.size, 0, none⟩) 1 1) [mkS] (in_one (x := mkS) _ _ #[.string mkS] 9 (0, 0) (by rw [heap_al, if_pos rfl]) rfl) (by have := HZS.out.2.2; simp only [ES, List.length_singleton]; omega)
  simp only [List.length_singleton] at h1 h2 h3
  obtain ⟨g3, cap, e, d1, d2, rl, ro, _⟩ := R.setc okS h2 0 0 (by simp) (by decide)
  have b68 : Below v6.heap.size v6 w8 := a3.fresh.trans (Below.trans (bm.mono a3.fresh.size) (h3.belowB (Nat.le_trans a3.fresh.size bm.size) fun j hj => a3.new j hj))
  have hg3 : v6.heap.size ≤ g3 := by
    rcases h3.own g3 ro with e | e
    · exact a3.new g3 e
    · exact Nat.le_trans (Nat.le_trans a3.fresh.size bm.size) e
  injection e with e1 e2 e3
  subst e1 e3
  rw [← EN.out.2.2] at a1 h1 h2
  simp only [List.length_append, List.length_singleton, ← EN.out.2.2] at d1
  have V8 : Hid (Vm w3 g1 n c1 g2 k c2 g3 m c3 ⟨pm, ps, pa, pp, (some ⟨g1, 0, none⟩, n, c1), pb⟩ ⟨qm, qs, qa, qp, (some ⟨g2, 0, none⟩, k, c2), qb⟩ (P) (Q) (l) w8) := ⟨X6.out.1.below b68, X6.out.2.below b68, R.below R6.out.1 b68, R.below R6.out.2 b68, h2, B6.out.trans (b68.mono B6.out.size), O1.out.1, Nat.le_trans B6.out.size hg3, O2.out.1⟩
  have i1 : (m : Int) ≤ (c3 : Int) := by omega
  have i0 : m ≤ c3 := by omega
  have i2 : (m : Int) + 1 ≤ (c3 : Int) := by omega
  have i3 : c3 ≤ 9223372036854775807 := d2
  replace a1 : Hid _ := a1
  replace h1 : Hid _ := h1
  simp only [ES, mkS] at a1 h1
  clear a2 a3 bm h2 h3 d1 d2 rl ro b68 hg3 e2 X6 R6 B6
  go_upto_region 9 with (at_builtin; refine Lib.wpList_append_run _ rfl _ _ _ _ rfl _ _ rfl rfl _ _ a1.out ?_)
  clear a1
  go_upto_region 11 with (at_builtin; refine Lib.wpList_append_run _ rfl _ _ _ _ rfl _ _ rfl rfl _ _ h1.out ?_)
  clear h1
  have V9 := V8
  obtain ⟨w9, hw9⟩ : ∃ x, w8 = x := ⟨_, rfl⟩
  rw [hw9] at V9 ⊢
  clear V8 hw9
  have D9 : Hid (Below w2.heap.size w2 w9) := H2.out _ V9.out.bel
  have HZ : Hid (P.length * 40 ≤ 140737488355328 ∧ Q.length * 40 ≤ 140737488355328) := by have := HZS.out; exact ⟨by omega, by omega⟩
  go_cut [53] from 12 (fun x wx => x = .bool false ∧ Hid (Below w9.heap.size w9 wx))
  case first =>
    have HC : Hid (∀ W, Below w9.heap.size w9 W → (fun W => W.cell? ⟨w3.heap.size, 0, none⟩ = some (.string pm) ∧ W.cell? ⟨w3.heap.size, 1, none⟩ = some (.string ps) ∧ W.cell? ⟨w3.heap.size, 2, none⟩ = some (.string pa) ∧ W.cell? ⟨w3.heap.size, 3, none⟩ = some (.string pp) ∧ W.cell? ⟨w3.heap.size, 4, none⟩ = some (.slice (some ⟨g1, 0, none⟩) n c1) ∧ W.cell? ⟨w3.heap.size, 5, none⟩ = some (.string pb) ∧ W.cell? ⟨w3.heap.size + 1, 0, none⟩ = some (.string qm) ∧ W.cell? ⟨w3.heap.size + 1, 1, none⟩ = some (.string qs) ∧ W.cell? ⟨w3.heap.size + 1, 2, none⟩ = some (.string qa) ∧ W.cell? ⟨w3.heap.size + 1, 3, none⟩ = some (.string qp) ∧ W.cell? ⟨w3.heap.size + 1, 4, none⟩ = some (.slice (some ⟨g2, 0, none⟩) k c2) ∧ W.cell? ⟨w3.heap.size + 1, 5, none⟩ = some (.string qb) ∧ W.cell? ⟨w.heap.size, 0, none⟩ = some (.string pm) ∧ W.cell? ⟨w.heap.size, 1, none⟩ = some (.string ps) ∧ W.cell? ⟨w.heap.size, 2, none⟩ = some (.string pa) ∧ W.cell? ⟨w.heap.size, 3, none⟩ = some (.string pp) ∧ W.cell? ⟨w.heap.size, 4, none⟩ = some (.slice pyb n pyc) ∧ W.cell? ⟨w.heap.size, 5, none⟩ = some (.string pb) ∧ W.cell? ⟨w.heap.size + 1, 0, none⟩ = some (.string qm) ∧ W.cell? ⟨w.heap.size + 1, 1, none⟩ = some (.string qs) ∧ W.cell? ⟨w.heap.size + 1, 2, none⟩ = some (.string qa) ∧ W.cell? ⟨w.heap.size + 1, 3, none⟩ = some (.string qp) ∧ W.cell? ⟨w.heap.size + 1, 4, none⟩ = some (.slice qyb k qyc) ∧ W.cell? ⟨w.heap.size + 1, 5, none⟩ = some (.string qb)) W) := fun W hb => by
      have hv := V9.out.below hb
      obtain ⟨h1, h2⟩ := HBP.out _ hv.bel
      obtain ⟨x0, x1, x2, x3, x4, x5, _⟩ := hv.bx.cells
      obtain ⟨y0, y1, y2, y3, y4, y5, _⟩ := hv.bY.cells
      obtain ⟨u0, u1, u2, u3, u4, u5, _⟩ := h1.cells
      obtain ⟨v0, v1, v2, v3, v4, v5, _⟩ := h2.cells
      exact ⟨x0, x1, x2, x3, x4, x5, y0, y1, y2, y3, y4, y5, u0, u1, u2, u3, u4, u5, v0, v1, v2, v3, v4, v5⟩
    have IX : Hid (∀ W, Below w9.heap.size w9 W → In EFd W (.slice (some ⟨g1, 0, none⟩) n c1) P) := fun W hb => (R.isIn (V9.out.below hb).rx).ahead EN.out.1.symm
    have IY : Hid (∀ W, Below w9.heap.size w9 W → In EFd W (.slice (some ⟨g2, 0, none⟩) k c2) Q) := fun W hb => (R.isIn (V9.out.below hb).ry).ahead EN.out.2.1.symm
    have IL : Hid (∀ W, Below w9.heap.size w9 W → In ES W (.slice (some ⟨g3, 0, none⟩) m c3) l) := fun W hb => (R.isIn (V9.out.below hb).rl).ahead EN.out.2.2.symm
    have IP : Hid (∀ W, Below w9.heap.size w9 W → In EFd W (.slice pyb n pyc) P) := fun W hb => (HI.out W (D9.out.trans (hb.mono D9.out.size))).1
    have IQ : Hid (∀ W, Below w9.heap.size w9 W → In EFd W (.slice qyb k qyc) Q) := fun W hb => (HI.out W (D9.out.trans (hb.mono D9.out.size))).2.1
    have IN_ : Hid (∀ W, Below w9.heap.size w9 W → In ES W (.slice tb m tc) l) := fun W hb => (HI.out W (D9.out.trans (hb.mono D9.out.size))).2.2
    obtain ⟨X, hX⟩ : ∃ b, mtB ⟨pm, ps, pa, pp, (pyb, n, pyc), pb⟩ ⟨qm, qs, qa, qp, (qyb, k, qyc), qb⟩ P Q l = b := ⟨_, rfl⟩
    have HM : Hid (mtB ⟨pm, ps, pa, pp, (pyb, n, pyc), pb⟩ ⟨qm, qs, qa, qp, (qyb, k, qyc), qb⟩ P Q l = X) := hX
    clear hX
    as_aux_lemma =>
      have hIW : Below w9.heap.size w9 (w9.drew) := (Below.refl _ _).drew
      refine wp_region_held_drew (S := (fun W => W.cell? ⟨w3.heap.size, 0, none⟩ = some (.string pm) ∧ W.cell? ⟨w3.heap.size, 1, none⟩ = some (.string ps) ∧ W.cell? ⟨w3.heap.size, 2, none⟩ = some (.string pa) ∧ W.cell? ⟨w3.heap.size, 3, none⟩ = some (.string pp) ∧ W.cell? ⟨w3.heap.size, 4, none⟩ = some (.slice (some ⟨g1, 0, none⟩) n c1) ∧ W.cell? ⟨w3.heap.size, 5, none⟩ = some (.string pb) ∧ W.cell? ⟨w3.heap.size + 1, 0, none⟩ = some (.string qm) ∧ W.cell? ⟨w3.heap.size + 1, 1, none⟩ = some (.string qs) ∧ W.cell? ⟨w3.heap.size + 1, 2, none⟩ = some (.string qa) ∧ W.cell? ⟨w3.heap.size + 1, 3, none⟩ = some (.string qp) ∧ W.cell? ⟨w3.heap.size + 1, 4, none⟩ = some (.slice (some ⟨g2, 0, none⟩) k c2) ∧ W.cell? ⟨w3.heap.size + 1, 5, none⟩ = some (.string qb) ∧ W.cell? ⟨w.heap.size, 0, none⟩ = some (.string pm) ∧ W.cell? ⟨w.heap.size, 1, none⟩ = some (.string ps) ∧ W.cell? ⟨w.heap.size, 2, none⟩ = some (.string pa) ∧ W.cell? ⟨w.heap.size, 3, none⟩ = some (.string pp) ∧ W.cell? ⟨w.heap.size, 4, none⟩ = some (.slice pyb n pyc) ∧ W.cell? ⟨w.heap.size, 5, none⟩ = some (.string pb) ∧ W.cell? ⟨w.heap.size + 1, 0, none⟩ = some (.string qm) ∧ W.cell? ⟨w.heap.size + 1, 1, none⟩ = some (.string qs) ∧ W.cell? ⟨w.heap.size + 1, 2, none⟩ = some (.string qa) ∧ W.cell? ⟨w.heap.size + 1, 3, none⟩ = some (.string qp) ∧ W.cell? ⟨w.heap.size + 1, 4, none⟩ = some (.slice qyb k qyc) ∧ W.cell? ⟨w.heap.size + 1, 5, none⟩ = some (.string qb))) (by kernel_rfl) (HC.out _ hIW) (fun hHeld => ?_)
      generalize hWg : World.drew _ = W at hIW hHeld ⊢
      clear hWg
      refine wpAnyH_take (i := 0) (oi := { dst := some 34, op := Op.load 24 (Operand.tmp 7), type := 24, pos := "law.go:89", after := #[], guard := none }) (v := ?vv1) rfl (by kernel_rfl) (by kernel_rfl) (by kernel_rfl) (fun _ _ _ h => h) (Or.inl ⟨by rfl, ?hy1⟩) (by assumption) ?_
      case hy1 => (intro w hSw; (try dsimp only at hSw); go_simp; all_goals with_reducible rfl)
      try simp only [Act.put, List.setIfInBounds_toArray, List.set_cons_zero, List.set_cons_succ]
      refine wpAnyH_take (i := 1) (oi := { dst := some 35, op := Op.load 24 (Operand.tmp 8), type := 24, pos := "law.go:89", after := #[], guard := none }) (v := ?vv2) rfl (by kernel_rfl) (by kernel_rfl) (by kernel_rfl) (fun _ _ _ h => h) (Or.inl ⟨by rfl, ?hy2⟩) (by assumption) ?_
      case hy2 => (intro w hSw; (try dsimp only at hSw); go_simp; all_goals with_reducible rfl)
      try simp only [Act.put, List.setIfInBounds_toArray, List.set_cons_zero, List.set_cons_succ]
      refine wpAnyH_take (i := 2) (oi := { dst := some 36, op := Op.move (Operand.tmp 9), type := 25, pos := "law.go:89", after := #[], guard := none }) (v := ?vv3) rfl (by kernel_rfl) (by kernel_rfl) (by kernel_rfl) (fun _ _ _ h => h) (Or.inl ⟨by rfl, ?hy3⟩) (by assumption) ?_
      case hy3 => (intro w hSw; (try dsimp only at hSw); go_simp; all_goals with_reducible rfl)
      try simp only [Act.put, List.setIfInBounds_toArray, List.set_cons_zero, List.set_cons_succ]
      refine wpAnyH_take (i := 4) (oi := { dst := some 38, op := Op.load 24 (Operand.tmp 3), type := 24, pos := "law.go:89", after := #[], guard := none }) (v := ?vv4) rfl (by kernel_rfl) (by kernel_rfl) (by kernel_rfl) (fun _ _ _ h => h) (Or.inl ⟨by rfl, ?hy4⟩) (by assumption) ?_
      case hy4 => (intro w hSw; (try dsimp only at hSw); go_simp; all_goals with_reducible rfl)
      try simp only [Act.put, List.setIfInBounds_toArray, List.set_cons_zero, List.set_cons_succ]
      refine wpAnyH_take (i := 5) (oi := { dst := some 39, op := Op.load 24 (Operand.tmp 4), type := 24, pos := "law.go:89", after := #[], guard := none }) (v := ?vv5) rfl (by kernel_rfl) (by kernel_rfl) (by kernel_rfl) (fun _ _ _ h => h) (Or.inl ⟨by rfl, ?hy5⟩) (by assumption) ?_
      case hy5 => (intro w hSw; (try dsimp only at hSw); go_simp; all_goals with_reducible rfl)
      try simp only [Act.put, List.setIfInBounds_toArray, List.set_cons_zero, List.set_cons_succ]
      refine wpAnyH_take (i := 6) (oi := { dst := some 40, op := Op.move (Operand.tmp 2), type := 25, pos := "law.go:89", after := #[], guard := none }) (v := ?vv6) rfl (by kernel_rfl) (by kernel_rfl) (by kernel_rfl) (fun _ _ _ h => h) (Or.inl ⟨by rfl, ?hy6⟩) (by assumption) ?_
      case hy6 => (intro w hSw; (try dsimp only at hSw); go_simp; all_goals with_reducible rfl)
      try simp only [Act.put, List.setIfInBounds_toArray, List.set_cons_zero, List.set_cons_succ]
      refine wpAnyH_ready (rs := [3]) (by kernel_rfl) (by simp) ?_
      refine AllReadyH.cons (o := { dst := some 37, op := Op.call { callee := Callee.value (Operand.func 9), args := #[Operand.tmp 34, Operand.tmp 35, Operand.tmp 36], argTypes := #[24, 24, 25] }, type := 4, pos := "law.go:89", after := #[{ on := 0, ground := Ground.data }, { on := 1, ground := Ground.data }, { on := 2, ground := Ground.data }], guard := none }) rfl (fun K hK => ?_) AllReadyH.nil
      go_simp
      refine (match_any ⟨pm, ps, pa, pp, (some ⟨g1, 0, none⟩, n, c1), pb⟩ ⟨qm, qs, qa, qp, (some ⟨g2, 0, none⟩, k, c2), qb⟩ ((some ⟨g3, 0, none⟩, m, c3)) (P) (Q) (l) _ (IX.out _ hIW) (IY.out _ hIW) (IL.out _ hIW) HZ.out.1 HZ.out.2).mono ?_
      rintro e' Wx ⟨rfl, bX⟩
      rw [show mtB ⟨pm, ps, pa, pp, (some ⟨g1, 0, none⟩, n, c1), pb⟩ ⟨qm, qs, qa, qp, (some ⟨g2, 0, none⟩, k, c2), qb⟩ (P) (Q) (l) = X from HM.out]
      have hIWx : Below w9.heap.size w9 Wx := hIW.trans (bX.mono hIW.size)
      go_wp2_with fail
      refine hK.out _ _ (HC.out _ hIWx) (fun hHeld => ?_)
      clear hK K bX hIW
      try simp only [Act.put, List.setIfInBounds_toArray, List.set_cons_zero, List.set_cons_succ]
      refine wpAnyH_ready (rs := [7]) (by kernel_rfl) (by simp) ?_
      refine AllReadyH.cons (o := { dst := some 41, op := Op.call { callee := Callee.value (Operand.func 15), args := #[Operand.tmp 38, Operand.tmp 39, Operand.tmp 40], argTypes := #[24, 24, 25] }, type := 4, pos := "law.go:89", after := #[{ on := 4, ground := Ground.data }, { on := 5, ground := Ground.data }, { on := 6, ground := Ground.data }, { on := 3, ground := Ground.chain }], guard := none }) rfl (fun K hK => ?_) AllReadyH.nil
      go_simp
      refine (rmatch_any ⟨pm, ps, pa, pp, (pyb, n, pyc), pb⟩ ⟨qm, qs, qa, qp, (qyb, k, qyc), qb⟩ ((tb, m, tc)) (P) (Q) (l) _ (IP.out _ hIWx) (IQ.out _ hIWx) (IN_.out _ hIWx) HZ.out.1 HZ.out.2).mono ?_
      rintro e' Wxx ⟨rfl, bX⟩
      rw [show mtB ⟨pm, ps, pa, pp, (pyb, n, pyc), pb⟩ ⟨qm, qs, qa, qp, (qyb, k, qyc), qb⟩ (P) (Q) (l) = X from HM.out]
      have hIWxx : Below w9.heap.size w9 Wxx := hIWx.trans (bX.mono hIWx.size)
      go_wp2_with fail
      refine hK.out _ _ (HC.out _ hIWxx) (fun hHeld => ?_)
      clear hK K bX hIWx
      try simp only [Act.put, List.setIfInBounds_toArray, List.set_cons_zero, List.set_cons_succ]
      refine wpAnyH_take (i := 8) (oi := { dst := some 42, op := Op.binOp BinOp.neq 4 (Operand.tmp 37) (Operand.tmp 41) 4, type := 4, pos := "law.go:89", after := #[{ on := 3, ground := Ground.data }, { on := 7, ground := Ground.data }], guard := none }) (v := ?vv7) rfl (by kernel_rfl) (by kernel_rfl) (by kernel_rfl) (fun _ _ _ h => h) (Or.inl ⟨by rfl, ?hy7⟩) (by assumption) ?_
      case hy7 => (intro w hSw; (try dsimp only at hSw); go_simp; all_goals with_reducible rfl)
      try simp only [Act.put, List.setIfInBounds_toArray, List.set_cons_zero, List.set_cons_succ]
      refine wpAnyH_take (i := 9) (oi := { dst := some 43, op := Op.move (Operand.tmp 42), type := 4, pos := "law.go:89", after := #[{ on := 8, ground := Ground.data }, { on := 7, ground := Ground.chain }], guard := none }) (v := ?vv8) rfl (by kernel_rfl) (by kernel_rfl) (by kernel_rfl) (fun _ _ _ h => h) (Or.inl ⟨by rfl, ?hy8⟩) (by assumption) ?_
      case hy8 => (intro w hSw; (try dsimp only at hSw); go_simp; all_goals with_reducible rfl)
      try simp only [Act.put, List.setIfInBounds_toArray, List.set_cons_zero, List.set_cons_succ]
      refine wpAnyH_take (i := 10) (oi := { dst := some 44, op := Op.load 24 (Operand.tmp 7), type := 24, pos := "law.go:89", after := #[{ on := 9, ground := Ground.guard }], guard := some (9, false) }) (v := ?vv9) rfl (by kernel_rfl) (by kernel_rfl) (by kernel_rfl) (fun _ _ _ h => h) (Or.inl ⟨by rfl, ?hy9⟩) (by assumption) ?_
      case hy9 => (intro w hSw; (try dsimp only at hSw); go_simp; all_goals with_reducible rfl)
      try simp only [Act.put, List.setIfInBounds_toArray, List.set_cons_zero, List.set_cons_succ]
      refine wpAnyH_take (i := 11) (oi := { dst := some 45, op := Op.load 24 (Operand.tmp 8), type := 24, pos := "law.go:89", after := #[{ on := 9, ground := Ground.guard }], guard := some (9, false) }) (v := ?vv10) rfl (by kernel_rfl) (by kernel_rfl) (by kernel_rfl) (fun _ _ _ h => h) (Or.inl ⟨by rfl, ?hy10⟩) (by assumption) ?_
      case hy10 => (intro w hSw; (try dsimp only at hSw); go_simp; all_goals with_reducible rfl)
      try simp only [Act.put, List.setIfInBounds_toArray, List.set_cons_zero, List.set_cons_succ]
      refine wpAnyH_take (i := 12) (oi := { dst := some 46, op := Op.move (Operand.tmp 9), type := 25, pos := "law.go:89", after := #[{ on := 9, ground := Ground.guard }], guard := some (9, false) }) (v := ?vv11) rfl (by kernel_rfl) (by kernel_rfl) (by kernel_rfl) (fun _ _ _ h => h) (Or.inl ⟨by rfl, ?hy11⟩) (by assumption) ?_
      case hy11 => (intro w hSw; (try dsimp only at hSw); go_simp; all_goals with_reducible rfl)
      try simp only [Act.put, List.setIfInBounds_toArray, List.set_cons_zero, List.set_cons_succ]
      refine wpAnyH_take (i := 14) (oi := { dst := some 48, op := Op.load 24 (Operand.tmp 3), type := 24, pos := "law.go:89", after := #[{ on := 9, ground := Ground.guard }], guard := some (9, false) }) (v := ?vv12) rfl (by kernel_rfl) (by kernel_rfl) (by kernel_rfl) (fun _ _ _ h => h) (Or.inl ⟨by rfl, ?hy12⟩) (by assumption) ?_
      case hy12 => (intro w hSw; (try dsimp only at hSw); go_simp; all_goals with_reducible rfl)
      try simp only [Act.put, List.setIfInBounds_toArray, List.set_cons_zero, List.set_cons_succ]
      refine wpAnyH_take (i := 15) (oi := { dst := some 49, op := Op.load 24 (Operand.tmp 4), type := 24, pos := "law.go:89", after := #[{ on := 9, ground := Ground.guard }], guard := some (9, false) }) (v := ?vv13) rfl (by kernel_rfl) (by kernel_rfl) (by kernel_rfl) (fun _ _ _ h => h) (Or.inl ⟨by rfl, ?hy13⟩) (by assumption) ?_
      case hy13 => (intro w hSw; (try dsimp only at hSw); go_simp; all_goals with_reducible rfl)
      try simp only [Act.put, List.setIfInBounds_toArray, List.set_cons_zero, List.set_cons_succ]
      refine wpAnyH_take (i := 16) (oi := { dst := some 50, op := Op.move (Operand.tmp 2), type := 25, pos := "law.go:89", after := #[{ on := 9, ground := Ground.guard }], guard := some (9, false) }) (v := ?vv14) rfl (by kernel_rfl) (by kernel_rfl) (by kernel_rfl) (fun _ _ _ h => h) (Or.inl ⟨by rfl, ?hy14⟩) (by assumption) ?_
      case hy14 => (intro w hSw; (try dsimp only at hSw); go_simp; all_goals with_reducible rfl)
      try simp only [Act.put, List.setIfInBounds_toArray, List.set_cons_zero, List.set_cons_succ]
      refine wpAnyH_ready (rs := [13]) (by kernel_rfl) (by simp) ?_
      refine AllReadyH.cons (o := { dst := some 47, op := Op.call { callee := Callee.value (Operand.func 9), args := #[Operand.tmp 44, Operand.tmp 45, Operand.tmp 46], argTypes := #[24, 24, 25] }, type := 4, pos := "law.go:89", after := #[{ on := 10, ground := Ground.data }, { on := 11, ground := Ground.data }, { on := 12, ground := Ground.data }, { on := 9, ground := Ground.chain }, { on := 9, ground := Ground.guard }], guard := some (9, false) }) rfl (fun K hK => ?_) AllReadyH.nil
      go_simp
      refine (match_any ⟨pm, ps, pa, pp, (some ⟨g1, 0, none⟩, n, c1), pb⟩ ⟨qm, qs, qa, qp, (some ⟨g2, 0, none⟩, k, c2), qb⟩ ((some ⟨g3, 0, none⟩, m, c3)) (P) (Q) (l) _ (IX.out _ hIWxx) (IY.out _ hIWxx) (IL.out _ hIWxx) HZ.out.1 HZ.out.2).mono ?_
      rintro e' Wxxx ⟨rfl, bX⟩
      rw [show mtB ⟨pm, ps, pa, pp, (some ⟨g1, 0, none⟩, n, c1), pb⟩ ⟨qm, qs, qa, qp, (some ⟨g2, 0, none⟩, k, c2), qb⟩ (P) (Q) (l) = X from HM.out]
      have hIWxxx : Below w9.heap.size w9 Wxxx := hIWxx.trans (bX.mono hIWxx.size)
      go_wp2_with fail
      refine hK.out _ _ (HC.out _ hIWxxx) (fun hHeld => ?_)
      clear hK K bX hIWxx
      try simp only [Act.put, List.setIfInBounds_toArray, List.set_cons_zero, List.set_cons_succ]
      refine wpAnyH_ready (rs := [17]) (by kernel_rfl) (by simp) ?_
      refine AllReadyH.cons (o := { dst := some 51, op := Op.call { callee := Callee.value (Operand.func 15), args := #[Operand.tmp 48, Operand.tmp 49, Operand.tmp 50], argTypes := #[24, 24, 25] }, type := 4, pos := "law.go:89", after := #[{ on := 14, ground := Ground.data }, { on := 15, ground := Ground.data }, { on := 16, ground := Ground.data }, { on := 13, ground := Ground.chain }, { on := 9, ground := Ground.guard }], guard := some (9, false) }) rfl (fun K hK => ?_) AllReadyH.nil
      go_simp
      refine (rmatch_any ⟨pm, ps, pa, pp, (pyb, n, pyc), pb⟩ ⟨qm, qs, qa, qp, (qyb, k, qyc), qb⟩ ((tb, m, tc)) (P) (Q) (l) _ (IP.out _ hIWxxx) (IQ.out _ hIWxxx) (IN_.out _ hIWxxx) HZ.out.1 HZ.out.2).mono ?_
      rintro e' Wxxxx ⟨rfl, bX⟩
      rw [show mtB ⟨pm, ps, pa, pp, (pyb, n, pyc), pb⟩ ⟨qm, qs, qa, qp, (qyb, k, qyc), qb⟩ (P) (Q) (l) = X from HM.out]
      have hIWxxxx : Below w9.heap.size w9 Wxxxx := hIWxxx.trans (bX.mono hIWxxx.size)
      go_wp2_with fail
      refine hK.out _ _ (HC.out _ hIWxxxx) (fun hHeld => ?_)
      clear hK K bX hIWxxx
      try simp only [Act.put, List.setIfInBounds_toArray, List.set_cons_zero, List.set_cons_succ]
      refine wpAnyH_take (i := 18) (oi := { dst := some 52, op := Op.binOp BinOp.neq 4 (Operand.tmp 47) (Operand.tmp 51) 4, type := 4, pos := "law.go:89", after := #[{ on := 13, ground := Ground.data }, { on := 17, ground := Ground.data }, { on := 9, ground := Ground.guard }], guard := some (9, false) }) (v := ?vv15) rfl (by kernel_rfl) (by kernel_rfl) (by kernel_rfl) (fun _ _ _ h => h) (Or.inl ⟨by rfl, ?hy15⟩) (by assumption) ?_
      case hy15 => (intro w hSw; (try dsimp only at hSw); go_simp; all_goals with_reducible rfl)
      try simp only [Act.put, List.setIfInBounds_toArray, List.set_cons_zero, List.set_cons_succ]
      refine wpAnyH_take (i := 19) (oi := { dst := some 53, op := Op.pick (Operand.tmp 43) (Operand.const (Value.bool true)) (Operand.tmp 52), type := 4, pos := "law.go:89", after := #[{ on := 9, ground := Ground.data }, { on := 18, ground := Ground.data }], guard := none }) (v := ?vv16) rfl (by kernel_rfl) (by kernel_rfl) (by kernel_rfl) (fun _ _ _ h => h) (Or.inl ⟨by rfl, ?hy16⟩) (by assumption) ?_
      case hy16 => (intro w hSw; (try dsimp only at hSw); go_simp; all_goals with_reducible rfl)
      try simp only [Act.put, List.setIfInBounds_toArray, List.set_cons_zero, List.set_cons_succ]
      refine wpAnyH_done (by kernel_rfl) ?_ _
      go_wp2_with fail
      go_meet
      exact ⟨by first | rfl | simp, hIWxxxx⟩
  obtain ⟨hx, hD⟩ := hcut
  subst hx
  obtain ⟨w10, hw10⟩ : ∃ x, wc = x := ⟨_, rfl⟩
  rw [hw10] at hD ⊢
  clear hw10
  have VX := V9.out.below hD.out
  have V10 : Hid (Vm w3 g1 n c1 g2 k c2 g3 m c3 ⟨pm, ps, pa, pp, (some ⟨g1, 0, none⟩, n, c1), pb⟩ ⟨qm, qs, qa, qp, (some ⟨g2, 0, none⟩, k, c2), qb⟩ (P) (Q) (l) w10) := VX
  clear hD V9 D9 VX
  have hk1 : Hid (Calls Tryd.prog 16 #[.slice (some ⟨g1, 0, none⟩) n c1, .slice pyb n pyc] w10 fun e w' => e = .returned (.bool true) ∧ Below w10.heap.size w10 w') := by
    have h := kept_any g1 c1 (pyb, n, pyc) P w10 (by rw [← EN.out.1]; exact R.isIn V10.out.rx) (HI.out _ (H2.out _ V10.out.bel)).1 (by rw [← EN.out.1]; exact O1.out.2.1) O1.out.2.2
    rw [← EN.out.1] at h
    exact h
  obtain ⟨_, _, _, _, x4, _, xl⟩ := V10.out.bx.cells
  obtain ⟨_, _, _, _, p4, _, pl⟩ := (HBP.out _ V10.out.bel).1.cells
  go_wp2_with fail
  go_at_call 16
  refine Calls.mono hk1.out ?_
  rintro e w11 ⟨rfl, bX⟩
  have V11 := V10.out.below bX
  clear hk1 V10 bX x4 xl p4 pl
  have hk1 : Hid (Calls Tryd.prog 16 #[.slice (some ⟨g2, 0, none⟩) k c2, .slice qyb k qyc] w11 fun e w' => e = .returned (.bool true) ∧ Below w11.heap.size w11 w') := by
    have h := kept_any g2 c2 (qyb, k, qyc) Q w11 (by rw [← EN.out.2.1]; exact R.isIn V11.ry) (HI.out _ (H2.out _ V11.bel)).2.1 (by rw [← EN.out.2.1]; exact O2.out.2.1) O2.out.2.2
    rw [← EN.out.2.1] at h
    exact h
  obtain ⟨_, _, _, _, x4, _, xl⟩ := V11.bY.cells
  obtain ⟨_, _, _, _, p4, _, pl⟩ := (HBP.out _ V11.bel).2.cells
  replace V11 : Hid _ := V11
  go_wp2_with fail
  go_at_call 16
  refine Calls.mono hk1.out ?_
  rintro e w12 ⟨rfl, bX⟩
  have V12 := V11.out.below bX
  replace V12 : Hid _ := V12
  clear hk1 V11 bX x4 xl p4 pl
  go_wp2_with fail
  go_at_call 13
  refine (lsame_any (some ⟨g3, 0, none⟩, m, c3) (tb, m, tc) l l _ ((R.isIn V12.out.rl).ahead EN.out.2.2.symm) (HI.out _ (H2.out _ V12.out.bel)).2.2).mono ?_
  rintro e w13 ⟨rfl, bX⟩
  rw [eqB_true (rfl : l = l)]
  have V13 : Hid (Vm w3 g1 n c1 g2 k c2 g3 m c3 ⟨pm, ps, pa, pp, (some ⟨g1, 0, none⟩, n, c1), pb⟩ ⟨qm, qs, qa, qp, (some ⟨g2, 0, none⟩, k, c2), qb⟩ (P) (Q) (l) w13) := V12.out.below bX
  clear V12 bX
  obtain ⟨B1, o1, c', e, c0⟩ := (R.isIn V13.out.rl).str m (by have := EN.out.2.2; simp; omega)
  injection e with e1 e2 e3
  injection e1 with e1
  injection e1 with e1 e4
  subst e1 e4
  clear e2 e3
  have xm := c0 w13 (Below.refl _ _)
  have hx : ∀ h, (l ++ [mkS])[m]'h = mkS := fun h => by
    have := EN.out.2.2
    rw [List.getElem_append_right (by omega)]
    simp
  rw [hx, Nat.zero_add] at xm
  simp only [mkS] at xm
  have i5 : (m : Int) < (m : Int) + 1 := by omega
  clear c0 hx
  go_wp2_with fail
  clear xm
  go_loopw [10] (fun iv wr => ∃ (i : Nat) (P1 : List Fd), iv = .int .i64 (i : Int) ∧ i ≤ n ∧ Hid (P1.length = n) ∧ Hid (∀ f ∈ P1, f.v.size ≤ 140737488355328 + i) ∧ Hid (Vm w3 g1 n c1 g2 k c2 g3 m c3 ⟨pm, ps, pa, pp, (some ⟨g1, 0, none⟩, n, c1), pb⟩ ⟨qm, qs, qa, qp, (some ⟨g2, 0, none⟩, k, c2), qb⟩ (P1) (Q) (l) wr)) (fun iv _ => n - (intOf iv).toNat)
  case atStart => exact ⟨0, P, rfl, by omega, EN.out.1.symm, fun f hf => by have := HZV.out f hf; omega, V13.out⟩
  case round =>
    obtain ⟨i, P1, rfl, hi, hlen, hsz, hs⟩ := hrel
    clear V13
    obtain ⟨_, _, _, _, x4, _, xl⟩ := hs.out.bx.cells
    have hc1 : n ≤ c1 := by have := O1.out; omega
    by_cases hlt : i < n
    · have hlt' : (i : Int) < (n : Int) := by omega
      have HC : Hid (∀ W, Below wr.heap.size wr W → (fun W => W.cell? ⟨w3.heap.size, 4, none⟩ = some (.slice (some ⟨g1, 0, none⟩) n c1)) W) := fun W hb => by
        obtain ⟨_, _, _, _, h, _⟩ := (hs.out.below hb).bx.cells
        exact h
      go_upto_region 18 with fail
      clear x4 xl
      have hIW : Below wr.heap.size wr (wr.drew) := (Below.refl _ _).drew
      refine wp_region_held_drew (S := (fun W => W.cell? ⟨w3.heap.size, 4, none⟩ = some (.slice (some ⟨g1, 0, none⟩) n c1))) (by kernel_rfl) (HC.out _ hIW) (fun hHeld => ?_)
      generalize hWg : World.drew _ = W at hIW hHeld ⊢
      clear hWg
      have hsW := hs.out.below hIW
      obtain ⟨d1, d2, d3, d4⟩ := hsW.value i (by rw [hlen.out]; exact hlt)
      obtain ⟨F, hF⟩ : ∃ x, P1[i]'(by rw [hlen.out]; exact hlt) = x := ⟨_, rfl⟩
      rw [hF] at d1 d4
      have hvs : F.v.size ≤ 140737488355328 + i := by rw [← hF]; exact hsz.out _ (List.getElem_mem _)
      have hvx : ¬ F.v.size + 1 > 9223372036854775807 := by omega
      obtain ⟨V1, hV1⟩ : ∃ x, F.v ++ ⟨#[49]⟩ = x := ⟨_, rfl⟩
      have hV2 : V1.size ≤ 140737488355328 + (i + 1) := by
        rw [← hV1, ByteArray.size_append]
        show F.v.size + 1 ≤ _
        omega
      have hnx : Hid (Vm w3 g1 n c1 g2 k c2 g3 m c3 ⟨pm, ps, pa, pp, (some ⟨g1, 0, none⟩, n, c1), pb⟩ ⟨qm, qs, qa, qp, (some ⟨g2, 0, none⟩, k, c2), qb⟩ (P1.set i ⟨F.n, V1, F.nv⟩) (Q) (l) (W.setCell ⟨g1, i * 3 + 1, none⟩ (.string V1))) := d4 V1
      have hsz2 : Hid (∀ f ∈ P1.set i ⟨F.n, V1, F.nv⟩, f.v.size ≤ 140737488355328 + (i + 1)) := fun f hf => by
        rcases List.mem_or_eq_of_mem_set hf with h | h
        · have := hsz.out f h
          omega
        · rw [h]
          exact hV2
      have hcW : Hid ((fun W => W.cell? ⟨w3.heap.size, 4, none⟩ = some (.slice (some ⟨g1, 0, none⟩) n c1)) W) := HC.out _ hIW
      have hcS : Hid ((fun W => W.cell? ⟨w3.heap.size, 4, none⟩ = some (.slice (some ⟨g1, 0, none⟩) n c1)) (W.setCell ⟨g1, i * 3 + 1, none⟩ (.string V1))) := by
        obtain ⟨_, _, _, _, h, _⟩ := hnx.out.bx.cells
        exact h
      clear hsW d4 hsz hV2 hvs hF hs
      generalize F.v = FV at d1 hvx hV1
      refine wpAnyH_take (i := 0) (oi := { dst := some 93, op := Op.fieldAddr 24 (Operand.tmp 7) 4, type := 0, pos := "law.go:96", after := #[], guard := none }) (v := ?vv25) rfl (by kernel_rfl) (by kernel_rfl) (by kernel_rfl) (fun _ _ _ h => h) (Or.inl ⟨by rfl, ?hy25⟩) (by assumption) ?_
      case hy25 => (intro w hSw; (try dsimp only at hSw); go_simp; all_goals with_reducible rfl)
      try simp only [Act.put, List.setIfInBounds_toArray, List.set_cons_zero, List.set_cons_succ]
      refine wpAnyH_take (i := 1) (oi := { dst := some 94, op := Op.load 22 (Operand.tmp 93), type := 22, pos := "law.go:96", after := #[{ on := 0, ground := Ground.data }], guard := none }) (v := ?vv26) rfl (by kernel_rfl) (by kernel_rfl) (by kernel_rfl) (fun _ _ _ h => h) (Or.inl ⟨by rfl, ?hy26⟩) (by assumption) ?_
      case hy26 => (intro w hSw; (try dsimp only at hSw); go_simp; all_goals with_reducible rfl)
      try simp only [Act.put, List.setIfInBounds_toArray, List.set_cons_zero, List.set_cons_succ]
      refine wpAnyH_take (i := 2) (oi := { dst := some 95, op := Op.move (Operand.tmp 10), type := 3, pos := "law.go:96", after := #[], guard := none }) (v := ?vv27) rfl (by kernel_rfl) (by kernel_rfl) (by kernel_rfl) (fun _ _ _ h => h) (Or.inl ⟨by rfl, ?hy27⟩) (by assumption) ?_
      case hy27 => (intro w hSw; (try dsimp only at hSw); go_simp; all_goals with_reducible rfl)
      try simp only [Act.put, List.setIfInBounds_toArray, List.set_cons_zero, List.set_cons_succ]
      refine wpAnyH_take (i := 3) (oi := { dst := some 96, op := Op.fieldAddr 24 (Operand.tmp 7) 4, type := 0, pos := "law.go:96", after := #[], guard := none }) (v := ?vv28) rfl (by kernel_rfl) (by kernel_rfl) (by kernel_rfl) (fun _ _ _ h => h) (Or.inl ⟨by rfl, ?hy28⟩) (by assumption) ?_
      case hy28 => (intro w hSw; (try dsimp only at hSw); go_simp; all_goals with_reducible rfl)
      try simp only [Act.put, List.setIfInBounds_toArray, List.set_cons_zero, List.set_cons_succ]
      refine wpAnyH_take (i := 4) (oi := { dst := some 97, op := Op.load 22 (Operand.tmp 96), type := 22, pos := "law.go:96", after := #[{ on := 3, ground := Ground.data }], guard := none }) (v := ?vv29) rfl (by kernel_rfl) (by kernel_rfl) (by kernel_rfl) (fun _ _ _ h => h) (Or.inl ⟨by rfl, ?hy29⟩) (by assumption) ?_
      case hy29 => (intro w hSw; (try dsimp only at hSw); go_simp; all_goals with_reducible rfl)
      try simp only [Act.put, List.setIfInBounds_toArray, List.set_cons_zero, List.set_cons_succ]
      refine wpAnyH_take (i := 5) (oi := { dst := some 98, op := Op.move (Operand.tmp 10), type := 3, pos := "law.go:96", after := #[], guard := none }) (v := ?vv30) rfl (by kernel_rfl) (by kernel_rfl) (by kernel_rfl) (fun _ _ _ h => h) (Or.inl ⟨by rfl, ?hy30⟩) (by assumption) ?_
      case hy30 => (intro w hSw; (try dsimp only at hSw); go_simp; all_goals with_reducible rfl)
      try simp only [Act.put, List.setIfInBounds_toArray, List.set_cons_zero, List.set_cons_succ]
      refine wpAnyH_take (i := 6) (oi := { dst := some 99, op := Op.indexAddr 22 (Operand.tmp 97) (Operand.tmp 98), type := 0, pos := "law.go:96", after := #[{ on := 4, ground := Ground.data }, { on := 5, ground := Ground.data }], guard := none }) (v := ?vv31) rfl (by kernel_rfl) (by kernel_rfl) (by kernel_rfl) (fun _ _ _ h => h) (Or.inl ⟨by rfl, ?hy31⟩) (by assumption) ?_
      case hy31 => (intro w hSw; (try dsimp only at hSw); go_simp; all_goals with_reducible rfl)
      try simp only [Act.put, List.setIfInBounds_toArray, List.set_cons_zero, List.set_cons_succ]
      refine wpAnyH_take (i := 7) (oi := { dst := some 100, op := Op.fieldAddr 30 (Operand.tmp 99) 1, type := 0, pos := "law.go:96", after := #[{ on := 6, ground := Ground.data }], guard := none }) (v := ?vv32) rfl (by kernel_rfl) (by kernel_rfl) (by kernel_rfl) (fun _ _ _ h => h) (Or.inl ⟨by rfl, ?hy32⟩) (by assumption) ?_
      case hy32 => (intro w hSw; (try dsimp only at hSw); go_simp; all_goals with_reducible rfl)
      try simp only [Act.put, List.setIfInBounds_toArray, List.set_cons_zero, List.set_cons_succ]
      refine wpAnyH_ready (rs := [8]) (by kernel_rfl) (by simp) ?_
      refine AllReadyH.cons (o := { dst := some 101, op := Op.load 9 (Operand.tmp 100), type := 9, pos := "law.go:96", after := #[{ on := 7, ground := Ground.data }], guard := none }) rfl (fun K hK => ?_) AllReadyH.nil
      go_simp
      go_wp2_with fail
      refine hK.out _ _ (hcW.out) (fun hHeld => ?_)
      clear hK K
      try simp only [Act.put, List.setIfInBounds_toArray, List.set_cons_zero, List.set_cons_succ]
      refine wpAnyH_take (i := 9) (oi := { dst := some 102, op := Op.binOp BinOp.add 9 (Operand.tmp 101) (Operand.const (Value.string { data := #[49] })) 9, type := 9, pos := "law.go:96", after := #[{ on := 8, ground := Ground.data }], guard := none }) (v := ?vv33) rfl (by kernel_rfl) (by kernel_rfl) (by kernel_rfl) (fun _ _ _ h => h) (Or.inl ⟨by rfl, ?hy33⟩) (by assumption) ?_
      case hy33 => (intro w hSw; (try dsimp only at hSw); go_simp; all_goals with_reducible rfl)
      try simp only [Act.put, List.setIfInBounds_toArray, List.set_cons_zero, List.set_cons_succ]
      refine wpAnyH_take (i := 10) (oi := { dst := some 103, op := Op.indexAddr 22 (Operand.tmp 94) (Operand.tmp 95), type := 0, pos := "law.go:96", after := #[{ on := 1, ground := Ground.data }, { on := 2, ground := Ground.data }, { on := 0, ground := Ground.phase }, { on := 1, ground := Ground.phase }, { on := 2, ground := Ground.phase }, { on := 3, ground := Ground.phase }, { on := 4, ground := Ground.phase }, { on := 5, ground := Ground.phase }, { on := 6, ground := Ground.phase }, { on := 7, ground := Ground.phase }, { on := 8, ground := Ground.phase }, { on := 9, ground := Ground.phase }], guard := none }) (v := ?vv34) rfl (by kernel_rfl) (by kernel_rfl) (by kernel_rfl) (fun _ _ _ h => h) (Or.inl ⟨by rfl, ?hy34⟩) (by assumption) ?_
      case hy34 => (intro w hSw; (try dsimp only at hSw); go_simp; all_goals with_reducible rfl)
      try simp only [Act.put, List.setIfInBounds_toArray, List.set_cons_zero, List.set_cons_succ]
      refine wpAnyH_take (i := 11) (oi := { dst := some 104, op := Op.fieldAddr 30 (Operand.tmp 103) 1, type := 0, pos := "law.go:96", after := #[{ on := 10, ground := Ground.data }, { on := 0, ground := Ground.phase }, { on := 1, ground := Ground.phase }, { on := 2, ground := Ground.phase }, { on := 3, ground := Ground.phase }, { on := 4, ground := Ground.phase }, { on := 5, ground := Ground.phase }, { on := 6, ground := Ground.phase }, { on := 7, ground := Ground.phase }, { on := 8, ground := Ground.phase }, { on := 9, ground := Ground.phase }], guard := none }) (v := ?vv35) rfl (by kernel_rfl) (by kernel_rfl) (by kernel_rfl) (fun _ _ _ h => h) (Or.inl ⟨by rfl, ?hy35⟩) (by assumption) ?_
      case hy35 => (intro w hSw; (try dsimp only at hSw); go_simp; all_goals with_reducible rfl)
      try simp only [Act.put, List.setIfInBounds_toArray, List.set_cons_zero, List.set_cons_succ]
      refine wpAnyH_ready (rs := [12]) (by kernel_rfl) (by simp) ?_
      refine AllReadyH.cons (o := { dst := none, op := Op.store 9 (Operand.tmp 104) (Operand.tmp 102), type := 0, pos := "law.go:96", after := #[{ on := 11, ground := Ground.data }, { on := 9, ground := Ground.data }, { on := 0, ground := Ground.phase }, { on := 1, ground := Ground.phase }, { on := 2, ground := Ground.phase }, { on := 3, ground := Ground.phase }, { on := 4, ground := Ground.phase }, { on := 5, ground := Ground.phase }, { on := 6, ground := Ground.phase }, { on := 7, ground := Ground.phase }, { on := 8, ground := Ground.phase }, { on := 9, ground := Ground.phase }], guard := none }) rfl (fun K hK => ?_) AllReadyH.nil
      go_simp
      go_wp2_with fail
      refine hK.out _ _ (hcS.out) (fun hHeld => ?_)
      clear hK K
      try simp only [Act.put, List.setIfInBounds_toArray, List.set_cons_zero, List.set_cons_succ]
      refine wpAnyH_done (by kernel_rfl) ?_ _
      go_wp2_with fail
      go_roundw
      case rel => exact ⟨i + 1, _, by simp, by omega, by show _ = _; rw [List.length_set]; exact hlen.out, hsz2.out, hnx.out⟩
      case measure => simp [intOf]; omega
    · obtain rfl : i = n := by omega
      have hlt' : ¬ (i : Int) < (i : Int) := by omega
      go_wp2_with fail
      clear x4 xl hsz
      have V14 : Hid _ := hs
      clear hs
      go_loopw [11] (fun iv wr => ∃ (j : Nat) (l1 : List ByteArray), iv = .int .i64 (j : Int) ∧ j ≤ m ∧ Hid (l1.length = m) ∧ Hid (Vm w3 g1 i c1 g2 k c2 g3 m c3 ⟨pm, ps, pa, pp, (some ⟨g1, 0, none⟩, i, c1), pb⟩ ⟨qm, qs, qa, qp, (some ⟨g2, 0, none⟩, k, c2), qb⟩ (P1) (Q) (l1) wr)) (fun iv _ => m - (intOf iv).toNat)
      case atStart => exact ⟨0, l, rfl, by omega, EN.out.2.2.symm, V14.out⟩
      case round =>
        obtain ⟨j, l1, rfl, hj, hll, hs⟩ := hrel
        clear V14
        by_cases hjl : j < m
        · have hjl' : (j : Int) < (m : Int) := by omega
          obtain ⟨d1, d2, d3, d4⟩ := hs.out.name j (by rw [hll.out]; exact hjl)
          have hnx : Hid _ := d4 ⟨#[97, 99, 99, 101, 112, 116]⟩
          obtain ⟨d0, hd0⟩ : ∃ u, l1[j]'(by rw [hll.out]; exact hjl) = u := ⟨_, rfl⟩
          rw [hd0] at d1
          clear d4 hd0
          go_wp2_with fail
          go_roundw
          case rel => exact ⟨j + 1, _, by simp, by omega, by show _ = _; rw [List.length_set]; exact hll.out, hnx.out⟩
          case measure => simp [intOf]; omega
        · obtain rfl : j = m := by omega
          have hjl' : ¬ (j : Int) < (j : Int) := by omega
          have HC : Hid (∀ W, Below wr.heap.size wr W → (fun W => W.cell? ⟨w3.heap.size, 0, none⟩ = some (.string pm) ∧ W.cell? ⟨w3.heap.size, 1, none⟩ = some (.string ps) ∧ W.cell? ⟨w3.heap.size, 2, none⟩ = some (.string pa) ∧ W.cell? ⟨w3.heap.size, 3, none⟩ = some (.string pp) ∧ W.cell? ⟨w3.heap.size, 4, none⟩ = some (.slice (some ⟨g1, 0, none⟩) i c1) ∧ W.cell? ⟨w3.heap.size, 5, none⟩ = some (.string pb) ∧ W.cell? ⟨w3.heap.size + 1, 0, none⟩ = some (.string qm) ∧ W.cell? ⟨w3.heap.size + 1, 1, none⟩ = some (.string qs) ∧ W.cell? ⟨w3.heap.size + 1, 2, none⟩ = some (.string qa) ∧ W.cell? ⟨w3.heap.size + 1, 3, none⟩ = some (.string qp) ∧ W.cell? ⟨w3.heap.size + 1, 4, none⟩ = some (.slice (some ⟨g2, 0, none⟩) k c2) ∧ W.cell? ⟨w3.heap.size + 1, 5, none⟩ = some (.string qb)) W) := fun W hb => by
            have hv := hs.out.below hb
            obtain ⟨x0, x1, x2, x3, x4, x5, _⟩ := hv.bx.cells
            obtain ⟨y0, y1, y2, y3, y4, y5, _⟩ := hv.bY.cells
            exact ⟨x0, x1, x2, x3, x4, x5, y0, y1, y2, y3, y4, y5⟩
          have IX : Hid (∀ W, Below wr.heap.size wr W → In EFd W (.slice (some ⟨g1, 0, none⟩) i c1) P1) := fun W hb => (R.isIn (hs.out.below hb).rx).ahead hlen.out
          have IY : Hid (∀ W, Below wr.heap.size wr W → In EFd W (.slice (some ⟨g2, 0, none⟩) k c2) Q) := fun W hb => (R.isIn (hs.out.below hb).ry).ahead EN.out.2.1.symm
          have IL : Hid (∀ W, Below wr.heap.size wr W → In ES W (.slice (some ⟨g3, 0, none⟩) j c3) l1) := fun W hb => (R.isIn (hs.out.below hb).rl).ahead hll.out
          have HZ1 : Hid (P1.length * 40 ≤ 140737488355328) := by show _ ≤ _; rw [hlen.out]; omega
          obtain ⟨X, hX⟩ : ∃ b, mtB ⟨pm, ps, pa, pp, (some ⟨g1, 0, none⟩, i, c1), pb⟩ ⟨qm, qs, qa, qp, (some ⟨g2, 0, none⟩, k, c2), qb⟩ P1 Q l1 = b := ⟨_, rfl⟩
          have HM : Hid (mtB ⟨pm, ps, pa, pp, (some ⟨g1, 0, none⟩, i, c1), pb⟩ ⟨qm, qs, qa, qp, (some ⟨g2, 0, none⟩, k, c2), qb⟩ P1 Q l1 = X) := hX
          have BR : Hid (Below w.heap.size w wr) := by
            have h := H2.out _ hs.out.bel
            exact BW.out.trans (h.mono BW.out.size)
          clear hX hs
          go_upto_region 23 with fail
          as_aux_lemma =>
            have hIW : Below wr.heap.size wr (wr.drew) := (Below.refl _ _).drew
            refine wp_region_held_drew (S := (fun W => W.cell? ⟨w3.heap.size, 0, none⟩ = some (.string pm) ∧ W.cell? ⟨w3.heap.size, 1, none⟩ = some (.string ps) ∧ W.cell? ⟨w3.heap.size, 2, none⟩ = some (.string pa) ∧ W.cell? ⟨w3.heap.size, 3, none⟩ = some (.string pp) ∧ W.cell? ⟨w3.heap.size, 4, none⟩ = some (.slice (some ⟨g1, 0, none⟩) i c1) ∧ W.cell? ⟨w3.heap.size, 5, none⟩ = some (.string pb) ∧ W.cell? ⟨w3.heap.size + 1, 0, none⟩ = some (.string qm) ∧ W.cell? ⟨w3.heap.size + 1, 1, none⟩ = some (.string qs) ∧ W.cell? ⟨w3.heap.size + 1, 2, none⟩ = some (.string qa) ∧ W.cell? ⟨w3.heap.size + 1, 3, none⟩ = some (.string qp) ∧ W.cell? ⟨w3.heap.size + 1, 4, none⟩ = some (.slice (some ⟨g2, 0, none⟩) k c2) ∧ W.cell? ⟨w3.heap.size + 1, 5, none⟩ = some (.string qb))) (by kernel_rfl) (HC.out _ hIW) (fun hHeld => ?_)
            generalize hWg : World.drew _ = W at hIW hHeld ⊢
            clear hWg
            refine wpAnyH_take (i := 0) (oi := { dst := some 114, op := Op.load 24 (Operand.tmp 7), type := 24, pos := "law.go:101", after := #[], guard := none }) (v := ?vv17) rfl (by kernel_rfl) (by kernel_rfl) (by kernel_rfl) (fun _ _ _ h => h) (Or.inl ⟨by rfl, ?hy17⟩) (by assumption) ?_
            case hy17 => (intro w hSw; (try dsimp only at hSw); go_simp; all_goals with_reducible rfl)
            try simp only [Act.put, List.setIfInBounds_toArray, List.set_cons_zero, List.set_cons_succ]
            refine wpAnyH_take (i := 1) (oi := { dst := some 115, op := Op.load 24 (Operand.tmp 8), type := 24, pos := "law.go:101", after := #[], guard := none }) (v := ?vv18) rfl (by kernel_rfl) (by kernel_rfl) (by kernel_rfl) (fun _ _ _ h => h) (Or.inl ⟨by rfl, ?hy18⟩) (by assumption) ?_
            case hy18 => (intro w hSw; (try dsimp only at hSw); go_simp; all_goals with_reducible rfl)
            try simp only [Act.put, List.setIfInBounds_toArray, List.set_cons_zero, List.set_cons_succ]
            refine wpAnyH_take (i := 2) (oi := { dst := some 116, op := Op.move (Operand.tmp 9), type := 25, pos := "law.go:101", after := #[], guard := none }) (v := ?vv19) rfl (by kernel_rfl) (by kernel_rfl) (by kernel_rfl) (fun _ _ _ h => h) (Or.inl ⟨by rfl, ?hy19⟩) (by assumption) ?_
            case hy19 => (intro w hSw; (try dsimp only at hSw); go_simp; all_goals with_reducible rfl)
            try simp only [Act.put, List.setIfInBounds_toArray, List.set_cons_zero, List.set_cons_succ]
            refine wpAnyH_take (i := 4) (oi := { dst := some 118, op := Op.load 24 (Operand.tmp 7), type := 24, pos := "law.go:101", after := #[], guard := none }) (v := ?vv20) rfl (by kernel_rfl) (by kernel_rfl) (by kernel_rfl) (fun _ _ _ h => h) (Or.inl ⟨by rfl, ?hy20⟩) (by assumption) ?_
            case hy20 => (intro w hSw; (try dsimp only at hSw); go_simp; all_goals with_reducible rfl)
            try simp only [Act.put, List.setIfInBounds_toArray, List.set_cons_zero, List.set_cons_succ]
            refine wpAnyH_take (i := 5) (oi := { dst := some 119, op := Op.load 24 (Operand.tmp 8), type := 24, pos := "law.go:101", after := #[], guard := none }) (v := ?vv21) rfl (by kernel_rfl) (by kernel_rfl) (by kernel_rfl) (fun _ _ _ h => h) (Or.inl ⟨by rfl, ?hy21⟩) (by assumption) ?_
            case hy21 => (intro w hSw; (try dsimp only at hSw); go_simp; all_goals with_reducible rfl)
            try simp only [Act.put, List.setIfInBounds_toArray, List.set_cons_zero, List.set_cons_succ]
            refine wpAnyH_take (i := 6) (oi := { dst := some 120, op := Op.move (Operand.tmp 9), type := 25, pos := "law.go:101", after := #[], guard := none }) (v := ?vv22) rfl (by kernel_rfl) (by kernel_rfl) (by kernel_rfl) (fun _ _ _ h => h) (Or.inl ⟨by rfl, ?hy22⟩) (by assumption) ?_
            case hy22 => (intro w hSw; (try dsimp only at hSw); go_simp; all_goals with_reducible rfl)
            try simp only [Act.put, List.setIfInBounds_toArray, List.set_cons_zero, List.set_cons_succ]
            refine wpAnyH_ready (rs := [3]) (by kernel_rfl) (by simp) ?_
            refine AllReadyH.cons (o := { dst := some 117, op := Op.call { callee := Callee.value (Operand.func 9), args := #[Operand.tmp 114, Operand.tmp 115, Operand.tmp 116], argTypes := #[24, 24, 25] }, type := 4, pos := "law.go:101", after := #[{ on := 0, ground := Ground.data }, { on := 1, ground := Ground.data }, { on := 2, ground := Ground.data }], guard := none }) rfl (fun K hK => ?_) AllReadyH.nil
            go_simp
            refine (match_any ⟨pm, ps, pa, pp, (some ⟨g1, 0, none⟩, i, c1), pb⟩ ⟨qm, qs, qa, qp, (some ⟨g2, 0, none⟩, k, c2), qb⟩ ((some ⟨g3, 0, none⟩, j, c3)) (P1) (Q) (l1) _ (IX.out _ hIW) (IY.out _ hIW) (IL.out _ hIW) HZ1.out HZ.out.2).mono ?_
            rintro e' Wx ⟨rfl, bX⟩
            rw [show mtB ⟨pm, ps, pa, pp, (some ⟨g1, 0, none⟩, i, c1), pb⟩ ⟨qm, qs, qa, qp, (some ⟨g2, 0, none⟩, k, c2), qb⟩ (P1) (Q) (l1) = X from HM.out]
            have hIWx : Below wr.heap.size wr Wx := hIW.trans (bX.mono hIW.size)
            go_wp2_with fail
            refine hK.out _ _ (HC.out _ hIWx) (fun hHeld => ?_)
            clear hK K bX hIW
            try simp only [Act.put, List.setIfInBounds_toArray, List.set_cons_zero, List.set_cons_succ]
            refine wpAnyH_ready (rs := [7]) (by kernel_rfl) (by simp) ?_
            refine AllReadyH.cons (o := { dst := some 121, op := Op.call { callee := Callee.value (Operand.func 15), args := #[Operand.tmp 118, Operand.tmp 119, Operand.tmp 120], argTypes := #[24, 24, 25] }, type := 4, pos := "law.go:101", after := #[{ on := 4, ground := Ground.data }, { on := 5, ground := Ground.data }, { on := 6, ground := Ground.data }, { on := 3, ground := Ground.chain }], guard := none }) rfl (fun K hK => ?_) AllReadyH.nil
            go_simp
            refine (rmatch_any ⟨pm, ps, pa, pp, (some ⟨g1, 0, none⟩, i, c1), pb⟩ ⟨qm, qs, qa, qp, (some ⟨g2, 0, none⟩, k, c2), qb⟩ ((some ⟨g3, 0, none⟩, j, c3)) (P1) (Q) (l1) _ (IX.out _ hIWx) (IY.out _ hIWx) (IL.out _ hIWx) HZ1.out HZ.out.2).mono ?_
            rintro e' Wxx ⟨rfl, bX⟩
            rw [show mtB ⟨pm, ps, pa, pp, (some ⟨g1, 0, none⟩, i, c1), pb⟩ ⟨qm, qs, qa, qp, (some ⟨g2, 0, none⟩, k, c2), qb⟩ (P1) (Q) (l1) = X from HM.out]
            have hIWxx : Below wr.heap.size wr Wxx := hIWx.trans (bX.mono hIWx.size)
            go_wp2_with fail
            refine hK.out _ _ (HC.out _ hIWxx) (fun hHeld => ?_)
            clear hK K bX hIWx
            try simp only [Act.put, List.setIfInBounds_toArray, List.set_cons_zero, List.set_cons_succ]
            refine wpAnyH_take (i := 8) (oi := { dst := some 122, op := Op.binOp BinOp.eql 4 (Operand.tmp 117) (Operand.tmp 121) 4, type := 4, pos := "law.go:101", after := #[{ on := 3, ground := Ground.data }, { on := 7, ground := Ground.data }], guard := none }) (v := ?vv23) rfl (by kernel_rfl) (by kernel_rfl) (by kernel_rfl) (fun _ _ _ h => h) (Or.inl ⟨by rfl, ?hy23⟩) (by assumption) ?_
            case hy23 => (intro w hSw; (try dsimp only at hSw); go_simp; all_goals with_reducible rfl)
            try simp only [Act.put, List.setIfInBounds_toArray, List.set_cons_zero, List.set_cons_succ]
            refine wpAnyH_take (i := 9) (oi := { dst := some 6, op := Op.assign (Operand.tmp 122), type := 4, pos := "law.go:101", after := #[{ on := 8, ground := Ground.data }, { on := 7, ground := Ground.chain }, { on := 0, ground := Ground.phase }, { on := 1, ground := Ground.phase }, { on := 2, ground := Ground.phase }, { on := 3, ground := Ground.phase }, { on := 4, ground := Ground.phase }, { on := 5, ground := Ground.phase }, { on := 6, ground := Ground.phase }, { on := 7, ground := Ground.phase }, { on := 8, ground := Ground.phase }], guard := none }) (v := ?vv24) rfl (by kernel_rfl) (by kernel_rfl) (by kernel_rfl) (fun _ _ _ h => h) (Or.inl ⟨by rfl, ?hy24⟩) (by assumption) ?_
            case hy24 => (intro w hSw; (try dsimp only at hSw); go_simp; all_goals with_reducible rfl)
            try simp only [Act.put, List.setIfInBounds_toArray, List.set_cons_zero, List.set_cons_succ]
            refine wpAnyH_done (by kernel_rfl) ?_ _
            go_wp2_with fail
            go_ret
            exact ⟨by first | rfl | simp, BR.out.trans (hIWxx.mono BR.out.size)⟩
end Go.Proofs.YtckdldbheejmhaaDoor
