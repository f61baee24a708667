/- The law's plain. -/
import Derived.Test.YtghppkfopglgaaaGreatDoorOa
namespace Go.Proofs.YtghppkfopglgaaaGreatDoor
open Go.RowKit
set_option linter.unusedVariables false
set_option linter.unusedSimpArgs false
/-- what is handed in, what is told, what is being made -/
structure Bx3 (g0 g1 g2 : Nat) (k0 c : Array Value) (w W : World) : Prop where
  bel : Below w.heap.size w W
  b0 : W.heap[g0]? = some (.cells k0 38 (0, 0))
  b1 : W.heap[g1]? = some (.cells mvZ 38 (0, 0))
  b2 : W.heap[g2]? = some (.cells c 38 (0, 0))
theorem Bx3.setRow {g0 g1 g2 : Nat} {k0 c : Array Value} {w W : World} (h : Bx3 g0 g1 g2 k0 c w W) (n0 : g0 ≠ g2) (n1 : g1 ≠ g2) (hw : w.heap.size ≤ g2) (c' : Array Value) : Bx3 g0 g1 g2 k0 c' w (W.setRow g2 c') :=
  ⟨h.bel.trans ((Ks.setRow (fun k => k = g2) W g2 c' rfl).below h.bel.size (fun i hi e => by subst e; omega)), (setRow_off n0).trans h.b0, (setRow_off n1).trans h.b1, setRow_blk h.b2⟩
theorem Bx3.setCell {g0 g1 g2 : Nat} {k0 c : Array Value} {w W : World} (h : Bx3 g0 g1 g2 k0 c w W) (n0 : g0 ≠ g2) (n1 : g1 ≠ g2) (hw : w.heap.size ≤ g2) (i : Nat) (v : Value) : Bx3 g0 g1 g2 k0 (c.setIfInBounds i v) w (W.setCell ⟨g2, i, none⟩ v) :=
  ⟨h.bel.trans ((Ks.setCell (fun k => k = g2) W g2 i v rfl).below h.bel.size (fun i hi e => by subst e; omega)), (setCell_other _ _ _ _ _ n0).trans h.b0, (setCell_other _ _ _ _ _ n1).trans h.b1, setCell_block _ _ _ _ _ _ _ h.b2⟩
theorem wpList_store_bx3 {g0 g1 g2 : Nat} {k0 c : Array Value} {w W : World} (hJ : Bx3 g0 g1 g2 k0 c w W) (n0 : g0 ≠ g2) (n1 : g1 ≠ g2) (hw : w.heap.size ≤ g2)
    {ops : Array Oper} {rest : List Oper} {o : Oper} {a : Act} {Q : Exit → Act → World → Prop} (hgd : o.guard = none) (sty : TypeId) (x y : Operand) (ho : o.op = .store sty x y)
    (off : Nat) (vs : Array Value) (hx : a.eval x = .pointer (some ⟨g2, off, none⟩)) (hy : a.eval y = .agg vs) (hi : (Tryz.prog.info? sty).map (·.size) = some vs.size)
    (hle : off + vs.size ≤ c.size) (h1 : vs.toList.all (·.oneCell') = true) (c' : Array Value) (hc : part c off vs = c')
    (h : ∀ V', Bx3 g0 g1 g2 k0 c' w V' → wpList Tryz.prog ops Q rest (a.put o.dst undef) V') : wpList Tryz.prog ops Q (o :: rest) a W :=
  wpList_store_part hgd sty x y ho g2 off vs hx hy 38 c hJ.b2 hi hle (by rw [← h1, Array.all_toList]) (h _ (hc ▸ hJ.setRow n0 n1 hw _))
theorem wpList_fin_bx3 {g0 g1 g2 : Nat} {k0 c : Array Value} {w W : World} (hJ : Bx3 g0 g1 g2 k0 c w W) (hw : w.heap.size ≤ g1)
    {ops : Array Oper} {rest : List Oper} {o : Oper} {a : Act} {Q : Exit → Act → World → Prop} (hgd : o.guard = none) (x y : Operand) (ho : o.op = .store 38 x y)
    (hx : a.eval x = .pointer (some ⟨g1, 0, none⟩)) (hy : a.eval y = .agg c) (hi : (Tryz.prog.info? 38).map (·.size) = some c.size)
    (hle : c.size ≤ mvZ.size) (h1 : c.toList.all (·.oneCell') = true) (c' : Array Value) (hc : part mvZ 0 c = c')
    (h : ∀ V', Below w.heap.size w V' → V'.heap[g1]? = some (.cells c' 38 (0, 0)) → wpList Tryz.prog ops Q rest (a.put o.dst undef) V') : wpList Tryz.prog ops Q (o :: rest) a W :=
  wpList_store_part hgd 38 x y ho g1 0 c hx hy 38 mvZ hJ.b1 hi (by omega) (by rw [← h1, Array.all_toList]) (by
    rw [hc]
    exact h _ (hJ.bel.trans ((Ks.setRow (fun k => k = g1) W g1 c' rfl).below hJ.bel.size (fun i hi e => by subst e; omega))) (setRow_blk hJ.b1))
theorem bx3_new (w : World) (k0 : Array Value) : Bx3 w.heap.size (w.heap.size + 1) (w.heap.size + 2) k0 mvZ w (((w.alloc (.cells k0 38)).alloc (.cells mvZ 38)).alloc (.cells mvZ 38)) := by
  refine ⟨((bel1 _ _).trans ((bel1 _ _).mono (by rw [size_al]; omega))).trans ((bel1 _ _).mono (by rw [size_al, size_al]; omega)), ?_, ?_, ?_⟩
  · rw [heap_al, if_neg (by rw [size_al, size_al]; omega), heap_al, if_neg (by rw [size_al]; omega), heap_al, if_pos rfl]
  · rw [heap_al, if_neg (by rw [size_al, size_al]; omega), heap_al, if_pos (by rw [size_al])]
  · rw [heap_al, if_pos (by rw [size_al, size_al])]
set_option maxRecDepth 100000 in
set_option maxHeartbeats 32000000 in
theorem plainMv_any (m : Mv) (sf sc : Sl) (w : World) (hk1 : 1 ≤ m.k) (hk2 : m.k ≤ 10) : Calls Tryz.prog 38 #[.agg (mvA m sf.v sc.v)] w fun e w' => ∃ tf tc : Sl, e = .returned (.agg (mvA m.cl tf.v tc.v)) ∧ (∀ V, In EFd V sf.v m.rq.fs → In EFd V tf.v m.cl.rq.fs) ∧ (∀ V, In ECh V sc.v m.pg.ch → In ECh V tc.v m.cl.pg.ch) ∧ Below w.heap.size w w' := by
  obtain ⟨mk, mn, ⟨qm, qs, qa, qp, qb, fs⟩, ⟨pa, pp, pst, pv, ch⟩, ⟨st, spp, ss, sw, sf', sl⟩, mb⟩ := m
  obtain ⟨f1, fn, fc⟩ := sf
  obtain ⟨c1, cn, cc⟩ := sc
  simp only at hk1 hk2
  obtain ⟨k0, hk0⟩ : ∃ c, mvA ⟨mk, mn, ⟨qm, qs, qa, qp, qb, fs⟩, ⟨pa, pp, pst, pv, ch⟩, ⟨st, spp, ss, sw, sf', sl⟩, mb⟩ (Sl.v ⟨f1, fn, fc⟩) (Sl.v ⟨c1, cn, cc⟩) = c := ⟨_, rfl⟩
  rw [hk0]
  have y0 : k0[0]? = some (.int .i64 mk) := by rw [← hk0]; rfl
  have y1 : k0[1]? = some (.int .i64 mn) := by rw [← hk0]; rfl
  have y19 : k0[19]? = some (.string mb) := by rw [← hk0]; rfl
  have P2 : Hid ((k0.toList.drop 2).take (#[.string qm, .string qs, .string qa, .string qp, .slice f1 fn fc, .string qb] : Array Value).toList.length = (#[.string qm, .string qs, .string qa, .string qp, .slice f1 fn fc, .string qb] : Array Value).toList) := hid (by rw [← hk0]; rfl)
  have P8 : Hid ((k0.toList.drop 8).take (#[.string pa, .string pp, .int .i64 pst, .string pv, .slice c1 cn cc] : Array Value).toList.length = (#[.string pa, .string pp, .int .i64 pst, .string pv, .slice c1 cn cc] : Array Value).toList) := hid (by rw [← hk0]; rfl)
  have P13 : Hid ((k0.toList.drop 13).take (#[.int .i64 st, .int .i64 spp, .int .i64 ss, .int .i64 sw, .int .i64 sf', .int .i64 sl] : Array Value).toList.length = (#[.int .i64 st, .int .i64 spp, .int .i64 ss, .int .i64 sw, .int .i64 sf', .int .i64 sl] : Array Value).toList) := hid (by rw [← hk0]; rfl)
  obtain ⟨g0, hg0⟩ : ∃ g0, w.heap.size = g0 := ⟨_, rfl⟩
  obtain ⟨g1, hg1⟩ : ∃ g1, g0 + 1 = g1 := ⟨_, rfl⟩
  obtain ⟨g2, hg2⟩ : ∃ g2, g1 + 1 = g2 := ⟨_, rfl⟩
  obtain ⟨W2, hW2⟩ : ∃ V, (w.alloc (.cells k0 38)).alloc (.cells mvZ 38) = V := ⟨_, rfl⟩
  have HJ : Hid (Bx3 g0 g1 g2 k0 #[.int .i64 0, .int .i64 0, .string ⟨#[]⟩, .string ⟨#[]⟩, .string ⟨#[]⟩, .string ⟨#[]⟩, .slice none 0 0, .string ⟨#[]⟩, .string ⟨#[]⟩, .string ⟨#[]⟩, .int .i64 0, .string ⟨#[]⟩, .slice none 0 0, .int .i64 0, .int .i64 0, .int .i64 0, .int .i64 0, .int .i64 0, .int .i64 0, .string ⟨#[]⟩] w (W2.alloc (.cells #[.int .i64 0, .int .i64 0, .string ⟨#[]⟩, .string ⟨#[]⟩, .string ⟨#[]⟩, .string ⟨#[]⟩, .slice none 0 0, .string ⟨#[]⟩, .string ⟨#[]⟩, .string ⟨#[]⟩, .int .i64 0, .string ⟨#[]⟩, .slice none 0 0, .int .i64 0, .int .i64 0, .int .i64 0, .int .i64 0, .int .i64 0, .int .i64 0, .string ⟨#[]⟩] 38))) := hid (by rw [← hW2, ← hg2, ← hg1, ← hg0]; exact bx3_new w k0)
  have s2 : W2.heap.size = g2 := by rw [← hW2, size_al, size_al]; omega
  have v0 : W2.cell? ⟨g0, 0, none⟩ = some (.int .i64 mk) := (cell_blk (show W2.heap[g0]? = some (.cells k0 38 (0, 0)) by rw [← hW2, heap_al, if_neg (by rw [size_al]; omega), heap_al, if_pos hg0.symm]) 0).trans y0
  have l0 : g0 < W2.heap.size := by omega
  have n02 : g0 ≠ g2 := by omega
  have n12 : g1 ≠ g2 := by omega
  have hw1 : w.heap.size ≤ g1 := by omega
  have hw2 : w.heap.size ≤ g2 := by omega
  have HW2 : Hid ((w.alloc (.cells k0 38)).alloc (.cells #[.int .i64 0, .int .i64 0, .string ⟨#[]⟩, .string ⟨#[]⟩, .string ⟨#[]⟩, .string ⟨#[]⟩, .slice none 0 0, .string ⟨#[]⟩, .string ⟨#[]⟩, .string ⟨#[]⟩, .int .i64 0, .string ⟨#[]⟩, .slice none 0 0, .int .i64 0, .int .i64 0, .int .i64 0, .int .i64 0, .int .i64 0, .int .i64 0, .string ⟨#[]⟩] 38) = W2) := hid hW2
  have HG0 := hid hg0
  have HG1 := hid hg1
  have HS2 := hid s2
  have Y0 := hid y0
  have Y1 := hid y1
  have Y19 := hid y19
  have HK1 := hid hk1
  have HK2 := hid hk2
  have HLT : Hid (g0 < g1 ∧ g1 < g2) := hid ⟨by omega, by omega⟩
  clear hk0 hg0 hg1 hg2 hW2 s2 y0 y1 y19 hk1 hk2
  go_enter Tryz.func38, Tryz.ntmps38
  go_upto_region 1 with fail
  try rw [HG0.out]
  try rw [HG1.out]
  try (erw [HW2.out])
  go_upto_region 2 with (refine wpList_store_bx3 HJ.out n02 n12 hw2 rfl 38 (.tmp 3) (.tmp 6) rfl 0 (mvK mk) (by rw [← HS2.out]; rfl) rfl (by kernel_rfl) (Nat.le_refl _) rfl (mvK mk) rfl ?_; intro V HJ1)
  try rw [HS2.out]
  replace HJ1 := hid HJ1
  clear v0 l0
  have a0 := (cell_blk HJ1.out.b0 0).trans Y0.out
  have a1 := (cell_blk HJ1.out.b0 1).trans Y1.out
  have a19 := (cell_blk HJ1.out.b0 19).trans Y19.out
  have b1 : V.cell? ⟨g2, 1, none⟩ = some (.int .i64 0) := cell_blk HJ1.out.b2 1
  have b19 : V.cell? ⟨g2, 19, none⟩ = some (.string ⟨#[]⟩) := cell_blk HJ1.out.b2 19
  have f2 := frozen_blk HJ1.out.b2
  have l2 := heap_lt HJ1.out.b2
  have l0 := heap_lt HJ1.out.b0
  have HM := hid (And.intro HK1.out HK2.out)
  clear HJ
  by_cases e1 : mk = 1
  · subst e1
    go_wp2_with (first
      | (refine wpList_load_part rfl 31 (.tmp 11) rfl g0 2 #[.string qm, .string qs, .string qa, .string qp, .slice f1 fn fc, .string qb] (by first | rfl | (rw [← HG0.out]; rfl)) 38 k0 (0, 0) _ HJ1.out.b0 P2.out Tryz.underlying31 rfl (by kernel_rfl) ?_)
      | (refine wpList_store_bx3 HJ1.out n02 n12 hw2 rfl 31 (.tmp 13) (.tmp 12) rfl 2 #[.string qm, .string qs, .string qa, .string qp, .slice f1 fn fc, .string qb] (by first | rfl | (rw [← HS2.out]; rfl)) rfl (by kernel_rfl) (Nat.le_of_ble_eq_true rfl) rfl (mvA { Mv.z with k := 1, rq := ⟨qm, qs, qa, qp, qb, fs⟩ } (Sl.v ⟨f1, fn, fc⟩) (Sl.v Sl.z)) rfl ?_; intro V2 HJ3; replace HJ3 := hid HJ3)
      | (refine wpList_load_row rfl 38 (.tmp 3) rfl g2 (by first | rfl | (rw [← HS2.out]; rfl)) 38 _ (0, 0) _ HJ3.out.b2 Tryz.underlying38 rfl (by kernel_rfl) ?_)
      | (refine wpList_fin_bx3 HJ3.out hw1 rfl (.tmp 2) (.tmp 50) rfl (by first | rfl | (rw [← HG1.out]; rfl)) rfl (by kernel_rfl) (Nat.le_refl _) rfl (mvA { Mv.z with k := 1, rq := ⟨qm, qs, qa, qp, qb, fs⟩ } (Sl.v ⟨f1, fn, fc⟩) (Sl.v Sl.z)) rfl ?_; intro V9 hf1 hf3))
    refine bodyPost_ret (results_cell_row (p := 2) (ty := 38) rfl _ _ g1 38 _ (0, 0) _ rfl hf3 Tryz.underlying38 rfl (by kernel_rfl)) rfl ?_
    exact ⟨⟨f1, fn, fc⟩, Sl.z, rfl, fun V h => h, fun V h => .inl ⟨rfl, rfl⟩, hf1⟩
  by_cases e8 : mk = 8
  · subst e8
    go_wp2_with (first
      | (refine wpList_load_part rfl 34 (.tmp 30) rfl g0 8 #[.string pa, .string pp, .int .i64 pst, .string pv, .slice c1 cn cc] (by first | rfl | (rw [← HG0.out]; rfl)) 38 k0 (0, 0) _ HJ1.out.b0 P8.out Tryz.underlying34 rfl (by kernel_rfl) ?_)
      | (refine wpList_store_bx3 HJ1.out n02 n12 hw2 rfl 34 (.tmp 32) (.tmp 31) rfl 8 #[.string pa, .string pp, .int .i64 pst, .string pv, .slice c1 cn cc] (by first | rfl | (rw [← HS2.out]; rfl)) rfl (by kernel_rfl) (Nat.le_of_ble_eq_true rfl) rfl (mvA { Mv.z with k := 8, pg := ⟨pa, pp, pst, pv, ch⟩ } (Sl.v Sl.z) (Sl.v ⟨c1, cn, cc⟩)) rfl ?_; intro V2 HJ3; replace HJ3 := hid HJ3)
      | (refine wpList_load_row rfl 38 (.tmp 3) rfl g2 (by first | rfl | (rw [← HS2.out]; rfl)) 38 _ (0, 0) _ HJ3.out.b2 Tryz.underlying38 rfl (by kernel_rfl) ?_)
      | (refine wpList_fin_bx3 HJ3.out hw1 rfl (.tmp 2) (.tmp 50) rfl (by first | rfl | (rw [← HG1.out]; rfl)) rfl (by kernel_rfl) (Nat.le_refl _) rfl (mvA { Mv.z with k := 8, pg := ⟨pa, pp, pst, pv, ch⟩ } (Sl.v Sl.z) (Sl.v ⟨c1, cn, cc⟩)) rfl ?_; intro V9 hf1 hf3))
    refine bodyPost_ret (results_cell_row (p := 2) (ty := 38) rfl _ _ g1 38 _ (0, 0) _ rfl hf3 Tryz.underlying38 rfl (by kernel_rfl)) rfl ?_
    exact ⟨Sl.z, ⟨c1, cn, cc⟩, rfl, fun V h => .inl ⟨rfl, rfl⟩, fun V h => h, hf1⟩
  by_cases e9 : mk = 9
  · subst e9
    go_wp2_with (first
      | (refine wpList_load_part rfl 36 (.tmp 37) rfl g0 13 #[.int .i64 st, .int .i64 spp, .int .i64 ss, .int .i64 sw, .int .i64 sf', .int .i64 sl] (by first | rfl | (rw [← HG0.out]; rfl)) 38 k0 (0, 0) _ HJ1.out.b0 P13.out Tryz.underlying36 rfl (by kernel_rfl) ?_)
      | (refine wpList_store_bx3 HJ1.out n02 n12 hw2 rfl 36 (.tmp 39) (.tmp 38) rfl 13 #[.int .i64 st, .int .i64 spp, .int .i64 ss, .int .i64 sw, .int .i64 sf', .int .i64 sl] (by first | rfl | (rw [← HS2.out]; rfl)) rfl (by kernel_rfl) (Nat.le_of_ble_eq_true rfl) rfl (mvA { Mv.z with k := 9, si := ⟨st, spp, ss, sw, sf', sl⟩ } (Sl.v Sl.z) (Sl.v Sl.z)) rfl ?_; intro V2 HJ3; replace HJ3 := hid HJ3)
      | (refine wpList_load_row rfl 38 (.tmp 3) rfl g2 (by first | rfl | (rw [← HS2.out]; rfl)) 38 _ (0, 0) _ HJ3.out.b2 Tryz.underlying38 rfl (by kernel_rfl) ?_)
      | (refine wpList_fin_bx3 HJ3.out hw1 rfl (.tmp 2) (.tmp 50) rfl (by first | rfl | (rw [← HG1.out]; rfl)) rfl (by kernel_rfl) (Nat.le_refl _) rfl (mvA { Mv.z with k := 9, si := ⟨st, spp, ss, sw, sf', sl⟩ } (Sl.v Sl.z) (Sl.v Sl.z)) rfl ?_; intro V9 hf1 hf3))
    refine bodyPost_ret (results_cell_row (p := 2) (ty := 38) rfl _ _ g1 38 _ (0, 0) _ rfl hf3 Tryz.underlying38 rfl (by kernel_rfl)) rfl ?_
    exact ⟨Sl.z, Sl.z, rfl, fun V h => .inl ⟨rfl, rfl⟩, fun V h => .inl ⟨rfl, rfl⟩, hf1⟩
  by_cases e10 : mk = 10
  · subst e10
    have HJ2 := hid (HJ1.out.setCell n02 n12 hw2 1 (.int .i64 mn))
    have HJ3 := hid (HJ2.out.setCell n02 n12 hw2 19 (.string mb))
    rw [show ((mvK 10).setIfInBounds 1 (.int .i64 mn)).setIfInBounds 19 (.string mb) = mvA { Mv.z with k := 10, n := mn, by' := mb } (Sl.v Sl.z) (Sl.v Sl.z) from rfl] at HJ3
    clear HJ2
    go_wp2_with (first
      | (refine wpList_load_row rfl 38 (.tmp 3) rfl g2 (by first | rfl | (rw [← HS2.out]; rfl)) 38 _ (0, 0) _ HJ3.out.b2 Tryz.underlying38 rfl (by kernel_rfl) ?_)
      | (refine wpList_fin_bx3 HJ3.out hw1 rfl (.tmp 2) (.tmp 50) rfl (by first | rfl | (rw [← HG1.out]; rfl)) rfl (by kernel_rfl) (Nat.le_refl _) rfl (mvA { Mv.z with k := 10, n := mn, by' := mb } (Sl.v Sl.z) (Sl.v Sl.z)) rfl ?_; intro V9 hf1 hf3))
    refine bodyPost_ret (results_cell_row (p := 2) (ty := 38) rfl _ _ g1 38 _ (0, 0) _ rfl hf3 Tryz.underlying38 rfl (by kernel_rfl)) rfl ?_
    exact ⟨Sl.z, Sl.z, rfl, fun V h => .inl ⟨rfl, rfl⟩, fun V h => .inl ⟨rfl, rfl⟩, hf1⟩
  have HR : mk = 2 ∨ mk = 3 ∨ mk = 4 ∨ mk = 5 ∨ mk = 6 ∨ mk = 7 := by have := HM.out; omega
  clear e1 e8 e9 e10
  rcases HR with rfl | HR
  · have HJ3 := hid (HJ1.out.setCell n02 n12 hw2 1 (.int .i64 mn))
    rw [show (mvK 2).setIfInBounds 1 (.int .i64 mn) = mvA { Mv.z with k := 2, n := mn } (Sl.v Sl.z) (Sl.v Sl.z) from rfl] at HJ3
    go_wp2_with (first
      | (refine wpList_load_row rfl 38 (.tmp 3) rfl g2 (by first | rfl | (rw [← HS2.out]; rfl)) 38 _ (0, 0) _ HJ3.out.b2 Tryz.underlying38 rfl (by kernel_rfl) ?_)
      | (refine wpList_fin_bx3 HJ3.out hw1 rfl (.tmp 2) (.tmp 50) rfl (by first | rfl | (rw [← HG1.out]; rfl)) rfl (by kernel_rfl) (Nat.le_refl _) rfl (mvA { Mv.z with k := 2, n := mn } (Sl.v Sl.z) (Sl.v Sl.z)) rfl ?_; intro V9 hf1 hf3))
    refine bodyPost_ret (results_cell_row (p := 2) (ty := 38) rfl _ _ g1 38 _ (0, 0) _ rfl hf3 Tryz.underlying38 rfl (by kernel_rfl)) rfl ?_
    exact ⟨Sl.z, Sl.z, rfl, fun V h => .inl ⟨rfl, rfl⟩, fun V h => .inl ⟨rfl, rfl⟩, hf1⟩
  rcases HR with rfl | HR
  · have HJ3 := hid (HJ1.out.setCell n02 n12 hw2 1 (.int .i64 mn))
    rw [show (mvK 3).setIfInBounds 1 (.int .i64 mn) = mvA { Mv.z with k := 3, n := mn } (Sl.v Sl.z) (Sl.v Sl.z) from rfl] at HJ3
    go_wp2_with (first
      | (refine wpList_load_row rfl 38 (.tmp 3) rfl g2 (by first | rfl | (rw [← HS2.out]; rfl)) 38 _ (0, 0) _ HJ3.out.b2 Tryz.underlying38 rfl (by kernel_rfl) ?_)
      | (refine wpList_fin_bx3 HJ3.out hw1 rfl (.tmp 2) (.tmp 50) rfl (by first | rfl | (rw [← HG1.out]; rfl)) rfl (by kernel_rfl) (Nat.le_refl _) rfl (mvA { Mv.z with k := 3, n := mn } (Sl.v Sl.z) (Sl.v Sl.z)) rfl ?_; intro V9 hf1 hf3))
    refine bodyPost_ret (results_cell_row (p := 2) (ty := 38) rfl _ _ g1 38 _ (0, 0) _ rfl hf3 Tryz.underlying38 rfl (by kernel_rfl)) rfl ?_
    exact ⟨Sl.z, Sl.z, rfl, fun V h => .inl ⟨rfl, rfl⟩, fun V h => .inl ⟨rfl, rfl⟩, hf1⟩
  rcases HR with rfl | HR
  · have HJ3 := hid (HJ1.out.setCell n02 n12 hw2 1 (.int .i64 mn))
    rw [show (mvK 4).setIfInBounds 1 (.int .i64 mn) = mvA { Mv.z with k := 4, n := mn } (Sl.v Sl.z) (Sl.v Sl.z) from rfl] at HJ3
    go_wp2_with (first
      | (refine wpList_load_row rfl 38 (.tmp 3) rfl g2 (by first | rfl | (rw [← HS2.out]; rfl)) 38 _ (0, 0) _ HJ3.out.b2 Tryz.underlying38 rfl (by kernel_rfl) ?_)
      | (refine wpList_fin_bx3 HJ3.out hw1 rfl (.tmp 2) (.tmp 50) rfl (by first | rfl | (rw [← HG1.out]; rfl)) rfl (by kernel_rfl) (Nat.le_refl _) rfl (mvA { Mv.z with k := 4, n := mn } (Sl.v Sl.z) (Sl.v Sl.z)) rfl ?_; intro V9 hf1 hf3))
    refine bodyPost_ret (results_cell_row (p := 2) (ty := 38) rfl _ _ g1 38 _ (0, 0) _ rfl hf3 Tryz.underlying38 rfl (by kernel_rfl)) rfl ?_
    exact ⟨Sl.z, Sl.z, rfl, fun V h => .inl ⟨rfl, rfl⟩, fun V h => .inl ⟨rfl, rfl⟩, hf1⟩
  rcases HR with rfl | HR
  · have HJ3 := hid (HJ1.out.setCell n02 n12 hw2 1 (.int .i64 mn))
    rw [show (mvK 5).setIfInBounds 1 (.int .i64 mn) = mvA { Mv.z with k := 5, n := mn } (Sl.v Sl.z) (Sl.v Sl.z) from rfl] at HJ3
    go_wp2_with (first
      | (refine wpList_load_row rfl 38 (.tmp 3) rfl g2 (by first | rfl | (rw [← HS2.out]; rfl)) 38 _ (0, 0) _ HJ3.out.b2 Tryz.underlying38 rfl (by kernel_rfl) ?_)
      | (refine wpList_fin_bx3 HJ3.out hw1 rfl (.tmp 2) (.tmp 50) rfl (by first | rfl | (rw [← HG1.out]; rfl)) rfl (by kernel_rfl) (Nat.le_refl _) rfl (mvA { Mv.z with k := 5, n := mn } (Sl.v Sl.z) (Sl.v Sl.z)) rfl ?_; intro V9 hf1 hf3))
    refine bodyPost_ret (results_cell_row (p := 2) (ty := 38) rfl _ _ g1 38 _ (0, 0) _ rfl hf3 Tryz.underlying38 rfl (by kernel_rfl)) rfl ?_
    exact ⟨Sl.z, Sl.z, rfl, fun V h => .inl ⟨rfl, rfl⟩, fun V h => .inl ⟨rfl, rfl⟩, hf1⟩
  rcases HR with rfl | HR
  · have HJ3 := hid (HJ1.out.setCell n02 n12 hw2 1 (.int .i64 mn))
    rw [show (mvK 6).setIfInBounds 1 (.int .i64 mn) = mvA { Mv.z with k := 6, n := mn } (Sl.v Sl.z) (Sl.v Sl.z) from rfl] at HJ3
    go_wp2_with (first
      | (refine wpList_load_row rfl 38 (.tmp 3) rfl g2 (by first | rfl | (rw [← HS2.out]; rfl)) 38 _ (0, 0) _ HJ3.out.b2 Tryz.underlying38 rfl (by kernel_rfl) ?_)
      | (refine wpList_fin_bx3 HJ3.out hw1 rfl (.tmp 2) (.tmp 50) rfl (by first | rfl | (rw [← HG1.out]; rfl)) rfl (by kernel_rfl) (Nat.le_refl _) rfl (mvA { Mv.z with k := 6, n := mn } (Sl.v Sl.z) (Sl.v Sl.z)) rfl ?_; intro V9 hf1 hf3))
    refine bodyPost_ret (results_cell_row (p := 2) (ty := 38) rfl _ _ g1 38 _ (0, 0) _ rfl hf3 Tryz.underlying38 rfl (by kernel_rfl)) rfl ?_
    exact ⟨Sl.z, Sl.z, rfl, fun V h => .inl ⟨rfl, rfl⟩, fun V h => .inl ⟨rfl, rfl⟩, hf1⟩
  subst HR
  have HJ3 := hid (HJ1.out.setCell n02 n12 hw2 1 (.int .i64 mn))
  rw [show (mvK 7).setIfInBounds 1 (.int .i64 mn) = mvA { Mv.z with k := 7, n := mn } (Sl.v Sl.z) (Sl.v Sl.z) from rfl] at HJ3
  go_wp2_with (first
    | (refine wpList_load_row rfl 38 (.tmp 3) rfl g2 (by first | rfl | (rw [← HS2.out]; rfl)) 38 _ (0, 0) _ HJ3.out.b2 Tryz.underlying38 rfl (by kernel_rfl) ?_)
    | (refine wpList_fin_bx3 HJ3.out hw1 rfl (.tmp 2) (.tmp 50) rfl (by first | rfl | (rw [← HG1.out]; rfl)) rfl (by kernel_rfl) (Nat.le_refl _) rfl (mvA { Mv.z with k := 7, n := mn } (Sl.v Sl.z) (Sl.v Sl.z)) rfl ?_; intro V9 hf1 hf3))
  refine bodyPost_ret (results_cell_row (p := 2) (ty := 38) rfl _ _ g1 38 _ (0, 0) _ rfl hf3 Tryz.underlying38 rfl (by kernel_rfl)) rfl ?_
  exact ⟨Sl.z, Sl.z, rfl, fun V h => .inl ⟨rfl, rfl⟩, fun V h => .inl ⟨rfl, rfl⟩, hf1⟩
end Go.Proofs.YtghppkfopglgaaaGreatDoor
