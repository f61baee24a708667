/- The law's stored, walked. -/
import Derived.Test.YtfponcdhaefkdaaDoorK4
namespace Go.Proofs.YtfponcdhaefkdaaDoor
open Go.RowKit
set_option linter.unusedVariables false
set_option linter.unusedSimpArgs false
set_option maxHeartbeats 40000000 in
set_option maxRecDepth 100000 in
theorem stored_any (w0 W : World) (g : Nat) (c : Ca) (y : SV) (L : List En) (b : Nat) (pd : Int) (z : SV) (B : List Kn) (h : Pq w0 W g c y L b pd z B) (hb0 : Below w0.heap.size w0 W) (o : Os) (ho : Oi w0 o) (zv : ∀ v ∈ vsL o.fr varyS, v.size ≤ 140737488351232) (mk : Fd) (mt : TypeId) (hM : w0.heap[0]? = some (.cells (fdv mk) mt (0, 0))) :
    Calls Tryd.prog 49 #[.pointer (some ⟨g, 0, none⟩), .pointer (some ⟨b, 0, none⟩), .agg (opv o)] W fun e W' => e = .returned (.bool true) ∧ ∃ (y' : SV) (L' : List En) (z' : SV) (B' : List Kn), Pq w0 W' g (hr c o.tk) y' L' b pd z' B' ∧ Ks (fun k => Ow g y k ∨ k = b) W W' ∧ (∀ k, Cb g y' L' k → Cb g y L k ∨ W.heap.size ≤ k) ∧ (∀ k, Rb b z' B' k → Rb b z B k ∨ W.heap.size ≤ k) := by
  obtain ⟨W1, hW1⟩ : ∃ V, W.alloc (.cells (opv o) 60) = V := ⟨_, rfl⟩
  obtain ⟨o0, ho0⟩ : ∃ k, W.heap.size = k := ⟨_, rfl⟩
  have b1 : Below W.heap.size W W1 := by rw [← hW1]; exact bel1 _ _
  have hO1 : W1.heap[o0]? = some (.cells (opv o) 60 (0, 0)) := by rw [← hW1, ← ho0, heap_al, if_pos rfl]
  have HB1 : Hid (Below W.heap.size W W1 ∧ W1.heap[o0]? = some (.cells (opv o) 60 (0, 0)) ∧ W.heap.size ≤ o0) := ⟨b1, hO1, by omega⟩
  have HP : Hid (Pq w0 W g c y L b pd z B) := h
  have HOi : Hid (Oi w0 o) := ho
  have HB0 : Hid (Below w0.heap.size w0 W) := hb0
  have HZv : Hid (∀ v ∈ vsL o.fr varyS, v.size ≤ 140737488351232) := zv
  have HM : Hid (w0.heap[0]? = some (.cells (fdv mk) mt (0, 0))) := hM
  have HW0 : Hid (∀ V, Below W.heap.size W V → Below w0.heap.size w0 V) := fun V hV => hb0.trans (hV.mono hb0.size)
  have HLq : Hid (∀ V, Below W.heap.size W V → Calls Tryd.prog 48 #[sv o.q.y] V fun e w' => ∃ (base : Option Addr) (cap : Nat), e = .returned (.slice base o.Q.length cap) ∧ R EFd w' (.slice base (o.Q.length + 1) cap) (o.Q ++ [mk]) ∧ (∀ k, (Value.slice base (o.Q.length + 1) cap).ownBlock = some k → V.heap.size ≤ k) ∧ Below V.heap.size V w') := fun V hV => lent_any o.q.y o.Q mk mt V (ho.iq.below (HW0.out V hV)) ho.az.zQ (((HW0.out V hV).block 0 (heap_lt hM)).trans hM)
  have HLr : Hid (∀ V, Below W.heap.size W V → Calls Tryd.prog 48 #[sv o.ry] V fun e w' => ∃ (base : Option Addr) (cap : Nat), e = .returned (.slice base o.fr.length cap) ∧ R EFd w' (.slice base (o.fr.length + 1) cap) (o.fr ++ [mk]) ∧ (∀ k, (Value.slice base (o.fr.length + 1) cap).ownBlock = some k → V.heap.size ≤ k) ∧ Below V.heap.size V w') := fun V hV => lent_any o.ry o.fr mk mt V (ho.ir.below (HW0.out V hV)) ho.az.zR (((HW0.out V hV).block 0 (heap_lt hM)).trans hM)
  obtain ⟨x0, x1, x2, x3, x4, x5, x6, x7, x8, x9, x10, x11, x12⟩ := cells60 hO1
  clear h hb0 ho zv hM b1 hO1
  obtain ⟨kd, tw, ⟨m, s, a, p, ⟨y1, y2, y3⟩, qb⟩, rn, ⟨r1, r2, r3⟩, rb, st, tk, Q, fr⟩ := o
  simp only [sv, opv] at hW1 x6 x9 HLq HLr ⊢
  go_enter Tryd.func49, Tryd.ntmps49
  go_upto_region 2 with fail
  try rw [hW1]
  try rw [ho0]
  clear hW1 ho0
  obtain ⟨q1, hq1⟩ : ∃ k, W1.heap.size = k := ⟨_, rfl⟩
  obtain ⟨W2, hW2⟩ : ∃ V, W1.alloc (.cells #[.string m, .string s, .string a, .string p, .slice y1 y2 y3, .string qb] 24) = V := ⟨_, rfl⟩
  have b2 : Below W1.heap.size W1 W2 := by rw [← hW2]; exact bel1 _ _
  have HB2 : Hid (Below W.heap.size W W2 ∧ W2.heap[o0]? = some (.cells (opv (⟨kd, tw, ⟨m, s, a, p, (y1, y2, y3), qb⟩, rn, (r1, r2, r3), rb, st, tk, Q, fr⟩ : Os)) 60 (0, 0)) ∧ W.heap.size ≤ o0 ∧ W2.heap[q1]? = some (.cells #[.string m, .string s, .string a, .string p, .slice y1 y2 y3, .string qb] 24 (0, 0)) ∧ W.heap.size ≤ q1) := ⟨HB1.out.1.trans (b2.mono HB1.out.1.size), (b2.block _ (heap_lt HB1.out.2.1)).trans HB1.out.2.1, HB1.out.2.2, by rw [← hW2, ← hq1, heap_al, if_pos rfl], by rw [← hq1]; exact HB1.out.1.size⟩
  try rw [hW2]
  try rw [hq1]
  clear hW2 hq1 b2 HB1 x0 x1 x2 x3 x4 x5 x6 x7 x8 x9 x10 x11 x12
  obtain ⟨x0, x1, x2, x3, x4, x5, x6, x7, x8, x9, x10, x11, x12⟩ := cells60 HB2.out.2.1
  simp only [sv] at x6 x9
  clear x0 x1 x2 x3 x4 x5 x7 x8 x10 x11 x12 x9
  go_wp2_with fail
  go_at_call 48
  refine (HLq.out W2 HB2.out.1).mono ?_
  rintro e V2 ⟨qv, qc, rfl, hLq, hnq, bV2⟩
  obtain ⟨N, hN⟩ : ∃ N, Q.length = N := ⟨_, rfl⟩
  have HNq : Hid (Q.length = N) := hN
  rw [hN]
  have hK2 := (bV2.block _ (heap_lt HB2.out.2.2.2.1)).trans HB2.out.2.2.2.1
  have p4 := cell_blk hK2 4
  have f4 := frozen_blk hK2 4
  simp only [List.getElem?_toArray, List.getElem?_cons_succ, List.getElem?_cons_zero] at p4
  obtain ⟨V3, hV3⟩ : ∃ V, V2.setCell ⟨q1, 4, none⟩ (.slice qv N qc) = V := ⟨_, rfl⟩
  have HB3 : Hid (Below W.heap.size W V3 ∧ V3.heap[o0]? = some (.cells (opv (⟨kd, tw, ⟨m, s, a, p, (y1, y2, y3), qb⟩, rn, (r1, r2, r3), rb, st, tk, Q, fr⟩ : Os)) 60 (0, 0)) ∧ W.heap.size ≤ o0 ∧ V3.heap[q1]? = some (.cells #[.string m, .string s, .string a, .string p, .slice qv N qc, .string qb] 24 (0, 0)) ∧ R EFd V3 (.slice qv (Q.length + 1) qc) (Q ++ [mk]) ∧ (∀ k, (Value.slice qv (Q.length + 1) qc).ownBlock = some k → W.heap.size ≤ k)) := by
    have hbb : Below W.heap.size W V2 := HB2.out.1.trans (bV2.mono HB2.out.1.size)
    refine ⟨by rw [← hV3]; exact hbb.setCell (p := ⟨q1, 4, none⟩) HB2.out.2.2.2.2 _, ?_, HB2.out.2.2.1, by rw [← hV3, setCell_block _ _ _ _ _ _ _ hK2]; rfl, hLq.stays fun k hk _ => ?_, fun k hk => Nat.le_trans HB2.out.1.size (hnq k hk)⟩
    · have h1 := (bV2.block _ (heap_lt HB2.out.2.1)).trans HB2.out.2.1
      rw [← hV3]
      exact (setCell_other _ _ _ _ _ (ty_ne h1 hK2 (by decide))).trans h1
    · obtain ⟨cc, hc⟩ := hLq.ty k hk
      rw [← hV3]
      exact setCell_other _ _ _ _ _ (ty_ne hc hK2 (show (51 : TypeId) ≠ 24 by decide))
  clear hLq hnq bV2 hK2 HLq HB2 x6 hN
  go_upto_region 3 with fail
  try rw [hV3]
  clear hV3 p4 f4
  obtain ⟨x0, x1, x2, x3, x4, x5, x6, x7, x8, x9, x10, x11, x12⟩ := cells60 HB3.out.2.1
  simp only [sv] at x6 x9
  go_upto_region 4 with fail
  obtain ⟨r1', hr1⟩ : ∃ k, V3.heap.size = k := ⟨_, rfl⟩
  obtain ⟨W4, hW4⟩ : ∃ V, V3.alloc (.cells #[.int .i64 rn, .slice r1 r2 r3, .string rb] 26) = V := ⟨_, rfl⟩
  have b4 : Below V3.heap.size V3 W4 := by rw [← hW4]; exact bel1 _ _
  have HB4 : Hid (Below W.heap.size W W4 ∧ W4.heap[o0]? = some (.cells (opv (⟨kd, tw, ⟨m, s, a, p, (y1, y2, y3), qb⟩, rn, (r1, r2, r3), rb, st, tk, Q, fr⟩ : Os)) 60 (0, 0)) ∧ W4.heap[q1]? = some (.cells #[.string m, .string s, .string a, .string p, .slice qv N qc, .string qb] 24 (0, 0)) ∧ R EFd W4 (.slice qv (Q.length + 1) qc) (Q ++ [mk]) ∧ (∀ k, (Value.slice qv (Q.length + 1) qc).ownBlock = some k → W.heap.size ≤ k) ∧ W4.heap[r1']? = some (.cells #[.int .i64 rn, .slice r1 r2 r3, .string rb] 26 (0, 0)) ∧ W.heap.size ≤ r1') := ⟨HB3.out.1.trans (b4.mono HB3.out.1.size), (b4.block _ (heap_lt HB3.out.2.1)).trans HB3.out.2.1, (b4.block _ (heap_lt HB3.out.2.2.2.1)).trans HB3.out.2.2.2.1, HB3.out.2.2.2.2.1.below b4, HB3.out.2.2.2.2.2, by rw [← hW4, ← hr1, heap_al, if_pos rfl], by rw [← hr1]; exact HB3.out.1.size⟩
  try rw [hW4]
  try rw [hr1]
  clear hW4 hr1 b4 HB3 x0 x1 x2 x3 x4 x5 x6 x7 x8 x9 x10 x11 x12
  obtain ⟨x0, x1, x2, x3, x4, x5, x6, x7, x8, x9, x10, x11, x12⟩ := cells60 HB4.out.2.1
  simp only [sv] at x6 x9
  clear x0 x1 x2 x3 x4 x5 x6 x7 x8 x10 x11 x12
  go_wp2_with fail
  go_at_call 48
  refine (HLr.out W4 HB4.out.1).mono ?_
  rintro e V4 ⟨rv, rc, rfl, hLr, hnr, bV4⟩
  obtain ⟨N2, hN2⟩ : ∃ N, fr.length = N := ⟨_, rfl⟩
  have HNr : Hid (fr.length = N2) := hN2
  rw [hN2]
  have hK4 := (bV4.block _ (heap_lt HB4.out.2.2.2.2.2.1)).trans HB4.out.2.2.2.2.2.1
  have p1 := cell_blk hK4 1
  have f1 := frozen_blk hK4 1
  simp only [List.getElem?_toArray, List.getElem?_cons_succ, List.getElem?_cons_zero] at p1
  obtain ⟨V5, hV5⟩ : ∃ V, V4.setCell ⟨r1', 1, none⟩ (.slice rv N2 rc) = V := ⟨_, rfl⟩
  have HB5 : Hid (Below W.heap.size W V5 ∧ Sx W V5 o0 q1 r1' (⟨kd, tw, ⟨m, s, a, p, (y1, y2, y3), qb⟩, rn, (r1, r2, r3), rb, st, tk, Q, fr⟩ : Os) mk qv qc rv rc) := by
    have hbb : Below W.heap.size W V4 := HB4.out.1.trans (bV4.mono HB4.out.1.size)
    have hoth : ∀ (k : Nat) (cc : Array Value) (t : TypeId) (fz : Nat × Nat), V4.heap[k]? = some (.cells cc t fz) → t ≠ 26 → V5.heap[k]? = some (.cells cc t fz) := fun k cc t fz hk ht => by
      rw [← hV5]
      exact (setCell_other _ _ _ _ _ (ty_ne hk hK4 ht)).trans hk
    have hrow : ∀ (v : Value) (l : List Fd), R EFd V4 v l → R EFd V5 v l := fun v l hv => hv.stays fun k hk _ => by
      obtain ⟨cc, hc⟩ := hv.ty k hk
      exact (hoth _ _ _ _ hc (show (51 : TypeId) ≠ 26 by decide)).trans hc.symm
    refine ⟨by rw [← hV5]; exact hbb.setCell (p := ⟨r1', 1, none⟩) HB4.out.2.2.2.2.2.2 _, ⟨hoth _ _ _ _ ((bV4.block _ (heap_lt HB4.out.2.1)).trans HB4.out.2.1) (by decide), ?_, ?_, hrow _ _ (HB4.out.2.2.2.1.below bV4), hrow _ _ hLr, HB4.out.2.2.2.2.1, fun k hk => Nat.le_trans HB4.out.1.size (hnr k hk), fun k hk hk' => by have h1 := HB4.out.2.2.2.1.lt k hk'; have h2 := hnr k hk; omega⟩⟩
    · have h1 := hoth _ _ _ _ ((bV4.block _ (heap_lt HB4.out.2.2.1)).trans HB4.out.2.2.1) (by decide)
      rw [h1]
      simp only [rqv, sv]
      rw [HNq.out]
    · rw [← hV5, setCell_block _ _ _ _ _ _ _ hK4]
      simp only [rsv]
      rw [hN2]
      rfl
  clear hLr hnr bV4 hK4 HLr HB4 x9 hN2
  go_upto_region 5 with fail
  try rw [hV5]
  clear hV5 p1 f1
  have hP5 := HP.out.below HB5.out.1
  have hw5 : w0.heap.size ≤ V5.heap.size := Nat.le_trans HB0.out.size HB5.out.1.size
  have HSt : Hid (Calls Tryd.prog 11 #[.pointer (some ⟨g, 0, none⟩), .agg #[.string m, .string s, .string a, .string p, .slice qv N qc, .string qb], .agg #[.int .i64 rn, .slice rv N2 rc, .string rb], .int .i64 st, .int .i64 tk] V5 fun r w' => ∃ (gs y' : SV) (L' : List En), r = .returned (.tuple #[.bool (!noB (hr c tk) rb fr), sv gs]) ∧ Ks (Ow g y) V5 w' ∧ (∀ k, (sv gs).ownBlock = some k → V5.heap.size ≤ k) ∧ Ph w0 w' g (hr c tk) y' L' b c.me c.mb c.lf pd z B c.ck ∧ (∀ k, Cb g y' L' k → Cb g y L k ∨ V5.heap.size ≤ k) ∧
      (noB (hr c tk) rb fr = true → L' = L.dropWhile (exB (hr c tk)) ∧ R EI w' (sv gs) ((L.takeWhile (exB (hr c tk))).map (·.st))) ∧
      (noB (hr c tk) rb fr = false → R EI w' (sv gs) ((L.takeWhile (exB (hr c tk))).map (·.st) ++ (evD (hr c tk) (rb.size + szL fr) (L.dropWhile (exB (hr c tk)))).map (·.st)) ∧ ∃ e, L' = evL (hr c tk) (rb.size + szL fr) (L.dropWhile (exB (hr c tk))) ++ [e] ∧ ∀ yq yr : SV, Ee e ⟨m, s, a, p, (qv, N, qc), qb⟩ Q rn rb fr st (hr c tk).ck)) := by
    have hz := HOi.out.az
    exact hP5.store hw5 ⟨m, s, a, p, (qv, N, qc), qb⟩ Q rn (rv, N2, rc) rb fr st tk HOi.out.tk (fun V hV => by
      have := (HB5.out.2.cop hP5.ph.cx hV).fq.isIn
      rw [show ((⟨kd, tw, ⟨m, s, a, p, (y1, y2, y3), qb⟩, rn, (r1, r2, r3), rb, st, tk, Q, fr⟩ : Os)).Q.length = N from HNq.out] at this
      exact this) (fun V hV => by
      have := (HB5.out.2.cop hP5.ph.cx hV).fr.isIn
      rw [show ((⟨kd, tw, ⟨m, s, a, p, (y1, y2, y3), qb⟩, rn, (r1, r2, r3), rb, st, tk, Q, fr⟩ : Os)).fr.length = N2 from HNr.out] at this
      exact this) ⟨hz.zq, hz.zQ, hz.zQf, hz.zb, hz.zR, hz.zRf, hz.zS, hz.zN⟩
  have hbq := HB5.out.2.bq
  have hbr := HB5.out.2.br
  simp only [rqv, rsv, sv] at hbq hbr
  rw [HNq.out] at hbq
  rw [HNr.out] at hbr
  have z0 := cell_blk hbq 0
  have z1 := cell_blk hbq 1
  have z2 := cell_blk hbq 2
  have z3 := cell_blk hbq 3
  have z4 := cell_blk hbq 4
  have z5 := cell_blk hbq 5
  have t0 := cell_blk hbr 0
  have t1 := cell_blk hbr 1
  have t2 := cell_blk hbr 2
  simp only [List.getElem?_toArray, List.getElem?_cons_succ, List.getElem?_cons_zero] at z0 z1 z2 z3 z4 z5 t0 t1 t2
  obtain ⟨x0, x1, x2, x3, x4, x5, x6, x7, x8, x9, x10, x11, x12⟩ := cells60 HB5.out.2.bo
  clear x0 x1 x2 x3 x4 x5 x6 x7 x8 x9 x10 hbq hbr hP5 hw5
  go_wp2_with fail
  go_at_call 11
  refine HSt.out.mono ?_
  rintro e V6 ⟨⟨g1, g2, g3⟩, y', L', rfl, hK6, hg6, hPh6, hCb6, hno6, hye6⟩
  have hOw : ∀ k, Ow g y k → w0.heap.size ≤ k := fun k hk => HP.out.ph.lo k (.inl (.inl hk))
  have hbw : w0.heap.size ≤ b := HP.out.ph.lo b (.inr (.inl rfl))
  have hB6 : Below w0.heap.size w0 V6 := (HW0.out V5 HB5.out.1).trans (hK6.below (HW0.out V5 HB5.out.1).size fun i hi ho => by have := hOw i ho; omega)
  have HS6 : Hid (Sx W V6 o0 q1 r1' (⟨kd, tw, ⟨m, s, a, p, (y1, y2, y3), qb⟩, rn, (r1, r2, r3), rb, st, tk, Q, fr⟩ : Os) mk qv qc rv rc) := HB5.out.2.cop (HP.out.below HB5.out.1).ph.cx hK6
  have HK6 : Hid (Ks (Ow g y) V5 V6 ∧ (∀ k, Cb g y' L' k → Cb g y L k ∨ V5.heap.size ≤ k) ∧ (∀ k, (Value.slice g1 g2 g3).ownBlock = some k → V5.heap.size ≤ k) ∧ V5.heap.size ≤ V6.heap.size) := ⟨hK6, hCb6, hg6, hK6.size⟩
  obtain ⟨nb, hnb⟩ : ∃ x, noB (hr c tk) rb fr = x := ⟨_, rfl⟩
  have HD6 : Hid (∃ Dl, R EI V6 (.slice g1 g2 g3) Dl ∧ (nb = true → Dl = (L.takeWhile (exB (hr c tk))).map (·.st)) ∧ (nb = false → Dl = (L.takeWhile (exB (hr c tk))).map (·.st) ++ (evD (hr c tk) (rb.size + szL fr) (L.dropWhile (exB (hr c tk)))).map (·.st))) := by
    cases nb
    · exact ⟨_, (hye6 hnb).1, (fun e => by cases e), fun _ => rfl⟩
    · exact ⟨_, (hno6 hnb).2, (fun _ => rfl), fun e => by cases e⟩
  have HRs : Hid (Calls Tryd.prog 72 #[.pointer (some ⟨b, 0, none⟩), .agg #[.string m, .string s, .string a, .string p, .slice y1 y2 y3, .string qb], .agg #[.int .i64 rn, .slice r1 r2 r3, .string rb], .int .i64 st, .int .i64 tk] V6 fun r w' => ∃ (gs z' : SV) (B' : List Kn), r = .returned (.tuple #[.bool (!noB (hr c tk) rb fr), sv gs]) ∧ Ks (fun k => k = b) V6 w' ∧ Pq w0 w' g (hr c tk) y' L' b pd z' B' ∧ (∀ k, Rb b z' B' k → Rb b z B k ∨ V6.heap.size ≤ k) ∧
      (noB (hr c tk) rb fr = true → R EI w' (sv gs) ((L.takeWhile (exB (hr c tk))).map (·.st))) ∧
      (noB (hr c tk) rb fr = false → R EI w' (sv gs) ((L.takeWhile (exB (hr c tk))).map (·.st) ++ (evD (hr c tk) (rb.size + szL fr) (L.dropWhile (exB (hr c tk)))).map (·.st)))) := by
    have hbel : ∀ V, Ks (fun k => k = b) V6 V → Below w0.heap.size w0 V := fun V hV => hB6.trans (hV.below hB6.size fun i hi e => by omega)
    exact HP.out.rstore hB6.size ⟨m, s, a, p, (y1, y2, y3), qb⟩ ⟨m, s, a, p, (qv, N, qc), qb⟩ rfl Q rn (r1, r2, r3) rb fr st tk HOi.out.tk (fun V hV => HOi.out.iq.below (hbel V hV)) (fun V hV => HOi.out.ir.below (hbel V hV)) HOi.out.az HZv.out hPh6 (fun e => (hno6 e).1) (fun e => by obtain ⟨_, e', h1, h2⟩ := hye6 e; exact ⟨e', h1, h2 y y⟩)
  have HRc6 : Hid (Rc V6 b c.me c.mb c.lf pd z B c.ck ∧ Below w0.heap.size w0 V6 ∧ w0.heap.size ≤ b) := ⟨hPh6.rc, hB6, hbw⟩
  rw [hnb] at HRs ⊢
  have HNb : Hid (noB (hr c tk) rb fr = nb) := hnb
  obtain ⟨x0, x1, x2, x3, x4, x5, x6, x7, x8, x9, x10, x11, x12⟩ := cells60 HS6.out.bo
  simp only [sv] at x6 x9 ⊢
  clear x0 x1 hK6 hg6 hPh6 hCb6 hno6 hye6 HSt hOw hbw hB6 hnb z0 z1 z2 z3 z4 z5 t0 t1 t2
  go_wp2_with fail
  go_at_call 72
  refine HRs.out.mono ?_
  rintro e V7 ⟨⟨h1, h2, h3⟩, z', B', rfl, hK7, hP7, hRb7, hn7, hy7⟩
  obtain ⟨Dl, hD1, hD2, hD3⟩ := HD6.out
  have hg7 : R EI V7 (.slice g1 g2 g3) Dl := hD1.stays fun k hk hl => by
    obtain ⟨cc, hc⟩ := hD1.ty k hk
    exact hK7.block k hl (ty_ne hc HRc6.out.1.blk (show (2 : TypeId) ≠ 100 by decide))
  have hh7 : R EI V7 (.slice h1 h2 h3) Dl := by
    cases nb
    · rw [hD3 rfl]; exact hy7 rfl
    · rw [hD2 rfl]; exact hn7 rfl
  have HS7 : Hid (Sx W V7 o0 q1 r1' (⟨kd, tw, ⟨m, s, a, p, (y1, y2, y3), qb⟩, rn, (r1, r2, r3), rb, st, tk, Q, fr⟩ : Os) mk qv qc rv rc) := HS6.out.rop HRc6.out.1 hK7
  have HB7 : Hid (Below w0.heap.size w0 V7) := HRc6.out.2.1.trans (hK7.below HRc6.out.2.1.size fun i hi e => by have := HRc6.out.2.2; omega)
  have HP7 : Hid (Pq w0 V7 g (hr c tk) y' L' b pd z' B' ∧ Ks (fun k => k = b) V6 V7 ∧ (∀ k, Rb b z' B' k → Rb b z B k ∨ V6.heap.size ≤ k)) := ⟨hP7, hK7, hRb7⟩
  have HSi : Hid (Calls Tryd.prog 16 #[.slice g1 g2 g3, .slice h1 h2 h3] V7 fun e w' => e = .returned (.bool true) ∧ Below V7.heap.size V7 w') := sameInts_eq (g1, g2, g3) (h1, h2, h3) Dl V7 hg7.isIn hh7.isIn
  have HKp : Hid (∀ V, Below V7.heap.size V7 V → Calls Tryd.prog 53 #[.slice qv N qc, .slice y1 y2 y3] V fun e w' => e = .returned (.bool true) ∧ Below V.heap.size V w') := fun V hV => by
    have h1 := (HS7.out.below hV).lq
    rw [show ((⟨kd, tw, ⟨m, s, a, p, (y1, y2, y3), qb⟩, rn, (r1, r2, r3), rb, st, tk, Q, fr⟩ : Os)).Q.length = N from HNq.out] at h1
    exact kept_any qv N qc (y1, y2, y3) Q mk mt V HNq.out h1 (HOi.out.iq.below (HB7.out.trans (hV.mono HB7.out.size))) HOi.out.az.zQ (((HB7.out.trans (hV.mono HB7.out.size)).block 0 (heap_lt HM.out)).trans HM.out)
  have HKr : Hid (∀ V, Below V7.heap.size V7 V → Calls Tryd.prog 53 #[.slice rv N2 rc, .slice r1 r2 r3] V fun e w' => e = .returned (.bool true) ∧ Below V.heap.size V w') := fun V hV => by
    have h1 := (HS7.out.below hV).lr
    rw [show ((⟨kd, tw, ⟨m, s, a, p, (y1, y2, y3), qb⟩, rn, (r1, r2, r3), rb, st, tk, Q, fr⟩ : Os)).fr.length = N2 from HNr.out] at h1
    exact kept_any rv N2 rc (r1, r2, r3) fr mk mt V HNr.out h1 (HOi.out.ir.below (HB7.out.trans (hV.mono HB7.out.size))) HOi.out.az.zR (((HB7.out.trans (hV.mono HB7.out.size)).block 0 (heap_lt HM.out)).trans HM.out)
  have HSc : Hid (∀ V, Below V7.heap.size V7 V → (V.cell? ⟨q1, 4, none⟩ = some (.slice qv N qc) ∧ V.cell? ⟨r1', 1, none⟩ = some (.slice rv N2 rc)) ∧ V.cell? ⟨o0, 6, none⟩ = some (.slice y1 y2 y3) ∧ V.cell? ⟨o0, 9, none⟩ = some (.slice r1 r2 r3)) := fun V hV => by
    have h1 := HS7.out.below hV
    have h2 := cell_blk h1.bq 4
    have h3 := cell_blk h1.br 1
    have h4 := cells60 h1.bo
    simp only [rqv, rsv, sv, List.getElem?_toArray, List.getElem?_cons_succ, List.getElem?_cons_zero] at h2 h3
    rw [HNq.out] at h2
    rw [HNr.out] at h3
    exact ⟨⟨h2, h3⟩, h4.2.2.2.2.2.2.1, h4.2.2.2.2.2.2.2.2.2.1⟩
  obtain ⟨⟨u1, u2⟩, u3, u4⟩ := HSc.out V7 (Below.refl _ _)
  have hbb : ((!nb) != (!nb)) = false := by cases nb <;> rfl
  simp only [sv]
  clear hK7 hP7 hRb7 hn7 hy7 hD1 hD2 hD3 hg7 hh7 HD6 HRs x2 x3 x4 x5 x6 x7 x8 x9 x10 x11 x12
  go_wp2_with fail
  go_at_call 16
  refine HSi.out.mono ?_
  rintro e V8 ⟨rfl, b8⟩
  have HB8 : Hid (Below V7.heap.size V7 V8) := b8
  clear u1 u2 u3 u4
  obtain ⟨⟨u1, u2⟩, u3, u4⟩ := HSc.out V8 b8
  clear b8 HSi
  go_wp2_with fail
  go_at_call 53
  refine (HKp.out V8 HB8.out).mono ?_
  rintro e V9 ⟨rfl, b9⟩
  have HB9 : Hid (Below V7.heap.size V7 V9) := HB8.out.trans (b9.mono HB8.out.size)
  clear u1 u2 u3 u4
  obtain ⟨⟨u1, u2⟩, u3, u4⟩ := HSc.out V9 HB9.out
  clear b9 HKp HB8
  go_wp2_with fail
  go_at_call 53
  refine (HKr.out V9 HB9.out).mono ?_
  rintro e V10 ⟨rfl, b10⟩
  have HB10 : Hid (Below V7.heap.size V7 V10) := HB9.out.trans (b10.mono HB9.out.size)
  clear u1 u2 u3 u4
  obtain ⟨⟨u1, u2⟩, u3, u4⟩ := HSc.out V10 HB10.out
  clear b10 HKr HB9
  have HS10 : Hid (Sx W V10 o0 q1 r1' (⟨kd, tw, ⟨m, s, a, p, (y1, y2, y3), qb⟩, rn, (r1, r2, r3), rb, st, tk, Q, fr⟩ : Os) mk qv qc rv rc) := HS7.out.below HB10.out
  have hfq := HS10.out.fq
  have hfr := HS10.out.fr
  rw [show ((⟨kd, tw, ⟨m, s, a, p, (y1, y2, y3), qb⟩, rn, (r1, r2, r3), rb, st, tk, Q, fr⟩ : Os)).Q.length = N from HNq.out] at hfq
  rw [show ((⟨kd, tw, ⟨m, s, a, p, (y1, y2, y3), qb⟩, rn, (r1, r2, r3), rb, st, tk, Q, fr⟩ : Os)).fr.length = N2 from HNr.out] at hfr
  have HOv : Hid (Calls Tryd.prog 17 #[.slice qv N qc] V10 fun e w' => e = .returned (.tuple #[]) ∧ R EFd w' (.slice qv N qc) (List.replicate Q.length ovF) ∧ Ks (fun k => (Value.slice qv N qc).ownBlock = some k) V10 w') := over_any V10 (qv, N, qc) Q hfq
  have HFr : Hid (R EFd V10 (.slice rv N2 rc) fr) := hfr
  have hnq := HS10.out.nq
  have hnr := HS10.out.nr
  have HNn : Hid ((∀ k, (Value.slice qv N qc).ownBlock = some k → W.heap.size ≤ k ∧ k < V5.heap.size) ∧ (∀ k, (Value.slice rv N2 rc).ownBlock = some k → W.heap.size ≤ k ∧ k < V5.heap.size)) := by
    have e1 : ∀ (v : Option Addr) (i j cc : Nat), (Value.slice v i cc).ownBlock = (Value.slice v j cc).ownBlock := fun v i j cc => by cases v <;> rfl
    refine ⟨fun k hk => ⟨hnq k (by rw [e1 _ _ N]; exact hk), HB5.out.2.lq.lt k (by rw [e1 _ _ N]; exact hk)⟩, fun k hk => ⟨hnr k (by rw [e1 _ _ N2]; exact hk), HB5.out.2.lr.lt k (by rw [e1 _ _ N2]; exact hk)⟩⟩
  clear hfq hfr hnq hnr
  go_wp2_with fail
  go_at_call 17
  refine HOv.out.mono ?_
  rintro e V11 ⟨rfl, _, hK11⟩
  have hqr : ∀ k, (Value.slice rv N2 rc).ownBlock = some k → ¬ (Value.slice qv N qc).ownBlock = some k := fun k hk hk' => by
    have e1 : ∀ (v : Option Addr) (i j cc : Nat), (Value.slice v i cc).ownBlock = (Value.slice v j cc).ownBlock := fun v i j cc => by cases v <;> rfl
    exact HS10.out.ap k (by rw [e1 _ _ N2]; exact hk) (by rw [e1 _ _ N]; exact hk')
  have hF11 : R EFd V11 (.slice rv N2 rc) fr := HFr.out.stays fun k hk hl => hK11.block k hl (hqr k hk)
  have HOr : Hid (Calls Tryd.prog 17 #[.slice rv N2 rc] V11 fun e w' => e = .returned (.tuple #[]) ∧ R EFd w' (.slice rv N2 rc) (List.replicate fr.length ovF) ∧ Ks (fun k => (Value.slice rv N2 rc).ownBlock = some k) V11 w') := over_any V11 (rv, N2, rc) fr hF11
  have v2 : V11.cell? ⟨r1', 1, none⟩ = some (.slice rv N2 rc) := by
    have h1 := HS10.out.br
    have h2 : V11.heap[r1']? = V10.heap[r1']? := hK11.block _ (heap_lt h1) fun e => by
      have h3 := HS10.out.fq
      rw [show ((⟨kd, tw, ⟨m, s, a, p, (y1, y2, y3), qb⟩, rn, (r1, r2, r3), rb, st, tk, Q, fr⟩ : Os)).Q.length = N from HNq.out] at h3
      obtain ⟨cc, hc⟩ := h3.ty _ e
      exact ty_ne hc h1 (show (51 : TypeId) ≠ 26 by decide) rfl
    exact (cell_eq h2).trans u2
  have HK11 : Hid (Ks (fun k => (Value.slice qv N qc).ownBlock = some k) V10 V11) := hK11
  clear hK11 hqr hF11 HOv HFr u1 u2 u3 u4
  go_wp2_with fail
  go_at_call 17
  refine HOr.out.mono ?_
  rintro e V12 ⟨rfl, _, hK12⟩
  have hoff : ∀ k, (Cb g y' L' k ∨ Rb b z' B' k) → (Value.slice qv N qc).ownBlock ≠ some k ∧ (Value.slice rv N2 rc).ownBlock ≠ some k := fun k hk => by
    have h5 : k < W.heap.size ∨ V5.heap.size ≤ k := by
      rcases hk with hk | hk
      · exact (HK6.out.2.1 k hk).imp (fun e => HP.out.ph.lt (.inl e)) id
      · exact (HP7.out.2.2 k hk).imp (fun e => HP.out.ph.lt (.inr e)) (fun e => Nat.le_trans HK6.out.2.2.2 e)
    exact ⟨fun e => by have := HNn.out.1 k e; omega, fun e => by have := HNn.out.2 k e; omega⟩
  have HE : Hid (Pq w0 V12 g (hr c tk) y' L' b pd z' B' ∧ Ks (fun k => Ow g y k ∨ k = b) W V12 ∧ (∀ k, Cb g y' L' k → Cb g y L k ∨ W.heap.size ≤ k) ∧ (∀ k, Rb b z' B' k → Rb b z B k ∨ W.heap.size ≤ k)) := by
    have hs1 := HB5.out.1.size
    have hP10 := HP7.out.1.below HB10.out
    refine ⟨(hP10.keep (W' := V11) fun k hk hl => HK11.out.block k hl (hoff k hk).1).keep fun k hk hl => hK12.block k hl (hoff k hk).2, ?_, fun k hk => (HK6.out.2.1 k hk).imp id fun e => Nat.le_trans hs1 e, fun k hk => (HP7.out.2.2 k hk).imp id fun e => Nat.le_trans hs1 (Nat.le_trans HK6.out.2.2.2 e)⟩
    have k1 : Ks (Ow g y) W V6 := (Ks.of_below HB5.out.1 (A := fun _ => False)).trans HK6.out.1 (fun i _ hi => hi.elim) (fun i _ hi => hi)
    have k2 : Ks (fun k => Ow g y k ∨ k = b) W V7 := k1.trans HP7.out.2.1 (fun i _ hi => .inl hi) (fun i _ hi => .inr hi)
    have k3 := k2.bel HB10.out
    have k4 : Ks (fun k => Ow g y k ∨ k = b) W V11 := k3.trans HK11.out (fun i _ hi => hi) (fun i hi e => by have := HNn.out.1 i e; omega)
    exact k4.trans hK12 (fun i _ hi => hi) (fun i hi e => by have := HNn.out.2 i e; omega)
  clear hK12 hoff HOr
  go_wp2_with fail
  go_ret
  exact ⟨rfl, y', L', z', B', HE.out⟩
end Go.Proofs.YtfponcdhaefkdaaDoor
