/- CacheApart. -/
import Derived.Test.YtfponcdhaefkdaaDoorF3
import Derived.Test.YtfponcdhaefkdaaDoorD5
namespace Go.Proofs.YtfponcdhaefkdaaDoor
open Go.RowKit
set_option linter.unusedVariables false
set_option linter.unusedSimpArgs false
/-- ahead of the first Store -/
structure P1 (w W : World) (gx gy q0 r0 : Nat) (q : Rq) (n : Int) (ry : SV) (b : ByteArray) : Prop where
  bel : Below w.heap.size w W
  x : W.heap[gx]? = some (.cells #[.int .i64 3, .int .i64 1099511627776, .int .i64 5, .int .i64 0, .slice none 0 0] 83 (0, 0))
  y : W.heap[gy]? = some (.cells #[.int .i64 3, .int .i64 1099511627776, .int .i64 5, .int .i64 0, .slice none 0 0] 83 (0, 0))
  bq : RqB W q0 q
  br : W.heap[r0]? = some (.cells (rsv n (sv ry) b) 26 (0, 0))
  ne : gx ≠ gy ∧ w.heap.size ≤ gx ∧ w.heap.size ≤ gy ∧ w.heap.size ≤ q0 ∧ w.heap.size ≤ r0
theorem P1.below {w W W' : World} {gx gy q0 r0 : Nat} {q : Rq} {n : Int} {ry : SV} {b : ByteArray} (h : P1 w W gx gy q0 r0 q n ry b) (hb : Below W.heap.size W W') : P1 w W' gx gy q0 r0 q n ry b :=
  ⟨h.bel.trans (hb.mono h.bel.size), (hb.block _ (heap_lt h.x)).trans h.x, (hb.block _ (heap_lt h.y)).trans h.y, h.bq.below hb, (hb.block _ (heap_lt h.br)).trans h.br, h.ne⟩
theorem cb_new {g k : Nat} (h : Cb g (none, 0, 0) [] k) : k = g := by
  rcases h with (h | h) | ⟨e, he, _⟩
  · exact h
  · simp [sv, Value.ownBlock] at h
  · simp at he
theorem P1.aw {w W : World} {gx gy q0 r0 : Nat} {q : Rq} {n : Int} {ry : SV} {b : ByteArray} (h : P1 w W gx gy q0 r0 q n ry b) : Aw w W gx ⟨3, 1099511627776, 5, 0⟩ (none, 0, 0) [] gy ⟨3, 1099511627776, 5, 0⟩ (none, 0, 0) [] [(q0, rqv q, 24), (r0, rsv n (sv ry) b, 26)] [] :=
  ⟨Cx.new h.x ⟨by decide, by decide⟩ ⟨by decide, by decide⟩ ⟨by decide, by decide⟩, Cx.new h.y ⟨by decide, by decide⟩ ⟨by decide, by decide⟩ ⟨by decide, by decide⟩, fun k hk hk' => h.ne.1 ((cb_new hk).symm.trans (cb_new hk')), h.bel, fun k hk => by rw [cb_new hk]; exact h.ne.2.1, fun k hk => by rw [cb_new hk]; exact h.ne.2.2.1, fun p hp => by
    simp only [List.mem_cons, List.not_mem_nil, or_false] at hp
    rcases hp with rfl | rfl
    · exact ⟨⟨show (24 : TypeId) ≠ 83 by decide, show (24 : TypeId) ≠ 87 by decide, show (24 : TypeId) ≠ 51 by decide⟩, h.bq⟩
    · exact ⟨⟨show (26 : TypeId) ≠ 83 by decide, show (26 : TypeId) ≠ 87 by decide, show (26 : TypeId) ≠ 51 by decide⟩, h.br⟩, fun p hp => by simp at hp, List.Pairwise.nil⟩
set_option maxHeartbeats 40000000 in
set_option maxRecDepth 100000 in
theorem cacheApart_any (q : Rq) (Q : List Fd) (n : Int) (ry : SV) (b : ByteArray) (fr : List Fd) (mn mv : ByteArray) (mb : Bool) (mt : TypeId) (w : World) (hQ : In EFd w (sv q.y) Q) (hR : In EFd w (sv ry) fr) (hz : Az q Q b fr) (hzz : b.size + szL fr ≤ 1073741824) (hM : w.heap[0]? = some (.cells #[.string mn, .string mv, .bool mb] mt (0, 0))) :
    Calls Tryd.prog 4 #[.agg (rqv q), .agg (rsv n (sv ry) b)] w fun e w' => e = .returned (.bool true) ∧ Below w.heap.size w w' := by
  obtain ⟨m, s, a, p, ⟨q1, q2, q3⟩, b0⟩ := q
  obtain ⟨r1, r2, r3⟩ := ry
  obtain ⟨z, hzd⟩ : ∃ z, b.size + szL fr = z := ⟨_, rfl⟩
  have HZd : Hid (b.size + szL fr = z ∧ z ≤ 1073741824) := ⟨hzd, by omega⟩
  have HZ : Hid (∀ y b', Az ⟨m, s, a, p, y, b'⟩ Q b fr) := fun y b' => ⟨hz.zq, hz.zQ, hz.zQf, hz.zb, hz.zR, hz.zRf, hz.zS, hz.zN⟩
  have HAq : Hid (∀ V, Below w.heap.size w V → In EFd V (.slice q1 q2 q3) Q) := fun V hV => hQ.below hV
  have HAr : Hid (∀ V, Below w.heap.size w V → In EFd V (.slice r1 r2 r3) fr) := fun V hV => hR.below hV
  have HMk : Hid (∀ V, Below w.heap.size w V → V.heap[0]? = some (.cells #[.string mn, .string mv, .bool mb] mt (0, 0))) := fun V hV => (hV.block 0 (heap_lt hM)).trans hM
  have hq2 : q2 = Q.length := by obtain ⟨_, _, e, _⟩ := hQ.slice; simp only [sv] at e; injection e
  have hr2 : r2 = fr.length := by obtain ⟨_, _, e, _⟩ := hR.slice; simp only [sv] at e; injection e
  have HLn : Hid (q2 = Q.length ∧ r2 = fr.length) := ⟨hq2, hr2⟩
  obtain ⟨W0, hW0⟩ : ∃ W, (w.alloc (.cells #[.string m, .string s, .string a, .string p, .slice q1 q2 q3, .string b0] 24)).alloc (.cells #[.int .i64 n, .slice r1 r2 r3, .string b] 26) = W := ⟨_, rfl⟩
  obtain ⟨q0, hq0⟩ : ∃ k, w.heap.size = k := ⟨_, rfl⟩
  obtain ⟨r0, hr0⟩ : ∃ k, q0 + 1 = k := ⟨_, rfl⟩
  have HB0 : Hid (Below w.heap.size w W0) := by rw [← hW0]; exact bel2 _ _ _
  have hbq : W0.heap[q0]? = some (.cells #[.string m, .string s, .string a, .string p, .slice q1 q2 q3, .string b0] 24 (0, 0)) := by rw [← hW0, ← hq0, heap_al, if_neg (by simp), heap_al, if_pos rfl]
  have hbr : W0.heap[r0]? = some (.cells #[.int .i64 n, .slice r1 r2 r3, .string b] 26 (0, 0)) := by rw [← hW0, ← hr0, ← hq0]; exact fresh2 _ _ _
  have HBq : Hid (W0.heap[q0]? = some (.cells #[.string m, .string s, .string a, .string p, .slice q1 q2 q3, .string b0] 24 (0, 0)) ∧ W0.heap[r0]? = some (.cells #[.int .i64 n, .slice r1 r2 r3, .string b] 26 (0, 0)) ∧ q0 ≠ r0 ∧ w.heap.size ≤ q0 ∧ w.heap.size ≤ r0) := ⟨hbq, hbr, by omega, by omega, by omega⟩
  have zv : ∀ v ∈ vsL fr varyS, v.size ≤ 140737488355328 := fun v hv => by
    unfold vsL at hv
    obtain ⟨f, hf, e⟩ := List.mem_filterMap.1 hv
    split at e
    · injection e with e; rw [← e]; exact (hz.zRf f hf).2
    · cases e
  have HNm : Hid (∀ V, Below w.heap.size w V → Calls Tryd.prog 7 #[.agg #[.int .i64 n, .slice r1 r2 r3, .string b]] V fun e w' => NmPost (vsL fr varyS) V e w') := fun V hV => names_any n (r1, r2, r3) b fr V (hR.below hV) (by have := hz.zR; omega) zv hz.zN
  have HN : Hid (∀ V, Calls Tryd.prog 8 #[.agg #[.int .i64 3, .int .i64 1099511627776, .int .i64 5, .int .i64 0]] V fun e w' => Below V.heap.size V w' ∧ ∃ g, V.heap.size ≤ g ∧ e = .returned (.tuple #[.pointer (some ⟨g, 0, none⟩), .int .i64 0]) ∧ w'.heap[g]? = some (.cells #[.int .i64 3, .int .i64 1099511627776, .int .i64 5, .int .i64 0, .slice none 0 0] 83 (0, 0))) := fun V => (new_any 3 1099511627776 5 0 V).mono (by
    rintro e w' ⟨hb, h | h⟩
    · have : cfB 3 1099511627776 5 0 = true := by kernel_rfl
      rw [this] at h
      cases h.1
    · exact ⟨hb, h.2⟩)
  unfold rqv rsv
  simp only [sv]
  clear hQ hR hz hzz hM hq2 hr2 hbq hbr zv hzd
  go_enter Tryd.func4, Tryd.ntmps4
  go_upto_region 1 with fail
  try rw [hW0]
  try rw [hq0]
  try rw [hr0]
  clear hW0 hq0 hr0
  go_wp2_with fail
  go_at_call 8
  refine (HN.out _).mono ?_
  rintro e w1 ⟨b1, gx, hgx, rfl, hbx⟩
  have HX1 : Hid (Below W0.heap.size W0 w1 ∧ W0.heap.size ≤ gx ∧ w1.heap[gx]? = some (.cells #[.int .i64 3, .int .i64 1099511627776, .int .i64 5, .int .i64 0, .slice none 0 0] 83 (0, 0))) := ⟨b1, hgx, hbx⟩
  clear b1 hgx hbx
  go_wp2_with fail
  go_at_call 8
  refine (HN.out _).mono ?_
  rintro e w2 ⟨b2, gy, hgy, rfl, hby⟩
  have HX2 : Hid (P1 w w2 gx gy q0 r0 ⟨m, s, a, p, (q1, q2, q3), b0⟩ n (r1, r2, r3) b) := by
    have h1 := HX1.out
    have bb := h1.1.trans (b2.mono h1.1.size)
    have hlt := heap_lt h1.2.2
    exact ⟨HB0.out.trans (bb.mono HB0.out.size), (b2.block gx hlt).trans h1.2.2, hby, (bb.block q0 (heap_lt HBq.out.1)).trans HBq.out.1, (bb.block r0 (heap_lt HBq.out.2.1)).trans HBq.out.2.1, by omega, Nat.le_trans HB0.out.size h1.2.1, Nat.le_trans HB0.out.size (Nat.le_trans h1.1.size hgy), HBq.out.2.2.2.1, HBq.out.2.2.2.2⟩
  clear b2 hgy hby HX1 HN HB0
  go_wp2_with fail
  go_at_call 9
  refine (first_any w2).mono ?_
  rintro e w3 ⟨rfl, b3⟩
  have HX3 : Hid (P1 w w3 gx gy q0 r0 ⟨m, s, a, p, (q1, q2, q3), b0⟩ n (r1, r2, r3) b) := HX2.out.below b3
  clear b3 HX2
  have p0 := cell_blk HX3.out.br 0
  have p1 := cell_blk HX3.out.br 1
  have p2 := cell_blk HX3.out.br 2
  have lr := heap_lt HX3.out.br
  simp only [rsv, List.getElem?_toArray, List.getElem?_cons_succ, List.getElem?_cons_zero, sv] at p0 p1 p2
  go_wp2_with fail
  go_at_call 7
  refine (HNm.out _ HX3.out.bel).mono ?_
  rintro e w4 ⟨⟨n1, n2, n3⟩, rfl, b4, _, _⟩
  obtain ⟨sB, hsB⟩ : ∃ B, decide (0 < cnt (allP (vsL fr varyS)) starS) = B := ⟨_, rfl⟩
  have HsB : Hid (starB fr = sB) := hsB
  rw [hsB]
  have HX4 : Hid (P1 w w4 gx gy q0 r0 ⟨m, s, a, p, (q1, q2, q3), b0⟩ n (r1, r2, r3) b) := HX3.out.below b4
  simp only [sv]
  clear b4 HX3 hsB p0 p1 p2 lr HNm
  cases sB
  · go_upto_region 8 with fail
    have hq4 := HX4.out.bq
    unfold RqB rqv at hq4
    have c5 := cell_blk hq4 5
    have f5 := frozen_blk hq4 5
    simp only [List.getElem?_toArray, List.getElem?_cons_succ, List.getElem?_cons_zero] at c5
    obtain ⟨W5, hW5⟩ : ∃ W, w4.setCell ⟨q0, 5, none⟩ (.string ⟨#[]⟩) = W := ⟨_, rfl⟩
    have HX5 : Hid (P1 w W5 gx gy q0 r0 ⟨m, s, a, p, (q1, q2, q3), ⟨#[]⟩⟩ n (r1, r2, r3) b) := by
      have hoth : ∀ k, k ≠ q0 → W5.heap[k]? = w4.heap[k]? := fun k hk => by rw [← hW5]; exact setCell_other _ _ _ _ _ hk
      have hne : ∀ (k : Nat) (cc : Array Value) (t : TypeId) (fz : Nat × Nat), w4.heap[k]? = some (.cells cc t fz) → t ≠ 24 → k ≠ q0 := fun k cc t fz hk ht e => by
        rw [e, hq4] at hk
        injection hk with hk; injection hk with _ hk; exact ht hk.symm
      refine ⟨by rw [← hW5]; exact HX4.out.bel.setCell (p := ⟨q0, 5, none⟩) HX4.out.ne.2.2.2.1 _, (hoth gx (hne _ _ _ _ HX4.out.x (by decide))).trans HX4.out.x, (hoth gy (hne _ _ _ _ HX4.out.y (by decide))).trans HX4.out.y, ?_, (hoth r0 (hne _ _ _ _ HX4.out.br (by decide))).trans HX4.out.br, HX4.out.ne⟩
      unfold RqB
      rw [← hW5, setCell_block _ _ _ _ _ _ _ hq4]
      rfl
    clear hq4 HX4
    go_upto_region 9 with fail
    try rw [hW5]
    clear hW5 c5 f5
    obtain ⟨a0, a1, a2, a3, a4, a5, a6⟩ := HX5.out.bq.cells
    simp only [sv] at a0 a1 a2 a3 a4 a5
    go_upto_region 10 with fail
    obtain ⟨gq, hgq⟩ : ∃ k, W5.heap.size = k := ⟨_, rfl⟩
    obtain ⟨W6, hW6⟩ : ∃ W, W5.alloc (.cells #[.string m, .string s, .string a, .string p, .slice q1 q2 q3, .string ⟨#[]⟩] 24) = W := ⟨_, rfl⟩
    have HB6 : Hid (Below W5.heap.size W5 W6 ∧ W6.heap[gq]? = some (.cells #[.string m, .string s, .string a, .string p, .slice q1 q2 q3, .string ⟨#[]⟩] 24 (0, 0)) ∧ W5.heap.size ≤ gq) := ⟨by rw [← hW6]; exact bel1 _ _, by rw [← hW6, ← hgq, heap_al, if_pos rfl], by omega⟩
    rw [hW6, hgq]
    clear hW6 hgq a0 a1 a2 a3 a4 a5 a6
    have HX6 : Hid (P1 w W6 gx gy q0 r0 ⟨m, s, a, p, (q1, q2, q3), ⟨#[]⟩⟩ n (r1, r2, r3) b) := HX5.out.below HB6.out.1
    obtain ⟨a0, a1, a2, a3, a4, a5, a6⟩ := HX6.out.bq.cells
    simp only [sv] at a0 a1 a2 a3 a4 a5
    obtain ⟨h1b, h1c, w7, hrun, hR7, hG7⟩ := Go.Proofs.YtfponcdhaefkdaaDoor.app okFd W6 (.slice none 0 0) [] (R.nil _ _) (.slice q1 q2 q3) Q (HAq.out W6 HX6.out.bel) (by have := (HZ.out (q1, q2, q3) ⟨#[]⟩).zQ; simp only [EFd, List.length_nil]; omega)
    have el : ([] : List Fd).length + Q.length = q2 := by rw [HLn.out.1]; simp
    rw [el] at hrun hR7 hG7
    rw [List.nil_append] at hR7
    have hq7 : w7.heap[gq]? = some (.cells #[.string m, .string s, .string a, .string p, .slice q1 q2 q3, .string ⟨#[]⟩] 24 (0, 0)) := (hG7.fresh.block gq (heap_lt HB6.out.2.1)).trans HB6.out.2.1
    have g4 := cell_blk hq7 4
    have k4 := frozen_blk hq7 4
    have lg := heap_lt hq7
    simp only [List.getElem?_toArray, List.getElem?_cons_succ, List.getElem?_cons_zero] at g4
    obtain ⟨W8, hW8⟩ : ∃ W, w7.setCell ⟨gq, 4, none⟩ (.slice h1b q2 h1c) = W := ⟨_, rfl⟩
    have HB8 : Hid (Below W5.heap.size W5 W8 ∧ RqB W8 gq ⟨m, s, a, p, (h1b, q2, h1c), ⟨#[]⟩⟩ ∧ R EFd W8 (.slice h1b q2 h1c) Q ∧ (∀ k, ownB (h1b, q2, h1c) k → W6.heap.size ≤ k)) := by
      rw [← hW8]
      refine ⟨(HB6.out.1.trans (hG7.fresh.mono HB6.out.1.size)).setCell (p := ⟨gq, 4, none⟩) HB6.out.2.2 _, ?_, hR7.stays fun k hk _ => setCell_other _ _ _ _ _ fun e => ?_, fun k hk => hG7.new k hk⟩
      · unfold RqB
        rw [setCell_block _ _ _ _ _ _ _ hq7]
        rfl
      · have := hG7.new k hk
        have := heap_lt HB6.out.2.1
        omega
    replace hrun : Hid _ := hrun
    clear hR7 hG7 el hq7 HX6
    go_upto_region 11 with (at_builtin; refine Lib.wpList_append_run _ rfl _ _ _ _ rfl _ _ rfl rfl _ _ hrun.out ?_)
    try rw [hW8]
    clear hW8 hrun g4 k4 lg a0 a1 a2 a3 a4 a5 a6
    have HX8 : Hid (P1 w W8 gx gy q0 r0 ⟨m, s, a, p, (q1, q2, q3), ⟨#[]⟩⟩ n (r1, r2, r3) b) := HX5.out.below HB8.out.1
    have p0 := cell_blk HX8.out.br 0
    have p1 := cell_blk HX8.out.br 1
    have p2 := cell_blk HX8.out.br 2
    have lr := heap_lt HX8.out.br
    simp only [rsv, List.getElem?_toArray, List.getElem?_cons_succ, List.getElem?_cons_zero, sv] at p0 p1 p2
    go_upto_region 12 with fail
    obtain ⟨gr, hgr⟩ : ∃ k, W8.heap.size = k := ⟨_, rfl⟩
    obtain ⟨W9, hW9⟩ : ∃ W, W8.alloc (.cells #[.int .i64 n, .slice r1 r2 r3, .string b] 26) = W := ⟨_, rfl⟩
    have HB9 : Hid (Below W8.heap.size W8 W9 ∧ W9.heap[gr]? = some (.cells #[.int .i64 n, .slice r1 r2 r3, .string b] 26 (0, 0)) ∧ W8.heap.size ≤ gr) := ⟨by rw [← hW9]; exact bel1 _ _, by rw [← hW9, ← hgr, heap_al, if_pos rfl], by omega⟩
    rw [hW9, hgr]
    clear hW9 hgr p0 p1 p2 lr
    have HX9 : Hid (P1 w W9 gx gy q0 r0 ⟨m, s, a, p, (q1, q2, q3), ⟨#[]⟩⟩ n (r1, r2, r3) b) := HX8.out.below HB9.out.1
    have p0 := cell_blk HX9.out.br 0
    have p1 := cell_blk HX9.out.br 1
    have p2 := cell_blk HX9.out.br 2
    have lr := heap_lt HX9.out.br
    simp only [rsv, List.getElem?_toArray, List.getElem?_cons_succ, List.getElem?_cons_zero, sv] at p0 p1 p2
    obtain ⟨i1b, i1c, w10, hrun, hR10, hG10⟩ := Go.Proofs.YtfponcdhaefkdaaDoor.app okFd W9 (.slice none 0 0) [] (R.nil _ _) (.slice r1 r2 r3) fr (HAr.out W9 HX9.out.bel) (by have := (HZ.out (q1, q2, q3) ⟨#[]⟩).zR; simp only [EFd, List.length_nil]; omega)
    have el : ([] : List Fd).length + fr.length = r2 := by rw [HLn.out.2]; simp
    rw [el] at hrun hR10 hG10
    rw [List.nil_append] at hR10
    have hr10 : w10.heap[gr]? = some (.cells #[.int .i64 n, .slice r1 r2 r3, .string b] 26 (0, 0)) := (hG10.fresh.block gr (heap_lt HB9.out.2.1)).trans HB9.out.2.1
    have g4 := cell_blk hr10 1
    have k4 := frozen_blk hr10 1
    have lg := heap_lt hr10
    simp only [List.getElem?_toArray, List.getElem?_cons_succ, List.getElem?_cons_zero] at g4
    obtain ⟨W11, hW11⟩ : ∃ W, w10.setCell ⟨gr, 1, none⟩ (.slice i1b r2 i1c) = W := ⟨_, rfl⟩
    have HB11 : Hid (Below W8.heap.size W8 W11 ∧ W11.heap[gr]? = some (.cells (rsv n (sv (i1b, r2, i1c)) b) 26 (0, 0)) ∧ R EFd W11 (.slice i1b r2 i1c) fr ∧ (∀ k, ownB (i1b, r2, i1c) k → W9.heap.size ≤ k)) := by
      rw [← hW11]
      refine ⟨(HB9.out.1.trans (hG10.fresh.mono HB9.out.1.size)).setCell (p := ⟨gr, 1, none⟩) HB9.out.2.2 _, ?_, hR10.stays fun k hk _ => setCell_other _ _ _ _ _ fun e => ?_, fun k hk => hG10.new k hk⟩
      · rw [setCell_block _ _ _ _ _ _ _ hr10]
        rfl
      · have := hG10.new k hk
        have := heap_lt HB9.out.2.1
        omega
    replace hrun : Hid _ := hrun
    clear hR10 hG10 el hr10 HX9
    go_upto_region 13 with (at_builtin; refine Lib.wpList_append_run _ rfl _ _ _ _ rfl _ _ rfl rfl _ _ hrun.out ?_)
    try rw [hW11]
    clear hW11 hrun g4 k4 lg p0 p1 p2 lr
    have HA0 : Hid (Aw w W11 gx ⟨3, 1099511627776, 5, 0⟩ (none, 0, 0) [] gy ⟨3, 1099511627776, 5, 0⟩ (none, 0, 0) [] [(gr, rsv n (sv (i1b, r2, i1c)) b, 26), (gq, rqv ⟨m, s, a, p, (h1b, q2, h1c), ⟨#[]⟩⟩, 24), (q0, rqv ⟨m, s, a, p, (q1, q2, q3), ⟨#[]⟩⟩, 24), (r0, rsv n (sv (r1, r2, r3)) b, 26)] [((i1b, r2, i1c), fr), ((h1b, q2, h1c), Q)]) := by
      have h1 : Aw w W8 gx ⟨3, 1099511627776, 5, 0⟩ (none, 0, 0) [] gy ⟨3, 1099511627776, 5, 0⟩ (none, 0, 0) [] [(q0, rqv ⟨m, s, a, p, (q1, q2, q3), ⟨#[]⟩⟩, 24), (r0, rsv n (sv (r1, r2, r3)) b, 26)] [((h1b, q2, h1c), Q)] := HX5.out.aw.fresh HB8.out.1 (h1b, q2, h1c) Q HB8.out.2.2.1 (fun k hk => Nat.le_trans HB6.out.1.size (HB8.out.2.2.2 k hk))
      have h2 := h1.box gq _ 24 ⟨show (24 : TypeId) ≠ 83 by decide, show (24 : TypeId) ≠ 87 by decide, show (24 : TypeId) ≠ 51 by decide⟩ HB8.out.2.1
      have h3 := h2.fresh HB11.out.1 (i1b, r2, i1c) fr HB11.out.2.2.1 (fun k hk => Nat.le_trans HB9.out.1.size (HB11.out.2.2.2 k hk))
      exact h3.box gr _ 26 ⟨show (26 : TypeId) ≠ 83 by decide, show (26 : TypeId) ≠ 87 by decide, show (26 : TypeId) ≠ 51 by decide⟩ HB11.out.2.1
    clear HX5 HB6 HB8 HX8 HB9 HB11 HBq
    have aB := (HA0.out.xs (gq, rqv ⟨m, s, a, p, (h1b, q2, h1c), ⟨#[]⟩⟩, 24) (by simp)).2
    have a0 := cell_blk aB 0
    have a1 := cell_blk aB 1
    have a2 := cell_blk aB 2
    have a3 := cell_blk aB 3
    have a4 := cell_blk aB 4
    have a5 := cell_blk aB 5
    have al := heap_lt aB
    simp only [rqv, rsv, List.getElem?_toArray, List.getElem?_cons_succ, List.getElem?_cons_zero, sv] at a0 a1 a2 a3 a4 a5
    clear aB
    have pB := (HA0.out.xs (gr, rsv n (sv (i1b, r2, i1c)) b, 26) (by simp)).2
    have p0 := cell_blk pB 0
    have p1 := cell_blk pB 1
    have p2 := cell_blk pB 2
    have pl := heap_lt pB
    simp only [rqv, rsv, List.getElem?_toArray, List.getElem?_cons_succ, List.getElem?_cons_zero, sv] at p0 p1 p2
    clear pB
    have HSt : Hid (Calls Tryd.prog 11 #[.pointer (some ⟨gx, 0, none⟩), .agg #[.string m, .string s, .string a, .string p, .slice h1b q2 h1c, .string ⟨#[]⟩], .agg #[.int .i64 n, .slice i1b r2 i1c, .string b], .int .i64 1, .int .i64 0] W11 fun r w' => ∃ (u : Value) (z : SV) (e : En), r = .returned u ∧ Aw w w' gx (hr ⟨3, 1099511627776, 5, 0⟩ 0) z ([] ++ [e]) gy ⟨3, 1099511627776, 5, 0⟩ (none, 0, 0) [] [(gr, rsv n (sv (i1b, r2, i1c)) b, 26), (gq, rqv ⟨m, s, a, p, (h1b, q2, h1c), ⟨#[]⟩⟩, 24), (q0, rqv ⟨m, s, a, p, (q1, q2, q3), ⟨#[]⟩⟩, 24), (r0, rsv n (sv (r1, r2, r3)) b, 26)] [((i1b, r2, i1c), fr), ((h1b, q2, h1c), Q)] ∧ Ee e ⟨m, s, a, p, (h1b, q2, h1c), ⟨#[]⟩⟩ Q n b fr 1 (hr ⟨3, 1099511627776, 5, 0⟩ 0).ck) := by
      have h := HA0.out
      exact h.storex (q := ⟨m, s, a, p, (h1b, q2, h1c), ⟨#[]⟩⟩) (ry := (i1b, r2, i1c)) (fun V hV => ((h.fs ((h1b, q2, h1c), Q) (by simp)).1.stays fun k hk hl => hV.block k hl fun ho => ((h.fs ((h1b, q2, h1c), Q) (by simp)).2 k hk).2.1 (.inl ho)).isIn) (fun V hV => ((h.fs ((i1b, r2, i1c), fr) (by simp)).1.stays fun k hk hl => hV.block k hl fun ho => ((h.fs ((i1b, r2, i1c), fr) (by simp)).2 k hk).2.1 (.inl ho)).isIn) (HZ.out _ _) HsB.out 1 0 (by decide) (by simp) (by
        have := HZd.out
        simp only [totL, List.map_cons, List.map_nil, List.sum_cons, List.sum_nil]
        omega) (fun e he => by simp at he)
    go_wp2_with fail
    go_at_call 11
    refine HSt.out.mono ?_
    rintro e v1 ⟨u1, z1, e1, rfl, hA, hE⟩
    have HA1 : Hid (Aw w v1 gx ⟨3, 1099511627776, 5, 0⟩ z1 [e1] gy ⟨3, 1099511627776, 5, 0⟩ (none, 0, 0) [] [(gr, rsv n (sv (i1b, r2, i1c)) b, 26), (gq, rqv ⟨m, s, a, p, (h1b, q2, h1c), ⟨#[]⟩⟩, 24), (q0, rqv ⟨m, s, a, p, (q1, q2, q3), ⟨#[]⟩⟩, 24), (r0, rsv n (sv (r1, r2, r3)) b, 26)] [((i1b, r2, i1c), fr), ((h1b, q2, h1c), Q)]) := hA
    have HE1 : Hid (Ee e1 ⟨m, s, a, p, (h1b, q2, h1c), ⟨#[]⟩⟩ Q n b fr 1 0) := hE
    clear hA hE HSt HA0
    clear a0 a1 a2 a3 a4 a5 al
    clear p0 p1 p2 pl
    have aB := (HA1.out.xs (gq, rqv ⟨m, s, a, p, (h1b, q2, h1c), ⟨#[]⟩⟩, 24) (by simp)).2
    have a0 := cell_blk aB 0
    have a1 := cell_blk aB 1
    have a2 := cell_blk aB 2
    have a3 := cell_blk aB 3
    have a4 := cell_blk aB 4
    have a5 := cell_blk aB 5
    have al := heap_lt aB
    simp only [rqv, rsv, List.getElem?_toArray, List.getElem?_cons_succ, List.getElem?_cons_zero, sv] at a0 a1 a2 a3 a4 a5
    clear aB
    have pB := (HA1.out.xs (gr, rsv n (sv (i1b, r2, i1c)) b, 26) (by simp)).2
    have p0 := cell_blk pB 0
    have p1 := cell_blk pB 1
    have p2 := cell_blk pB 2
    have pl := heap_lt pB
    simp only [rqv, rsv, List.getElem?_toArray, List.getElem?_cons_succ, List.getElem?_cons_zero, sv] at p0 p1 p2
    clear pB
    have HSt : Hid (Calls Tryd.prog 11 #[.pointer (some ⟨gx, 0, none⟩), .agg #[.string m, .string s, .string a, .string p, .slice h1b q2 h1c, .string ⟨#[]⟩], .agg #[.int .i64 n, .slice i1b r2 i1c, .string b], .int .i64 2, .int .i64 0] v1 fun r w' => ∃ (u : Value) (z : SV) (e : En), r = .returned u ∧ Aw w w' gx (hr ⟨3, 1099511627776, 5, 0⟩ 0) z ([e1] ++ [e]) gy ⟨3, 1099511627776, 5, 0⟩ (none, 0, 0) [] [(gr, rsv n (sv (i1b, r2, i1c)) b, 26), (gq, rqv ⟨m, s, a, p, (h1b, q2, h1c), ⟨#[]⟩⟩, 24), (q0, rqv ⟨m, s, a, p, (q1, q2, q3), ⟨#[]⟩⟩, 24), (r0, rsv n (sv (r1, r2, r3)) b, 26)] [((i1b, r2, i1c), fr), ((h1b, q2, h1c), Q)] ∧ Ee e ⟨m, s, a, p, (h1b, q2, h1c), ⟨#[]⟩⟩ Q n b fr 2 (hr ⟨3, 1099511627776, 5, 0⟩ 0).ck) := by
      have h := HA1.out
      exact h.storex (q := ⟨m, s, a, p, (h1b, q2, h1c), ⟨#[]⟩⟩) (ry := (i1b, r2, i1c)) (fun V hV => ((h.fs ((h1b, q2, h1c), Q) (by simp)).1.stays fun k hk hl => hV.block k hl fun ho => ((h.fs ((h1b, q2, h1c), Q) (by simp)).2 k hk).2.1 (.inl ho)).isIn) (fun V hV => ((h.fs ((i1b, r2, i1c), fr) (by simp)).1.stays fun k hk hl => hV.block k hl fun ho => ((h.fs ((i1b, r2, i1c), fr) (by simp)).2 k hk).2.1 (.inl ho)).isIn) (HZ.out _ _) HsB.out 2 0 (by decide) (by simp) (by
        have := HZd.out
        simp only [totL, List.map_cons, List.map_nil, List.sum_cons, List.sum_nil, HE1.out.sz]
        omega) (fun e he => by
        simp only [List.mem_cons, List.not_mem_nil, or_false] at he
        rcases he with rfl
        · exact decide_eq_false (by rw [HE1.out.ar]; decide)
        )
    go_wp2_with fail
    go_at_call 11
    refine HSt.out.mono ?_
    rintro e v2 ⟨u2, z2, e2, rfl, hA, hE⟩
    have HA2 : Hid (Aw w v2 gx ⟨3, 1099511627776, 5, 0⟩ z2 [e1, e2] gy ⟨3, 1099511627776, 5, 0⟩ (none, 0, 0) [] [(gr, rsv n (sv (i1b, r2, i1c)) b, 26), (gq, rqv ⟨m, s, a, p, (h1b, q2, h1c), ⟨#[]⟩⟩, 24), (q0, rqv ⟨m, s, a, p, (q1, q2, q3), ⟨#[]⟩⟩, 24), (r0, rsv n (sv (r1, r2, r3)) b, 26)] [((i1b, r2, i1c), fr), ((h1b, q2, h1c), Q)]) := hA
    have HE2 : Hid (Ee e2 ⟨m, s, a, p, (h1b, q2, h1c), ⟨#[]⟩⟩ Q n b fr 2 0) := hE
    clear hA hE HSt HA1
    clear a0 a1 a2 a3 a4 a5 al
    clear p0 p1 p2 pl
    have aB := (HA2.out.xs (gq, rqv ⟨m, s, a, p, (h1b, q2, h1c), ⟨#[]⟩⟩, 24) (by simp)).2
    have a0 := cell_blk aB 0
    have a1 := cell_blk aB 1
    have a2 := cell_blk aB 2
    have a3 := cell_blk aB 3
    have a4 := cell_blk aB 4
    have a5 := cell_blk aB 5
    have al := heap_lt aB
    simp only [rqv, rsv, List.getElem?_toArray, List.getElem?_cons_succ, List.getElem?_cons_zero, sv] at a0 a1 a2 a3 a4 a5
    clear aB
    have pB := (HA2.out.xs (gr, rsv n (sv (i1b, r2, i1c)) b, 26) (by simp)).2
    have p0 := cell_blk pB 0
    have p1 := cell_blk pB 1
    have p2 := cell_blk pB 2
    have pl := heap_lt pB
    simp only [rqv, rsv, List.getElem?_toArray, List.getElem?_cons_succ, List.getElem?_cons_zero, sv] at p0 p1 p2
    clear pB
    have HSt : Hid (Calls Tryd.prog 11 #[.pointer (some ⟨gx, 0, none⟩), .agg #[.string m, .string s, .string a, .string p, .slice h1b q2 h1c, .string ⟨#[]⟩], .agg #[.int .i64 n, .slice i1b r2 i1c, .string b], .int .i64 3, .int .i64 0] v2 fun r w' => ∃ (u : Value) (z : SV) (e : En), r = .returned u ∧ Aw w w' gx (hr ⟨3, 1099511627776, 5, 0⟩ 0) z ([e1, e2] ++ [e]) gy ⟨3, 1099511627776, 5, 0⟩ (none, 0, 0) [] [(gr, rsv n (sv (i1b, r2, i1c)) b, 26), (gq, rqv ⟨m, s, a, p, (h1b, q2, h1c), ⟨#[]⟩⟩, 24), (q0, rqv ⟨m, s, a, p, (q1, q2, q3), ⟨#[]⟩⟩, 24), (r0, rsv n (sv (r1, r2, r3)) b, 26)] [((i1b, r2, i1c), fr), ((h1b, q2, h1c), Q)] ∧ Ee e ⟨m, s, a, p, (h1b, q2, h1c), ⟨#[]⟩⟩ Q n b fr 3 (hr ⟨3, 1099511627776, 5, 0⟩ 0).ck) := by
      have h := HA2.out
      exact h.storex (q := ⟨m, s, a, p, (h1b, q2, h1c), ⟨#[]⟩⟩) (ry := (i1b, r2, i1c)) (fun V hV => ((h.fs ((h1b, q2, h1c), Q) (by simp)).1.stays fun k hk hl => hV.block k hl fun ho => ((h.fs ((h1b, q2, h1c), Q) (by simp)).2 k hk).2.1 (.inl ho)).isIn) (fun V hV => ((h.fs ((i1b, r2, i1c), fr) (by simp)).1.stays fun k hk hl => hV.block k hl fun ho => ((h.fs ((i1b, r2, i1c), fr) (by simp)).2 k hk).2.1 (.inl ho)).isIn) (HZ.out _ _) HsB.out 3 0 (by decide) (by simp) (by
        have := HZd.out
        simp only [totL, List.map_cons, List.map_nil, List.sum_cons, List.sum_nil, HE1.out.sz, HE2.out.sz]
        omega) (fun e he => by
        simp only [List.mem_cons, List.not_mem_nil, or_false] at he
        rcases he with rfl | rfl
        · exact decide_eq_false (by rw [HE1.out.ar]; decide)
        · exact decide_eq_false (by rw [HE2.out.ar]; decide)
        )
    go_wp2_with fail
    go_at_call 11
    refine HSt.out.mono ?_
    rintro e v3 ⟨u3, z3, e3, rfl, hA, hE⟩
    have HA3 : Hid (Aw w v3 gx ⟨3, 1099511627776, 5, 0⟩ z3 [e1, e2, e3] gy ⟨3, 1099511627776, 5, 0⟩ (none, 0, 0) [] [(gr, rsv n (sv (i1b, r2, i1c)) b, 26), (gq, rqv ⟨m, s, a, p, (h1b, q2, h1c), ⟨#[]⟩⟩, 24), (q0, rqv ⟨m, s, a, p, (q1, q2, q3), ⟨#[]⟩⟩, 24), (r0, rsv n (sv (r1, r2, r3)) b, 26)] [((i1b, r2, i1c), fr), ((h1b, q2, h1c), Q)]) := hA
    have HE3 : Hid (Ee e3 ⟨m, s, a, p, (h1b, q2, h1c), ⟨#[]⟩⟩ Q n b fr 3 0) := hE
    clear hA hE HSt HA2
    clear a0 a1 a2 a3 a4 a5 al
    clear p0 p1 p2 pl
    have aB := (HA3.out.xs (gq, rqv ⟨m, s, a, p, (h1b, q2, h1c), ⟨#[]⟩⟩, 24) (by simp)).2
    have a0 := cell_blk aB 0
    have a1 := cell_blk aB 1
    have a2 := cell_blk aB 2
    have a3 := cell_blk aB 3
    have a4 := cell_blk aB 4
    have a5 := cell_blk aB 5
    have al := heap_lt aB
    simp only [rqv, rsv, List.getElem?_toArray, List.getElem?_cons_succ, List.getElem?_cons_zero, sv] at a0 a1 a2 a3 a4 a5
    clear aB
    have pB := (HA3.out.xs (gr, rsv n (sv (i1b, r2, i1c)) b, 26) (by simp)).2
    have p0 := cell_blk pB 0
    have p1 := cell_blk pB 1
    have p2 := cell_blk pB 2
    have pl := heap_lt pB
    simp only [rqv, rsv, List.getElem?_toArray, List.getElem?_cons_succ, List.getElem?_cons_zero, sv] at p0 p1 p2
    clear pB
    have HSt : Hid (Calls Tryd.prog 11 #[.pointer (some ⟨gy, 0, none⟩), .agg #[.string m, .string s, .string a, .string p, .slice h1b q2 h1c, .string ⟨#[]⟩], .agg #[.int .i64 n, .slice i1b r2 i1c, .string b], .int .i64 4, .int .i64 0] v3 fun r w' => ∃ (u : Value) (z : SV) (e : En), r = .returned u ∧ Aw w w' gy (hr ⟨3, 1099511627776, 5, 0⟩ 0) z ([] ++ [e]) gx ⟨3, 1099511627776, 5, 0⟩ z3 [e1, e2, e3] [(gr, rsv n (sv (i1b, r2, i1c)) b, 26), (gq, rqv ⟨m, s, a, p, (h1b, q2, h1c), ⟨#[]⟩⟩, 24), (q0, rqv ⟨m, s, a, p, (q1, q2, q3), ⟨#[]⟩⟩, 24), (r0, rsv n (sv (r1, r2, r3)) b, 26)] [((i1b, r2, i1c), fr), ((h1b, q2, h1c), Q)] ∧ Ee e ⟨m, s, a, p, (h1b, q2, h1c), ⟨#[]⟩⟩ Q n b fr 4 (hr ⟨3, 1099511627776, 5, 0⟩ 0).ck) := by
      have h := HA3.out.turn
      exact h.storex (q := ⟨m, s, a, p, (h1b, q2, h1c), ⟨#[]⟩⟩) (ry := (i1b, r2, i1c)) (fun V hV => ((h.fs ((h1b, q2, h1c), Q) (by simp)).1.stays fun k hk hl => hV.block k hl fun ho => ((h.fs ((h1b, q2, h1c), Q) (by simp)).2 k hk).2.1 (.inl ho)).isIn) (fun V hV => ((h.fs ((i1b, r2, i1c), fr) (by simp)).1.stays fun k hk hl => hV.block k hl fun ho => ((h.fs ((i1b, r2, i1c), fr) (by simp)).2 k hk).2.1 (.inl ho)).isIn) (HZ.out _ _) HsB.out 4 0 (by decide) (by simp) (by
        have := HZd.out
        simp only [totL, List.map_cons, List.map_nil, List.sum_cons, List.sum_nil]
        omega) (fun e he => by simp at he)
    go_wp2_with fail
    go_at_call 11
    refine HSt.out.mono ?_
    rintro e v4 ⟨u4, z4, e4, rfl, hA, hE⟩
    have HA4 : Hid (Aw w v4 gx ⟨3, 1099511627776, 5, 0⟩ z3 [e1, e2, e3] gy ⟨3, 1099511627776, 5, 0⟩ z4 [e4] [(gr, rsv n (sv (i1b, r2, i1c)) b, 26), (gq, rqv ⟨m, s, a, p, (h1b, q2, h1c), ⟨#[]⟩⟩, 24), (q0, rqv ⟨m, s, a, p, (q1, q2, q3), ⟨#[]⟩⟩, 24), (r0, rsv n (sv (r1, r2, r3)) b, 26)] [((i1b, r2, i1c), fr), ((h1b, q2, h1c), Q)]) := hA.turn
    have HE4 : Hid (Ee e4 ⟨m, s, a, p, (h1b, q2, h1c), ⟨#[]⟩⟩ Q n b fr 4 0) := hE
    clear hA hE HSt HA3
    clear a0 a1 a2 a3 a4 a5 al
    clear p0 p1 p2 pl
    have aB := (HA4.out.xs (gq, rqv ⟨m, s, a, p, (h1b, q2, h1c), ⟨#[]⟩⟩, 24) (by simp)).2
    have a0 := cell_blk aB 0
    have a1 := cell_blk aB 1
    have a2 := cell_blk aB 2
    have a3 := cell_blk aB 3
    have a4 := cell_blk aB 4
    have a5 := cell_blk aB 5
    have al := heap_lt aB
    simp only [rqv, rsv, List.getElem?_toArray, List.getElem?_cons_succ, List.getElem?_cons_zero, sv] at a0 a1 a2 a3 a4 a5
    clear aB
    go_wp2_with fail
    go_at_call 17
    refine (over_any v4 (h1b, q2, h1c) Q (HA4.out.fs ((h1b, q2, h1c), Q) (by simp)).1).mono ?_
    rintro e v5 ⟨rfl, _, hk⟩
    have HA5 : Hid (Aw w v5 gx ⟨3, 1099511627776, 5, 0⟩ z3 [e1, e2, e3] gy ⟨3, 1099511627776, 5, 0⟩ z4 [e4] [(gr, rsv n (sv (i1b, r2, i1c)) b, 26), (gq, rqv ⟨m, s, a, p, (h1b, q2, h1c), ⟨#[]⟩⟩, 24), (q0, rqv ⟨m, s, a, p, (q1, q2, q3), ⟨#[]⟩⟩, 24), (r0, rsv n (sv (r1, r2, r3)) b, 26)] [((i1b, r2, i1c), fr)]) := HA4.out.swap.row hk
    clear hk HA4
    clear a0 a1 a2 a3 a4 a5 al
    have aB := (HA5.out.xs (gr, rsv n (sv (i1b, r2, i1c)) b, 26) (by simp)).2
    have a0 := cell_blk aB 0
    have a1 := cell_blk aB 1
    have a2 := cell_blk aB 2
    have al := heap_lt aB
    simp only [rqv, rsv, List.getElem?_toArray, List.getElem?_cons_succ, List.getElem?_cons_zero, sv] at a0 a1 a2
    clear aB
    go_wp2_with fail
    go_at_call 17
    refine (over_any v5 (i1b, r2, i1c) fr (HA5.out.fs ((i1b, r2, i1c), fr) (by simp)).1).mono ?_
    rintro e v6 ⟨rfl, _, hk⟩
    have HA6 : Hid (Aw w v6 gx ⟨3, 1099511627776, 5, 0⟩ z3 [e1, e2, e3] gy ⟨3, 1099511627776, 5, 0⟩ z4 [e4] [(gr, rsv n (sv (i1b, r2, i1c)) b, 26), (gq, rqv ⟨m, s, a, p, (h1b, q2, h1c), ⟨#[]⟩⟩, 24), (q0, rqv ⟨m, s, a, p, (q1, q2, q3), ⟨#[]⟩⟩, 24), (r0, rsv n (sv (r1, r2, r3)) b, 26)] []) := HA5.out.row hk
    clear hk HA5
    clear a0 a1 a2 al
    have aB := (HA6.out.xs (q0, rqv ⟨m, s, a, p, (q1, q2, q3), ⟨#[]⟩⟩, 24) (by simp)).2
    have a0 := cell_blk aB 0
    have a1 := cell_blk aB 1
    have a2 := cell_blk aB 2
    have a3 := cell_blk aB 3
    have a4 := cell_blk aB 4
    have a5 := cell_blk aB 5
    have al := heap_lt aB
    simp only [rqv, rsv, List.getElem?_toArray, List.getElem?_cons_succ, List.getElem?_cons_zero, sv] at a0 a1 a2 a3 a4 a5
    clear aB
    go_wp2_with fail
    go_at_call 13
    refine (HA6.out.claimx (q := ⟨m, s, a, p, (q1, q2, q3), ⟨#[]⟩⟩) HE1.out rfl rfl (HZ.out (q1, q2, q3) ⟨#[]⟩).zQ (fun V hV => HAq.out V (HA6.out.bel.trans (hV.below HA6.out.bel.size fun i hi e => by rw [e] at hi; have := HA6.out.lx gx (.inl (.inl rfl)); omega))) 0 (by decide) (by decide)).mono ?_
    rintro e v7 ⟨⟨a_1, a_2, a_3⟩, z7, rfl, hA⟩
    obtain rfl : r2 = a_2 := HLn.out.2.trans (slice_len (hA.fs ((a_1, a_2, a_3), fr) (by simp)).1.isIn).1.symm
    have hA' : Aw w v7 gx ⟨3, 1099511627776, 5, 0⟩ z7 [e2, e3] gy ⟨3, 1099511627776, 5, 0⟩ z4 [e4] [(gr, rsv n (sv (i1b, r2, i1c)) b, 26), (gq, rqv ⟨m, s, a, p, (h1b, q2, h1c), ⟨#[]⟩⟩, 24), (q0, rqv ⟨m, s, a, p, (q1, q2, q3), ⟨#[]⟩⟩, 24), (r0, rsv n (sv (r1, r2, r3)) b, 26)] [((a_1, r2, a_3), fr)] := hA
    obtain ⟨s1, hs⟩ : ∃ k, v7.heap.size = k := ⟨_, rfl⟩
    obtain ⟨V7, hV⟩ : ∃ W, v7.alloc (.cells #[.int .i64 n, .slice a_1 r2 a_3, .string b] 26) = W := ⟨_, rfl⟩
    have bb : Below v7.heap.size v7 V7 := by rw [← hV]; exact bel1 _ _
    have HA7 : Hid (Aw w V7 gx ⟨3, 1099511627776, 5, 0⟩ z7 [e2, e3] gy ⟨3, 1099511627776, 5, 0⟩ z4 [e4] ((s1, rsv n (sv (a_1, r2, a_3)) b, 26) :: [(gr, rsv n (sv (i1b, r2, i1c)) b, 26), (gq, rqv ⟨m, s, a, p, (h1b, q2, h1c), ⟨#[]⟩⟩, 24), (q0, rqv ⟨m, s, a, p, (q1, q2, q3), ⟨#[]⟩⟩, 24), (r0, rsv n (sv (r1, r2, r3)) b, 26)]) [((a_1, r2, a_3), fr)]) := (hA'.below bb).box s1 _ 26 ⟨show (26 : TypeId) ≠ 83 by decide, show (26 : TypeId) ≠ 87 by decide, show (26 : TypeId) ≠ 51 by decide⟩ (by rw [← hV, ← hs, heap_al, if_pos rfl]; rfl)
    clear hA hA' bb HA6
    clear a0 a1 a2 a3 a4 a5 al
    unfold rsv
    simp only [sv]
    go_upto_region 20 with fail
    try rw [hV]
    try rw [hs]
    clear hV hs
    have aB := (HA7.out.xs (q0, rqv ⟨m, s, a, p, (q1, q2, q3), ⟨#[]⟩⟩, 24) (by simp)).2
    have a0 := cell_blk aB 0
    have a1 := cell_blk aB 1
    have a2 := cell_blk aB 2
    have a3 := cell_blk aB 3
    have a4 := cell_blk aB 4
    have a5 := cell_blk aB 5
    have al := heap_lt aB
    simp only [rqv, rsv, List.getElem?_toArray, List.getElem?_cons_succ, List.getElem?_cons_zero, sv] at a0 a1 a2 a3 a4 a5
    clear aB
    go_wp2_with fail
    go_at_call 13
    refine (HA7.out.claimx (q := ⟨m, s, a, p, (q1, q2, q3), ⟨#[]⟩⟩) HE2.out rfl rfl (HZ.out (q1, q2, q3) ⟨#[]⟩).zQ (fun V hV => HAq.out V (HA7.out.bel.trans (hV.below HA7.out.bel.size fun i hi e => by rw [e] at hi; have := HA7.out.lx gx (.inl (.inl rfl)); omega))) 0 (by decide) (by decide)).mono ?_
    rintro e v8 ⟨⟨b_1, b_2, b_3⟩, z8, rfl, hA⟩
    obtain rfl : r2 = b_2 := HLn.out.2.trans (slice_len (hA.fs ((b_1, b_2, b_3), fr) (by simp)).1.isIn).1.symm
    have hA' : Aw w v8 gx ⟨3, 1099511627776, 5, 0⟩ z8 [e3] gy ⟨3, 1099511627776, 5, 0⟩ z4 [e4] ((s1, rsv n (sv (a_1, r2, a_3)) b, 26) :: [(gr, rsv n (sv (i1b, r2, i1c)) b, 26), (gq, rqv ⟨m, s, a, p, (h1b, q2, h1c), ⟨#[]⟩⟩, 24), (q0, rqv ⟨m, s, a, p, (q1, q2, q3), ⟨#[]⟩⟩, 24), (r0, rsv n (sv (r1, r2, r3)) b, 26)]) [((b_1, r2, b_3), fr), ((a_1, r2, a_3), fr)] := hA
    obtain ⟨s2, hs⟩ : ∃ k, v8.heap.size = k := ⟨_, rfl⟩
    obtain ⟨V8, hV⟩ : ∃ W, v8.alloc (.cells #[.int .i64 n, .slice b_1 r2 b_3, .string b] 26) = W := ⟨_, rfl⟩
    have bb : Below v8.heap.size v8 V8 := by rw [← hV]; exact bel1 _ _
    have HA8 : Hid (Aw w V8 gx ⟨3, 1099511627776, 5, 0⟩ z8 [e3] gy ⟨3, 1099511627776, 5, 0⟩ z4 [e4] ((s2, rsv n (sv (b_1, r2, b_3)) b, 26) :: ((s1, rsv n (sv (a_1, r2, a_3)) b, 26) :: [(gr, rsv n (sv (i1b, r2, i1c)) b, 26), (gq, rqv ⟨m, s, a, p, (h1b, q2, h1c), ⟨#[]⟩⟩, 24), (q0, rqv ⟨m, s, a, p, (q1, q2, q3), ⟨#[]⟩⟩, 24), (r0, rsv n (sv (r1, r2, r3)) b, 26)])) [((b_1, r2, b_3), fr), ((a_1, r2, a_3), fr)]) := (hA'.below bb).box s2 _ 26 ⟨show (26 : TypeId) ≠ 83 by decide, show (26 : TypeId) ≠ 87 by decide, show (26 : TypeId) ≠ 51 by decide⟩ (by rw [← hV, ← hs, heap_al, if_pos rfl]; rfl)
    clear hA hA' bb HA7
    clear a0 a1 a2 a3 a4 a5 al
    unfold rsv
    simp only [sv]
    go_upto_region 21 with fail
    try rw [hV]
    try rw [hs]
    clear hV hs
    have aB := (HA8.out.xs (s1, rsv n (sv (a_1, r2, a_3)) b, 26) (by simp)).2
    have a0 := cell_blk aB 0
    have a1 := cell_blk aB 1
    have a2 := cell_blk aB 2
    have al := heap_lt aB
    simp only [rqv, rsv, List.getElem?_toArray, List.getElem?_cons_succ, List.getElem?_cons_zero, sv] at a0 a1 a2
    clear aB
    have pB := (HA8.out.xs (r0, rsv n (sv (r1, r2, r3)) b, 26) (by simp)).2
    have p0 := cell_blk pB 0
    have p1 := cell_blk pB 1
    have p2 := cell_blk pB 2
    have pl := heap_lt pB
    simp only [rqv, rsv, List.getElem?_toArray, List.getElem?_cons_succ, List.getElem?_cons_zero, sv] at p0 p1 p2
    clear pB
    have HSm : Hid (Calls Tryd.prog 15 #[.agg #[.int .i64 n, .slice a_1 r2 a_3, .string b], .agg #[.int .i64 n, .slice r1 r2 r3, .string b]] V8 fun e w' => e = .returned (.bool true) ∧ Below V8.heap.size V8 w') := same_eq n b (a_1, r2, a_3) (r1, r2, r3) fr V8 (HA8.out.fs ((a_1, r2, a_3), fr) (by simp)).1.isIn (HAr.out _ HA8.out.bel)
    go_wp2_with fail
    go_at_call 15
    refine HSm.out.mono ?_
    rintro e v9 ⟨rfl, bb⟩
    have HA9 : Hid (Aw w v9 gx ⟨3, 1099511627776, 5, 0⟩ z8 [e3] gy ⟨3, 1099511627776, 5, 0⟩ z4 [e4] ((s2, rsv n (sv (b_1, r2, b_3)) b, 26) :: ((s1, rsv n (sv (a_1, r2, a_3)) b, 26) :: [(gr, rsv n (sv (i1b, r2, i1c)) b, 26), (gq, rqv ⟨m, s, a, p, (h1b, q2, h1c), ⟨#[]⟩⟩, 24), (q0, rqv ⟨m, s, a, p, (q1, q2, q3), ⟨#[]⟩⟩, 24), (r0, rsv n (sv (r1, r2, r3)) b, 26)])) [((b_1, r2, b_3), fr), ((a_1, r2, a_3), fr)]) := HA8.out.below bb
    clear bb HSm HA8
    clear a0 a1 a2 al
    clear p0 p1 p2 pl
    have aB := (HA9.out.xs (s2, rsv n (sv (b_1, r2, b_3)) b, 26) (by simp)).2
    have a0 := cell_blk aB 0
    have a1 := cell_blk aB 1
    have a2 := cell_blk aB 2
    have al := heap_lt aB
    simp only [rqv, rsv, List.getElem?_toArray, List.getElem?_cons_succ, List.getElem?_cons_zero, sv] at a0 a1 a2
    clear aB
    have pB := (HA9.out.xs (r0, rsv n (sv (r1, r2, r3)) b, 26) (by simp)).2
    have p0 := cell_blk pB 0
    have p1 := cell_blk pB 1
    have p2 := cell_blk pB 2
    have pl := heap_lt pB
    simp only [rqv, rsv, List.getElem?_toArray, List.getElem?_cons_succ, List.getElem?_cons_zero, sv] at p0 p1 p2
    clear pB
    have HSm : Hid (Calls Tryd.prog 15 #[.agg #[.int .i64 n, .slice b_1 r2 b_3, .string b], .agg #[.int .i64 n, .slice r1 r2 r3, .string b]] v9 fun e w' => e = .returned (.bool true) ∧ Below v9.heap.size v9 w') := same_eq n b (b_1, r2, b_3) (r1, r2, r3) fr v9 (HA9.out.fs ((b_1, r2, b_3), fr) (by simp)).1.isIn (HAr.out _ HA9.out.bel)
    go_wp2_with fail
    go_at_call 15
    refine HSm.out.mono ?_
    rintro e v10 ⟨rfl, bb⟩
    have HA10 : Hid (Aw w v10 gx ⟨3, 1099511627776, 5, 0⟩ z8 [e3] gy ⟨3, 1099511627776, 5, 0⟩ z4 [e4] ((s2, rsv n (sv (b_1, r2, b_3)) b, 26) :: ((s1, rsv n (sv (a_1, r2, a_3)) b, 26) :: [(gr, rsv n (sv (i1b, r2, i1c)) b, 26), (gq, rqv ⟨m, s, a, p, (h1b, q2, h1c), ⟨#[]⟩⟩, 24), (q0, rqv ⟨m, s, a, p, (q1, q2, q3), ⟨#[]⟩⟩, 24), (r0, rsv n (sv (r1, r2, r3)) b, 26)])) [((b_1, r2, b_3), fr), ((a_1, r2, a_3), fr)]) := HA9.out.below bb
    clear bb HSm HA9
    clear a0 a1 a2 al
    clear p0 p1 p2 pl
    obtain ⟨ol, hol⟩ : ∃ l, List.replicate fr.length ovF = l := ⟨_, rfl⟩
    have HOl : Hid (ol.length = r2 ∧ ∀ i (h : i < ol.length), ol[i] = ovF) := by
      subst hol
      exact ⟨by rw [List.length_replicate, HLn.out.2], fun i h => by simp⟩
    have aB := (HA10.out.xs (s1, rsv n (sv (a_1, r2, a_3)) b, 26) (by simp)).2
    have a0 := cell_blk aB 0
    have a1 := cell_blk aB 1
    have a2 := cell_blk aB 2
    have al := heap_lt aB
    simp only [rqv, rsv, List.getElem?_toArray, List.getElem?_cons_succ, List.getElem?_cons_zero, sv] at a0 a1 a2
    clear aB
    go_wp2_with fail
    go_at_call 17
    refine (over_any v10 (a_1, r2, a_3) fr (HA10.out.fs ((a_1, r2, a_3), fr) (by simp)).1).mono ?_
    rintro e v11 ⟨rfl, hR, hk⟩
    rw [hol] at hR
    have HA11 : Hid (Aw w v11 gx ⟨3, 1099511627776, 5, 0⟩ z8 [e3] gy ⟨3, 1099511627776, 5, 0⟩ z4 [e4] ((s2, rsv n (sv (b_1, r2, b_3)) b, 26) :: ((s1, rsv n (sv (a_1, r2, a_3)) b, 26) :: [(gr, rsv n (sv (i1b, r2, i1c)) b, 26), (gq, rqv ⟨m, s, a, p, (h1b, q2, h1c), ⟨#[]⟩⟩, 24), (q0, rqv ⟨m, s, a, p, (q1, q2, q3), ⟨#[]⟩⟩, 24), (r0, rsv n (sv (r1, r2, r3)) b, 26)])) [((a_1, r2, a_3), ol), ((b_1, r2, b_3), fr)]) := HA10.out.swap.rowKeep hk ol hR
    clear hk hR hol HA10
    clear a0 a1 a2 al
    have aB := (HA11.out.xs (s1, rsv n (sv (a_1, r2, a_3)) b, 26) (by simp)).2
    have a0 := cell_blk aB 0
    have a1 := cell_blk aB 1
    have a2 := cell_blk aB 2
    have al := heap_lt aB
    simp only [rqv, rsv, List.getElem?_toArray, List.getElem?_cons_succ, List.getElem?_cons_zero, sv] at a0 a1 a2
    clear aB
    have hmk := HMk.out _ HA11.out.bel
    have m0 := cell_blk hmk 0
    have m1 := cell_blk hmk 1
    have m2 := cell_blk hmk 2
    have lm := heap_lt hmk
    simp only [List.getElem?_toArray, List.getElem?_cons_succ, List.getElem?_cons_zero] at m0 m1 m2
    obtain ⟨N2, hN2⟩ : ∃ N, r2 + 2 = N := ⟨_, rfl⟩
    obtain ⟨V12, hV⟩ : ∃ W, v11.alloc (.cells #[.string mn, .string mv, .bool mb, .string mn, .string mv, .bool mb] 51) = W := ⟨_, rfl⟩
    have bb : Below v11.heap.size v11 V12 := by rw [← hV]; exact bel1 _ _
    have hAV := HA11.out.below bb
    obtain ⟨gg1, gg3, v12, hrun, hRg, hRa, hGr⟩ := app_both (hAV.fs ((a_1, r2, a_3), ol) (by simp)).1 v11.heap.size ⟨mn, mv, mb⟩ ⟨mn, mv, mb⟩ (by rw [← hV, heap_al, if_pos rfl]) (by rw [HOl.out.1, HLn.out.2]; exact (HZ.out (q1, q2, q3) ⟨#[]⟩).zR)
    have el : ol.length + 2 = N2 := by rw [HOl.out.1]; exact hN2
    rw [el] at hrun hRg hGr
    simp only [sv] at hrun
    have HA12 : Hid (Aw w v12 gx ⟨3, 1099511627776, 5, 0⟩ z8 [e3] gy ⟨3, 1099511627776, 5, 0⟩ z4 [e4] ((s2, rsv n (sv (b_1, r2, b_3)) b, 26) :: ((s1, rsv n (sv (a_1, r2, a_3)) b, 26) :: [(gr, rsv n (sv (i1b, r2, i1c)) b, 26), (gq, rqv ⟨m, s, a, p, (h1b, q2, h1c), ⟨#[]⟩⟩, 24), (q0, rqv ⟨m, s, a, p, (q1, q2, q3), ⟨#[]⟩⟩, 24), (r0, rsv n (sv (r1, r2, r3)) b, 26)])) [((a_1, r2, a_3), ol), ((b_1, r2, b_3), fr)]) := hAV.rowKeep (Ks.of_gr hGr) ol hRa
    have HGg : Hid (R EFd v12 (.slice gg1 N2 gg3) (ol ++ [⟨mn, mv, mb⟩, ⟨mn, mv, mb⟩])) := hRg
    have HN2 : Hid (r2 + 2 = N2) := hN2
    replace hrun : Hid _ := hrun
    clear bb hAV hRg hRa hGr el hmk hN2 HA11
    go_upto_region 25 with (at_builtin; refine Lib.wpList_append_run _ rfl _ _ _ _ rfl _ _ rfl rfl _ _ hrun.out ?_)
    clear hrun hV m0 m1 m2 lm
    clear a0 a1 a2 al
    have aB := (HA12.out.xs (s2, rsv n (sv (b_1, r2, b_3)) b, 26) (by simp)).2
    have a0 := cell_blk aB 0
    have a1 := cell_blk aB 1
    have a2 := cell_blk aB 2
    have al := heap_lt aB
    simp only [rqv, rsv, List.getElem?_toArray, List.getElem?_cons_succ, List.getElem?_cons_zero, sv] at a0 a1 a2
    clear aB
    have pB := (HA12.out.xs (r0, rsv n (sv (r1, r2, r3)) b, 26) (by simp)).2
    have p0 := cell_blk pB 0
    have p1 := cell_blk pB 1
    have p2 := cell_blk pB 2
    have pl := heap_lt pB
    simp only [rqv, rsv, List.getElem?_toArray, List.getElem?_cons_succ, List.getElem?_cons_zero, sv] at p0 p1 p2
    clear pB
    have HSm : Hid (Calls Tryd.prog 15 #[.agg #[.int .i64 n, .slice b_1 r2 b_3, .string b], .agg #[.int .i64 n, .slice r1 r2 r3, .string b]] v12 fun e w' => e = .returned (.bool true) ∧ Below v12.heap.size v12 w') := same_eq n b (b_1, r2, b_3) (r1, r2, r3) fr v12 (HA12.out.fs ((b_1, r2, b_3), fr) (by simp)).1.isIn (HAr.out _ HA12.out.bel)
    go_wp2_with fail
    go_at_call 15
    refine HSm.out.mono ?_
    rintro e v13 ⟨rfl, bb⟩
    have HA13 : Hid (Aw w v13 gx ⟨3, 1099511627776, 5, 0⟩ z8 [e3] gy ⟨3, 1099511627776, 5, 0⟩ z4 [e4] ((s2, rsv n (sv (b_1, r2, b_3)) b, 26) :: ((s1, rsv n (sv (a_1, r2, a_3)) b, 26) :: [(gr, rsv n (sv (i1b, r2, i1c)) b, 26), (gq, rqv ⟨m, s, a, p, (h1b, q2, h1c), ⟨#[]⟩⟩, 24), (q0, rqv ⟨m, s, a, p, (q1, q2, q3), ⟨#[]⟩⟩, 24), (r0, rsv n (sv (r1, r2, r3)) b, 26)])) [((a_1, r2, a_3), ol), ((b_1, r2, b_3), fr)]) := HA12.out.below bb
    have HGg_n : Hid (R EFd v13 (.slice gg1 N2 gg3) (ol ++ [⟨mn, mv, mb⟩, ⟨mn, mv, mb⟩])) := HGg.out.below bb
    clear HGg
    have HGg := HGg_n
    clear HGg_n
    clear bb HSm HA12
    clear a0 a1 a2 al
    clear p0 p1 p2 pl
    have pB := (HA13.out.xs (r0, rsv n (sv (r1, r2, r3)) b, 26) (by simp)).2
    have p0 := cell_blk pB 0
    have p1 := cell_blk pB 1
    have p2 := cell_blk pB 2
    have pl := heap_lt pB
    simp only [rqv, rsv, List.getElem?_toArray, List.getElem?_cons_succ, List.getElem?_cons_zero, sv] at p0 p1 p2
    clear pB
    have n2 : (r2 : Int) + 2 = (N2 : Int) := by have := HN2.out; omega
    have n3 : N2 ≤ 9223372036854775807 := by have := HN2.out; have := (HZ.out (q1, q2, q3) ⟨#[]⟩).zR; have := HLn.out.2; omega
    go_upto_region 27 with fail
    clear n2 n3
    clear p0 p1 p2 pl
    go_wp2_with fail
    go_loopw [20] (fun iv wr => ∃ i : Nat, iv = .int .i64 (i : Int) ∧ i ≤ r2 ∧ wr = v13) (fun iv _ => r2 - (intOf iv).toNat)
    case atStart => exact ⟨0, rfl, by omega, rfl⟩
    case round =>
      obtain ⟨i, rfl, hi, hw⟩ := hrel
      replace hw := hw.symm
      subst hw
      by_cases hlt : i < r2
      · have l1 : (i : Int) < (r2 : Int) := by omega
        have l2 : (i : Int) < (N2 : Int) := by have := HN2.out; omega
        have l3 : (i : Int) + 1 ≤ 9223372036854775807 := by have := (HZ.out (q1, q2, q3) ⟨#[]⟩).zR; have := HLn.out.2; omega
        have hio : i < ol.length := by rw [HOl.out.1]; exact hlt
        obtain ⟨Bg, og, cg, eg, hcg⟩ := HGg.out.isIn.fd i (by rw [List.length_append]; omega)
        injection eg with eg1 eg2 eg3
        clear eg2 eg3
        subst eg1
        obtain ⟨xa, x1, xb⟩ := hcg _ (Below.refl _ _)
        rw [List.getElem_append_left hio, HOl.out.2 i hio] at x1
        obtain ⟨Ba, oa, ca, ea, hca⟩ := (HA13.out.fs ((a_1, r2, a_3), ol) (by simp)).1.isIn.fd i hio
        simp only [sv] at ea
        injection ea with ea1 ea2 ea3
        clear ea2 ea3
        subst ea1
        obtain ⟨ya, y1, yb⟩ := hca _ (Below.refl _ _)
        rw [HOl.out.2 i hio] at y1
        unfold ovF at x1 y1
        simp only at x1 y1
        have aB := (HA13.out.xs (s1, rsv n (sv (some ⟨Ba, oa, none⟩, r2, a_3)) b, 26) (by simp)).2
        have a0 := cell_blk aB 0
        have a1 := cell_blk aB 1
        have a2 := cell_blk aB 2
        have al := heap_lt aB
        simp only [rqv, rsv, List.getElem?_toArray, List.getElem?_cons_succ, List.getElem?_cons_zero, sv] at a0 a1 a2
        clear aB
        clear xa xb ya yb hcg hca hio
        go_wp2_with fail
        go_roundw
        case rel => exact ⟨i + 1, by simp, by omega, by first | trivial | rfl⟩
        case measure => simp [intOf]; omega
      · have l1 : ¬ (i : Int) < (r2 : Int) := by omega
        have aB := (HA13.out.xs (s1, rsv n (sv (a_1, r2, a_3)) b, 26) (by simp)).2
        have a0 := cell_blk aB 0
        have a1 := cell_blk aB 1
        have a2 := cell_blk aB 2
        have al := heap_lt aB
        simp only [rqv, rsv, List.getElem?_toArray, List.getElem?_cons_succ, List.getElem?_cons_zero, sv] at a0 a1 a2
        clear aB
        go_upto_region 32 with fail
        clear a0 a1 a2 al
        have aB := (HA13.out.xs (q0, rqv ⟨m, s, a, p, (q1, q2, q3), ⟨#[]⟩⟩, 24) (by simp)).2
        have a0 := cell_blk aB 0
        have a1 := cell_blk aB 1
        have a2 := cell_blk aB 2
        have a3 := cell_blk aB 3
        have a4 := cell_blk aB 4
        have a5 := cell_blk aB 5
        have al := heap_lt aB
        simp only [rqv, rsv, List.getElem?_toArray, List.getElem?_cons_succ, List.getElem?_cons_zero, sv] at a0 a1 a2 a3 a4 a5
        clear aB
        have pB := (HA13.out.xs (r0, rsv n (sv (r1, r2, r3)) b, 26) (by simp)).2
        have p0 := cell_blk pB 0
        have p1 := cell_blk pB 1
        have p2 := cell_blk pB 2
        have pl := heap_lt pB
        simp only [rqv, rsv, List.getElem?_toArray, List.getElem?_cons_succ, List.getElem?_cons_zero, sv] at p0 p1 p2
        clear pB
        have HSt : Hid (Calls Tryd.prog 11 #[.pointer (some ⟨gx, 0, none⟩), .agg #[.string m, .string s, .string a, .string p, .slice q1 q2 q3, .string ⟨#[]⟩], .agg #[.int .i64 n, .slice r1 r2 r3, .string b], .int .i64 5, .int .i64 0] v13 fun r w' => ∃ (u : Value) (z : SV) (e : En), r = .returned u ∧ Aw w w' gx (hr ⟨3, 1099511627776, 5, 0⟩ 0) z ([e3] ++ [e]) gy ⟨3, 1099511627776, 5, 0⟩ z4 [e4] ((s2, rsv n (sv (b_1, r2, b_3)) b, 26) :: ((s1, rsv n (sv (a_1, r2, a_3)) b, 26) :: [(gr, rsv n (sv (i1b, r2, i1c)) b, 26), (gq, rqv ⟨m, s, a, p, (h1b, q2, h1c), ⟨#[]⟩⟩, 24), (q0, rqv ⟨m, s, a, p, (q1, q2, q3), ⟨#[]⟩⟩, 24), (r0, rsv n (sv (r1, r2, r3)) b, 26)])) [((a_1, r2, a_3), ol), ((b_1, r2, b_3), fr)] ∧ Ee e ⟨m, s, a, p, (q1, q2, q3), ⟨#[]⟩⟩ Q n b fr 5 (hr ⟨3, 1099511627776, 5, 0⟩ 0).ck) := by
          have h := HA13.out
          exact h.storex (q := ⟨m, s, a, p, (q1, q2, q3), ⟨#[]⟩⟩) (ry := (r1, r2, r3)) (fun V hV => HAq.out V (h.bel.trans (hV.below h.bel.size fun i hi ho => by have := h.lx i (.inl ho); omega))) (fun V hV => HAr.out V (h.bel.trans (hV.below h.bel.size fun i hi ho => by have := h.lx i (.inl ho); omega))) (HZ.out _ _) HsB.out 5 0 (by decide) (by simp) (by
            have := HZd.out
            simp only [totL, List.map_cons, List.map_nil, List.sum_cons, List.sum_nil, HE3.out.sz]
            omega) (fun e he => by
            simp only [List.mem_cons, List.not_mem_nil, or_false] at he
            rcases he with rfl
            · exact decide_eq_false (by rw [HE3.out.ar]; decide)
            )
        go_wp2_with fail
        go_at_call 11
        refine HSt.out.mono ?_
        rintro e v14 ⟨u14, z14, e5, rfl, hA, hE⟩
        have HA14 : Hid (Aw w v14 gx ⟨3, 1099511627776, 5, 0⟩ z14 [e3, e5] gy ⟨3, 1099511627776, 5, 0⟩ z4 [e4] ((s2, rsv n (sv (b_1, r2, b_3)) b, 26) :: ((s1, rsv n (sv (a_1, r2, a_3)) b, 26) :: [(gr, rsv n (sv (i1b, r2, i1c)) b, 26), (gq, rqv ⟨m, s, a, p, (h1b, q2, h1c), ⟨#[]⟩⟩, 24), (q0, rqv ⟨m, s, a, p, (q1, q2, q3), ⟨#[]⟩⟩, 24), (r0, rsv n (sv (r1, r2, r3)) b, 26)])) [((a_1, r2, a_3), ol), ((b_1, r2, b_3), fr)]) := hA
        have HE5 : Hid (Ee e5 ⟨m, s, a, p, (q1, q2, q3), ⟨#[]⟩⟩ Q n b fr 5 0) := hE
        clear hA hE HSt HA13
        clear a0 a1 a2 a3 a4 a5 al
        clear p0 p1 p2 pl
        have aB := (HA14.out.xs (q0, rqv ⟨m, s, a, p, (q1, q2, q3), ⟨#[]⟩⟩, 24) (by simp)).2
        have a0 := cell_blk aB 0
        have a1 := cell_blk aB 1
        have a2 := cell_blk aB 2
        have a3 := cell_blk aB 3
        have a4 := cell_blk aB 4
        have a5 := cell_blk aB 5
        have al := heap_lt aB
        simp only [rqv, rsv, List.getElem?_toArray, List.getElem?_cons_succ, List.getElem?_cons_zero, sv] at a0 a1 a2 a3 a4 a5
        clear aB
        go_wp2_with fail
        go_at_call 13
        refine (HA14.out.claimx (q := ⟨m, s, a, p, (q1, q2, q3), ⟨#[]⟩⟩) HE3.out rfl rfl (HZ.out (q1, q2, q3) ⟨#[]⟩).zQ (fun V hV => HAq.out V (HA14.out.bel.trans (hV.below HA14.out.bel.size fun i hi e => by rw [e] at hi; have := HA14.out.lx gx (.inl (.inl rfl)); omega))) 0 (by decide) (by decide)).mono ?_
        rintro e v15 ⟨⟨c_1, c_2, c_3⟩, z15, rfl, hA⟩
        obtain rfl : r2 = c_2 := HLn.out.2.trans (slice_len (hA.fs ((c_1, c_2, c_3), fr) (by simp)).1.isIn).1.symm
        have hA' : Aw w v15 gx ⟨3, 1099511627776, 5, 0⟩ z15 [e5] gy ⟨3, 1099511627776, 5, 0⟩ z4 [e4] ((s2, rsv n (sv (b_1, r2, b_3)) b, 26) :: ((s1, rsv n (sv (a_1, r2, a_3)) b, 26) :: [(gr, rsv n (sv (i1b, r2, i1c)) b, 26), (gq, rqv ⟨m, s, a, p, (h1b, q2, h1c), ⟨#[]⟩⟩, 24), (q0, rqv ⟨m, s, a, p, (q1, q2, q3), ⟨#[]⟩⟩, 24), (r0, rsv n (sv (r1, r2, r3)) b, 26)])) [((c_1, r2, c_3), fr), ((a_1, r2, a_3), ol), ((b_1, r2, b_3), fr)] := hA
        obtain ⟨s3, hs⟩ : ∃ k, v15.heap.size = k := ⟨_, rfl⟩
        obtain ⟨V15, hV⟩ : ∃ W, v15.alloc (.cells #[.int .i64 n, .slice c_1 r2 c_3, .string b] 26) = W := ⟨_, rfl⟩
        have bb : Below v15.heap.size v15 V15 := by rw [← hV]; exact bel1 _ _
        have HA15 : Hid (Aw w V15 gx ⟨3, 1099511627776, 5, 0⟩ z15 [e5] gy ⟨3, 1099511627776, 5, 0⟩ z4 [e4] ((s3, rsv n (sv (c_1, r2, c_3)) b, 26) :: ((s2, rsv n (sv (b_1, r2, b_3)) b, 26) :: ((s1, rsv n (sv (a_1, r2, a_3)) b, 26) :: [(gr, rsv n (sv (i1b, r2, i1c)) b, 26), (gq, rqv ⟨m, s, a, p, (h1b, q2, h1c), ⟨#[]⟩⟩, 24), (q0, rqv ⟨m, s, a, p, (q1, q2, q3), ⟨#[]⟩⟩, 24), (r0, rsv n (sv (r1, r2, r3)) b, 26)]))) [((c_1, r2, c_3), fr), ((a_1, r2, a_3), ol), ((b_1, r2, b_3), fr)]) := (hA'.below bb).box s3 _ 26 ⟨show (26 : TypeId) ≠ 83 by decide, show (26 : TypeId) ≠ 87 by decide, show (26 : TypeId) ≠ 51 by decide⟩ (by rw [← hV, ← hs, heap_al, if_pos rfl]; rfl)
        clear hA hA' bb HA14
        clear a0 a1 a2 a3 a4 a5 al
        unfold rsv
        simp only [sv]
        go_upto_region 34 with fail
        try rw [hV]
        try rw [hs]
        clear hV hs
        have aB := (HA15.out.xs (q0, rqv ⟨m, s, a, p, (q1, q2, q3), ⟨#[]⟩⟩, 24) (by simp)).2
        have a0 := cell_blk aB 0
        have a1 := cell_blk aB 1
        have a2 := cell_blk aB 2
        have a3 := cell_blk aB 3
        have a4 := cell_blk aB 4
        have a5 := cell_blk aB 5
        have al := heap_lt aB
        simp only [rqv, rsv, List.getElem?_toArray, List.getElem?_cons_succ, List.getElem?_cons_zero, sv] at a0 a1 a2 a3 a4 a5
        clear aB
        go_wp2_with fail
        go_at_call 13
        refine (HA15.out.turn.claimx (q := ⟨m, s, a, p, (q1, q2, q3), ⟨#[]⟩⟩) HE4.out rfl rfl (HZ.out (q1, q2, q3) ⟨#[]⟩).zQ (fun V hV => HAq.out V (HA15.out.bel.trans (hV.below HA15.out.bel.size fun i hi e => by rw [e] at hi; have := HA15.out.ly gy (.inl (.inl rfl)); omega))) 0 (by decide) (by decide)).mono ?_
        rintro e v16 ⟨⟨d_1, d_2, d_3⟩, z16, rfl, hA⟩
        obtain rfl : r2 = d_2 := HLn.out.2.trans (slice_len (hA.fs ((d_1, d_2, d_3), fr) (by simp)).1.isIn).1.symm
        have hA' : Aw w v16 gx ⟨3, 1099511627776, 5, 0⟩ z15 [e5] gy ⟨3, 1099511627776, 5, 0⟩ z16 [] ((s3, rsv n (sv (c_1, r2, c_3)) b, 26) :: ((s2, rsv n (sv (b_1, r2, b_3)) b, 26) :: ((s1, rsv n (sv (a_1, r2, a_3)) b, 26) :: [(gr, rsv n (sv (i1b, r2, i1c)) b, 26), (gq, rqv ⟨m, s, a, p, (h1b, q2, h1c), ⟨#[]⟩⟩, 24), (q0, rqv ⟨m, s, a, p, (q1, q2, q3), ⟨#[]⟩⟩, 24), (r0, rsv n (sv (r1, r2, r3)) b, 26)]))) [((d_1, r2, d_3), fr), ((c_1, r2, c_3), fr), ((a_1, r2, a_3), ol), ((b_1, r2, b_3), fr)] := hA.turn
        obtain ⟨s4, hs⟩ : ∃ k, v16.heap.size = k := ⟨_, rfl⟩
        obtain ⟨V16, hV⟩ : ∃ W, v16.alloc (.cells #[.int .i64 n, .slice d_1 r2 d_3, .string b] 26) = W := ⟨_, rfl⟩
        have bb : Below v16.heap.size v16 V16 := by rw [← hV]; exact bel1 _ _
        have HA16 : Hid (Aw w V16 gx ⟨3, 1099511627776, 5, 0⟩ z15 [e5] gy ⟨3, 1099511627776, 5, 0⟩ z16 [] ((s4, rsv n (sv (d_1, r2, d_3)) b, 26) :: ((s3, rsv n (sv (c_1, r2, c_3)) b, 26) :: ((s2, rsv n (sv (b_1, r2, b_3)) b, 26) :: ((s1, rsv n (sv (a_1, r2, a_3)) b, 26) :: [(gr, rsv n (sv (i1b, r2, i1c)) b, 26), (gq, rqv ⟨m, s, a, p, (h1b, q2, h1c), ⟨#[]⟩⟩, 24), (q0, rqv ⟨m, s, a, p, (q1, q2, q3), ⟨#[]⟩⟩, 24), (r0, rsv n (sv (r1, r2, r3)) b, 26)])))) [((d_1, r2, d_3), fr), ((c_1, r2, c_3), fr), ((a_1, r2, a_3), ol), ((b_1, r2, b_3), fr)]) := (hA'.below bb).box s4 _ 26 ⟨show (26 : TypeId) ≠ 83 by decide, show (26 : TypeId) ≠ 87 by decide, show (26 : TypeId) ≠ 51 by decide⟩ (by rw [← hV, ← hs, heap_al, if_pos rfl]; rfl)
        clear hA hA' bb HA15
        clear a0 a1 a2 a3 a4 a5 al
        unfold rsv
        simp only [sv]
        go_upto_region 35 with fail
        try rw [hV]
        try rw [hs]
        clear hV hs
        have aB := (HA16.out.xs (s3, rsv n (sv (c_1, r2, c_3)) b, 26) (by simp)).2
        have a0 := cell_blk aB 0
        have a1 := cell_blk aB 1
        have a2 := cell_blk aB 2
        have al := heap_lt aB
        simp only [rqv, rsv, List.getElem?_toArray, List.getElem?_cons_succ, List.getElem?_cons_zero, sv] at a0 a1 a2
        clear aB
        have pB := (HA16.out.xs (r0, rsv n (sv (r1, r2, r3)) b, 26) (by simp)).2
        have p0 := cell_blk pB 0
        have p1 := cell_blk pB 1
        have p2 := cell_blk pB 2
        have pl := heap_lt pB
        simp only [rqv, rsv, List.getElem?_toArray, List.getElem?_cons_succ, List.getElem?_cons_zero, sv] at p0 p1 p2
        clear pB
        have HSm : Hid (Calls Tryd.prog 15 #[.agg #[.int .i64 n, .slice c_1 r2 c_3, .string b], .agg #[.int .i64 n, .slice r1 r2 r3, .string b]] V16 fun e w' => e = .returned (.bool true) ∧ Below V16.heap.size V16 w') := same_eq n b (c_1, r2, c_3) (r1, r2, r3) fr V16 (HA16.out.fs ((c_1, r2, c_3), fr) (by simp)).1.isIn (HAr.out _ HA16.out.bel)
        go_wp2_with fail
        go_at_call 15
        refine HSm.out.mono ?_
        rintro e v17 ⟨rfl, bb⟩
        have HA17 : Hid (Aw w v17 gx ⟨3, 1099511627776, 5, 0⟩ z15 [e5] gy ⟨3, 1099511627776, 5, 0⟩ z16 [] ((s4, rsv n (sv (d_1, r2, d_3)) b, 26) :: ((s3, rsv n (sv (c_1, r2, c_3)) b, 26) :: ((s2, rsv n (sv (b_1, r2, b_3)) b, 26) :: ((s1, rsv n (sv (a_1, r2, a_3)) b, 26) :: [(gr, rsv n (sv (i1b, r2, i1c)) b, 26), (gq, rqv ⟨m, s, a, p, (h1b, q2, h1c), ⟨#[]⟩⟩, 24), (q0, rqv ⟨m, s, a, p, (q1, q2, q3), ⟨#[]⟩⟩, 24), (r0, rsv n (sv (r1, r2, r3)) b, 26)])))) [((d_1, r2, d_3), fr), ((c_1, r2, c_3), fr), ((a_1, r2, a_3), ol), ((b_1, r2, b_3), fr)]) := HA16.out.below bb
        clear bb HSm HA16
        clear a0 a1 a2 al
        clear p0 p1 p2 pl
        have aB := (HA17.out.xs (s4, rsv n (sv (d_1, r2, d_3)) b, 26) (by simp)).2
        have a0 := cell_blk aB 0
        have a1 := cell_blk aB 1
        have a2 := cell_blk aB 2
        have al := heap_lt aB
        simp only [rqv, rsv, List.getElem?_toArray, List.getElem?_cons_succ, List.getElem?_cons_zero, sv] at a0 a1 a2
        clear aB
        have pB := (HA17.out.xs (r0, rsv n (sv (r1, r2, r3)) b, 26) (by simp)).2
        have p0 := cell_blk pB 0
        have p1 := cell_blk pB 1
        have p2 := cell_blk pB 2
        have pl := heap_lt pB
        simp only [rqv, rsv, List.getElem?_toArray, List.getElem?_cons_succ, List.getElem?_cons_zero, sv] at p0 p1 p2
        clear pB
        have HSm : Hid (Calls Tryd.prog 15 #[.agg #[.int .i64 n, .slice d_1 r2 d_3, .string b], .agg #[.int .i64 n, .slice r1 r2 r3, .string b]] v17 fun e w' => e = .returned (.bool true) ∧ Below v17.heap.size v17 w') := same_eq n b (d_1, r2, d_3) (r1, r2, r3) fr v17 (HA17.out.fs ((d_1, r2, d_3), fr) (by simp)).1.isIn (HAr.out _ HA17.out.bel)
        go_wp2_with fail
        go_at_call 15
        refine HSm.out.mono ?_
        rintro e v18 ⟨rfl, bb⟩
        have HA18 : Hid (Aw w v18 gx ⟨3, 1099511627776, 5, 0⟩ z15 [e5] gy ⟨3, 1099511627776, 5, 0⟩ z16 [] ((s4, rsv n (sv (d_1, r2, d_3)) b, 26) :: ((s3, rsv n (sv (c_1, r2, c_3)) b, 26) :: ((s2, rsv n (sv (b_1, r2, b_3)) b, 26) :: ((s1, rsv n (sv (a_1, r2, a_3)) b, 26) :: [(gr, rsv n (sv (i1b, r2, i1c)) b, 26), (gq, rqv ⟨m, s, a, p, (h1b, q2, h1c), ⟨#[]⟩⟩, 24), (q0, rqv ⟨m, s, a, p, (q1, q2, q3), ⟨#[]⟩⟩, 24), (r0, rsv n (sv (r1, r2, r3)) b, 26)])))) [((d_1, r2, d_3), fr), ((c_1, r2, c_3), fr), ((a_1, r2, a_3), ol), ((b_1, r2, b_3), fr)]) := HA17.out.below bb
        clear bb HSm HA17
        clear a0 a1 a2 al
        clear p0 p1 p2 pl
        have aB := (HA18.out.xs (s2, rsv n (sv (b_1, r2, b_3)) b, 26) (by simp)).2
        have a0 := cell_blk aB 0
        have a1 := cell_blk aB 1
        have a2 := cell_blk aB 2
        have al := heap_lt aB
        simp only [rqv, rsv, List.getElem?_toArray, List.getElem?_cons_succ, List.getElem?_cons_zero, sv] at a0 a1 a2
        clear aB
        have pB := (HA18.out.xs (r0, rsv n (sv (r1, r2, r3)) b, 26) (by simp)).2
        have p0 := cell_blk pB 0
        have p1 := cell_blk pB 1
        have p2 := cell_blk pB 2
        have pl := heap_lt pB
        simp only [rqv, rsv, List.getElem?_toArray, List.getElem?_cons_succ, List.getElem?_cons_zero, sv] at p0 p1 p2
        clear pB
        have HSm : Hid (Calls Tryd.prog 15 #[.agg #[.int .i64 n, .slice b_1 r2 b_3, .string b], .agg #[.int .i64 n, .slice r1 r2 r3, .string b]] v18 fun e w' => e = .returned (.bool true) ∧ Below v18.heap.size v18 w') := same_eq n b (b_1, r2, b_3) (r1, r2, r3) fr v18 (HA18.out.fs ((b_1, r2, b_3), fr) (by simp)).1.isIn (HAr.out _ HA18.out.bel)
        go_wp2_with fail
        go_at_call 15
        refine HSm.out.mono ?_
        rintro e v19 ⟨rfl, bb⟩
        have HA19 : Hid (Aw w v19 gx ⟨3, 1099511627776, 5, 0⟩ z15 [e5] gy ⟨3, 1099511627776, 5, 0⟩ z16 [] ((s4, rsv n (sv (d_1, r2, d_3)) b, 26) :: ((s3, rsv n (sv (c_1, r2, c_3)) b, 26) :: ((s2, rsv n (sv (b_1, r2, b_3)) b, 26) :: ((s1, rsv n (sv (a_1, r2, a_3)) b, 26) :: [(gr, rsv n (sv (i1b, r2, i1c)) b, 26), (gq, rqv ⟨m, s, a, p, (h1b, q2, h1c), ⟨#[]⟩⟩, 24), (q0, rqv ⟨m, s, a, p, (q1, q2, q3), ⟨#[]⟩⟩, 24), (r0, rsv n (sv (r1, r2, r3)) b, 26)])))) [((d_1, r2, d_3), fr), ((c_1, r2, c_3), fr), ((a_1, r2, a_3), ol), ((b_1, r2, b_3), fr)]) := HA18.out.below bb
        clear bb HSm HA18
        clear a0 a1 a2 al
        clear p0 p1 p2 pl
        have aB := (HA19.out.xs (q0, rqv ⟨m, s, a, p, (q1, q2, q3), ⟨#[]⟩⟩, 24) (by simp)).2
        have a0 := cell_blk aB 0
        have a1 := cell_blk aB 1
        have a2 := cell_blk aB 2
        have a3 := cell_blk aB 3
        have a4 := cell_blk aB 4
        have a5 := cell_blk aB 5
        have al := heap_lt aB
        simp only [rqv, rsv, List.getElem?_toArray, List.getElem?_cons_succ, List.getElem?_cons_zero, sv] at a0 a1 a2 a3 a4 a5
        clear aB
        have pB := (HA19.out.xs (r0, rsv n (sv (r1, r2, r3)) b, 26) (by simp)).2
        have p0 := cell_blk pB 0
        have p1 := cell_blk pB 1
        have p2 := cell_blk pB 2
        have pl := heap_lt pB
        simp only [rqv, rsv, List.getElem?_toArray, List.getElem?_cons_succ, List.getElem?_cons_zero, sv] at p0 p1 p2
        clear pB
        have HSt : Hid (Calls Tryd.prog 11 #[.pointer (some ⟨gy, 0, none⟩), .agg #[.string m, .string s, .string a, .string p, .slice q1 q2 q3, .string ⟨#[]⟩], .agg #[.int .i64 n, .slice r1 r2 r3, .string b], .int .i64 6, .int .i64 1] v19 fun r w' => ∃ (u : Value) (z : SV) (e : En), r = .returned u ∧ Aw w w' gy (hr ⟨3, 1099511627776, 5, 0⟩ 1) z ([] ++ [e]) gx ⟨3, 1099511627776, 5, 0⟩ z15 [e5] ((s4, rsv n (sv (d_1, r2, d_3)) b, 26) :: ((s3, rsv n (sv (c_1, r2, c_3)) b, 26) :: ((s2, rsv n (sv (b_1, r2, b_3)) b, 26) :: ((s1, rsv n (sv (a_1, r2, a_3)) b, 26) :: [(gr, rsv n (sv (i1b, r2, i1c)) b, 26), (gq, rqv ⟨m, s, a, p, (h1b, q2, h1c), ⟨#[]⟩⟩, 24), (q0, rqv ⟨m, s, a, p, (q1, q2, q3), ⟨#[]⟩⟩, 24), (r0, rsv n (sv (r1, r2, r3)) b, 26)])))) [((d_1, r2, d_3), fr), ((c_1, r2, c_3), fr), ((a_1, r2, a_3), ol), ((b_1, r2, b_3), fr)] ∧ Ee e ⟨m, s, a, p, (q1, q2, q3), ⟨#[]⟩⟩ Q n b fr 6 (hr ⟨3, 1099511627776, 5, 0⟩ 1).ck) := by
          have h := HA19.out.turn
          exact h.storex (q := ⟨m, s, a, p, (q1, q2, q3), ⟨#[]⟩⟩) (ry := (r1, r2, r3)) (fun V hV => HAq.out V (h.bel.trans (hV.below h.bel.size fun i hi ho => by have := h.lx i (.inl ho); omega))) (fun V hV => HAr.out V (h.bel.trans (hV.below h.bel.size fun i hi ho => by have := h.lx i (.inl ho); omega))) (HZ.out _ _) HsB.out 6 1 (by decide) (by simp) (by
            have := HZd.out
            simp only [totL, List.map_cons, List.map_nil, List.sum_cons, List.sum_nil]
            omega) (fun e he => by simp at he)
        go_wp2_with fail
        go_at_call 11
        refine HSt.out.mono ?_
        rintro e v20 ⟨u20, z20, e6, rfl, hA, hE⟩
        have HA20 : Hid (Aw w v20 gx ⟨3, 1099511627776, 5, 0⟩ z15 [e5] gy ⟨3, 1099511627776, 5, 1⟩ z20 [e6] ((s4, rsv n (sv (d_1, r2, d_3)) b, 26) :: ((s3, rsv n (sv (c_1, r2, c_3)) b, 26) :: ((s2, rsv n (sv (b_1, r2, b_3)) b, 26) :: ((s1, rsv n (sv (a_1, r2, a_3)) b, 26) :: [(gr, rsv n (sv (i1b, r2, i1c)) b, 26), (gq, rqv ⟨m, s, a, p, (h1b, q2, h1c), ⟨#[]⟩⟩, 24), (q0, rqv ⟨m, s, a, p, (q1, q2, q3), ⟨#[]⟩⟩, 24), (r0, rsv n (sv (r1, r2, r3)) b, 26)])))) [((d_1, r2, d_3), fr), ((c_1, r2, c_3), fr), ((a_1, r2, a_3), ol), ((b_1, r2, b_3), fr)]) := hA.turn
        have HE6 : Hid (Ee e6 ⟨m, s, a, p, (q1, q2, q3), ⟨#[]⟩⟩ Q n b fr 6 1) := hE
        clear hA hE HSt HA19
        clear a0 a1 a2 a3 a4 a5 al
        clear p0 p1 p2 pl
        have HBx : Hid (w.heap.size ≤ v20.heap.size) := HA20.out.bel.size
        go_wp2_with fail
        go_at_call 10
        refine (HA20.out.tickx 100 (by decide) (by rw [HE5.out.ar]; decide)).mono ?_
        rintro e v21 ⟨⟨uu1, uu2, uu3⟩, z21, rfl, hR, hn, hA, hk⟩
        rw [HE5.out.st] at hR
        have Huu : Hid (R EI v21 (.slice uu1 uu2 uu3) [5]) := hR
        have HA21 : Hid (Aw w v21 gx ⟨3, 1099511627776, 5, 100⟩ z21 [] gy ⟨3, 1099511627776, 5, 1⟩ z20 [e6] ((s4, rsv n (sv (d_1, r2, d_3)) b, 26) :: ((s3, rsv n (sv (c_1, r2, c_3)) b, 26) :: ((s2, rsv n (sv (b_1, r2, b_3)) b, 26) :: ((s1, rsv n (sv (a_1, r2, a_3)) b, 26) :: [(gr, rsv n (sv (i1b, r2, i1c)) b, 26), (gq, rqv ⟨m, s, a, p, (h1b, q2, h1c), ⟨#[]⟩⟩, 24), (q0, rqv ⟨m, s, a, p, (q1, q2, q3), ⟨#[]⟩⟩, 24), (r0, rsv n (sv (r1, r2, r3)) b, 26)])))) [((d_1, r2, d_3), fr), ((c_1, r2, c_3), fr), ((a_1, r2, a_3), ol), ((b_1, r2, b_3), fr)]) := hA
        simp only [sv]
        have HUw0 : Hid (∀ k, (Value.slice uu1 uu2 uu3).ownBlock = some k → w.heap.size ≤ k) := fun k hk => Nat.le_trans HBx.out (hn k hk)
        clear hR hn hA hk HA20
        go_wp2_with fail
        go_at_call 10
        refine (HA21.out.turn.tickx 100 (by decide) (by rw [HE6.out.ar]; decide)).mono ?_
        rintro e v22 ⟨⟨vv1, vv2, vv3⟩, z22, rfl, hR, hn, hA, hk⟩
        rw [HE6.out.st] at hR
        have Hvv : Hid (R EI v22 (.slice vv1 vv2 vv3) [6]) := hR
        have Hu_n : Hid (R EI v22 (.slice uu1 uu2 uu3) [5]) := Huu.out.stays fun k hk' hl => hk.block k hl (by
          obtain ⟨cc, hc⟩ := Huu.out.ty k hk'
          exact HA21.out.y.offb hc (by decide) (by decide))
        have HUV : Hid (∀ k, (Value.slice uu1 uu2 uu3).ownBlock = some k → (Value.slice vv1 vv2 vv3).ownBlock ≠ some k) := fun k h1 h2 => by have := Huu.out.lt k h1; have := hn k h2; omega
        clear Huu
        have Huu := Hu_n
        clear Hu_n
        have HA22 : Hid (Aw w v22 gx ⟨3, 1099511627776, 5, 100⟩ z21 [] gy ⟨3, 1099511627776, 5, 100⟩ z22 [] ((s4, rsv n (sv (d_1, r2, d_3)) b, 26) :: ((s3, rsv n (sv (c_1, r2, c_3)) b, 26) :: ((s2, rsv n (sv (b_1, r2, b_3)) b, 26) :: ((s1, rsv n (sv (a_1, r2, a_3)) b, 26) :: [(gr, rsv n (sv (i1b, r2, i1c)) b, 26), (gq, rqv ⟨m, s, a, p, (h1b, q2, h1c), ⟨#[]⟩⟩, 24), (q0, rqv ⟨m, s, a, p, (q1, q2, q3), ⟨#[]⟩⟩, 24), (r0, rsv n (sv (r1, r2, r3)) b, 26)])))) [((d_1, r2, d_3), fr), ((c_1, r2, c_3), fr), ((a_1, r2, a_3), ol), ((b_1, r2, b_3), fr)]) := hA.turn
        simp only [sv]
        clear hR hn hA hk HA21
        have HXx : Hid (Cx v22 gx ⟨3, 1099511627776, 5, 100⟩ z21 []) := HA22.out.x
        have HBw : Hid (Below w.heap.size w v22) := HA22.out.bel
        have HGx : Hid (w.heap.size ≤ gx ∧ ∀ k, (sv z21).ownBlock = some k → w.heap.size ≤ k) := ⟨HA22.out.lx gx (.inl (.inl rfl)), fun k hk => HA22.out.lx k (.inl (.inr hk))⟩
        have HUw : Hid (∀ k, (Value.slice uu1 uu2 uu3).ownBlock = some k → w.heap.size ≤ k) := HUw0.out
        clear HA22
        obtain ⟨V23, hV⟩ : ∃ W, v22.alloc (.cells #[.int .i64 5] 2) = W := ⟨_, rfl⟩
        obtain ⟨kk, hkk⟩ : ∃ k, v22.heap.size = k := ⟨_, rfl⟩
        have bb : Below v22.heap.size v22 V23 := by rw [← hV]; exact bel1 _ _
        have HSi : Hid (Calls Tryd.prog 16 #[.slice uu1 uu2 uu3, .slice (some ⟨kk, 0, none⟩) 1 1] V23 fun e w' => e = .returned (.bool true) ∧ Below V23.heap.size V23 w') := sameInts_eq (uu1, uu2, uu3) (some ⟨kk, 0, none⟩, 1, 1) [5] V23 (Huu.out.below bb).isIn (by rw [← hV, ← hkk]; exact in_one (E := EI) _ _ 5 #[.int .i64 5] 2 (0, 0) (by rw [heap_al, if_pos rfl]) rfl)
        go_wp2_with fail
        try rw [hV]
        try rw [hkk]
        go_at_call 16
        refine HSi.out.mono ?_
        rintro e v23 ⟨rfl, bc⟩
        have bd : Below v22.heap.size v22 v23 := bb.trans (bc.mono bb.size)
        have Huu_n : Hid (R EI v23 (.slice uu1 uu2 uu3) [5]) := Huu.out.below bd
        clear Huu
        have Huu := Huu_n
        clear Huu_n
        have Hvv_n : Hid (R EI v23 (.slice vv1 vv2 vv3) [6]) := Hvv.out.below bd
        clear Hvv
        have Hvv := Hvv_n
        clear Hvv_n
        have HXx_n : Hid (Cx v23 gx ⟨3, 1099511627776, 5, 100⟩ z21 []) := HXx.out.below bd
        clear HXx
        have HXx := HXx_n
        clear HXx_n
        have HBw_n : Hid (Below w.heap.size w v23) := HBw.out.trans (bd.mono HBw.out.size)
        clear HBw
        have HBw := HBw_n
        clear HBw_n
        clear bb bc bd HSi hV hkk
        obtain ⟨V24, hV⟩ : ∃ W, v23.alloc (.cells #[.int .i64 6] 2) = W := ⟨_, rfl⟩
        obtain ⟨kk, hkk⟩ : ∃ k, v23.heap.size = k := ⟨_, rfl⟩
        have bb : Below v23.heap.size v23 V24 := by rw [← hV]; exact bel1 _ _
        have HSi : Hid (Calls Tryd.prog 16 #[.slice vv1 vv2 vv3, .slice (some ⟨kk, 0, none⟩) 1 1] V24 fun e w' => e = .returned (.bool true) ∧ Below V24.heap.size V24 w') := sameInts_eq (vv1, vv2, vv3) (some ⟨kk, 0, none⟩, 1, 1) [6] V24 (Hvv.out.below bb).isIn (by rw [← hV, ← hkk]; exact in_one (E := EI) _ _ 6 #[.int .i64 6] 2 (0, 0) (by rw [heap_al, if_pos rfl]) rfl)
        go_wp2_with fail
        try rw [hV]
        try rw [hkk]
        go_at_call 16
        refine HSi.out.mono ?_
        rintro e v24 ⟨rfl, bc⟩
        have bd : Below v23.heap.size v23 v24 := bb.trans (bc.mono bb.size)
        have Huu_n : Hid (R EI v24 (.slice uu1 uu2 uu3) [5]) := Huu.out.below bd
        clear Huu
        have Huu := Huu_n
        clear Huu_n
        have Hvv_n : Hid (R EI v24 (.slice vv1 vv2 vv3) [6]) := Hvv.out.below bd
        clear Hvv
        have Hvv := Hvv_n
        clear Hvv_n
        have HXx_n : Hid (Cx v24 gx ⟨3, 1099511627776, 5, 100⟩ z21 []) := HXx.out.below bd
        clear HXx
        have HXx := HXx_n
        clear HXx_n
        have HBw_n : Hid (Below w.heap.size w v24) := HBw.out.trans (bd.mono HBw.out.size)
        clear HBw
        have HBw := HBw_n
        clear HBw_n
        clear bb bc bd HSi hV hkk
        go_upto_region 42 with fail
        obtain ⟨gu, hgu, c0, f0, ⟨cc, hcc⟩, hset⟩ := R.zero Huu.out
        subst hgu
        obtain ⟨Wa, hWa⟩ : ∃ W, v24.setCell ⟨gu, 0, none⟩ (.int .i64 (-1)) = W := ⟨_, rfl⟩
        have HXa : Hid (Cx Wa gx ⟨3, 1099511627776, 5, 100⟩ z21 []) := HXx.out.keep fun k hk hl => by
          rw [← hWa]
          refine setCell_other _ _ _ _ _ fun e => ?_
          rcases hk with hk | ⟨e', he', _⟩
          · rw [e] at hk
            exact HXx.out.offb hcc (by decide) (by decide) hk
          · simp at he'
        have Hua : Hid (R EI Wa (.slice (some ⟨gu, 0, none⟩) uu2 uu3) [-1]) := by rw [← hWa]; exact hset (-1)
        have Hva : Hid (R EI Wa (.slice vv1 vv2 vv3) [6]) := Hvv.out.stays fun k hk _ => by rw [← hWa]; exact setCell_other _ _ _ _ _ fun e => HUV.out gu rfl (by rw [← e]; exact hk)
        have HBa : Hid (Below w.heap.size w Wa) := by rw [← hWa]; exact HBw.out.setCell (p := ⟨gu, 0, none⟩) (HUw.out gu rfl) _
        have lgu := heap_lt hcc
        have hu2 : (0 : Int) < (uu2 : Int) := by
          have e2 : uu2 = ([-1] : List Int).length := by obtain ⟨_, _, e, _⟩ := Hua.out.isIn.slice; injection e
          rw [e2]; decide
        clear hset hcc Huu Hvv HXx HBw
        go_upto_region 43 with fail
        try rw [hWa]
        clear hWa c0 f0 lgu hu2
        obtain ⟨Wb, hWb⟩ : ∃ W, Wa.alloc (.cells #[.int .i64 (-2)] 2) = W := ⟨_, rfl⟩
        have bb : Below Wa.heap.size Wa Wb := by rw [← hWb]; exact bel1 _ _
        obtain ⟨b2, c2, w2, e1, e2, e3⟩ := Go.Proofs.YtfponcdhaefkdaaDoor.app okI Wb (.slice (some ⟨gu, 0, none⟩) uu2 uu3) [-1] (Hua.out.below bb) (.slice (some ⟨Wa.heap.size, 0, none⟩) 1 1) [-2] (by rw [← hWb]; exact in_one (E := EI) _ _ (-2) #[.int .i64 (-2)] 2 (0, 0) (by rw [heap_al, if_pos rfl]) rfl) (by decide)
        have el : ([-1] : List Int).length + ([-2] : List Int).length = 2 := rfl
        rw [el] at e1 e2 e3
        have HXc : Hid (Cx w2 gx ⟨3, 1099511627776, 5, 100⟩ z21 []) := (HXa.out.below bb).keep fun k hk hl => e3.block k hl fun e => by
          obtain ⟨cc, hcc⟩ := (Hua.out.below bb).ty k e
          rcases hk with hk | ⟨e', he', _⟩
          · exact (HXa.out.below bb).offb hcc (by decide) (by decide) hk
          · simp at he'
        have Hww : Hid (R EI w2 (.slice b2 2 c2) [-1, -2]) := e2
        have Hvc : Hid (R EI w2 (.slice vv1 vv2 vv3) [6]) := (Hva.out.below bb).stays fun k hk hl => e3.block k hl fun e => HUV.out k e hk
        have HBc : Hid (Below w.heap.size w w2) := (HBa.out.trans (bb.mono HBa.out.size)).trans (e3.belowB (Nat.le_trans HBa.out.size bb.size) (fun k hk => HUw.out k hk))
        replace e1 : Hid _ := e1
        clear bb e2 e3 el HXa Hua Hva HBa
        go_upto_region 44 with (at_builtin; refine Lib.wpList_append_run _ rfl _ _ _ _ rfl _ _ rfl rfl _ _ e1.out ?_)
        clear e1 hWb
        have Hvv := Hvc
        clear Hvc
        obtain ⟨V25, hV⟩ : ∃ W, w2.alloc (.cells #[.int .i64 6] 2) = W := ⟨_, rfl⟩
        obtain ⟨kk, hkk⟩ : ∃ k, w2.heap.size = k := ⟨_, rfl⟩
        have bb : Below w2.heap.size w2 V25 := by rw [← hV]; exact bel1 _ _
        have HSi : Hid (Calls Tryd.prog 16 #[.slice vv1 vv2 vv3, .slice (some ⟨kk, 0, none⟩) 1 1] V25 fun e w' => e = .returned (.bool true) ∧ Below V25.heap.size V25 w') := sameInts_eq (vv1, vv2, vv3) (some ⟨kk, 0, none⟩, 1, 1) [6] V25 (Hvv.out.below bb).isIn (by rw [← hV, ← hkk]; exact in_one (E := EI) _ _ 6 #[.int .i64 6] 2 (0, 0) (by rw [heap_al, if_pos rfl]) rfl)
        go_wp2_with fail
        try rw [hV]
        try rw [hkk]
        go_at_call 16
        refine HSi.out.mono ?_
        rintro e v25 ⟨rfl, bc⟩
        have bd : Below w2.heap.size w2 v25 := bb.trans (bc.mono bb.size)
        have Hww_n : Hid (R EI v25 (.slice b2 2 c2) [-1, -2]) := Hww.out.below bd
        clear Hww
        have Hww := Hww_n
        clear Hww_n
        have HXc_n : Hid (Cx v25 gx ⟨3, 1099511627776, 5, 100⟩ z21 []) := HXc.out.below bd
        clear HXc
        have HXc := HXc_n
        clear HXc_n
        have HBd : Hid (Below w.heap.size w v25) := HBc.out.trans (bd.mono HBc.out.size)
        clear bb bc bd HSi hV hkk
        obtain ⟨gw, hgw, x0, _, ⟨cc, hcc⟩, _⟩ := R.zero Hww.out
        subst hgw
        have lgw := heap_lt hcc
        clear hcc
        go_wp2_with fail
        go_at_call 10
        refine (tick_nil HXc.out 200 (by decide)).mono ?_
        rintro e w9 ⟨k1, k3, rfl, hk⟩
        have HBe : Hid (Below w.heap.size w w9) := HBd.out.trans (hk.below HBd.out.size fun i hi ho => by
          rcases ho with rfl | ho
          · have := HGx.out.1; omega
          · have := HGx.out.2 i ho; omega)
        clear hk x0 lgw
        go_wp2_with fail
        go_ret
        exact ⟨rfl, HBe.out⟩
  · go_wp2_with fail
    go_at_call 12
    refine (len_any w4 gx _ (none, 0, 0) [] HX4.out.aw.x).mono ?_
    rintro e wq ⟨rfl, hw⟩
    rw [hw]
    clear hw wq
    go_wp2_with fail
    go_ret
    exact ⟨rfl, HX4.out.bel⟩
end Go.Proofs.YtfponcdhaefkdaaDoor
