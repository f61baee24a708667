/- The reader: request, walked. -/
import Derived.Test.YtghppkfopglgaaaGreatDoorKal
namespace Go.Proofs.YtghppkfopglgaaaGreatDoor
open Go.RowKit
set_option linter.unusedVariables false
set_option linter.unusedSimpArgs false

set_option maxRecDepth 100000 in
set_option maxHeartbeats 8000000 in
theorem request_any (gr bw : Nat) (r : Rd) (w : World) (h : RdS gr bw r w) (hlen : r.l.length ≤ 1073741824) : Calls Tryz.prog 91 #[.pointer (some ⟨gr, 0, none⟩)] w fun e w' => ∃ v, e = .returned (.agg #[.string r.rq.1.m, .string r.rq.1.s, .string r.rq.1.a, .string r.rq.1.p, v, .string r.rq.1.b]) ∧ R EFd w' v r.rq.1.fs ∧ (∀ k, v.ownBlock = some k → w.heap.size ≤ k) ∧ RdS gr bw r.rq.2 w' ∧ Kr gr w w' := by
  have HT := hid (text_any gr bw)
  have HN := hid (number_r gr bw)
  have HO := hid (over_any gr bw)
  obtain ⟨⟨pm, r1⟩, h1⟩ : ∃ q, r.nx 1 = q := ⟨_, rfl⟩
  have hl1 : r1.l.length ≤ 1073741824 := by
    have := nx_le r 1
    rw [h1] at this
    exact Nat.le_trans this hlen
  obtain ⟨⟨ps, r2⟩, h2⟩ : ∃ q, r1.nx 1 = q := ⟨_, rfl⟩
  have hl2 : r2.l.length ≤ 1073741824 := by
    have := nx_le r1 1
    rw [h2] at this
    exact Nat.le_trans this hl1
  obtain ⟨⟨pa, r3⟩, h3⟩ : ∃ q, r2.nx 1 = q := ⟨_, rfl⟩
  have hl3 : r3.l.length ≤ 1073741824 := by
    have := nx_le r2 1
    rw [h3] at this
    exact Nat.le_trans this hl2
  obtain ⟨⟨pp, r4⟩, h4⟩ : ∃ q, r3.nx 1 = q := ⟨_, rfl⟩
  have hl4 : r4.l.length ≤ 1073741824 := by
    have := nx_le r3 1
    rw [h4] at this
    exact Nat.le_trans this hl3
  obtain ⟨⟨pb, r5⟩, h5⟩ : ∃ q, r4.nx 1 = q := ⟨_, rfl⟩
  have hl5 : r5.l.length ≤ 1073741824 := by
    have := nx_le r4 1
    rw [h5] at this
    exact Nat.le_trans this hl4
  have HRU : Hid (r.rq = (⟨pm, ps, pa, pp, pb, (lpS fdR r5).1⟩, (lpS fdR r5).2)) := by
    show _ = _
    unfold Rd.rq
    simp only [h1, h2, h3, h4, h5]
    rfl
  have HL1 := hid hl5
  obtain ⟨g0, hg0⟩ : ∃ g0, w.heap.size = g0 := ⟨_, rfl⟩
  obtain ⟨W0, hW0⟩ : ∃ W0, w.alloc (.cells #[.string ⟨#[]⟩, .string ⟨#[]⟩, .string ⟨#[]⟩, .string ⟨#[]⟩, .slice none 0 0, .string ⟨#[]⟩] 31) = W0 := ⟨_, rfl⟩
  have b0 : Below w.heap.size w W0 := by rw [← hW0]; exact bel1 _ _
  have q0 : W0.heap[g0]? = some (.cells #[.string ⟨#[]⟩, .string ⟨#[]⟩, .string ⟨#[]⟩, .string ⟨#[]⟩, .slice none 0 0, .string ⟨#[]⟩] 31 (0, 0)) := by rw [← hW0, heap_al, if_pos hg0.symm]
  have hne : gr ≠ g0 := by have := h.lt; omega
  have hbw0 : bw < g0 := by have := h.lb; omega
  have hnb : bw ≠ g0 := by omega
  have h8 : 8 ≤ g0 := by have := h.lt; have := h.g8; omega
  have K0 : Hid (RdS gr bw r W0 ∧ Kr gr w W0 ∧ W0.heap[g0]? = some (.cells #[.string ⟨#[]⟩, .string ⟨#[]⟩, .string ⟨#[]⟩, .string ⟨#[]⟩, .slice none 0 0, .string ⟨#[]⟩] 31 (0, 0))) := hid ⟨h.below b0, Ks.of_below b0, q0⟩
  have hq0 := heap_lt q0
  have X1 := hid h1
  have X2 := hid h2
  have X3 := hid h3
  have X4 := hid h4
  have X5 := hid h5
  clear h b0 q0 hlen h1 hl1 h2 hl2 h3 hl3 h4 hl4 h5 hl5
  go_enter Tryz.func91, Tryz.ntmps91
  go_wp2_with fail
  try rw [hg0]
  try rw [hW0]
  go_at_call 88
  refine (HT.out _ _ K0.out.1).mono ?_
  rw [X1.out]
  rintro e W1 ⟨rfl, hS, hK⟩
  have K1 : Hid (RdS gr bw r1 W1 ∧ Kr gr w W1 ∧ W1.heap[g0]? = some (.cells #[.string ⟨#[]⟩, .string ⟨#[]⟩, .string ⟨#[]⟩, .string ⟨#[]⟩, .slice none 0 0, .string ⟨#[]⟩] 31 (0, 0))) := hid ⟨hS, Kr.tr K0.out.2.1 hK, (hK.block g0 (heap_lt K0.out.2.2) (fun e => hne e.symm)).trans K0.out.2.2⟩
  clear hS hK K0
  go_wp2_with fail
  go_at_call 88
  refine (HT.out _ _ K1.out.1).mono ?_
  rw [X2.out]
  rintro e W2 ⟨rfl, hS, hK⟩
  have K2 : Hid (RdS gr bw r2 W2 ∧ Kr gr w W2 ∧ W2.heap[g0]? = some (.cells #[.string ⟨#[]⟩, .string ⟨#[]⟩, .string ⟨#[]⟩, .string ⟨#[]⟩, .slice none 0 0, .string ⟨#[]⟩] 31 (0, 0))) := hid ⟨hS, Kr.tr K1.out.2.1 hK, (hK.block g0 (heap_lt K1.out.2.2) (fun e => hne e.symm)).trans K1.out.2.2⟩
  clear hS hK K1
  go_wp2_with fail
  go_at_call 88
  refine (HT.out _ _ K2.out.1).mono ?_
  rw [X3.out]
  rintro e W3 ⟨rfl, hS, hK⟩
  have K3 : Hid (RdS gr bw r3 W3 ∧ Kr gr w W3 ∧ W3.heap[g0]? = some (.cells #[.string ⟨#[]⟩, .string ⟨#[]⟩, .string ⟨#[]⟩, .string ⟨#[]⟩, .slice none 0 0, .string ⟨#[]⟩] 31 (0, 0))) := hid ⟨hS, Kr.tr K2.out.2.1 hK, (hK.block g0 (heap_lt K2.out.2.2) (fun e => hne e.symm)).trans K2.out.2.2⟩
  clear hS hK K2
  go_wp2_with fail
  go_at_call 88
  refine (HT.out _ _ K3.out.1).mono ?_
  rw [X4.out]
  rintro e W4 ⟨rfl, hS, hK⟩
  have K4 : Hid (RdS gr bw r4 W4 ∧ Kr gr w W4 ∧ W4.heap[g0]? = some (.cells #[.string ⟨#[]⟩, .string ⟨#[]⟩, .string ⟨#[]⟩, .string ⟨#[]⟩, .slice none 0 0, .string ⟨#[]⟩] 31 (0, 0))) := hid ⟨hS, Kr.tr K3.out.2.1 hK, (hK.block g0 (heap_lt K3.out.2.2) (fun e => hne e.symm)).trans K3.out.2.2⟩
  clear hS hK K3
  go_wp2_with fail
  go_at_call 88
  refine (HT.out _ _ K4.out.1).mono ?_
  rw [X5.out]
  rintro e W5 ⟨rfl, hS, hK⟩
  have K5 : Hid (RdS gr bw r5 W5 ∧ Kr gr w W5 ∧ W5.heap[g0]? = some (.cells #[.string ⟨#[]⟩, .string ⟨#[]⟩, .string ⟨#[]⟩, .string ⟨#[]⟩, .slice none 0 0, .string ⟨#[]⟩] 31 (0, 0))) := hid ⟨hS, Kr.tr K4.out.2.1 hK, (hK.block g0 (heap_lt K4.out.2.2) (fun e => hne e.symm)).trans K4.out.2.2⟩
  clear hS hK K4
  obtain ⟨g1, hg1⟩ : ∃ g1, W5.heap.size = g1 := ⟨_, rfl⟩
  obtain ⟨V0, hV0⟩ : ∃ V0, W5.alloc (.cells #[.string pm, .string ps, .string pa, .string pp, .slice none 0 0, .string pb] 31) = V0 := ⟨_, rfl⟩
  have hB : Below W5.heap.size W5 V0 := by rw [← hV0]; exact bel1 _ _
  have hB1 : V0.heap[g1]? = some (.cells #[.string pm, .string ps, .string pa, .string pp, .slice none 0 0, .string pb] 31 (0, 0)) := by rw [← hV0, heap_al, if_pos hg1.symm]
  have hg01 : g0 < g1 := by have := heap_lt K5.out.2.2; omega
  have hg1r : gr < g1 := by have := K5.out.1.lt; omega
  have HJ0 : Hid (LJg EFd fdR gr bw g0 g1 1073741824 31 #[.string ⟨#[]⟩, .string ⟨#[]⟩, .string ⟨#[]⟩, .string ⟨#[]⟩, .slice none 0 0, .string ⟨#[]⟩] (fun v => #[.string pm, .string ps, .string pa, .string pp, v, .string pb]) w r5 V0 r5 (.slice none 0 0) []) := hid ⟨rfl, K5.out.1.below hB, Kr.tr K5.out.2.1 (Ks.of_below hB), R.nil _ _, fun k hk => absurd hk (by simp [Value.ownBlock]), hB1, (hB.block _ (heap_lt K5.out.2.2)).trans K5.out.2.2, by simpa using HL1.out⟩
  have hA1 : (W5.alloc (.cells #[.string ⟨#[]⟩, .string ⟨#[]⟩, .string ⟨#[]⟩, .string ⟨#[]⟩, .slice none 0 0, .string ⟨#[]⟩] 31)).heap[g1]? = some (.cells #[.string ⟨#[]⟩, .string ⟨#[]⟩, .string ⟨#[]⟩, .string ⟨#[]⟩, .slice none 0 0, .string ⟨#[]⟩] 31 (0, 0)) := by rw [heap_al, if_pos hg1.symm]
  have f1 := frozen_blk hA1
  have hl2 := heap_lt hA1
  have HV0 := hid hV0
  clear hB hB1 hA1 hV0 K5
  go_wp2_with fail
  try rw [hg1]
  rw [HV0.out]
  go_loopw [15] (fun cv wr => ∃ (rr : Rd) (v : Value) (acc : List Fd), Hid (LJg EFd fdR gr bw g0 g1 1073741824 31 #[.string ⟨#[]⟩, .string ⟨#[]⟩, .string ⟨#[]⟩, .string ⟨#[]⟩, .slice none 0 0, .string ⟨#[]⟩] (fun v => #[.string pm, .string ps, .string pa, .string pp, v, .string pb]) w r5 wr rr v acc)) (fun _ wr => rdLen gr wr)
  case atStart => exact ⟨r5, _, _, HJ0⟩
  case round =>
    obtain ⟨rr, v, acc, HJ⟩ := hrel
    clear HJ0
    have HM := hid (HJ.out.rd.len)
    go_wp2_with fail
    go_at_call 107
    refine (HO.out _ _ HJ.out.rd).mono ?_
    rintro e U ⟨rfl, e2⟩
    subst e2
    obtain ⟨vb, vc, e, _⟩ := HJ.out.row.slice
    obtain ⟨vn, hvn⟩ : ∃ vn, acc.length = vn := ⟨_, rfl⟩
    rw [hvn] at e
    clear hvn
    subst e
    have hb := HJ.out.blk
    (try simp only at hb)
    have f1 := frozen_blk hb
    have hz := HJ.out.zb
    have f0 := frozen_blk hz
    have l0 := heap_lt hz
    have l1 := heap_lt hb
    have c0 := cell_blk hb 0
    have d0 := cell_blk hz 0
    have c1 := cell_blk hb 1
    have d1 := cell_blk hz 1
    have c2 := cell_blk hb 2
    have d2 := cell_blk hz 2
    have c3 := cell_blk hb 3
    have d3 := cell_blk hz 3
    have c4 := cell_blk hb 4
    have d4 := cell_blk hz 4
    have c5 := cell_blk hb 5
    have d5 := cell_blk hz 5
    simp only [List.getElem?_toArray, List.getElem?_cons_zero, List.getElem?_cons_succ] at c0 d0 c1 d1 c2 d2 c3 d3 c4 d4 c5 d5
    cases hov : rr.ov with
    | true =>
      have HE : Hid (lpS fdR r5 = (acc, rr)) := hid (lp_end HJ.out.eq (by unfold fdR; rw [hov]; rfl))
      clear hb hz
      go_wp2_with fail
      (try simp only [Exit.inBlock, Exit.then])
      refine bodyPost_ret (results_cell_row (p := 2) (ty := 31) rfl _ _ g0 31 _ (0, 0) _ rfl (setCell_block _ _ _ _ _ _ _ (setCell_block _ _ _ _ _ _ _ (setCell_block _ _ _ _ _ _ _ (setCell_block _ _ _ _ _ _ _ (setCell_block _ _ _ _ _ _ _ (setCell_block _ _ _ _ _ _ _ (HJ.out.zb))))))) Tryz.underlying31 rfl (by kernel_rfl)) rfl ?_
      have hk : Ks (fun k => k = g0) U ((((((U.setCell ⟨g0, 0, none⟩ (.string pm)).setCell ⟨g0, 1, none⟩ (.string ps)).setCell ⟨g0, 2, none⟩ (.string pa)).setCell ⟨g0, 3, none⟩ (.string pp)).setCell ⟨g0, 4, none⟩ (.slice vb vn vc)).setCell ⟨g0, 5, none⟩ (.string pb)) := by repeat (first | exact Ks.refl _ _ | refine Ks.then_set ?_)
      have hrd := rd_end HJ.out.rd HJ.out.kr hne hnb h8 (by omega) hk
      have hru := HRU.out
      rw [HE.out] at hru
      rw [hru]
      exact ⟨.slice vb vn vc, rfl, HJ.out.row.stays (fun k e hl => hk.block k hl (by have := HJ.out.own k e; omega)), fun k e => by have := HJ.out.own k e; omega, hrd.1, hrd.2⟩
    | false =>
      obtain ⟨⟨nv, s2r⟩, y1⟩ : ∃ q, rr.sk ⟨#[110, 101, 118, 101, 114]⟩ = q := ⟨_, rfl⟩
      obtain ⟨⟨s1, s3r⟩, y2⟩ : ∃ q, s2r.nx 1 = q := ⟨_, rfl⟩
      obtain ⟨⟨s2, s4r⟩, y3⟩ : ∃ q, s3r.nx 1 = q := ⟨_, rfl⟩
      have HE : Hid (fdR rr = some ((⟨s1, s2, nv⟩ : Fd), s4r)) := hid (by unfold fdR; rw [hov]; simp only [y1, y2, y3]; rfl)
      have HLEN : Hid (acc.length ≤ 1073741824) := hid (by have := HJ.out.len; omega)
      have HSH : Hid (s4r.l.length < rr.l.length) := hid (fd_shr rr _ _ HE.out)
      go_wp2_with fail
      refine z91_region _ w gr bw g0 g1 pm ps pa pp pb _ (.slice vb vn vc) acc s1 s2 nv rr s2r s3r s4r _ _ _ _ _ _ _ _ _ _ _ _ _ _ _ _ _ hg01 hg1r hne (by omega) (by omega) h8 y1 y2 y3 HLEN.out _ _ _ _ _ _ _ _ _ _ _ _ _ HJ.out.row HJ.out.own HJ.out.rd HJ.out.kr HJ.out.zb hb (fun q0 q1 q2 q3 q4 q5 q6 q7 q8 q9 q10 q11 v' V k1 k2 k3 k4 k5 k6 => ?_)
      have HJ2 : Hid (LJg EFd fdR gr bw g0 g1 1073741824 31 #[.string ⟨#[]⟩, .string ⟨#[]⟩, .string ⟨#[]⟩, .string ⟨#[]⟩, .slice none 0 0, .string ⟨#[]⟩] (fun v => #[.string pm, .string ps, .string pa, .string pp, v, .string pb]) w r5 V s4r v' (acc ++ [(⟨s1, s2, nv⟩ : Fd)])) := hid ⟨lp_go fd_shr HJ.out.eq HE.out, k3, k4, k1, k2, k6, k5, by have := HJ.out.len; have := HSH.out; simp; omega⟩
      go_wp2_with fail
      go_roundw
      case rel => exact ⟨s4r, v', _, HJ2⟩
      case measure => rw [HM.out, k3.len]; exact HSH.out
end Go.Proofs.YtghppkfopglgaaaGreatDoor
