/- CacheEnds. -/
import Derived.Test.YtfponcdhaefkdaaDoorD4
namespace Go.Proofs.YtfponcdhaefkdaaDoor
open Go.RowKit
set_option linter.unusedVariables false
set_option linter.unusedSimpArgs false
theorem Az.q {q : Rq} {Q : List Fd} {b : ByteArray} {fr : List Fd} (h : Az q Q b fr) (b' : ByteArray) : Az ⟨q.m, q.s, q.a, q.p, q.y, b'⟩ Q b fr := ⟨h.zq, h.zQ, h.zQf, h.zb, h.zR, h.zRf, h.zS, h.zN⟩
def OkL (q : Rq) (Q : List Fd) (n : Int) (b : ByteArray) (fr : List Fd) (At : Int) (L : List En) : Prop := (starB fr = true → L = []) ∧ (starB fr = false → ∃ e, L = [e] ∧ Ee e q Q n b fr 7 At)
set_option maxHeartbeats 40000000 in
set_option maxRecDepth 100000 in
theorem cacheEnds_any (q : Rq) (Q : List Fd) (n : Int) (ry : SV) (b : ByteArray) (fr : List Fd) (A B C : Int) (w : World) (hQ : In EFd w (sv q.y) Q) (hR : In EFd w (sv ry) fr) (hz : Az q Q b fr) (hC : C ≤ 9223372036854775807) :
    Calls Tryd.prog 3 #[.agg (rqv q), .agg (rsv n (sv ry) b), .int .i64 A, .int .i64 B, .int .i64 C] w fun e w' => e = .returned (.bool true) ∧ Below w.heap.size w w' := by
  obtain ⟨Lf, hLf⟩ : ∃ L : Int, bits .and .i64 A 576460752303423487 = L := ⟨_, rfl⟩
  obtain ⟨At, hAt⟩ : ∃ L : Int, bits .and .i64 B 576460752303423487 = L := ⟨_, rfl⟩
  have HL : Hid (0 ≤ Lf ∧ Lf < 576460752303423488 ∧ 0 ≤ At ∧ At < 576460752303423488) := by
    rw [and59] at hLf hAt
    refine ⟨?_, ?_, ?_, ?_⟩ <;> omega
  obtain ⟨m, s, a, p, ⟨q1, q2, q3⟩, b0⟩ := q
  obtain ⟨r1, r2, r3⟩ := ry
  have HZ : Hid (Az ⟨m, s, a, p, (q1, q2, q3), ⟨#[]⟩⟩ Q b fr) := hz.q ⟨#[]⟩
  have HArw : Hid (∀ V, Below w.heap.size w V → Ar V ⟨m, s, a, p, (q1, q2, q3), ⟨#[]⟩⟩ Q n (r1, r2, r3) b fr) := fun V hV => ⟨hQ.below hV, hR.below hV⟩
  have HCm : Hid (min C At ≤ 9223372036854775807 ∧ min C At ≤ At) := ⟨by omega, by omega⟩
  obtain ⟨mc, hmc⟩ : ∃ x : Int, min C At = x := ⟨_, rfl⟩
  have HMc : Hid (mc ≤ 9223372036854775807 ∧ mc ≤ At) := by rw [← hmc]; exact HCm.out
  obtain ⟨W0, hW0⟩ : ∃ W, (w.alloc (.cells #[.string m, .string s, .string a, .string p, .slice q1 q2 q3, .string b0] 24)).alloc (.cells #[.int .i64 n, .slice r1 r2 r3, .string b] 26) = W := ⟨_, rfl⟩
  obtain ⟨q0, hq0⟩ : ∃ k, w.heap.size = k := ⟨_, rfl⟩
  obtain ⟨r0, hr0⟩ : ∃ k, q0 + 1 = k := ⟨_, rfl⟩
  have HB0 : Hid (Below w.heap.size w W0) := by rw [← hW0]; exact bel2 _ _ _
  have hbq : W0.heap[q0]? = some (.cells #[.string m, .string s, .string a, .string p, .slice q1 q2 q3, .string b0] 24 (0, 0)) := by rw [← hW0, ← hq0, heap_al, if_neg (by simp), heap_al, if_pos rfl]
  have hbr : W0.heap[r0]? = some (.cells #[.int .i64 n, .slice r1 r2 r3, .string b] 26 (0, 0)) := by rw [← hW0, ← hr0, ← hq0]; exact fresh2 _ _ _
  have HBq : Hid (W0.heap[q0]? = some (.cells #[.string m, .string s, .string a, .string p, .slice q1 q2 q3, .string b0] 24 (0, 0)) ∧ W0.heap[r0]? = some (.cells #[.int .i64 n, .slice r1 r2 r3, .string b] 26 (0, 0)) ∧ q0 ≠ r0 ∧ w.heap.size ≤ q0 ∧ w.heap.size ≤ r0) := ⟨hbq, hbr, by omega, by omega, by omega⟩
  have zv : ∀ v ∈ vsL fr varyS, v.size ≤ 140737488355328 := fun v hv => by
    unfold vsL at hv
    obtain ⟨f, hf, e⟩ := List.mem_filterMap.1 hv
    split at e
    · injection e with e; rw [← e]; exact (hz.zRf f hf).2
    · cases e
  have HNm : Hid (Calls Tryd.prog 7 #[.agg #[.int .i64 n, .slice r1 r2 r3, .string b]] W0 fun e w' => NmPost (vsL fr varyS) W0 e w') := names_any n (r1, r2, r3) b fr W0 (hR.below HB0.out) (by have := hz.zR; omega) zv hz.zN
  have p0 := cell_blk hbr 0
  have p1 := cell_blk hbr 1
  have p2 := cell_blk hbr 2
  simp only [List.getElem?_toArray, List.getElem?_cons_succ, List.getElem?_cons_zero] at p0 p1 p2
  have lq := heap_lt hbq
  have lr := heap_lt hbr
  unfold rqv rsv
  simp only [sv]
  clear hQ hR hz hC HCm hbq hbr zv
  go_enter Tryd.func3, Tryd.ntmps3
  go_upto_region 3 with fail
  try rw [hW0]
  try rw [hq0]
  try rw [hr0]
  clear hW0 hq0 hr0 hLf hAt
  go_wp2_with fail
  go_at_call 7
  refine HNm.out.mono ?_
  rintro e w1 ⟨⟨n1, n2, n3⟩, rfl, b1, _, _⟩
  obtain ⟨sB, hsB⟩ : ∃ B, decide (0 < cnt (allP (vsL fr varyS)) starS) = B := ⟨_, rfl⟩
  have HsB : Hid (starB fr = sB) := hsB
  rw [hsB]
  have hbq1 : w1.heap[q0]? = some (.cells #[.string m, .string s, .string a, .string p, .slice q1 q2 q3, .string b0] 24 (0, 0)) := (b1.block q0 (heap_lt HBq.out.1)).trans HBq.out.1
  have hbr1 : w1.heap[r0]? = some (.cells #[.int .i64 n, .slice r1 r2 r3, .string b] 26 (0, 0)) := (b1.block r0 (heap_lt HBq.out.2.1)).trans HBq.out.2.1
  have p5 := cell_blk hbq1 5
  have f5 := frozen_blk hbq1 5
  simp only [List.getElem?_toArray, List.getElem?_cons_succ, List.getElem?_cons_zero] at p5
  obtain ⟨W2, hW2⟩ : ∃ W, w1.setCell ⟨q0, 5, none⟩ (.string ⟨#[]⟩) = W := ⟨_, rfl⟩
  have HB2 : Hid (Below w.heap.size w W2 ∧ RqB W2 q0 ⟨m, s, a, p, (q1, q2, q3), ⟨#[]⟩⟩ ∧ W2.heap[r0]? = some (.cells (rsv n (sv (r1, r2, r3)) b) 26 (0, 0))) := by
    rw [← hW2]
    refine ⟨(HB0.out.trans (b1.mono HB0.out.size)).setCell (p := ⟨q0, 5, none⟩) HBq.out.2.2.2.1 _, ?_, ?_⟩
    · unfold RqB
      rw [setCell_block _ _ _ _ _ _ _ hbq1]
      rfl
    · rw [setCell_other _ _ _ _ _ (fun e => HBq.out.2.2.1 e.symm)]
      exact hbr1
  simp only [sv]
  clear b1 hsB hbq1 hbr1 HNm p0 p1 p2 lq lr HB0
  go_upto_region 5 with fail
  try rw [hW2]
  clear hW2 p5 f5 HBq
  go_upto_region 6 with fail
  obtain ⟨ga, hga⟩ : ∃ k, W2.heap.size = k := ⟨_, rfl⟩
  obtain ⟨W3, hW3⟩ : ∃ W, W2.alloc (.cells #[.pointer none, .pointer none, .pointer none, .pointer none] 31) = W := ⟨_, rfl⟩
  have b3 : Below W2.heap.size W2 W3 := by rw [← hW3]; exact bel1 _ _
  have HGa : Hid (w.heap.size ≤ ga) := by rw [← hga]; exact HB2.out.1.size
  have HL0 : Hid (Lp w W3 q0 r0 ga ⟨m, s, a, p, (q1, q2, q3), ⟨#[]⟩⟩ n (r1, r2, r3) b ⟨1, 1152921504606846976, Lf, At⟩ (OkL ⟨m, s, a, p, (q1, q2, q3), ⟨#[]⟩⟩ Q n b fr At) 0 (fun _ => 0) (fun _ => (none, 0, 0)) (fun _ => []) (fun _ => W3.heap.size)) := ⟨⟨HB2.out.1.trans (b3.mono HB2.out.1.size), HB2.out.2.1.below b3, (b3.block _ (heap_lt HB2.out.2.2)).trans HB2.out.2.2, by rw [← hW3, ← hga, heap_al, if_pos rfl]; rfl, fun p hp => by simp at hp, fun p hp => by simp at hp, fun p hp => by simp at hp⟩, fun j hj => absurd hj (by omega), fun j hj => absurd hj (by omega), fun j hj => absurd hj (by omega), fun j hj => absurd hj (by omega), Nat.le_refl _, Nat.le_trans HB2.out.1.size b3.size, by rw [← hW3, ← hga]; simp⟩
  rw [hW3, hga]
  clear hW3 hga b3 HB2
  go_wp2_with fail
  go_loopw [14, 15, 16, 17, 18] (fun iv _ _ _ _ wr => ∃ (i : Nat) (G : Nat → Nat) (Y : Nat → SV) (LL : Nat → List En) (lo : Nat → Nat), iv = .int .i64 (i : Int) ∧ i ≤ 4 ∧ Hid (Lp w wr q0 r0 ga ⟨m, s, a, p, (q1, q2, q3), ⟨#[]⟩⟩ n (r1, r2, r3) b ⟨1, 1152921504606846976, Lf, At⟩ (OkL ⟨m, s, a, p, (q1, q2, q3), ⟨#[]⟩⟩ Q n b fr At) i G Y LL lo)) (fun iv _ _ _ _ _ => 4 - (intOf iv).toNat)
  case atStart => exact ⟨0, _, _, _, _, rfl, by omega, HL0.out⟩
  case round =>
    clear HL0
    obtain ⟨i, G, Y, LL, lo, rfl, hi, hJ⟩ := hrel
    by_cases hlt : i < 4
    · have l1 : (i : Int) < 4 := by omega
      have l0 : (0 : Int) ≤ (i : Int) := by omega
      have HN : Hid (Calls Tryd.prog 8 #[.agg #[.int .i64 1, .int .i64 1152921504606846976, .int .i64 Lf, .int .i64 0]] wr fun e w' => Below wr.heap.size wr w' ∧ ∃ g, wr.heap.size ≤ g ∧ e = .returned (.tuple #[.pointer (some ⟨g, 0, none⟩), .int .i64 0]) ∧ w'.heap[g]? = some (.cells #[.int .i64 1, .int .i64 1152921504606846976, .int .i64 Lf, .int .i64 0, .slice none 0 0] 83 (0, 0))) := (new_any 1 1152921504606846976 Lf 0 wr).mono (by
        rintro e w' ⟨hb, h | h⟩
        · have : cfB 1 1152921504606846976 Lf 0 = true := by
            have := HL.out
            unfold cfB nbB
            simp
            omega
          rw [this] at h
          cases h.1
        · exact ⟨hb, h.2⟩)
      go_wp2_with fail
      go_at_call 8
      refine HN.out.mono ?_
      rintro e x1 ⟨b1, g, hg, rfl, hblk⟩
      have HR1 : Hid (Rn wr x1 g ⟨1, 1152921504606846976, Lf, 0⟩ (none, 0, 0) []) := ⟨Cx.new hblk ⟨by decide, by decide⟩ ⟨by decide, by decide⟩ ⟨by have := HL.out; omega, by have := HL.out; omega⟩, b1, fun k hk => by
        rcases hk with (rfl | hk) | ⟨e, he, _⟩
        · exact hg
        · simp [sv, Value.ownBlock] at hk
        · simp at he⟩
      clear b1 hg hblk HN
      go_wp2_with fail
      go_at_call 9
      refine (first_any x1).mono ?_
      rintro e x2 ⟨rfl, b2⟩
      have HR2 : Hid (Rn wr x2 g ⟨1, 1152921504606846976, Lf, 0⟩ (none, 0, 0) []) := HR1.out.below b2
      clear b2 HR1
      go_wp2_with fail
      go_at_call 10
      refine (HR2.out.tick0 At (by have := HL.out; omega)).mono ?_
      rintro e x3 ⟨⟨t1, t2, t3⟩, z3', rfl, hR3⟩
      have hcc : hr ⟨1, 1152921504606846976, Lf, 0⟩ At = ⟨1, 1152921504606846976, Lf, At⟩ := by have := HL.out; unfold hr; simp only [Ca.mk.injEq]; refine ⟨trivial, trivial, trivial, ?_⟩; omega
      rw [hcc] at hR3
      have HR3 : Hid (Rn wr x3 g ⟨1, 1152921504606846976, Lf, At⟩ z3' []) := hR3
      have hE3 := hJ.out.ew.below hR3.bel
      have hq := hE3.bq.cells
      have p0 := cell_blk hE3.br 0
      have p1 := cell_blk hE3.br 1
      have p2 := cell_blk hE3.br 2
      obtain ⟨a0, a1, a2, a3, a4, a5, a6⟩ := hq
      simp only [rsv, List.getElem?_toArray, List.getElem?_cons_succ, List.getElem?_cons_zero, sv] at p0 p1 p2 a0 a1 a2 a3 a4 a5
      have lr := heap_lt hE3.br
      simp only [sv]
      clear hR3 hcc hE3 HR2
      have HSt : Hid (Calls Tryd.prog 11 #[.pointer (some ⟨g, 0, none⟩), .agg #[.string m, .string s, .string a, .string p, .slice q1 q2 q3, .string ⟨#[]⟩], .agg #[.int .i64 n, .slice r1 r2 r3, .string b], .int .i64 7, .int .i64 mc] x3 fun r w' => ∃ (gs z : SV) (L : List En), r = .returned (.tuple #[.bool (!starB fr), sv gs]) ∧ R EI w' (sv gs) [] ∧ Rn wr w' g (hr ⟨1, 1152921504606846976, Lf, At⟩ mc) z L ∧ (starB fr = true → L = []) ∧ (starB fr = false → ∃ e, L = [e] ∧ Ee e ⟨m, s, a, p, (q1, q2, q3), ⟨#[]⟩⟩ Q n b fr 7 (hr ⟨1, 1152921504606846976, Lf, At⟩ mc).ck)) := HR3.out.store0 (HArw.out wr hJ.out.ew.bel) HZ.out 7 mc HMc.out.1 (show (1 : Int) ≤ 1 by decide) rfl
      have hcm : hr ⟨1, 1152921504606846976, Lf, At⟩ mc = ⟨1, 1152921504606846976, Lf, At⟩ := by have := HMc.out; unfold hr; simp only [Ca.mk.injEq]; refine ⟨trivial, trivial, trivial, ?_⟩; omega
      rw [hcm, HsB.out] at HSt
      clear hcm
      go_wp2_with fail
      go_at_call 11
      refine HSt.out.mono ?_
      rintro e x4 ⟨⟨u1, u2, u3⟩, z4, L4, rfl, hg4, hR4, hL4a, hL4b⟩
      obtain rfl : u2 = 0 := (slice_len hg4.isIn).1
      have HOk : Hid (OkL ⟨m, s, a, p, (q1, q2, q3), ⟨#[]⟩⟩ Q n b fr At L4) := by rw [OkL, HsB.out]; exact ⟨hL4a, hL4b⟩
      have hE4 := hJ.out.ew.below hR4.bel
      have pc := cell_blk hE4.ba i
      rw [arr_get G i hlt] at pc
      have fc := frozen_blk hE4.ba i
      have la := heap_lt hE4.ba
      have HNx := hJ.out.next hlt hR4 HOk.out HGa.out
      replace HNx : Hid _ := HNx
      simp only [sv]
      clear hg4 hR4 hL4a hL4b hE4 HSt HR3 a0 a1 a2 a3 a4 a5 a6 p0 p1 p2 lr hJ HOk
      cases sB
      · go_wp2_with fail
        go_roundw
        case rel => exact ⟨i + 1, _, _, _, _, by simp, by omega, HNx.out⟩
        case measure => simp [intOf]; omega
      · go_wp2_with fail
        go_roundw
        case rel => exact ⟨i + 1, _, _, _, _, by simp, by omega, HNx.out⟩
        case measure => simp [intOf]; omega
    · obtain rfl : i = 4 := by omega
      have l1 : ¬ ((4 : Nat) : Int) < 4 := by omega
      have HC := hJ.out.four
      have HEw : Hid (Ew w wr q0 r0 ga ⟨m, s, a, p, (q1, q2, q3), ⟨#[]⟩⟩ n (r1, r2, r3) b #[.pointer (some ⟨G 0, 0, none⟩), .pointer (some ⟨G 1, 0, none⟩), .pointer (some ⟨G 2, 0, none⟩), .pointer (some ⟨G 3, 0, none⟩)] [] [] []) := hJ.out.ew
      have HOk : Hid (OkL ⟨m, s, a, p, (q1, q2, q3), ⟨#[]⟩⟩ Q n b fr At (LL 0) ∧ OkL ⟨m, s, a, p, (q1, q2, q3), ⟨#[]⟩⟩ Q n b fr At (LL 1) ∧ OkL ⟨m, s, a, p, (q1, q2, q3), ⟨#[]⟩⟩ Q n b fr At (LL 2) ∧ OkL ⟨m, s, a, p, (q1, q2, q3), ⟨#[]⟩⟩ Q n b fr At (LL 3)) := ⟨hJ.out.ok 0 (by omega), hJ.out.ok 1 (by omega), hJ.out.ok 2 (by omega), hJ.out.ok 3 (by omega)⟩
      generalize G 0 = g0 at HC HEw
      generalize G 1 = g1 at HC HEw
      generalize G 2 = g2 at HC HEw
      generalize G 3 = g3 at HC HEw
      generalize Y 0 = y0 at HC
      generalize Y 1 = y1 at HC
      generalize Y 2 = y2 at HC
      generalize Y 3 = y3 at HC
      generalize LL 0 = L0 at HC HOk
      generalize LL 1 = L1 at HC HOk
      generalize LL 2 = L2 at HC HOk
      generalize LL 3 = L3 at HC HOk
      generalize lo 0 = o0 at HC
      generalize lo 1 = o1 at HC
      generalize lo 2 = o2 at HC
      generalize lo 3 = o3 at HC
      generalize lo 4 = o4 at HC
      have HC0 : Hid (C4 w wr o0 o1 o2 o3 o4 g0 ⟨1, 1152921504606846976, Lf, At⟩ y0 L0 g1 ⟨1, 1152921504606846976, Lf, At⟩ y1 L1 g2 ⟨1, 1152921504606846976, Lf, At⟩ y2 L2 g3 ⟨1, 1152921504606846976, Lf, At⟩ y3 L3) := HC
      clear HC hJ
      cases sB
      · obtain ⟨e0, rfl, he0⟩ := HOk.out.1.2 HsB.out
        obtain ⟨e1, rfl, he1⟩ := HOk.out.2.1.2 HsB.out
        obtain ⟨e2, rfl, he2⟩ := HOk.out.2.2.1.2 HsB.out
        obtain ⟨e3, rfl, he3⟩ := HOk.out.2.2.2.2 HsB.out
        have HE0 : Hid (Ee e0 ⟨m, s, a, p, (q1, q2, q3), ⟨#[]⟩⟩ Q n b fr 7 At) := he0
        have HE1 : Hid (Ee e1 ⟨m, s, a, p, (q1, q2, q3), ⟨#[]⟩⟩ Q n b fr 7 At) := he1
        have HE2 : Hid (Ee e2 ⟨m, s, a, p, (q1, q2, q3), ⟨#[]⟩⟩ Q n b fr 7 At) := he2
        have HE3 : Hid (Ee e3 ⟨m, s, a, p, (q1, q2, q3), ⟨#[]⟩⟩ Q n b fr 7 At) := he3
        clear he0 he1 he2 he3 HOk
        have q1' : At + Lf ≤ 9223372036854775807 := by have := HL.out; omega
        have q2' : -9223372036854775808 ≤ At + Lf := by have := HL.out; omega
        obtain ⟨T1, hT1⟩ : ∃ t : Int, At + Lf = t := ⟨_, rfl⟩
        have hT1b : T1 + 1 ≤ 9223372036854775807 := by have := HL.out; omega
        obtain ⟨T2, hT2⟩ : ∃ t : Int, T1 + 1 = t := ⟨_, rfl⟩
        have HT : Hid (At + Lf = T1 ∧ T1 + 1 = T2) := ⟨hT1, hT2⟩
        have w1' : IntKind.i64.wrap T1 = T1 := by rw [IntKind.wrap_i64]; have := HL.out; omega
        have w2' : IntKind.i64.wrap T2 = T2 := by rw [IntKind.wrap_i64]; have := HL.out; omega
        have v1' : -9223372036854775808 ≤ T1 := by have := HL.out; omega
        have v2' : T1 ≤ 9223372036854775807 := by have := HL.out; omega
        have v3' : -9223372036854775808 ≤ T2 := by have := HL.out; omega
        have v4' : T2 ≤ 9223372036854775807 := by have := HL.out; omega
        have pa := cell_blk HEw.out.ba 0
        have la := heap_lt HEw.out.ba
        simp only [List.getElem?_toArray, List.getElem?_cons_succ, List.getElem?_cons_zero] at pa
        obtain ⟨a0, a1, a2, a3, a4, a5, a6⟩ := HEw.out.bq.cells
        simp only [sv] at a0 a1 a2 a3 a4 a5
        go_wp2_with fail
        go_at_call 13
        refine (claimHit HC0.out.x0 HE0.out rfl HZ.out.zQ (fun V hV => (HArw.out V (HC0.out.bel.trans (hV.below HC0.out.bel.size (fun i hi e => by have := HC0.out.i0 g0 (.inl (.inl rfl)); have := HC0.out.mo; have := HC0.out.lo; omega)))).iq) T1 (by have := HL.out; have := HMc.out; have := HT.out; omega) (by have := HL.out; have := HMc.out; have := HT.out; simp only; omega)).mono ?_
        rintro e v1 ⟨⟨d1, d2, d3⟩, z1, rfl, hR1, hx1, ho1, hk1⟩
        have hcc : hr ⟨1, 1152921504606846976, Lf, At⟩ T1 = ⟨1, 1152921504606846976, Lf, T1⟩ := by
          have := HL.out
          have := HMc.out
          have := HT.out
          unfold hr
          simp only [Ca.mk.injEq]
          refine ⟨trivial, trivial, trivial, ?_⟩
          omega
        rw [hcc] at hx1
        have HC1 : Hid (C4 w v1 o0 o1 o2 o3 o4 g0 ⟨1, 1152921504606846976, Lf, T1⟩ z1 [] g1 ⟨1, 1152921504606846976, Lf, At⟩ y1 [e1] g2 ⟨1, 1152921504606846976, Lf, At⟩ y2 [e2] g3 ⟨1, 1152921504606846976, Lf, At⟩ y3 [e3]) := HC0.out.op0 hk1 hx1 ho1 (by simp)
        have HW1 : Hid (Ew w v1 q0 r0 ga ⟨m, s, a, p, (q1, q2, q3), ⟨#[]⟩⟩ n (r1, r2, r3) b #[.pointer (some ⟨g0, 0, none⟩), .pointer (some ⟨g1, 0, none⟩), .pointer (some ⟨g2, 0, none⟩), .pointer (some ⟨g3, 0, none⟩)] [] [] []) := HEw.out.ks HC0.out.x0 hk1 HC1.out.bel
        have HRd : Hid (R EFd v1 (.slice d1 d2 d3) fr) := hR1
        clear hcc hR1 hx1 ho1 hk1 HC0 HEw
        clear pa la a0 a1 a2 a3 a4 a5 a6
        unfold rsv
        simp only [sv]
        obtain ⟨s0, hs0⟩ : ∃ k, v1.heap.size = k := ⟨_, rfl⟩
        obtain ⟨V1, hV1⟩ : ∃ W, v1.alloc (.cells #[.int .i64 n, .slice d1 d2 d3, .string b] 26) = W := ⟨_, rfl⟩
        have bb : Below v1.heap.size v1 V1 := by rw [← hV1]; exact bel1 _ _
        have HSb : V1.heap[s0]? = some (.cells #[.int .i64 n, .slice d1 d2 d3, .string b] 26 (0, 0)) := by rw [← hV1, ← hs0, heap_al, if_pos rfl]
        have HC1a : Hid (C4 w V1 o0 o1 o2 o3 o4 g0 ⟨1, 1152921504606846976, Lf, T1⟩ z1 [] g1 ⟨1, 1152921504606846976, Lf, At⟩ y1 [e1] g2 ⟨1, 1152921504606846976, Lf, At⟩ y2 [e2] g3 ⟨1, 1152921504606846976, Lf, At⟩ y3 [e3]) := HC1.out.below bb
        have HW1a : Hid (Ew w V1 q0 r0 ga ⟨m, s, a, p, (q1, q2, q3), ⟨#[]⟩⟩ n (r1, r2, r3) b #[.pointer (some ⟨g0, 0, none⟩), .pointer (some ⟨g1, 0, none⟩), .pointer (some ⟨g2, 0, none⟩), .pointer (some ⟨g3, 0, none⟩)] [(s0, #[.int .i64 n, .slice d1 d2 d3, .string b], 26)] [((d1, d2, d3), fr)] []) := ((HW1.out.below bb).addx s0 _ 26 (show (26 : TypeId) ≠ 83 by decide) (show (26 : TypeId) ≠ 87 by decide) HSb).addf (d1, d2, d3) fr (HRd.out.below bb)
        clear bb HSb HRd HC1 HW1
        go_upto_region 20 with fail
        try rw [hV1]
        try rw [hs0]
        clear hV1 hs0
        have pa := cell_blk HW1a.out.ba 1
        have la := heap_lt HW1a.out.ba
        simp only [List.getElem?_toArray, List.getElem?_cons_succ, List.getElem?_cons_zero] at pa
        obtain ⟨a0, a1, a2, a3, a4, a5, a6⟩ := HW1a.out.bq.cells
        simp only [sv] at a0 a1 a2 a3 a4 a5
        go_wp2_with fail
        go_at_call 13
        refine (claimMiss HC1a.out.x1 HE1.out rfl HZ.out.zQ (fun V hV => (HArw.out V (HC1a.out.bel.trans (hV.below HC1a.out.bel.size (fun i hi e => by have := HC1a.out.i1 g1 (.inl (.inl rfl)); have := HC1a.out.mo; have := HC1a.out.lo; omega)))).iq) T2 (by have := HL.out; have := HMc.out; have := HT.out; omega) (by have := HL.out; have := HMc.out; have := HT.out; simp only; omega)).mono ?_
        rintro e v2 ⟨rfl, hx1, hk1⟩
        have hcc : hr ⟨1, 1152921504606846976, Lf, At⟩ T2 = ⟨1, 1152921504606846976, Lf, T2⟩ := by
          have := HL.out
          have := HMc.out
          have := HT.out
          unfold hr
          simp only [Ca.mk.injEq]
          refine ⟨trivial, trivial, trivial, ?_⟩
          omega
        rw [hcc] at hx1
        have HC2 : Hid (C4 w v2 o0 o1 o2 o3 o4 g0 ⟨1, 1152921504606846976, Lf, T1⟩ z1 [] g1 ⟨1, 1152921504606846976, Lf, T2⟩ y1 [e1] g2 ⟨1, 1152921504606846976, Lf, At⟩ y2 [e2] g3 ⟨1, 1152921504606846976, Lf, At⟩ y3 [e3]) := HC1a.out.op1 hk1 hx1 rfl (fun e he => he)
        have HW2 : Hid (Ew w v2 q0 r0 ga ⟨m, s, a, p, (q1, q2, q3), ⟨#[]⟩⟩ n (r1, r2, r3) b #[.pointer (some ⟨g0, 0, none⟩), .pointer (some ⟨g1, 0, none⟩), .pointer (some ⟨g2, 0, none⟩), .pointer (some ⟨g3, 0, none⟩)] [(s0, #[.int .i64 n, .slice d1 d2 d3, .string b], 26)] [((d1, d2, d3), fr)] []) := HW1a.out.ks HC1a.out.x1 hk1 HC2.out.bel
        clear hcc hx1 hk1 HC1a HW1a
        clear pa la a0 a1 a2 a3 a4 a5 a6
        unfold z3
        go_upto_region 21 with fail
        obtain ⟨V2, hV⟩ : ∃ W, v2.alloc (.cells #[.int .i64 0, .slice none 0 0, .string ⟨#[]⟩] 26) = W := ⟨_, rfl⟩
        have bb : Below v2.heap.size v2 V2 := by rw [← hV]; exact bel1 _ _
        have HCV2 : Hid (C4 w V2 o0 o1 o2 o3 o4 g0 ⟨1, 1152921504606846976, Lf, T1⟩ z1 [] g1 ⟨1, 1152921504606846976, Lf, T2⟩ y1 [e1] g2 ⟨1, 1152921504606846976, Lf, At⟩ y2 [e2] g3 ⟨1, 1152921504606846976, Lf, At⟩ y3 [e3]) := HC2.out.below bb
        have HWV2 : Hid (Ew w V2 q0 r0 ga ⟨m, s, a, p, (q1, q2, q3), ⟨#[]⟩⟩ n (r1, r2, r3) b #[.pointer (some ⟨g0, 0, none⟩), .pointer (some ⟨g1, 0, none⟩), .pointer (some ⟨g2, 0, none⟩), .pointer (some ⟨g3, 0, none⟩)] [(s0, #[.int .i64 n, .slice d1 d2 d3, .string b], 26)] [((d1, d2, d3), fr)] []) := HW2.out.below bb
        rw [hV]
        clear hV bb HC2 HW2
        have pa := cell_blk HWV2.out.ba 1
        have la := heap_lt HWV2.out.ba
        simp only [List.getElem?_toArray, List.getElem?_cons_succ, List.getElem?_cons_zero] at pa
        obtain ⟨a0, a1, a2, a3, a4, a5, a6⟩ := HWV2.out.bq.cells
        simp only [sv] at a0 a1 a2 a3 a4 a5
        go_wp2_with fail
        go_at_call 14
        refine (holdsMiss HCV2.out.x1 HE1.out rfl HZ.out.zQ (fun V hV => (HArw.out V (HCV2.out.bel.trans (hV.below HCV2.out.bel.size (fun i hi e => by have := HCV2.out.i1 g1 (.inl (.inl rfl)); have := HCV2.out.mo; have := HCV2.out.lo; omega)))).iq) At (by have := HL.out; have := HMc.out; have := HT.out; omega) (by have := HL.out; have := HMc.out; have := HT.out; simp only; omega)).mono ?_
        rintro e v3 ⟨rfl, hx1, hk1⟩
        have hcc : hr ⟨1, 1152921504606846976, Lf, T2⟩ At = ⟨1, 1152921504606846976, Lf, T2⟩ := by
          have := HL.out
          have := HMc.out
          have := HT.out
          unfold hr
          simp only [Ca.mk.injEq]
          refine ⟨trivial, trivial, trivial, ?_⟩
          omega
        rw [hcc] at hx1
        have HC3 : Hid (C4 w v3 o0 o1 o2 o3 o4 g0 ⟨1, 1152921504606846976, Lf, T1⟩ z1 [] g1 ⟨1, 1152921504606846976, Lf, T2⟩ y1 [e1] g2 ⟨1, 1152921504606846976, Lf, At⟩ y2 [e2] g3 ⟨1, 1152921504606846976, Lf, At⟩ y3 [e3]) := HCV2.out.op1 hk1 hx1 rfl (fun e he => he)
        have HW3 : Hid (Ew w v3 q0 r0 ga ⟨m, s, a, p, (q1, q2, q3), ⟨#[]⟩⟩ n (r1, r2, r3) b #[.pointer (some ⟨g0, 0, none⟩), .pointer (some ⟨g1, 0, none⟩), .pointer (some ⟨g2, 0, none⟩), .pointer (some ⟨g3, 0, none⟩)] [(s0, #[.int .i64 n, .slice d1 d2 d3, .string b], 26)] [((d1, d2, d3), fr)] []) := HWV2.out.ks HCV2.out.x1 hk1 HC3.out.bel
        clear hcc hx1 hk1 HCV2 HWV2
        clear pa la a0 a1 a2 a3 a4 a5 a6
        have pa := cell_blk HW3.out.ba 1
        have la := heap_lt HW3.out.ba
        simp only [List.getElem?_toArray, List.getElem?_cons_succ, List.getElem?_cons_zero] at pa
        obtain ⟨a0, a1, a2, a3, a4, a5, a6⟩ := HW3.out.bq.cells
        simp only [sv] at a0 a1 a2 a3 a4 a5
        go_wp2_with fail
        go_at_call 13
        refine (claimMiss HC3.out.x1 HE1.out rfl HZ.out.zQ (fun V hV => (HArw.out V (HC3.out.bel.trans (hV.below HC3.out.bel.size (fun i hi e => by have := HC3.out.i1 g1 (.inl (.inl rfl)); have := HC3.out.mo; have := HC3.out.lo; omega)))).iq) mc (by have := HL.out; have := HMc.out; have := HT.out; omega) (by have := HL.out; have := HMc.out; have := HT.out; simp only; omega)).mono ?_
        rintro e v4 ⟨rfl, hx1, hk1⟩
        have hcc : hr ⟨1, 1152921504606846976, Lf, T2⟩ mc = ⟨1, 1152921504606846976, Lf, T2⟩ := by
          have := HL.out
          have := HMc.out
          have := HT.out
          unfold hr
          simp only [Ca.mk.injEq]
          refine ⟨trivial, trivial, trivial, ?_⟩
          omega
        rw [hcc] at hx1
        have HC4 : Hid (C4 w v4 o0 o1 o2 o3 o4 g0 ⟨1, 1152921504606846976, Lf, T1⟩ z1 [] g1 ⟨1, 1152921504606846976, Lf, T2⟩ y1 [e1] g2 ⟨1, 1152921504606846976, Lf, At⟩ y2 [e2] g3 ⟨1, 1152921504606846976, Lf, At⟩ y3 [e3]) := HC3.out.op1 hk1 hx1 rfl (fun e he => he)
        have HW4 : Hid (Ew w v4 q0 r0 ga ⟨m, s, a, p, (q1, q2, q3), ⟨#[]⟩⟩ n (r1, r2, r3) b #[.pointer (some ⟨g0, 0, none⟩), .pointer (some ⟨g1, 0, none⟩), .pointer (some ⟨g2, 0, none⟩), .pointer (some ⟨g3, 0, none⟩)] [(s0, #[.int .i64 n, .slice d1 d2 d3, .string b], 26)] [((d1, d2, d3), fr)] []) := HW3.out.ks HC3.out.x1 hk1 HC4.out.bel
        clear hcc hx1 hk1 HC3 HW3
        clear pa la a0 a1 a2 a3 a4 a5 a6
        unfold z3
        go_upto_region 23 with fail
        obtain ⟨V4, hV⟩ : ∃ W, v4.alloc (.cells #[.int .i64 0, .slice none 0 0, .string ⟨#[]⟩] 26) = W := ⟨_, rfl⟩
        have bb : Below v4.heap.size v4 V4 := by rw [← hV]; exact bel1 _ _
        have HCV4 : Hid (C4 w V4 o0 o1 o2 o3 o4 g0 ⟨1, 1152921504606846976, Lf, T1⟩ z1 [] g1 ⟨1, 1152921504606846976, Lf, T2⟩ y1 [e1] g2 ⟨1, 1152921504606846976, Lf, At⟩ y2 [e2] g3 ⟨1, 1152921504606846976, Lf, At⟩ y3 [e3]) := HC4.out.below bb
        have HWV4 : Hid (Ew w V4 q0 r0 ga ⟨m, s, a, p, (q1, q2, q3), ⟨#[]⟩⟩ n (r1, r2, r3) b #[.pointer (some ⟨g0, 0, none⟩), .pointer (some ⟨g1, 0, none⟩), .pointer (some ⟨g2, 0, none⟩), .pointer (some ⟨g3, 0, none⟩)] [(s0, #[.int .i64 n, .slice d1 d2 d3, .string b], 26)] [((d1, d2, d3), fr)] []) := HW4.out.below bb
        rw [hV]
        clear hV bb HC4 HW4
        have pa := cell_blk HWV4.out.ba 2
        have la := heap_lt HWV4.out.ba
        simp only [List.getElem?_toArray, List.getElem?_cons_succ, List.getElem?_cons_zero] at pa
        go_wp2_with fail
        go_at_call 10
        refine (tickStay HCV4.out.x2 T1 (by have := HL.out; have := HMc.out; have := HT.out; omega) (by rw [HE2.out.ar]; exact (by have := HL.out; have := HMc.out; have := HT.out; simp only; omega))).mono ?_
        rintro e v5 ⟨⟨f1, f2, f3⟩, zv5, rfl, hR1, hx1, ho1, hk1⟩
        have hcc : hr ⟨1, 1152921504606846976, Lf, At⟩ T1 = ⟨1, 1152921504606846976, Lf, T1⟩ := by
          have := HL.out
          have := HMc.out
          have := HT.out
          unfold hr
          simp only [Ca.mk.injEq]
          refine ⟨trivial, trivial, trivial, ?_⟩
          omega
        rw [hcc] at hx1
        obtain rfl : f2 = 0 := (slice_len hR1.isIn).1
        have HC5 : Hid (C4 w v5 o0 o1 o2 o3 o4 g0 ⟨1, 1152921504606846976, Lf, T1⟩ z1 [] g1 ⟨1, 1152921504606846976, Lf, T2⟩ y1 [e1] g2 ⟨1, 1152921504606846976, Lf, T1⟩ zv5 [e2] g3 ⟨1, 1152921504606846976, Lf, At⟩ y3 [e3]) := HCV4.out.op2 hk1 hx1 ho1 (fun e he => he)
        have HW5 : Hid (Ew w v5 q0 r0 ga ⟨m, s, a, p, (q1, q2, q3), ⟨#[]⟩⟩ n (r1, r2, r3) b #[.pointer (some ⟨g0, 0, none⟩), .pointer (some ⟨g1, 0, none⟩), .pointer (some ⟨g2, 0, none⟩), .pointer (some ⟨g3, 0, none⟩)] [(s0, #[.int .i64 n, .slice d1 d2 d3, .string b], 26)] [((d1, d2, d3), fr)] []) := HWV4.out.ks HCV4.out.x2 hk1 HC5.out.bel
        simp only [sv]
        clear hcc hR1 hx1 ho1 hk1 HCV4 HWV4
        clear pa la
        have pa := cell_blk HW5.out.ba 2
        have la := heap_lt HW5.out.ba
        simp only [List.getElem?_toArray, List.getElem?_cons_succ, List.getElem?_cons_zero] at pa
        go_wp2_with fail
        go_at_call 10
        refine (tickStay HC5.out.x2 mc (by have := HL.out; have := HMc.out; have := HT.out; omega) (by rw [HE2.out.ar]; exact (by have := HL.out; have := HMc.out; have := HT.out; simp only; omega))).mono ?_
        rintro e v6 ⟨⟨h1, h2, h3⟩, zv6, rfl, hR1, hx1, ho1, hk1⟩
        have hcc : hr ⟨1, 1152921504606846976, Lf, T1⟩ mc = ⟨1, 1152921504606846976, Lf, T1⟩ := by
          have := HL.out
          have := HMc.out
          have := HT.out
          unfold hr
          simp only [Ca.mk.injEq]
          refine ⟨trivial, trivial, trivial, ?_⟩
          omega
        rw [hcc] at hx1
        obtain rfl : h2 = 0 := (slice_len hR1.isIn).1
        have HC6 : Hid (C4 w v6 o0 o1 o2 o3 o4 g0 ⟨1, 1152921504606846976, Lf, T1⟩ z1 [] g1 ⟨1, 1152921504606846976, Lf, T2⟩ y1 [e1] g2 ⟨1, 1152921504606846976, Lf, T1⟩ zv6 [e2] g3 ⟨1, 1152921504606846976, Lf, At⟩ y3 [e3]) := HC5.out.op2 hk1 hx1 ho1 (fun e he => he)
        have HW6 : Hid (Ew w v6 q0 r0 ga ⟨m, s, a, p, (q1, q2, q3), ⟨#[]⟩⟩ n (r1, r2, r3) b #[.pointer (some ⟨g0, 0, none⟩), .pointer (some ⟨g1, 0, none⟩), .pointer (some ⟨g2, 0, none⟩), .pointer (some ⟨g3, 0, none⟩)] [(s0, #[.int .i64 n, .slice d1 d2 d3, .string b], 26)] [((d1, d2, d3), fr)] []) := HW5.out.ks HC5.out.x2 hk1 HC6.out.bel
        simp only [sv]
        clear hcc hR1 hx1 ho1 hk1 HC5 HW5
        clear pa la
        have pa := cell_blk HW6.out.ba 2
        have la := heap_lt HW6.out.ba
        simp only [List.getElem?_toArray, List.getElem?_cons_succ, List.getElem?_cons_zero] at pa
        go_wp2_with fail
        go_at_call 10
        refine (tickGo HC6.out.x2 T2 (by have := HL.out; have := HMc.out; have := HT.out; omega) (by rw [HE2.out.ar]; exact (by have := HL.out; have := HMc.out; have := HT.out; simp only; omega))).mono ?_
        rintro e v7 ⟨⟨j1, j2, j3⟩, zv7, rfl, hR1, hx1, ho1, hk1⟩
        have hcc : hr ⟨1, 1152921504606846976, Lf, T1⟩ T2 = ⟨1, 1152921504606846976, Lf, T2⟩ := by
          have := HL.out
          have := HMc.out
          have := HT.out
          unfold hr
          simp only [Ca.mk.injEq]
          refine ⟨trivial, trivial, trivial, ?_⟩
          omega
        rw [hcc] at hx1
        have HC7 : Hid (C4 w v7 o0 o1 o2 o3 o4 g0 ⟨1, 1152921504606846976, Lf, T1⟩ z1 [] g1 ⟨1, 1152921504606846976, Lf, T2⟩ y1 [e1] g2 ⟨1, 1152921504606846976, Lf, T2⟩ zv7 [] g3 ⟨1, 1152921504606846976, Lf, At⟩ y3 [e3]) := HC6.out.op2 hk1 hx1 ho1 (by simp)
        have HW7 : Hid (Ew w v7 q0 r0 ga ⟨m, s, a, p, (q1, q2, q3), ⟨#[]⟩⟩ n (r1, r2, r3) b #[.pointer (some ⟨g0, 0, none⟩), .pointer (some ⟨g1, 0, none⟩), .pointer (some ⟨g2, 0, none⟩), .pointer (some ⟨g3, 0, none⟩)] [(s0, #[.int .i64 n, .slice d1 d2 d3, .string b], 26)] [((d1, d2, d3), fr)] []) := HW6.out.ks HC6.out.x2 hk1 HC7.out.bel
        rw [HE2.out.st] at hR1
        have HW9 : Hid (Ew w v7 q0 r0 ga ⟨m, s, a, p, (q1, q2, q3), ⟨#[]⟩⟩ n (r1, r2, r3) b #[.pointer (some ⟨g0, 0, none⟩), .pointer (some ⟨g1, 0, none⟩), .pointer (some ⟨g2, 0, none⟩), .pointer (some ⟨g3, 0, none⟩)] [(s0, #[.int .i64 n, .slice d1 d2 d3, .string b], 26)] [((d1, d2, d3), fr)] [((j1, j2, j3), [7])]) := HW7.out.addi (j1, j2, j3) [7] hR1
        clear HW7
        simp only [sv]
        clear hcc hR1 hx1 ho1 hk1 HC6 HW6
        clear pa la
        have pa := cell_blk HW9.out.ba 3
        have la := heap_lt HW9.out.ba
        simp only [List.getElem?_toArray, List.getElem?_cons_succ, List.getElem?_cons_zero] at pa
        obtain ⟨a0, a1, a2, a3, a4, a5, a6⟩ := HW9.out.bq.cells
        simp only [sv] at a0 a1 a2 a3 a4 a5
        have p0 := cell_blk HW9.out.br 0
        have p1 := cell_blk HW9.out.br 1
        have p2 := cell_blk HW9.out.br 2
        have lr := heap_lt HW9.out.br
        simp only [rsv, List.getElem?_toArray, List.getElem?_cons_succ, List.getElem?_cons_zero, sv] at p0 p1 p2
        have HSg : Hid (Calls Tryd.prog 11 #[.pointer (some ⟨g3, 0, none⟩), .agg #[.string m, .string s, .string a, .string p, .slice q1 q2 q3, .string ⟨#[]⟩], .agg #[.int .i64 n, .slice r1 r2 r3, .string b], .int .i64 9, .int .i64 T2] v7 fun r w' => ∃ gs : SV, r = .returned (.tuple #[.bool true, sv gs]) ∧ R EI w' (sv gs) [e3.st] ∧ Ks (Ow g3 y3) v7 w') := storeGo (q := ⟨m, s, a, p, (q1, q2, q3), ⟨#[]⟩⟩) (ry := (r1, r2, r3)) HC7.out.x3 (fun V hV => (HArw.out V (HC7.out.bel.trans (hV.below HC7.out.bel.size (fun i hi e => by have := HC7.out.i3 i (.inl e); have := HC7.out.mo; have := HC7.out.lo; omega)))).iq) (fun V hV => (HArw.out V (HC7.out.bel.trans (hV.below HC7.out.bel.size (fun i hi e => by have := HC7.out.i3 i (.inl e); have := HC7.out.mo; have := HC7.out.lo; omega)))).ir) HZ.out HsB.out 9 T2 (by have := HL.out; have := HMc.out; have := HT.out; omega) (show (1 : Int) ≤ 1 by decide) rfl (by rw [HE3.out.ar]; exact (by have := HL.out; have := HMc.out; have := HT.out; simp only; omega))
        rw [HE3.out.st] at HSg
        go_wp2_with fail
        go_at_call 11
        refine HSg.out.mono ?_
        rintro e v8 ⟨⟨k1, k2, k3⟩, rfl, hR1, hk1⟩
        have hb8 : Below w.heap.size w v8 := HC7.out.bel.trans (hk1.below HC7.out.bel.size fun i hi ho => by have := HC7.out.i3 i (.inl ho); have := HC7.out.mo; have := HC7.out.lo; omega)
        have HWe : Hid (Ew w v8 q0 r0 ga ⟨m, s, a, p, (q1, q2, q3), ⟨#[]⟩⟩ n (r1, r2, r3) b #[.pointer (some ⟨g0, 0, none⟩), .pointer (some ⟨g1, 0, none⟩), .pointer (some ⟨g2, 0, none⟩), .pointer (some ⟨g3, 0, none⟩)] [(s0, #[.int .i64 n, .slice d1 d2 d3, .string b], 26)] [((d1, d2, d3), fr)] [((j1, j2, j3), [7])]) := HW9.out.ks HC7.out.x3 hk1 hb8
        have HX1 : Hid (Cx v8 g1 ⟨1, 1152921504606846976, Lf, T2⟩ y1 [e1]) := HC7.out.x1.keep fun k hk hl => hk1.block k hl fun ho => by have := HC7.out.i1 k hk; have := HC7.out.i3 k (.inl ho); have := HC7.out.mo; omega
        have HX2 : Hid (Cx v8 g2 ⟨1, 1152921504606846976, Lf, T2⟩ zv7 []) := HC7.out.x2.keep fun k hk hl => hk1.block k hl fun ho => by have := HC7.out.i2 k hk; have := HC7.out.i3 k (.inl ho); have := HC7.out.mo; omega
        have HRk : Hid (R EI v8 (.slice k1 k2 k3) [7]) := hR1
        simp only [sv]
        clear hR1 hk1 hb8 HSg HC7 HW9
        clear pa la a0 a1 a2 a3 a4 a5 a6 p0 p1 p2 lr
        have HXs : v8.heap[s0]? = some (.cells #[.int .i64 n, .slice d1 d2 d3, .string b] 26 (0, 0)) := (HWe.out.xs (s0, #[.int .i64 n, .slice d1 d2 d3, .string b], 26) (List.mem_singleton.2 rfl)).2.2
        have s0' := cell_blk HXs 0
        have s1' := cell_blk HXs 1
        have s2' := cell_blk HXs 2
        have ls := heap_lt HXs
        simp only [List.getElem?_toArray, List.getElem?_cons_succ, List.getElem?_cons_zero] at s0' s1' s2'
        have p0 := cell_blk HWe.out.br 0
        have p1 := cell_blk HWe.out.br 1
        have p2 := cell_blk HWe.out.br 2
        have lr := heap_lt HWe.out.br
        simp only [rsv, List.getElem?_toArray, List.getElem?_cons_succ, List.getElem?_cons_zero, sv] at p0 p1 p2
        have HSm : Hid (Calls Tryd.prog 15 #[.agg #[.int .i64 n, .slice d1 d2 d3, .string b], .agg #[.int .i64 n, .slice r1 r2 r3, .string b]] v8 fun e w' => e = .returned (.bool true) ∧ Below v8.heap.size v8 w') := same_eq n b (d1, d2, d3) (r1, r2, r3) fr v8 (HWe.out.fs ((d1, d2, d3), fr) (List.mem_singleton.2 rfl)).isIn (HArw.out v8 HWe.out.bel).ir
        clear HXs
        go_wp2_with fail
        go_at_call 15
        refine HSm.out.mono ?_
        rintro e v9 ⟨rfl, b9⟩
        have HWf : Hid (Ew w v9 q0 r0 ga ⟨m, s, a, p, (q1, q2, q3), ⟨#[]⟩⟩ n (r1, r2, r3) b #[.pointer (some ⟨g0, 0, none⟩), .pointer (some ⟨g1, 0, none⟩), .pointer (some ⟨g2, 0, none⟩), .pointer (some ⟨g3, 0, none⟩)] [(s0, #[.int .i64 n, .slice d1 d2 d3, .string b], 26)] [((d1, d2, d3), fr)] [((j1, j2, j3), [7])]) := HWe.out.below b9
        have HX1b : Hid (Cx v9 g1 ⟨1, 1152921504606846976, Lf, T2⟩ y1 [e1]) := HX1.out.below b9
        have HX2b : Hid (Cx v9 g2 ⟨1, 1152921504606846976, Lf, T2⟩ zv7 []) := HX2.out.below b9
        have HRkb : Hid (R EI v9 (.slice k1 k2 k3) [7]) := HRk.out.below b9
        clear b9 HSm HWe HX1 HX2 HRk s0' s1' s2' ls p0 p1 p2 lr
        have pa := cell_blk HWf.out.ba 1
        have la := heap_lt HWf.out.ba
        simp only [List.getElem?_toArray, List.getElem?_cons_succ, List.getElem?_cons_zero] at pa
        have pb := cell_blk HWf.out.ba 2
        simp only [List.getElem?_toArray, List.getElem?_cons_succ, List.getElem?_cons_zero] at pb
        go_wp2_with fail
        go_at_call 12
        refine (len_any v9 g1 _ y1 [e1] HX1b.out).mono ?_
        rintro e wq ⟨rfl, hw⟩
        rw [hw]
        clear hw wq
        obtain ⟨V9, hV9⟩ : ∃ W, v9.alloc (.cells #[.int .i64 7] 2) = W := ⟨_, rfl⟩
        obtain ⟨k9, hk9⟩ : ∃ k, v9.heap.size = k := ⟨_, rfl⟩
        have b9 : Below v9.heap.size v9 V9 := by rw [← hV9]; exact bel1 _ _
        have HSi : Hid (Calls Tryd.prog 16 #[.slice j1 j2 j3, .slice (some ⟨k9, 0, none⟩) 1 1] V9 fun e w' => e = .returned (.bool true) ∧ Below V9.heap.size V9 w') := sameInts_eq (j1, j2, j3) (some ⟨k9, 0, none⟩, 1, 1) [7] V9 ((HWf.out.is ((j1, j2, j3), [7]) (List.mem_singleton.2 rfl)).below b9).isIn (by rw [← hV9, ← hk9]; exact in_one (E := EI) _ _ 7 #[.int .i64 7] 2 (0, 0) (by rw [heap_al, if_pos rfl]) rfl)
        have HWg : Hid (Ew w V9 q0 r0 ga ⟨m, s, a, p, (q1, q2, q3), ⟨#[]⟩⟩ n (r1, r2, r3) b #[.pointer (some ⟨g0, 0, none⟩), .pointer (some ⟨g1, 0, none⟩), .pointer (some ⟨g2, 0, none⟩), .pointer (some ⟨g3, 0, none⟩)] [(s0, #[.int .i64 n, .slice d1 d2 d3, .string b], 26)] [((d1, d2, d3), fr)] [((j1, j2, j3), [7])]) := HWf.out.below b9
        have HX2c : Hid (Cx V9 g2 ⟨1, 1152921504606846976, Lf, T2⟩ zv7 []) := HX2b.out.below b9
        have HRkc : Hid (R EI V9 (.slice k1 k2 k3) [7]) := HRkb.out.below b9
        clear b9 HWf HX1b HX2b HRkb
        clear pa la pb
        go_wp2_with fail
        try rw [hV9]
        try rw [hk9]
        go_at_call 16
        refine HSi.out.mono ?_
        rintro e v10 ⟨rfl, b10⟩
        have HWh : Hid (Ew w v10 q0 r0 ga ⟨m, s, a, p, (q1, q2, q3), ⟨#[]⟩⟩ n (r1, r2, r3) b #[.pointer (some ⟨g0, 0, none⟩), .pointer (some ⟨g1, 0, none⟩), .pointer (some ⟨g2, 0, none⟩), .pointer (some ⟨g3, 0, none⟩)] [(s0, #[.int .i64 n, .slice d1 d2 d3, .string b], 26)] [((d1, d2, d3), fr)] [((j1, j2, j3), [7])]) := HWg.out.below b10
        have HX2d : Hid (Cx v10 g2 ⟨1, 1152921504606846976, Lf, T2⟩ zv7 []) := HX2c.out.below b10
        have HRkd : Hid (R EI v10 (.slice k1 k2 k3) [7]) := HRkc.out.below b10
        clear b10 HSi HWg HX2c HRkc hV9 hk9
        have pa := cell_blk HWh.out.ba 2
        have la := heap_lt HWh.out.ba
        simp only [List.getElem?_toArray, List.getElem?_cons_succ, List.getElem?_cons_zero] at pa
        go_wp2_with fail
        go_at_call 12
        refine (len_any v10 g2 _ zv7 [] HX2d.out).mono ?_
        rintro e wq ⟨rfl, hw⟩
        rw [hw]
        clear hw wq
        obtain ⟨V10, hV10⟩ : ∃ W, v10.alloc (.cells #[.int .i64 7] 2) = W := ⟨_, rfl⟩
        obtain ⟨k10, hk10⟩ : ∃ k, v10.heap.size = k := ⟨_, rfl⟩
        have b10 : Below v10.heap.size v10 V10 := by rw [← hV10]; exact bel1 _ _
        have HSi : Hid (Calls Tryd.prog 16 #[.slice k1 k2 k3, .slice (some ⟨k10, 0, none⟩) 1 1] V10 fun e w' => e = .returned (.bool true) ∧ Below V10.heap.size V10 w') := sameInts_eq (k1, k2, k3) (some ⟨k10, 0, none⟩, 1, 1) [7] V10 (HRkd.out.below b10).isIn (by rw [← hV10, ← hk10]; exact in_one (E := EI) _ _ 7 #[.int .i64 7] 2 (0, 0) (by rw [heap_al, if_pos rfl]) rfl)
        have HBf : Hid (Below w.heap.size w V10) := HWh.out.bel.trans (b10.mono HWh.out.bel.size)
        clear b10 HWh HX2d HRkd pa la
        go_wp2_with fail
        try rw [hV10]
        try rw [hk10]
        go_at_call 16
        refine HSi.out.mono ?_
        rintro e v11 ⟨rfl, b11⟩
        have HBg : Hid (Below w.heap.size w v11) := HBf.out.trans (b11.mono HBf.out.size)
        clear b11 HSi HBf hV10 hk10
        go_wp2_with fail
        go_ret
        exact ⟨rfl, HBg.out⟩
      · obtain rfl := HOk.out.1.1 HsB.out
        have pa := cell_blk HEw.out.ba 0
        have la := heap_lt HEw.out.ba
        simp only [List.getElem?_toArray, List.getElem?_cons_zero] at pa
        go_wp2_with fail
        go_at_call 12
        refine (len_any wr g0 _ y0 [] HC0.out.x0).mono ?_
        rintro e wq ⟨rfl, hw⟩
        rw [hw]
        clear hw wq
        go_wp2_with fail
        go_ret
        exact ⟨rfl, HC0.out.bel⟩
end Go.Proofs.YtfponcdhaefkdaaDoor
