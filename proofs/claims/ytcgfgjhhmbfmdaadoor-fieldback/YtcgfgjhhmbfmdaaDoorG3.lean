/- FieldBack, walked. -/
import Derived.Test.YtcgfgjhhmbfmdaaDoorG2
namespace Go.Proofs.YtcgfgjhhmbfmdaaDoor
open Go.RowKit Go.Maps
set_option linter.unusedVariables false
set_option linter.unusedSimpArgs false

/-- the list behind its first k, as Go cuts it -/
theorem In.behind {w : World} {b : Option Addr} {n c : Nat} {l : List Fd} (h : In EFd w (.slice b n c) l) (k : Nat) (hk : 1 ≤ k) (hkl : k ≤ l.length) :
    ∃ B off, b = some ⟨B, off, none⟩ ∧ n = l.length ∧ l.length ≤ c ∧ c ≤ 9223372036854775807 ∧ In EFd w (.slice (if c = k then some ⟨B, off, none⟩ else some ⟨B, off + k * 3, none⟩) (l.length - k) (c - k)) (l.drop k) := by
  obtain ⟨e1, e2, e3⟩ := slice_len h
  obtain ⟨B, off, cap, e, _, _⟩ := h.get okFd 0 (by omega)
  injection e with e4 e5 e6
  subst e4 e6
  subst e1
  obtain ⟨h1, h2⟩ := In.drop okFd h k hkl
  refine ⟨B, off, rfl, rfl, e2, e3, ?_⟩
  by_cases hc : c = k
  · rw [if_pos hc]; exact h2 hc
  · rw [if_neg hc]; exact h1 hc

set_option maxHeartbeats 40000000 in
set_option maxRecDepth 100000 in
theorem fieldBack_any (t : SV) (l : List Fd) (m0 s0 a0 p0 b0 : ByteArray) (y : SV) (l0 : List Fd) (n : Int) (h0 : -9223372036854775808 ≤ n) (h1 : n ≤ 9223372036854775807) (w : World) (ht : Tab w) (hI : In EFd w (sv t) l) (hz : SzOk l) (hlen : (4 + l.length) * 40 ≤ 140737488355328)
    (hJ : In EFd w (sv y) l0) (hz0 : SzOk l0) (hlen0 : (4 + l0.length) * 40 ≤ 140737488355328) (hm : m0.size ≤ 140737488355328) (hs : s0.size ≤ 140737488355328) (ha : a0.size ≤ 140737488355328) (hp : p0.size ≤ 140737488355328) :
    Calls Tryd.prog 4 #[sv t, .agg (rqv m0 s0 a0 p0 (sv y) b0), .int .i64 n] w fun e w' => e = .returned (.bool true) ∧ Below w.heap.size w w' := by
  obtain ⟨wA, hwA⟩ : ∃ wA, w.alloc (.cells (rqv m0 s0 a0 p0 (sv y) b0) 26) = wA := ⟨_, rfl⟩
  have bA : Below w.heap.size w wA := by rw [← hwA]; exact bel1 w _
  have blkA : wA.heap[w.heap.size]? = some (.cells (rqv m0 s0 a0 p0 (sv y) b0) 26) := by rw [← hwA, heap_al, if_pos rfl]
  have hlA := heap_lt blkA
  have h9 : Hid (Calls Tryd.prog 9 #[] wA fun e w' => e = .returned (.bool true) ∧ Below wA.heap.size wA w') := head_any wA (ht.below bA)
  have h15 : Hid (∀ W, Below wA.heap.size wA W → Calls Tryd.prog 15 #[sv t] W fun e w' => FdPost l W e w') := fun W hb => copied_any t l W ((hI.below bA).below hb) (by omega)
  have h14 : Hid (∀ z W, In EFd W (sv z) l → Calls Tryd.prog 14 #[sv z] W fun e w' => RqPost l W e w') := fun z W hi => readRequest_any z l W hi fun f hf => (hz.1 f hf).1
  have h18 : Hid (∀ z W, In EFd W (sv z) l → Calls Tryd.prog 18 #[sv z] W fun e w' => RsPost l W e w') := fun z W hi => readResponse_any z l W hi fun f hf => (hz.1 f hf).1
  have HIl : Hid (∀ W, Below wA.heap.size wA W → In EFd W (sv t) l) := fun W hb => (hI.below bA).below hb
  have HT : Hid (∀ W, Below wA.heap.size wA W → Tab W) := fun W hb => (ht.below bA).below hb
  have HZ : Hid (SzOk l ∧ (4 + l.length) * 40 ≤ 140737488355328) := ⟨hz, hlen⟩
  have HZ0 : Hid (SzOk l0 ∧ (4 + l0.length) * 40 ≤ 140737488355328 ∧ m0.size ≤ 140737488355328 ∧ s0.size ≤ 140737488355328 ∧ a0.size ≤ 140737488355328 ∧ p0.size ≤ 140737488355328 ∧ Tab w ∧ In EFd w (sv y) l0) := ⟨hz0, hlen0, hm, hs, ha, hp, ht, hJ⟩
  have hcl : Hid (∀ W, Below wA.heap.size wA W → (W.cell? ⟨w.heap.size, 0, none⟩ = some (.string m0) ∧ W.cell? ⟨w.heap.size, 1, none⟩ = some (.string s0) ∧ W.cell? ⟨w.heap.size, 2, none⟩ = some (.string a0) ∧ W.cell? ⟨w.heap.size, 3, none⟩ = some (.string p0) ∧ W.cell? ⟨w.heap.size, 4, none⟩ = some (sv y) ∧ W.cell? ⟨w.heap.size, 5, none⟩ = some (.string b0)) ∧ W.heap[w.heap.size]? = some (.cells (rqv m0 s0 a0 p0 (sv y) b0) 26) ∧ w.heap.size < W.heap.size) := fun W hb => by
    have q : W.heap[w.heap.size]? = some (.cells (rqv m0 s0 a0 p0 (sv y) b0) 26) := (hb.block _ hlA).trans blkA
    exact ⟨⟨cell_blk q 0, cell_blk q 1, cell_blk q 2, cell_blk q 3, cell_blk q 4, cell_blk q 5⟩, q, heap_lt q⟩
  have BA : Hid (Below w.heap.size w wA) := bA
  obtain ⟨tb, tl, tc⟩ := t
  obtain ⟨et, hcap1, hcap2⟩ := slice_len hI
  have HL : Hid (tl = l.length) := et
  rw [← et] at hcap1
  clear et
  obtain ⟨yb, yl, yc⟩ := y
  obtain ⟨ey, hcap3, hcap4⟩ := slice_len hJ
  subst ey
  simp only [sv, rqv] at h15 h14 h18 HIl hcl hwA HZ0 ⊢
  clear hI hz ht bA blkA hm hs ha hp hJ hz0 hlen hlen0
  go_enter Tryd.func4, Tryd.ntmps4
  go_wp2_with fail
  go_at_call 9
  refine h9.out.mono ?_
  rintro e w1 ⟨rfl, b1⟩
  replace b1 : Hid (Below wA.heap.size wA w1) := b1
  clear h9 hwA
  go_wp2_with fail
  go_at_call 15
  refine (h15.out _ b1.out).mono ?_
  rintro e w2 ⟨⟨cb, cl, cc⟩, rfl, b2, r2, o2⟩
  have D2 : Hid (Below wA.heap.size wA w2) := b1.out.trans (b2.mono b1.out.size)
  replace r2 : Hid (In EFd w2 (.slice cb cl cc) l) := R.isIn r2
  clear b2 o2 b1
  simp only [sv]
  go_wp2_with fail
  go_at_call 14
  refine (h14.out (cb, cl, cc) _ r2.out).mono ?_
  rintro e w3 ⟨m, s, a, p, ⟨zb, zl, zc⟩, rfl, b3, g3, n3⟩
  have D3 : Hid (Below wA.heap.size wA w3) := D2.out.trans (b3.mono D2.out.size)
  replace g3 : Hid (rqE l = 0 → vals l 4 reqNames = some [m, s, a, p] ∧ In EFd w3 (.slice zb zl zc) (l.drop 4)) := fun h => ⟨(g3 h).1, (g3 h).2.2.1.isIn⟩
  clear b3 r2 D2 n3
  simp only [sv, rqv]
  go_upto_if 33 with fail
  go_cut [] from 24 (fun wx => Hid (Below wA.heap.size wA wx))
  case first =>
    as_aux_lemma =>
      have k3 : Hid (Below w3.heap.size w3 (w3.alloc (.cells #[.string m, .string s, .string a, .string p, .slice zb zl zc, .string ⟨#[]⟩] 26))) := bel1 w3 _
      have k3' : Hid ((w3.alloc (.cells #[.string m, .string s, .string a, .string p, .slice zb zl zc, .string ⟨#[]⟩] 26)).heap[w3.heap.size]? = some (.cells #[.string m, .string s, .string a, .string p, .slice zb zl zc, .string ⟨#[]⟩] 26)) := by show _ = _; rw [heap_al, if_pos rfl]
      have D3a : Hid (Below wA.heap.size wA (w3.alloc (.cells #[.string m, .string s, .string a, .string p, .slice zb zl zc, .string ⟨#[]⟩] 26))) := D3.out.trans (k3.out.mono D3.out.size)
      by_cases hq : rqE l = 0
      · have HQ : Hid (rqE l = 0) := hq
        have e0 : (rqE l == 0) = true := by simp [hq]
        obtain ⟨hv, hin⟩ := g3.out hq
        obtain ⟨hr1, _, hr3, _⟩ := rq_right hq
        have HV : Hid (vals l 4 reqNames = some [m, s, a, p]) := hv
        have HI4 : Hid (In EFd (w3.alloc (.cells #[.string m, .string s, .string a, .string p, .slice zb zl zc, .string ⟨#[]⟩] 26)) (.slice zb zl zc) (l.drop 4)) := hin.below k3.out
        have hback : rqE (wqL m s a p (l.drop 4)) = 0 := rq_back hq hv
        have HB : Hid (rqE (wqL m s a p (l.drop 4)) = 0) := hback
        have hrs : rsE l = 131 := rq_rs hq
        have hsz : SzOk (wqL m s a p (l.drop 4)) := by
          obtain ⟨i0, i1, i2, i3, q0, q1, q2, q3, _, _, _, _, e⟩ := vals4.1 hv
          simp only [List.cons.injEq, and_true] at e
          obtain ⟨rfl, rfl, rfl, rfl⟩ := e
          have hz := HZ.out.1
          exact wqL_sz (hz.1 _ (List.getElem_mem q0)).2 (hz.1 _ (List.getElem_mem q1)).2 (hz.1 _ (List.getElem_mem q2)).2 (hz.1 _ (List.getElem_mem q3)).2 ⟨fun f hf => hz.1 f (List.mem_of_mem_drop hf), by rw [List.length_drop]; have := hz.2; omega⟩ (by rw [List.length_drop]; have := HZ.out.2; omega)
        have h16 : Hid (Calls Tryd.prog 16 #[.agg #[.string m, .string s, .string a, .string p, .slice zb zl zc, .string ⟨#[]⟩]] (w3.alloc (.cells #[.string m, .string s, .string a, .string p, .slice zb zl zc, .string ⟨#[]⟩] 26)) fun e w' => WqPost m s a p (l.drop 4) (w3.alloc (.cells #[.string m, .string s, .string a, .string p, .slice zb zl zc, .string ⟨#[]⟩] 26)) e w') := by
          have hm := (hsz.1 ⟨reqNames[0], m, false⟩ (by simp [wqL])).2
          have hs := (hsz.1 ⟨reqNames[1], s, false⟩ (by simp [wqL])).2
          have ha := (hsz.1 ⟨reqNames[2], a, false⟩ (by simp [wqL])).2
          have hp := (hsz.1 ⟨reqNames[3], p, false⟩ (by simp [wqL])).2
          have hz := HZ.out.1
          exact writeRequest_any m s a p ⟨#[]⟩ (zb, zl, zc) (l.drop 4) _ HI4.out hm hs ha hp ⟨fun f hf => hz.1 f (List.mem_of_mem_drop hf), by rw [List.length_drop]; have := hz.2; omega⟩ (by rw [List.length_drop]; have := HZ.out.2; omega)
        have h14' : Hid (∀ x W, In EFd W (sv x) (wqL m s a p (l.drop 4)) → Calls Tryd.prog 14 #[sv x] W fun e w' => RqPost (wqL m s a p (l.drop 4)) W e w') := fun x W hi => readRequest_any x _ W hi fun f hf => (hsz.1 f hf).1
        clear hq hv hin hback hsz
        go_wp2_with fail
        go_at_call 16
        refine h16.out.mono ?_
        rintro e w4 ⟨⟨ub, ul, uc⟩, rfl, b4, g4, _⟩
        have D4 : Hid (Below wA.heap.size wA w4) := D3a.out.trans (b4.mono D3a.out.size)
        have R4 : Hid (In EFd w4 (.slice ub ul uc) (wqL m s a p (l.drop 4))) := (g4 HB.out).1.isIn
        have I4 : Hid (In EFd w4 (.slice zb zl zc) (l.drop 4)) := HI4.out.below b4
        have blk : w4.heap[w3.heap.size]? = some (.cells #[.string m, .string s, .string a, .string p, .slice zb zl zc, .string ⟨#[]⟩] 26) := (b4.block _ (heap_lt k3'.out)).trans k3'.out
        have BLK : Hid (w4.heap[w3.heap.size]? = some (.cells #[.string m, .string s, .string a, .string p, .slice zb zl zc, .string ⟨#[]⟩] 26)) := blk
        obtain ⟨x0, x1, x2, x3, x4, x5⟩ : w4.cell? ⟨w3.heap.size, 0, none⟩ = some (.string m) ∧ w4.cell? ⟨w3.heap.size, 1, none⟩ = some (.string s) ∧ w4.cell? ⟨w3.heap.size, 2, none⟩ = some (.string a) ∧ w4.cell? ⟨w3.heap.size, 3, none⟩ = some (.string p) ∧ w4.cell? ⟨w3.heap.size, 4, none⟩ = some (.slice zb zl zc) ∧ w4.cell? ⟨w3.heap.size, 5, none⟩ = some (.string ⟨#[]⟩) := ⟨cell_blk blk 0, cell_blk blk 1, cell_blk blk 2, cell_blk blk 3, cell_blk blk 4, cell_blk blk 5⟩
        rw [HB.out]
        clear b4 g4 h16 HI4 k3' k3 D3a blk g3 D3
        simp only [sv]
        have hwl : (wqL m s a p (l.drop 4)).length = l.length := by rw [wq_len, List.length_drop]; omega
        obtain ⟨gu, ou, eub, eul, hu1, hu2, hu⟩ := R4.out.behind 4 (by decide) (by rw [hwl]; exact hr3)
        obtain ⟨gt, ot, etb, etl_, ht1, ht2, htt⟩ := (HIl.out _ D4.out).behind 4 (by decide) hr3
        rw [hwl, ← HL.out] at hu1 hu eul
        rw [← HL.out] at ht1 htt
        rw [wq_drop] at hu
        clear etl_
        subst eub etb eul
        have hcel : Hid (∀ W, Below w4.heap.size w4 W → (fun W => W.cell? ⟨gu, ou, none⟩ = some (.string ⟨#[58, 109, 101, 116, 104, 111, 100]⟩) ∧ W.cell? ⟨gu, ou + 1, none⟩ = some (.string m) ∧ W.cell? ⟨gu, ou + 2, none⟩ = some (.bool false) ∧ W.cell? ⟨gu, ou + 3, none⟩ = some (.string ⟨#[58, 115, 99, 104, 101, 109, 101]⟩) ∧ W.cell? ⟨gu, ou + 4, none⟩ = some (.string s) ∧ W.cell? ⟨gu, ou + 5, none⟩ = some (.bool false) ∧ W.cell? ⟨gu, ou + 6, none⟩ = some (.string ⟨#[58, 97, 117, 116, 104, 111, 114, 105, 116, 121]⟩) ∧ W.cell? ⟨gu, ou + 7, none⟩ = some (.string a) ∧ W.cell? ⟨gu, ou + 8, none⟩ = some (.bool false) ∧ W.cell? ⟨gu, ou + 9, none⟩ = some (.string ⟨#[58, 112, 97, 116, 104]⟩) ∧ W.cell? ⟨gu, ou + 10, none⟩ = some (.string p) ∧ W.cell? ⟨gu, ou + 11, none⟩ = some (.bool false) ∧ W.cell? ⟨w3.heap.size, 0, none⟩ = some (.string m) ∧ W.cell? ⟨w3.heap.size, 1, none⟩ = some (.string s) ∧ W.cell? ⟨w3.heap.size, 2, none⟩ = some (.string a) ∧ W.cell? ⟨w3.heap.size, 3, none⟩ = some (.string p) ∧ W.cell? ⟨w3.heap.size, 5, none⟩ = some (.string ⟨#[]⟩)) W) := fun W hb => by
          obtain ⟨B0, o0, c0, e0, hB0, hc0⟩ := (R4.out.below hb).get okFd 0 (by rw [hwl]; omega)
          injection e0 with e0 _ _
          simp only [Option.some.injEq, Addr.mk.injEq, and_true] at e0
          obtain ⟨rfl, rfl⟩ := e0
          obtain ⟨B1, o1, c1, e1, hB1, hc1⟩ := (R4.out.below hb).get okFd 1 (by rw [hwl]; omega)
          injection e1 with e1 _ _
          simp only [Option.some.injEq, Addr.mk.injEq, and_true] at e1
          obtain ⟨rfl, rfl⟩ := e1
          obtain ⟨B2, o2, c2, e2, hB2, hc2⟩ := (R4.out.below hb).get okFd 2 (by rw [hwl]; omega)
          injection e2 with e2 _ _
          simp only [Option.some.injEq, Addr.mk.injEq, and_true] at e2
          obtain ⟨rfl, rfl⟩ := e2
          obtain ⟨B3, o3, c3, e3, hB3, hc3⟩ := (R4.out.below hb).get okFd 3 (by rw [hwl]; omega)
          injection e3 with e3 _ _
          simp only [Option.some.injEq, Addr.mk.injEq, and_true] at e3
          obtain ⟨rfl, rfl⟩ := e3
          have q : W.heap[w3.heap.size]? = some (.cells #[.string m, .string s, .string a, .string p, .slice zb zl zc, .string ⟨#[]⟩] 26) := (hb.block _ (heap_lt BLK.out)).trans BLK.out
          exact ⟨hc0 0 _ rfl, hc0 1 _ rfl, hc0 2 _ rfl, hc1 0 _ rfl, hc1 1 _ rfl, hc1 2 _ rfl, hc2 0 _ rfl, hc2 1 _ rfl, hc2 2 _ rfl, hc3 0 _ rfl, hc3 1 _ rfl, hc3 2 _ rfl, cell_blk q 0, cell_blk q 1, cell_blk q 2, cell_blk q 3, cell_blk q 5⟩
        have hr3' : 4 ≤ ul := by rw [HL.out]; exact hr3
        have a4 : decide ((ul : Int) < 4) = false := decide_eq_false (by omega)
        have a4n : decide (ul < 4) = false := decide_eq_false (by omega)
        have a5 : (4 : Int) ≤ (ul : Int) := by omega
        have a6 : (4 : Int) ≤ (uc : Int) := by omega
        have a7 : (4 : Int) ≤ (tc : Int) := by omega
        have a8 : (ul : Int) ≤ (uc : Int) := by omega
        have a9 : (ul : Int) ≤ (tc : Int) := by omega
        have j1 : (0 : Int) < (ul : Int) := by omega
        have j2 : (1 : Int) < (ul : Int) := by omega
        have j3 : (2 : Int) < (ul : Int) := by omega
        have j4 : (3 : Int) < (ul : Int) := by omega
        have i1 : 0 < ul := by omega
        have i2 : 1 < ul := by omega
        have i3 : 2 < ul := by omega
        have i4 : 3 < ul := by omega
        clear x0 x1 x2 x3 x4 x5 hwl
        go_upto_region 6 with fail
        go_cut [101] from 24 (fun x wx => x = .bool false ∧ Hid (Below w4.heap.size w4 wx))
        case first =>
          have h17 : Hid (∀ W, Below w4.heap.size w4 W → Calls Tryd.prog 17 #[.slice (if uc = 4 then some ⟨gu, ou, none⟩ else some ⟨gu, ou + 12, none⟩) (ul - 4) (uc - 4), .slice (if tc = 4 then some ⟨gt, ot, none⟩ else some ⟨gt, ot + 12, none⟩) (ul - 4) (tc - 4)] W fun e w' => e = .returned (.bool true) ∧ Below w4.heap.size w4 w') := fun W hb => by
            refine (same_eq (_, _, _) (_, _, _) (l.drop 4) W (hu.below hb) (htt.below hb)).mono ?_
            rintro e w' ⟨rfl, h⟩
            exact ⟨rfl, hb.trans (h.mono hb.size)⟩
          clear hu htt
          as_aux_lemma =>
            have hIW : Below w4.heap.size w4 (w4.drew) := (Below.refl _ _).drew
            refine wp_region_held_drew (S := (fun W => W.cell? ⟨gu, ou, none⟩ = some (.string ⟨#[58, 109, 101, 116, 104, 111, 100]⟩) ∧ W.cell? ⟨gu, ou + 1, none⟩ = some (.string m) ∧ W.cell? ⟨gu, ou + 2, none⟩ = some (.bool false) ∧ W.cell? ⟨gu, ou + 3, none⟩ = some (.string ⟨#[58, 115, 99, 104, 101, 109, 101]⟩) ∧ W.cell? ⟨gu, ou + 4, none⟩ = some (.string s) ∧ W.cell? ⟨gu, ou + 5, none⟩ = some (.bool false) ∧ W.cell? ⟨gu, ou + 6, none⟩ = some (.string ⟨#[58, 97, 117, 116, 104, 111, 114, 105, 116, 121]⟩) ∧ W.cell? ⟨gu, ou + 7, none⟩ = some (.string a) ∧ W.cell? ⟨gu, ou + 8, none⟩ = some (.bool false) ∧ W.cell? ⟨gu, ou + 9, none⟩ = some (.string ⟨#[58, 112, 97, 116, 104]⟩) ∧ W.cell? ⟨gu, ou + 10, none⟩ = some (.string p) ∧ W.cell? ⟨gu, ou + 11, none⟩ = some (.bool false) ∧ W.cell? ⟨w3.heap.size, 0, none⟩ = some (.string m) ∧ W.cell? ⟨w3.heap.size, 1, none⟩ = some (.string s) ∧ W.cell? ⟨w3.heap.size, 2, none⟩ = some (.string a) ∧ W.cell? ⟨w3.heap.size, 3, none⟩ = some (.string p) ∧ W.cell? ⟨w3.heap.size, 5, none⟩ = some (.string ⟨#[]⟩))) (by kernel_rfl) (hcel.out _ hIW) (fun hHeld => ?_)
            generalize hWg : World.drew _ = W at hIW hHeld ⊢
            clear hWg
            refine wpAnyH_take (i := 0) (oi := { dst := some 39, op := Op.move (Operand.tmp 10), type := 27, pos := "outright.go:39", after := #[], guard := none }) (v := ?vv55) rfl (by kernel_rfl) (by kernel_rfl) (by kernel_rfl) (fun _ _ _ h => h) (Or.inl ⟨by rfl, ?hy55⟩) (by assumption) ?_
            case hy55 => (intro w hSw; (try dsimp only at hSw); go_simp; all_goals with_reducible rfl)
            try simp only [Act.put, List.setIfInBounds_toArray, List.set_cons_zero, List.set_cons_succ]
            refine wpAnyH_take (i := 1) (oi := { dst := some 40, op := Op.binOp BinOp.neq 27 (Operand.tmp 39) (Operand.const (Value.int IntKind.i64 0)) 27, type := 4, pos := "outright.go:39", after := #[{ on := 0, ground := Ground.data }], guard := none }) (v := ?vv56) rfl (by kernel_rfl) (by kernel_rfl) (by kernel_rfl) (fun _ _ _ h => h) (Or.inl ⟨by rfl, ?hy56⟩) (by assumption) ?_
            case hy56 => (intro w hSw; (try dsimp only at hSw); go_simp; all_goals with_reducible rfl)
            try simp only [Act.put, List.setIfInBounds_toArray, List.set_cons_zero, List.set_cons_succ]
            refine wpAnyH_take (i := 2) (oi := { dst := some 41, op := Op.move (Operand.tmp 40), type := 4, pos := "outright.go:39", after := #[{ on := 1, ground := Ground.data }], guard := none }) (v := ?vv57) rfl (by kernel_rfl) (by kernel_rfl) (by kernel_rfl) (fun _ _ _ h => h) (Or.inl ⟨by rfl, ?hy57⟩) (by assumption) ?_
            case hy57 => (intro w hSw; (try dsimp only at hSw); go_simp; all_goals with_reducible rfl)
            try simp only [Act.put, List.setIfInBounds_toArray, List.set_cons_zero, List.set_cons_succ]
            refine wpAnyH_take (i := 3) (oi := { dst := some 42, op := Op.move (Operand.tmp 9), type := 24, pos := "outright.go:39", after := #[{ on := 2, ground := Ground.guard }], guard := some (2, false) }) (v := ?vv58) rfl (by kernel_rfl) (by kernel_rfl) (by kernel_rfl) (fun _ _ _ h => h) (Or.inl ⟨by rfl, ?hy58⟩) (by assumption) ?_
            case hy58 => (intro w hSw; (try dsimp only at hSw); go_simp; all_goals with_reducible rfl)
            try simp only [Act.put, List.setIfInBounds_toArray, List.set_cons_zero, List.set_cons_succ]
            refine wpAnyH_take (i := 4) (oi := { dst := some 43, op := Op.call { callee := Callee.builtin Builtin.len, args := #[Operand.tmp 42], argTypes := #[24] }, type := 3, pos := "outright.go:39", after := #[{ on := 3, ground := Ground.data }, { on := 2, ground := Ground.guard }], guard := some (2, false) }) (v := ?vv59) rfl (by kernel_rfl) (by kernel_rfl) (by kernel_rfl) (fun _ _ _ h => h) (Or.inl ⟨by rfl, ?hy59⟩) (by assumption) ?_
            case hy59 => (intro w hSw; (try dsimp only at hSw); go_simp; all_goals with_reducible rfl)
            try simp only [Act.put, List.setIfInBounds_toArray, List.set_cons_zero, List.set_cons_succ]
            refine wpAnyH_take (i := 5) (oi := { dst := some 44, op := Op.move (Operand.tmp 0), type := 24, pos := "outright.go:39", after := #[{ on := 2, ground := Ground.guard }], guard := some (2, false) }) (v := ?vv60) rfl (by kernel_rfl) (by kernel_rfl) (by kernel_rfl) (fun _ _ _ h => h) (Or.inl ⟨by rfl, ?hy60⟩) (by assumption) ?_
            case hy60 => (intro w hSw; (try dsimp only at hSw); go_simp; all_goals with_reducible rfl)
            try simp only [Act.put, List.setIfInBounds_toArray, List.set_cons_zero, List.set_cons_succ]
            refine wpAnyH_take (i := 6) (oi := { dst := some 45, op := Op.call { callee := Callee.builtin Builtin.len, args := #[Operand.tmp 44], argTypes := #[24] }, type := 3, pos := "outright.go:39", after := #[{ on := 5, ground := Ground.data }, { on := 2, ground := Ground.guard }], guard := some (2, false) }) (v := ?vv61) rfl (by kernel_rfl) (by kernel_rfl) (by kernel_rfl) (fun _ _ _ h => h) (Or.inl ⟨by rfl, ?hy61⟩) (by assumption) ?_
            case hy61 => (intro w hSw; (try dsimp only at hSw); go_simp; all_goals with_reducible rfl)
            try simp only [Act.put, List.setIfInBounds_toArray, List.set_cons_zero, List.set_cons_succ]
            refine wpAnyH_take (i := 7) (oi := { dst := some 46, op := Op.binOp BinOp.neq 3 (Operand.tmp 43) (Operand.tmp 45) 3, type := 4, pos := "outright.go:39", after := #[{ on := 4, ground := Ground.data }, { on := 6, ground := Ground.data }, { on := 2, ground := Ground.guard }], guard := some (2, false) }) (v := ?vv62) rfl (by kernel_rfl) (by kernel_rfl) (by kernel_rfl) (fun _ _ _ h => h) (Or.inl ⟨by rfl, ?hy62⟩) (by assumption) ?_
            case hy62 => (intro w hSw; (try dsimp only at hSw); go_simp; all_goals with_reducible rfl)
            try simp only [Act.put, List.setIfInBounds_toArray, List.set_cons_zero, List.set_cons_succ]
            refine wpAnyH_take (i := 8) (oi := { dst := some 47, op := Op.pick (Operand.tmp 41) (Operand.const (Value.bool true)) (Operand.tmp 46), type := 4, pos := "outright.go:39", after := #[{ on := 2, ground := Ground.data }, { on := 7, ground := Ground.data }], guard := none }) (v := ?vv63) rfl (by kernel_rfl) (by kernel_rfl) (by kernel_rfl) (fun _ _ _ h => h) (Or.inl ⟨by rfl, ?hy63⟩) (by assumption) ?_
            case hy63 => (intro w hSw; (try dsimp only at hSw); go_simp; all_goals with_reducible rfl)
            try simp only [Act.put, List.setIfInBounds_toArray, List.set_cons_zero, List.set_cons_succ]
            refine wpAnyH_take (i := 9) (oi := { dst := some 48, op := Op.move (Operand.tmp 47), type := 4, pos := "outright.go:39", after := #[{ on := 8, ground := Ground.data }, { on := 2, ground := Ground.chain }], guard := none }) (v := ?vv64) rfl (by kernel_rfl) (by kernel_rfl) (by kernel_rfl) (fun _ _ _ h => h) (Or.inl ⟨by rfl, ?hy64⟩) (by assumption) ?_
            case hy64 => (intro w hSw; (try dsimp only at hSw); go_simp; all_goals with_reducible rfl)
            try simp only [Act.put, List.setIfInBounds_toArray, List.set_cons_zero, List.set_cons_succ]
            refine wpAnyH_take (i := 10) (oi := { dst := some 49, op := Op.move (Operand.tmp 0), type := 24, pos := "outright.go:39", after := #[{ on := 9, ground := Ground.guard }], guard := some (9, false) }) (v := ?vv65) rfl (by kernel_rfl) (by kernel_rfl) (by kernel_rfl) (fun _ _ _ h => h) (Or.inl ⟨by rfl, ?hy65⟩) (by assumption) ?_
            case hy65 => (intro w hSw; (try dsimp only at hSw); go_simp; all_goals with_reducible rfl)
            try simp only [Act.put, List.setIfInBounds_toArray, List.set_cons_zero, List.set_cons_succ]
            refine wpAnyH_take (i := 11) (oi := { dst := some 50, op := Op.call { callee := Callee.builtin Builtin.len, args := #[Operand.tmp 49], argTypes := #[24] }, type := 3, pos := "outright.go:39", after := #[{ on := 10, ground := Ground.data }, { on := 9, ground := Ground.guard }], guard := some (9, false) }) (v := ?vv66) rfl (by kernel_rfl) (by kernel_rfl) (by kernel_rfl) (fun _ _ _ h => h) (Or.inl ⟨by rfl, ?hy66⟩) (by assumption) ?_
            case hy66 => (intro w hSw; (try dsimp only at hSw); go_simp; all_goals with_reducible rfl)
            try simp only [Act.put, List.setIfInBounds_toArray, List.set_cons_zero, List.set_cons_succ]
            refine wpAnyH_take (i := 12) (oi := { dst := some 51, op := Op.binOp BinOp.lss 3 (Operand.tmp 50) (Operand.const (Value.int IntKind.i64 4)) 3, type := 4, pos := "outright.go:39", after := #[{ on := 11, ground := Ground.data }, { on := 9, ground := Ground.guard }], guard := some (9, false) }) (v := ?vv67) rfl (by kernel_rfl) (by kernel_rfl) (by kernel_rfl) (fun _ _ _ h => h) (Or.inl ⟨by rfl, ?hy67⟩) (by assumption) ?_
            case hy67 => (intro w hSw; (try dsimp only at hSw); go_simp; all_goals with_reducible rfl)
            try simp only [Act.put, List.setIfInBounds_toArray, List.set_cons_zero, List.set_cons_succ]
            refine wpAnyH_take (i := 13) (oi := { dst := some 52, op := Op.pick (Operand.tmp 48) (Operand.const (Value.bool true)) (Operand.tmp 51), type := 4, pos := "outright.go:39", after := #[{ on := 9, ground := Ground.data }, { on := 12, ground := Ground.data }], guard := none }) (v := ?vv68) rfl (by kernel_rfl) (by kernel_rfl) (by kernel_rfl) (fun _ _ _ h => h) (Or.inl ⟨by rfl, ?hy68⟩) (by assumption) ?_
            case hy68 => (intro w hSw; (try dsimp only at hSw); go_simp; all_goals with_reducible rfl)
            try simp only [Act.put, List.setIfInBounds_toArray, List.set_cons_zero, List.set_cons_succ]
            refine wpAnyH_take (i := 14) (oi := { dst := some 53, op := Op.move (Operand.tmp 52), type := 4, pos := "outright.go:39", after := #[{ on := 13, ground := Ground.data }, { on := 9, ground := Ground.chain }], guard := none }) (v := ?vv69) rfl (by kernel_rfl) (by kernel_rfl) (by kernel_rfl) (fun _ _ _ h => h) (Or.inl ⟨by rfl, ?hy69⟩) (by assumption) ?_
            case hy69 => (intro w hSw; (try dsimp only at hSw); go_simp; all_goals with_reducible rfl)
            try simp only [Act.put, List.setIfInBounds_toArray, List.set_cons_zero, List.set_cons_succ]
            refine wpAnyH_take (i := 15) (oi := { dst := some 54, op := Op.move (Operand.tmp 9), type := 24, pos := "outright.go:39", after := #[{ on := 14, ground := Ground.guard }], guard := some (14, false) }) (v := ?vv70) rfl (by kernel_rfl) (by kernel_rfl) (by kernel_rfl) (fun _ _ _ h => h) (Or.inl ⟨by rfl, ?hy70⟩) (by assumption) ?_
            case hy70 => (intro w hSw; (try dsimp only at hSw); go_simp; all_goals with_reducible rfl)
            try simp only [Act.put, List.setIfInBounds_toArray, List.set_cons_zero, List.set_cons_succ]
            refine wpAnyH_take (i := 16) (oi := { dst := some 55, op := Op.indexAddr 24 (Operand.tmp 54) (Operand.const (Value.int IntKind.i64 0)), type := 0, pos := "outright.go:39", after := #[{ on := 15, ground := Ground.data }, { on := 14, ground := Ground.guard }], guard := some (14, false) }) (v := ?vv71) rfl (by kernel_rfl) (by kernel_rfl) (by kernel_rfl) (fun _ _ _ h => h) (Or.inl ⟨by rfl, ?hy71⟩) (by assumption) ?_
            case hy71 => (intro w hSw; (try dsimp only at hSw); go_simp; all_goals with_reducible rfl)
            try simp only [Act.put, List.setIfInBounds_toArray, List.set_cons_zero, List.set_cons_succ]
            refine wpAnyH_take (i := 17) (oi := { dst := some 56, op := Op.load 34 (Operand.tmp 55), type := 34, pos := "outright.go:39", after := #[{ on := 16, ground := Ground.data }, { on := 14, ground := Ground.guard }], guard := some (14, false) }) (v := ?vv72) rfl (by kernel_rfl) (by kernel_rfl) (by kernel_rfl) (fun _ _ _ h => h) (Or.inl ⟨by rfl, ?hy72⟩) (by assumption) ?_
            case hy72 => (intro w hSw; (try dsimp only at hSw); go_simp; all_goals with_reducible rfl)
            try simp only [Act.put, List.setIfInBounds_toArray, List.set_cons_zero, List.set_cons_succ]
            refine wpAnyH_take (i := 18) (oi := { dst := some 57, op := Op.fieldAddr 26 (Operand.tmp 7) 0, type := 0, pos := "outright.go:39", after := #[{ on := 14, ground := Ground.guard }], guard := some (14, false) }) (v := ?vv73) rfl (by kernel_rfl) (by kernel_rfl) (by kernel_rfl) (fun _ _ _ h => h) (Or.inl ⟨by rfl, ?hy73⟩) (by assumption) ?_
            case hy73 => (intro w hSw; (try dsimp only at hSw); go_simp; all_goals with_reducible rfl)
            try simp only [Act.put, List.setIfInBounds_toArray, List.set_cons_zero, List.set_cons_succ]
            refine wpAnyH_take (i := 19) (oi := { dst := some 58, op := Op.load 9 (Operand.tmp 57), type := 9, pos := "outright.go:39", after := #[{ on := 18, ground := Ground.data }, { on := 14, ground := Ground.guard }], guard := some (14, false) }) (v := ?vv74) rfl (by kernel_rfl) (by kernel_rfl) (by kernel_rfl) (fun _ _ _ h => h) (Or.inl ⟨by rfl, ?hy74⟩) (by assumption) ?_
            case hy74 => (intro w hSw; (try dsimp only at hSw); go_simp; all_goals with_reducible rfl)
            try simp only [Act.put, List.setIfInBounds_toArray, List.set_cons_zero, List.set_cons_succ]
            refine wpAnyH_take (i := 20) (oi := { dst := some 59, op := Op.build 34 #[(0, Operand.const (Value.string { data := #[58, 109, 101, 116, 104, 111, 100] })), (1, Operand.tmp 58)], type := 34, pos := "outright.go:39", after := #[{ on := 19, ground := Ground.data }, { on := 14, ground := Ground.guard }], guard := some (14, false) }) (v := ?vv75) rfl (by kernel_rfl) (by kernel_rfl) (by kernel_rfl) (fun _ _ _ h => h) (Or.inl ⟨by rfl, ?hy75⟩) (by assumption) ?_
            case hy75 => (intro w hSw; (try dsimp only at hSw); go_simp; all_goals with_reducible rfl)
            try simp only [Act.put, List.setIfInBounds_toArray, List.set_cons_zero, List.set_cons_succ]
            refine wpAnyH_take (i := 21) (oi := { dst := some 60, op := Op.binOp BinOp.neq 34 (Operand.tmp 56) (Operand.tmp 59) 34, type := 4, pos := "outright.go:39", after := #[{ on := 17, ground := Ground.data }, { on := 20, ground := Ground.data }, { on := 14, ground := Ground.guard }], guard := some (14, false) }) (v := ?vv76) rfl (by kernel_rfl) (by kernel_rfl) (by kernel_rfl) (fun _ _ _ h => h) (Or.inl ⟨by rfl, ?hy76⟩) (by assumption) ?_
            case hy76 => (intro w hSw; (try dsimp only at hSw); go_simp; all_goals with_reducible rfl)
            try simp only [Act.put, List.setIfInBounds_toArray, List.set_cons_zero, List.set_cons_succ]
            refine wpAnyH_take (i := 22) (oi := { dst := some 61, op := Op.pick (Operand.tmp 53) (Operand.const (Value.bool true)) (Operand.tmp 60), type := 4, pos := "outright.go:39", after := #[{ on := 14, ground := Ground.data }, { on := 21, ground := Ground.data }], guard := none }) (v := ?vv77) rfl (by kernel_rfl) (by kernel_rfl) (by kernel_rfl) (fun _ _ _ h => h) (Or.inl ⟨by rfl, ?hy77⟩) (by assumption) ?_
            case hy77 => (intro w hSw; (try dsimp only at hSw); go_simp; all_goals with_reducible rfl)
            try simp only [Act.put, List.setIfInBounds_toArray, List.set_cons_zero, List.set_cons_succ]
            refine wpAnyH_take (i := 23) (oi := { dst := some 62, op := Op.move (Operand.tmp 61), type := 4, pos := "outright.go:39", after := #[{ on := 22, ground := Ground.data }, { on := 14, ground := Ground.chain }], guard := none }) (v := ?vv78) rfl (by kernel_rfl) (by kernel_rfl) (by kernel_rfl) (fun _ _ _ h => h) (Or.inl ⟨by rfl, ?hy78⟩) (by assumption) ?_
            case hy78 => (intro w hSw; (try dsimp only at hSw); go_simp; all_goals with_reducible rfl)
            try simp only [Act.put, List.setIfInBounds_toArray, List.set_cons_zero, List.set_cons_succ]
            refine wpAnyH_take (i := 24) (oi := { dst := some 63, op := Op.move (Operand.tmp 9), type := 24, pos := "outright.go:39", after := #[{ on := 23, ground := Ground.guard }], guard := some (23, false) }) (v := ?vv79) rfl (by kernel_rfl) (by kernel_rfl) (by kernel_rfl) (fun _ _ _ h => h) (Or.inl ⟨by rfl, ?hy79⟩) (by assumption) ?_
            case hy79 => (intro w hSw; (try dsimp only at hSw); go_simp; all_goals with_reducible rfl)
            try simp only [Act.put, List.setIfInBounds_toArray, List.set_cons_zero, List.set_cons_succ]
            refine wpAnyH_take (i := 25) (oi := { dst := some 64, op := Op.indexAddr 24 (Operand.tmp 63) (Operand.const (Value.int IntKind.i64 1)), type := 0, pos := "outright.go:39", after := #[{ on := 24, ground := Ground.data }, { on := 23, ground := Ground.guard }], guard := some (23, false) }) (v := ?vv80) rfl (by kernel_rfl) (by kernel_rfl) (by kernel_rfl) (fun _ _ _ h => h) (Or.inl ⟨by rfl, ?hy80⟩) (by assumption) ?_
            case hy80 => (intro w hSw; (try dsimp only at hSw); go_simp; all_goals with_reducible rfl)
            try simp only [Act.put, List.setIfInBounds_toArray, List.set_cons_zero, List.set_cons_succ]
            refine wpAnyH_take (i := 26) (oi := { dst := some 65, op := Op.load 34 (Operand.tmp 64), type := 34, pos := "outright.go:39", after := #[{ on := 25, ground := Ground.data }, { on := 23, ground := Ground.guard }], guard := some (23, false) }) (v := ?vv81) rfl (by kernel_rfl) (by kernel_rfl) (by kernel_rfl) (fun _ _ _ h => h) (Or.inl ⟨by rfl, ?hy81⟩) (by assumption) ?_
            case hy81 => (intro w hSw; (try dsimp only at hSw); go_simp; all_goals with_reducible rfl)
            try simp only [Act.put, List.setIfInBounds_toArray, List.set_cons_zero, List.set_cons_succ]
            refine wpAnyH_take (i := 27) (oi := { dst := some 66, op := Op.fieldAddr 26 (Operand.tmp 7) 1, type := 0, pos := "outright.go:39", after := #[{ on := 23, ground := Ground.guard }], guard := some (23, false) }) (v := ?vv82) rfl (by kernel_rfl) (by kernel_rfl) (by kernel_rfl) (fun _ _ _ h => h) (Or.inl ⟨by rfl, ?hy82⟩) (by assumption) ?_
            case hy82 => (intro w hSw; (try dsimp only at hSw); go_simp; all_goals with_reducible rfl)
            try simp only [Act.put, List.setIfInBounds_toArray, List.set_cons_zero, List.set_cons_succ]
            refine wpAnyH_take (i := 28) (oi := { dst := some 67, op := Op.load 9 (Operand.tmp 66), type := 9, pos := "outright.go:39", after := #[{ on := 27, ground := Ground.data }, { on := 23, ground := Ground.guard }], guard := some (23, false) }) (v := ?vv83) rfl (by kernel_rfl) (by kernel_rfl) (by kernel_rfl) (fun _ _ _ h => h) (Or.inl ⟨by rfl, ?hy83⟩) (by assumption) ?_
            case hy83 => (intro w hSw; (try dsimp only at hSw); go_simp; all_goals with_reducible rfl)
            try simp only [Act.put, List.setIfInBounds_toArray, List.set_cons_zero, List.set_cons_succ]
            refine wpAnyH_take (i := 29) (oi := { dst := some 68, op := Op.build 34 #[(0, Operand.const (Value.string { data := #[58, 115, 99, 104, 101, 109, 101] })), (1, Operand.tmp 67)], type := 34, pos := "outright.go:39", after := #[{ on := 28, ground := Ground.data }, { on := 23, ground := Ground.guard }], guard := some (23, false) }) (v := ?vv84) rfl (by kernel_rfl) (by kernel_rfl) (by kernel_rfl) (fun _ _ _ h => h) (Or.inl ⟨by rfl, ?hy84⟩) (by assumption) ?_
            case hy84 => (intro w hSw; (try dsimp only at hSw); go_simp; all_goals with_reducible rfl)
            try simp only [Act.put, List.setIfInBounds_toArray, List.set_cons_zero, List.set_cons_succ]
            refine wpAnyH_take (i := 30) (oi := { dst := some 69, op := Op.binOp BinOp.neq 34 (Operand.tmp 65) (Operand.tmp 68) 34, type := 4, pos := "outright.go:39", after := #[{ on := 26, ground := Ground.data }, { on := 29, ground := Ground.data }, { on := 23, ground := Ground.guard }], guard := some (23, false) }) (v := ?vv85) rfl (by kernel_rfl) (by kernel_rfl) (by kernel_rfl) (fun _ _ _ h => h) (Or.inl ⟨by rfl, ?hy85⟩) (by assumption) ?_
            case hy85 => (intro w hSw; (try dsimp only at hSw); go_simp; all_goals with_reducible rfl)
            try simp only [Act.put, List.setIfInBounds_toArray, List.set_cons_zero, List.set_cons_succ]
            refine wpAnyH_take (i := 31) (oi := { dst := some 70, op := Op.pick (Operand.tmp 62) (Operand.const (Value.bool true)) (Operand.tmp 69), type := 4, pos := "outright.go:39", after := #[{ on := 23, ground := Ground.data }, { on := 30, ground := Ground.data }], guard := none }) (v := ?vv86) rfl (by kernel_rfl) (by kernel_rfl) (by kernel_rfl) (fun _ _ _ h => h) (Or.inl ⟨by rfl, ?hy86⟩) (by assumption) ?_
            case hy86 => (intro w hSw; (try dsimp only at hSw); go_simp; all_goals with_reducible rfl)
            try simp only [Act.put, List.setIfInBounds_toArray, List.set_cons_zero, List.set_cons_succ]
            refine wpAnyH_take (i := 32) (oi := { dst := some 71, op := Op.move (Operand.tmp 70), type := 4, pos := "outright.go:39", after := #[{ on := 31, ground := Ground.data }, { on := 23, ground := Ground.chain }], guard := none }) (v := ?vv87) rfl (by kernel_rfl) (by kernel_rfl) (by kernel_rfl) (fun _ _ _ h => h) (Or.inl ⟨by rfl, ?hy87⟩) (by assumption) ?_
            case hy87 => (intro w hSw; (try dsimp only at hSw); go_simp; all_goals with_reducible rfl)
            try simp only [Act.put, List.setIfInBounds_toArray, List.set_cons_zero, List.set_cons_succ]
            refine wpAnyH_take (i := 33) (oi := { dst := some 72, op := Op.move (Operand.tmp 9), type := 24, pos := "outright.go:39", after := #[{ on := 32, ground := Ground.guard }], guard := some (32, false) }) (v := ?vv88) rfl (by kernel_rfl) (by kernel_rfl) (by kernel_rfl) (fun _ _ _ h => h) (Or.inl ⟨by rfl, ?hy88⟩) (by assumption) ?_
            case hy88 => (intro w hSw; (try dsimp only at hSw); go_simp; all_goals with_reducible rfl)
            try simp only [Act.put, List.setIfInBounds_toArray, List.set_cons_zero, List.set_cons_succ]
            refine wpAnyH_take (i := 34) (oi := { dst := some 73, op := Op.indexAddr 24 (Operand.tmp 72) (Operand.const (Value.int IntKind.i64 2)), type := 0, pos := "outright.go:39", after := #[{ on := 33, ground := Ground.data }, { on := 32, ground := Ground.guard }], guard := some (32, false) }) (v := ?vv89) rfl (by kernel_rfl) (by kernel_rfl) (by kernel_rfl) (fun _ _ _ h => h) (Or.inl ⟨by rfl, ?hy89⟩) (by assumption) ?_
            case hy89 => (intro w hSw; (try dsimp only at hSw); go_simp; all_goals with_reducible rfl)
            try simp only [Act.put, List.setIfInBounds_toArray, List.set_cons_zero, List.set_cons_succ]
            refine wpAnyH_take (i := 35) (oi := { dst := some 74, op := Op.load 34 (Operand.tmp 73), type := 34, pos := "outright.go:39", after := #[{ on := 34, ground := Ground.data }, { on := 32, ground := Ground.guard }], guard := some (32, false) }) (v := ?vv90) rfl (by kernel_rfl) (by kernel_rfl) (by kernel_rfl) (fun _ _ _ h => h) (Or.inl ⟨by rfl, ?hy90⟩) (by assumption) ?_
            case hy90 => (intro w hSw; (try dsimp only at hSw); go_simp; all_goals with_reducible rfl)
            try simp only [Act.put, List.setIfInBounds_toArray, List.set_cons_zero, List.set_cons_succ]
            refine wpAnyH_take (i := 36) (oi := { dst := some 75, op := Op.fieldAddr 26 (Operand.tmp 7) 2, type := 0, pos := "outright.go:39", after := #[{ on := 32, ground := Ground.guard }], guard := some (32, false) }) (v := ?vv91) rfl (by kernel_rfl) (by kernel_rfl) (by kernel_rfl) (fun _ _ _ h => h) (Or.inl ⟨by rfl, ?hy91⟩) (by assumption) ?_
            case hy91 => (intro w hSw; (try dsimp only at hSw); go_simp; all_goals with_reducible rfl)
            try simp only [Act.put, List.setIfInBounds_toArray, List.set_cons_zero, List.set_cons_succ]
            refine wpAnyH_take (i := 37) (oi := { dst := some 76, op := Op.load 9 (Operand.tmp 75), type := 9, pos := "outright.go:39", after := #[{ on := 36, ground := Ground.data }, { on := 32, ground := Ground.guard }], guard := some (32, false) }) (v := ?vv92) rfl (by kernel_rfl) (by kernel_rfl) (by kernel_rfl) (fun _ _ _ h => h) (Or.inl ⟨by rfl, ?hy92⟩) (by assumption) ?_
            case hy92 => (intro w hSw; (try dsimp only at hSw); go_simp; all_goals with_reducible rfl)
            try simp only [Act.put, List.setIfInBounds_toArray, List.set_cons_zero, List.set_cons_succ]
            refine wpAnyH_take (i := 38) (oi := { dst := some 77, op := Op.build 34 #[(0, Operand.const (Value.string { data := #[58, 97, 117, 116, 104, 111, 114, 105, 116, 121] })), (1, Operand.tmp 76)], type := 34, pos := "outright.go:39", after := #[{ on := 37, ground := Ground.data }, { on := 32, ground := Ground.guard }], guard := some (32, false) }) (v := ?vv93) rfl (by kernel_rfl) (by kernel_rfl) (by kernel_rfl) (fun _ _ _ h => h) (Or.inl ⟨by rfl, ?hy93⟩) (by assumption) ?_
            case hy93 => (intro w hSw; (try dsimp only at hSw); go_simp; all_goals with_reducible rfl)
            try simp only [Act.put, List.setIfInBounds_toArray, List.set_cons_zero, List.set_cons_succ]
            refine wpAnyH_take (i := 39) (oi := { dst := some 78, op := Op.binOp BinOp.neq 34 (Operand.tmp 74) (Operand.tmp 77) 34, type := 4, pos := "outright.go:39", after := #[{ on := 35, ground := Ground.data }, { on := 38, ground := Ground.data }, { on := 32, ground := Ground.guard }], guard := some (32, false) }) (v := ?vv94) rfl (by kernel_rfl) (by kernel_rfl) (by kernel_rfl) (fun _ _ _ h => h) (Or.inl ⟨by rfl, ?hy94⟩) (by assumption) ?_
            case hy94 => (intro w hSw; (try dsimp only at hSw); go_simp; all_goals with_reducible rfl)
            try simp only [Act.put, List.setIfInBounds_toArray, List.set_cons_zero, List.set_cons_succ]
            refine wpAnyH_take (i := 40) (oi := { dst := some 79, op := Op.pick (Operand.tmp 71) (Operand.const (Value.bool true)) (Operand.tmp 78), type := 4, pos := "outright.go:39", after := #[{ on := 32, ground := Ground.data }, { on := 39, ground := Ground.data }], guard := none }) (v := ?vv95) rfl (by kernel_rfl) (by kernel_rfl) (by kernel_rfl) (fun _ _ _ h => h) (Or.inl ⟨by rfl, ?hy95⟩) (by assumption) ?_
            case hy95 => (intro w hSw; (try dsimp only at hSw); go_simp; all_goals with_reducible rfl)
            try simp only [Act.put, List.setIfInBounds_toArray, List.set_cons_zero, List.set_cons_succ]
            refine wpAnyH_take (i := 41) (oi := { dst := some 80, op := Op.move (Operand.tmp 79), type := 4, pos := "outright.go:39", after := #[{ on := 40, ground := Ground.data }, { on := 32, ground := Ground.chain }], guard := none }) (v := ?vv96) rfl (by kernel_rfl) (by kernel_rfl) (by kernel_rfl) (fun _ _ _ h => h) (Or.inl ⟨by rfl, ?hy96⟩) (by assumption) ?_
            case hy96 => (intro w hSw; (try dsimp only at hSw); go_simp; all_goals with_reducible rfl)
            try simp only [Act.put, List.setIfInBounds_toArray, List.set_cons_zero, List.set_cons_succ]
            refine wpAnyH_take (i := 42) (oi := { dst := some 81, op := Op.move (Operand.tmp 9), type := 24, pos := "outright.go:39", after := #[{ on := 41, ground := Ground.guard }], guard := some (41, false) }) (v := ?vv97) rfl (by kernel_rfl) (by kernel_rfl) (by kernel_rfl) (fun _ _ _ h => h) (Or.inl ⟨by rfl, ?hy97⟩) (by assumption) ?_
            case hy97 => (intro w hSw; (try dsimp only at hSw); go_simp; all_goals with_reducible rfl)
            try simp only [Act.put, List.setIfInBounds_toArray, List.set_cons_zero, List.set_cons_succ]
            refine wpAnyH_take (i := 43) (oi := { dst := some 82, op := Op.indexAddr 24 (Operand.tmp 81) (Operand.const (Value.int IntKind.i64 3)), type := 0, pos := "outright.go:39", after := #[{ on := 42, ground := Ground.data }, { on := 41, ground := Ground.guard }], guard := some (41, false) }) (v := ?vv98) rfl (by kernel_rfl) (by kernel_rfl) (by kernel_rfl) (fun _ _ _ h => h) (Or.inl ⟨by rfl, ?hy98⟩) (by assumption) ?_
            case hy98 => (intro w hSw; (try dsimp only at hSw); go_simp; all_goals with_reducible rfl)
            try simp only [Act.put, List.setIfInBounds_toArray, List.set_cons_zero, List.set_cons_succ]
            refine wpAnyH_take (i := 44) (oi := { dst := some 83, op := Op.load 34 (Operand.tmp 82), type := 34, pos := "outright.go:39", after := #[{ on := 43, ground := Ground.data }, { on := 41, ground := Ground.guard }], guard := some (41, false) }) (v := ?vv99) rfl (by kernel_rfl) (by kernel_rfl) (by kernel_rfl) (fun _ _ _ h => h) (Or.inl ⟨by rfl, ?hy99⟩) (by assumption) ?_
            case hy99 => (intro w hSw; (try dsimp only at hSw); go_simp; all_goals with_reducible rfl)
            try simp only [Act.put, List.setIfInBounds_toArray, List.set_cons_zero, List.set_cons_succ]
            refine wpAnyH_take (i := 45) (oi := { dst := some 84, op := Op.fieldAddr 26 (Operand.tmp 7) 3, type := 0, pos := "outright.go:39", after := #[{ on := 41, ground := Ground.guard }], guard := some (41, false) }) (v := ?vv100) rfl (by kernel_rfl) (by kernel_rfl) (by kernel_rfl) (fun _ _ _ h => h) (Or.inl ⟨by rfl, ?hy100⟩) (by assumption) ?_
            case hy100 => (intro w hSw; (try dsimp only at hSw); go_simp; all_goals with_reducible rfl)
            try simp only [Act.put, List.setIfInBounds_toArray, List.set_cons_zero, List.set_cons_succ]
            refine wpAnyH_take (i := 46) (oi := { dst := some 85, op := Op.load 9 (Operand.tmp 84), type := 9, pos := "outright.go:39", after := #[{ on := 45, ground := Ground.data }, { on := 41, ground := Ground.guard }], guard := some (41, false) }) (v := ?vv101) rfl (by kernel_rfl) (by kernel_rfl) (by kernel_rfl) (fun _ _ _ h => h) (Or.inl ⟨by rfl, ?hy101⟩) (by assumption) ?_
            case hy101 => (intro w hSw; (try dsimp only at hSw); go_simp; all_goals with_reducible rfl)
            try simp only [Act.put, List.setIfInBounds_toArray, List.set_cons_zero, List.set_cons_succ]
            refine wpAnyH_take (i := 47) (oi := { dst := some 86, op := Op.build 34 #[(0, Operand.const (Value.string { data := #[58, 112, 97, 116, 104] })), (1, Operand.tmp 85)], type := 34, pos := "outright.go:39", after := #[{ on := 46, ground := Ground.data }, { on := 41, ground := Ground.guard }], guard := some (41, false) }) (v := ?vv102) rfl (by kernel_rfl) (by kernel_rfl) (by kernel_rfl) (fun _ _ _ h => h) (Or.inl ⟨by rfl, ?hy102⟩) (by assumption) ?_
            case hy102 => (intro w hSw; (try dsimp only at hSw); go_simp; all_goals with_reducible rfl)
            try simp only [Act.put, List.setIfInBounds_toArray, List.set_cons_zero, List.set_cons_succ]
            refine wpAnyH_take (i := 48) (oi := { dst := some 87, op := Op.binOp BinOp.neq 34 (Operand.tmp 83) (Operand.tmp 86) 34, type := 4, pos := "outright.go:39", after := #[{ on := 44, ground := Ground.data }, { on := 47, ground := Ground.data }, { on := 41, ground := Ground.guard }], guard := some (41, false) }) (v := ?vv103) rfl (by kernel_rfl) (by kernel_rfl) (by kernel_rfl) (fun _ _ _ h => h) (Or.inl ⟨by rfl, ?hy103⟩) (by assumption) ?_
            case hy103 => (intro w hSw; (try dsimp only at hSw); go_simp; all_goals with_reducible rfl)
            try simp only [Act.put, List.setIfInBounds_toArray, List.set_cons_zero, List.set_cons_succ]
            refine wpAnyH_take (i := 49) (oi := { dst := some 88, op := Op.pick (Operand.tmp 80) (Operand.const (Value.bool true)) (Operand.tmp 87), type := 4, pos := "outright.go:39", after := #[{ on := 41, ground := Ground.data }, { on := 48, ground := Ground.data }], guard := none }) (v := ?vv104) rfl (by kernel_rfl) (by kernel_rfl) (by kernel_rfl) (fun _ _ _ h => h) (Or.inl ⟨by rfl, ?hy104⟩) (by assumption) ?_
            case hy104 => (intro w hSw; (try dsimp only at hSw); go_simp; all_goals with_reducible rfl)
            try simp only [Act.put, List.setIfInBounds_toArray, List.set_cons_zero, List.set_cons_succ]
            refine wpAnyH_take (i := 50) (oi := { dst := some 89, op := Op.move (Operand.tmp 88), type := 4, pos := "outright.go:39", after := #[{ on := 49, ground := Ground.data }, { on := 41, ground := Ground.chain }], guard := none }) (v := ?vv105) rfl (by kernel_rfl) (by kernel_rfl) (by kernel_rfl) (fun _ _ _ h => h) (Or.inl ⟨by rfl, ?hy105⟩) (by assumption) ?_
            case hy105 => (intro w hSw; (try dsimp only at hSw); go_simp; all_goals with_reducible rfl)
            try simp only [Act.put, List.setIfInBounds_toArray, List.set_cons_zero, List.set_cons_succ]
            refine wpAnyH_take (i := 51) (oi := { dst := some 90, op := Op.move (Operand.tmp 9), type := 24, pos := "outright.go:39", after := #[{ on := 50, ground := Ground.guard }], guard := some (50, false) }) (v := ?vv106) rfl (by kernel_rfl) (by kernel_rfl) (by kernel_rfl) (fun _ _ _ h => h) (Or.inl ⟨by rfl, ?hy106⟩) (by assumption) ?_
            case hy106 => (intro w hSw; (try dsimp only at hSw); go_simp; all_goals with_reducible rfl)
            try simp only [Act.put, List.setIfInBounds_toArray, List.set_cons_zero, List.set_cons_succ]
            refine wpAnyH_take (i := 52) (oi := { dst := some 91, op := Op.slice 24 (Operand.tmp 90) (some (Operand.const (Value.int IntKind.i64 4))) none none, type := 24, pos := "outright.go:39", after := #[{ on := 51, ground := Ground.data }, { on := 50, ground := Ground.guard }], guard := some (50, false) }) (v := ?vv107) rfl (by kernel_rfl) (by kernel_rfl) (by kernel_rfl) (fun _ _ _ h => h) (Or.inl ⟨by rfl, ?hy107⟩) (by assumption) ?_
            case hy107 => (intro w hSw; (try dsimp only at hSw); go_simp; all_goals with_reducible rfl)
            try simp only [Act.put, List.setIfInBounds_toArray, List.set_cons_zero, List.set_cons_succ]
            refine wpAnyH_take (i := 53) (oi := { dst := some 92, op := Op.move (Operand.tmp 0), type := 24, pos := "outright.go:39", after := #[{ on := 50, ground := Ground.guard }], guard := some (50, false) }) (v := ?vv108) rfl (by kernel_rfl) (by kernel_rfl) (by kernel_rfl) (fun _ _ _ h => h) (Or.inl ⟨by rfl, ?hy108⟩) (by assumption) ?_
            case hy108 => (intro w hSw; (try dsimp only at hSw); go_simp; all_goals with_reducible rfl)
            try simp only [Act.put, List.setIfInBounds_toArray, List.set_cons_zero, List.set_cons_succ]
            refine wpAnyH_take (i := 54) (oi := { dst := some 93, op := Op.slice 24 (Operand.tmp 92) (some (Operand.const (Value.int IntKind.i64 4))) none none, type := 24, pos := "outright.go:39", after := #[{ on := 53, ground := Ground.data }, { on := 50, ground := Ground.guard }], guard := some (50, false) }) (v := ?vv109) rfl (by kernel_rfl) (by kernel_rfl) (by kernel_rfl) (fun _ _ _ h => h) (Or.inl ⟨by rfl, ?hy109⟩) (by assumption) ?_
            case hy109 => (intro w hSw; (try dsimp only at hSw); go_simp; all_goals with_reducible rfl)
            try simp only [Act.put, List.setIfInBounds_toArray, List.set_cons_zero, List.set_cons_succ]
            refine wpAnyH_ready (rs := [55]) (by kernel_rfl) (by simp) ?_
            refine AllReadyH.cons (o := { dst := some 94, op := Op.call { callee := Callee.value (Operand.func 17), args := #[Operand.tmp 91, Operand.tmp 93], argTypes := #[24, 24] }, type := 4, pos := "outright.go:39", after := #[{ on := 52, ground := Ground.data }, { on := 54, ground := Ground.data }, { on := 50, ground := Ground.chain }, { on := 50, ground := Ground.guard }], guard := some (50, false) }) rfl (fun K hK => ?_) AllReadyH.nil
            go_simp
            refine (h17.out W hIW).mono ?_
            rintro e' Wx ⟨rfl, hIX⟩
            generalize (if uc = 4 then some (⟨gu, ou, none⟩ : Addr) else some ⟨gu, ou + 12, none⟩) = U1
            generalize (if tc = 4 then some (⟨gt, ot, none⟩ : Addr) else some ⟨gt, ot + 12, none⟩) = U2
            go_wp2_with fail
            refine hK.out _ _ (hcel.out _ hIX) (fun hHeld => ?_)
            clear hK K hIW
            rename World => Wzz
            try simp only [Act.put, List.setIfInBounds_toArray, List.set_cons_zero, List.set_cons_succ]
            refine wpAnyH_take (i := 56) (oi := { dst := some 95, op := Op.unOp UnOp.not 4 (Operand.tmp 94), type := 4, pos := "outright.go:39", after := #[{ on := 55, ground := Ground.data }, { on := 50, ground := Ground.guard }], guard := some (50, false) }) (v := ?vv110) rfl (by kernel_rfl) (by kernel_rfl) (by kernel_rfl) (fun _ _ _ h => h) (Or.inl ⟨by rfl, ?hy110⟩) (by assumption) ?_
            case hy110 => (intro w hSw; (try dsimp only at hSw); go_simp; all_goals with_reducible rfl)
            try simp only [Act.put, List.setIfInBounds_toArray, List.set_cons_zero, List.set_cons_succ]
            refine wpAnyH_take (i := 57) (oi := { dst := some 96, op := Op.pick (Operand.tmp 89) (Operand.const (Value.bool true)) (Operand.tmp 95), type := 4, pos := "outright.go:39", after := #[{ on := 50, ground := Ground.data }, { on := 56, ground := Ground.data }], guard := none }) (v := ?vv111) rfl (by kernel_rfl) (by kernel_rfl) (by kernel_rfl) (fun _ _ _ h => h) (Or.inl ⟨by rfl, ?hy111⟩) (by assumption) ?_
            case hy111 => (intro w hSw; (try dsimp only at hSw); go_simp; all_goals with_reducible rfl)
            try simp only [Act.put, List.setIfInBounds_toArray, List.set_cons_zero, List.set_cons_succ]
            refine wpAnyH_take (i := 58) (oi := { dst := some 97, op := Op.move (Operand.tmp 96), type := 4, pos := "outright.go:39", after := #[{ on := 57, ground := Ground.data }, { on := 55, ground := Ground.chain }], guard := none }) (v := ?vv112) rfl (by kernel_rfl) (by kernel_rfl) (by kernel_rfl) (fun _ _ _ h => h) (Or.inl ⟨by rfl, ?hy112⟩) (by assumption) ?_
            case hy112 => (intro w hSw; (try dsimp only at hSw); go_simp; all_goals with_reducible rfl)
            try simp only [Act.put, List.setIfInBounds_toArray, List.set_cons_zero, List.set_cons_succ]
            refine wpAnyH_take (i := 59) (oi := { dst := some 98, op := Op.fieldAddr 26 (Operand.tmp 7) 5, type := 0, pos := "outright.go:39", after := #[{ on := 58, ground := Ground.guard }], guard := some (58, false) }) (v := ?vv113) rfl (by kernel_rfl) (by kernel_rfl) (by kernel_rfl) (fun _ _ _ h => h) (Or.inl ⟨by rfl, ?hy113⟩) (by assumption) ?_
            case hy113 => (intro w hSw; (try dsimp only at hSw); go_simp; all_goals with_reducible rfl)
            try simp only [Act.put, List.setIfInBounds_toArray, List.set_cons_zero, List.set_cons_succ]
            refine wpAnyH_take (i := 60) (oi := { dst := some 99, op := Op.load 9 (Operand.tmp 98), type := 9, pos := "outright.go:39", after := #[{ on := 59, ground := Ground.data }, { on := 58, ground := Ground.guard }], guard := some (58, false) }) (v := ?vv114) rfl (by kernel_rfl) (by kernel_rfl) (by kernel_rfl) (fun _ _ _ h => h) (Or.inl ⟨by rfl, ?hy114⟩) (by assumption) ?_
            case hy114 => (intro w hSw; (try dsimp only at hSw); go_simp; all_goals with_reducible rfl)
            try simp only [Act.put, List.setIfInBounds_toArray, List.set_cons_zero, List.set_cons_succ]
            refine wpAnyH_take (i := 61) (oi := { dst := some 100, op := Op.binOp BinOp.neq 9 (Operand.tmp 99) (Operand.const (Value.string { data := #[] })) 9, type := 4, pos := "outright.go:39", after := #[{ on := 60, ground := Ground.data }, { on := 58, ground := Ground.guard }], guard := some (58, false) }) (v := ?vv115) rfl (by kernel_rfl) (by kernel_rfl) (by kernel_rfl) (fun _ _ _ h => h) (Or.inl ⟨by rfl, ?hy115⟩) (by assumption) ?_
            case hy115 => (intro w hSw; (try dsimp only at hSw); go_simp; all_goals with_reducible rfl)
            try simp only [Act.put, List.setIfInBounds_toArray, List.set_cons_zero, List.set_cons_succ]
            refine wpAnyH_take (i := 62) (oi := { dst := some 101, op := Op.pick (Operand.tmp 97) (Operand.const (Value.bool true)) (Operand.tmp 100), type := 4, pos := "outright.go:39", after := #[{ on := 58, ground := Ground.data }, { on := 61, ground := Ground.data }], guard := none }) (v := ?vv116) rfl (by kernel_rfl) (by kernel_rfl) (by kernel_rfl) (fun _ _ _ h => h) (Or.inl ⟨by rfl, ?hy116⟩) (by assumption) ?_
            case hy116 => (intro w hSw; (try dsimp only at hSw); go_simp; all_goals with_reducible rfl)
            try simp only [Act.put, List.setIfInBounds_toArray, List.set_cons_zero, List.set_cons_succ]
            refine wpAnyH_done (by kernel_rfl) ?_ _
            go_wp2_with fail
            go_meet
            exact ⟨by first | rfl | simp, hIX⟩
        case rest =>
          obtain ⟨hx, D5⟩ := hcut
          subst hx
          have D5' : Hid (Below w4.heap.size w4 wc) := D5
          clear D5
          have R5 : Hid (In EFd wc (.slice (some ⟨gu, ou, none⟩) ul uc) (wqL m s a p (l.drop 4))) := R4.out.below D5'.out
          have I5 : Hid (In EFd wc (.slice zb zl zc) (l.drop 4)) := I4.out.below D5'.out
          have A5 : Hid (Below wA.heap.size wA wc) := D4.out.trans (D5'.out.mono D4.out.size)
          have BLK5 : Hid (wc.heap[w3.heap.size]? = some (.cells #[.string m, .string s, .string a, .string p, .slice zb zl zc, .string ⟨#[]⟩] 26)) := (D5'.out.block _ (heap_lt BLK.out)).trans BLK.out
          clear hcel hu htt R4 I4 BLK D4 D5' a4 a4n a5 a6 a7 a8 a9 i1 i2 i3 i4 j1 j2 j3 j4
          go_wp2_with fail
          go_at_call 14
          refine (h14'.out (some ⟨gu, ou, none⟩, ul, uc) _ R5.out).mono ?_
          rintro e w6 ⟨m6, s6, a6, p6, ⟨vb, vl, vc⟩, rfl, b6, g6, g6b⟩
          clear g6b
          obtain ⟨hv6, _, r6, _⟩ := g6 HB.out
          rw [vals_wq] at hv6
          simp only [Option.some.injEq, List.cons.injEq, and_true] at hv6
          obtain ⟨rfl, rfl, rfl, rfl⟩ := hv6
          rw [HB.out]
          have k6 : Hid (Below w6.heap.size w6 (w6.alloc (.cells #[.string m, .string s, .string a, .string p, .slice vb vl vc, .string ⟨#[]⟩] 26))) := bel1 w6 _
          have k6' : Hid ((w6.alloc (.cells #[.string m, .string s, .string a, .string p, .slice vb vl vc, .string ⟨#[]⟩] 26)).heap[w6.heap.size]? = some (.cells #[.string m, .string s, .string a, .string p, .slice vb vl vc, .string ⟨#[]⟩] 26)) := by show _ = _; rw [heap_al, if_pos rfl]
          have J6 : Hid (In EFd w6 (.slice vb vl vc) (l.drop 4)) := r6.isIn
          have I6 : Hid (In EFd w6 (.slice zb zl zc) (l.drop 4)) := I5.out.below b6
          have A6 : Hid (Below wA.heap.size wA (w6.alloc (.cells #[.string m, .string s, .string a, .string p, .slice vb vl vc, .string ⟨#[]⟩] 26))) := by
            have h := A5.out.trans (b6.mono A5.out.size)
            exact h.trans (k6.out.mono h.size)
          have BLK6 : Hid (w6.heap[w3.heap.size]? = some (.cells #[.string m, .string s, .string a, .string p, .slice zb zl zc, .string ⟨#[]⟩] 26)) := (b6.block _ (heap_lt BLK5.out)).trans BLK5.out
          clear b6 g6 r6 R5 I5 A5 BLK5 h14'
          simp only [sv, rqv]
          go_wp2_with fail
          go_at_call 15
          refine (h15.out _ A6.out).mono ?_
          rintro e w7 ⟨⟨cb7, cl7, cc7⟩, rfl, b7, r7, o7⟩
          clear o7
          have A7 : Hid (Below wA.heap.size wA w7) := A6.out.trans (b7.mono A6.out.size)
          have b67 : Hid (Below w6.heap.size w6 w7) := k6.out.trans (b7.mono k6.out.size)
          have P7 : Hid (w7.heap[w6.heap.size]? = some (.cells #[.string m, .string s, .string a, .string p, .slice vb vl vc, .string ⟨#[]⟩] 26)) := (b7.block _ (heap_lt k6'.out)).trans k6'.out
          replace r7 : Hid (In EFd w7 (.slice cb7 cl7 cc7) l) := R.isIn r7
          clear b7 k6 k6' A6
          simp only [sv]
          go_wp2_with fail
          go_at_call 18
          refine (h18.out (cb7, cl7, cc7) _ r7.out).mono ?_
          rintro e w8 ⟨n8, ⟨db, dl, dc⟩, rfl, b8, q8a, q8b⟩
          clear q8a q8b
          rw [hrs]
          have A8 : Hid (Below wA.heap.size wA w8) := A7.out.trans (b8.mono A7.out.size)
          have b68 : Below w6.heap.size w6 w8 := b67.out.trans (b8.mono b67.out.size)
          have P8 : w8.heap[w6.heap.size]? = some (.cells #[.string m, .string s, .string a, .string p, .slice vb vl vc, .string ⟨#[]⟩] 26) := (b8.block _ (heap_lt P7.out)).trans P7.out
          have Q8 : w8.heap[w3.heap.size]? = some (.cells #[.string m, .string s, .string a, .string p, .slice zb zl zc, .string ⟨#[]⟩] 26) := (b68.block _ (heap_lt BLK6.out)).trans BLK6.out
          have h19 : Hid (∀ W, Below w8.heap.size w8 W → Calls Tryd.prog 19 #[.agg #[.string m, .string s, .string a, .string p, .slice vb vl vc, .string ⟨#[]⟩], .agg #[.string m, .string s, .string a, .string p, .slice zb zl zc, .string ⟨#[]⟩]] W fun e w' => e = .returned (.bool true) ∧ Hid (Below w8.heap.size w8 w')) := fun W hb => by
            refine (sameRq m s a p ⟨#[]⟩ (vb, vl, vc) (zb, zl, zc) (l.drop 4) W ((J6.out.below b68).below hb) ((I6.out.below b68).below hb)).mono ?_
            rintro e w' ⟨rfl, h⟩
            exact ⟨rfl, hb.trans (h.mono hb.size)⟩
          have hl6 := heap_lt P8
          have hl3 := heap_lt Q8
          obtain ⟨x0, x1, x2, x3, x4, x5⟩ : w8.cell? ⟨w3.heap.size, 0, none⟩ = some (.string m) ∧ w8.cell? ⟨w3.heap.size, 1, none⟩ = some (.string s) ∧ w8.cell? ⟨w3.heap.size, 2, none⟩ = some (.string a) ∧ w8.cell? ⟨w3.heap.size, 3, none⟩ = some (.string p) ∧ w8.cell? ⟨w3.heap.size, 4, none⟩ = some (.slice zb zl zc) ∧ w8.cell? ⟨w3.heap.size, 5, none⟩ = some (.string ⟨#[]⟩) := ⟨cell_blk Q8 0, cell_blk Q8 1, cell_blk Q8 2, cell_blk Q8 3, cell_blk Q8 4, cell_blk Q8 5⟩
          obtain ⟨y0, y1, y2, y3, y4, y5⟩ : w8.cell? ⟨w6.heap.size, 0, none⟩ = some (.string m) ∧ w8.cell? ⟨w6.heap.size, 1, none⟩ = some (.string s) ∧ w8.cell? ⟨w6.heap.size, 2, none⟩ = some (.string a) ∧ w8.cell? ⟨w6.heap.size, 3, none⟩ = some (.string p) ∧ w8.cell? ⟨w6.heap.size, 4, none⟩ = some (.slice vb vl vc) ∧ w8.cell? ⟨w6.heap.size, 5, none⟩ = some (.string ⟨#[]⟩) := ⟨cell_blk P8 0, cell_blk P8 1, cell_blk P8 2, cell_blk P8 3, cell_blk P8 4, cell_blk P8 5⟩
          have k8 : Hid (Below w8.heap.size w8 (w8.alloc (.cells #[.int .i64 n8, .slice db dl dc, .string ⟨#[]⟩] 37))) := bel1 w8 _
          clear b8 P8 Q8 b68 P7 BLK6 J6 I6 A7 b67 r7
          simp only [sv, rsv]
          go_wp2_with fail
          go_at_call 19
          refine (h19.out _ k8.out).mono ?_
          rintro e w9 ⟨rfl, b9⟩
          have A9 : Hid (Below wA.heap.size wA w9) := A8.out.trans (b9.out.mono A8.out.size)
          go_wp2_with fail
          go_meet
          exact A9.out
      · have e0 : (rqE l == 0) = false := by simp [hq]
        clear hq g3
        go_wp2_with fail
        go_meet
        exact D3a.out
  case rest =>
    clear D3 g3
    have D4 := hcut
    clear hcut
    go_wp2_with fail
    go_at_call 15
    refine (h15.out _ D4.out).mono ?_
    rintro e w5 ⟨⟨cb, cl, cc⟩, rfl, b5, r5, o5⟩
    have D5 : Hid (Below wA.heap.size wA w5) := D4.out.trans (b5.mono D4.out.size)
    replace r5 : Hid (In EFd w5 (.slice cb cl cc) l) := R.isIn r5
    clear b5 o5 D4
    simp only [sv]
    go_wp2_with fail
    go_at_call 18
    refine (h18.out (cb, cl, cc) _ r5.out).mono ?_
    rintro e w6 ⟨n5, ⟨zb, zl, zc⟩, rfl, b6, g6, n6⟩
    have D6 : Hid (Below wA.heap.size wA w6) := D5.out.trans (b6.mono D5.out.size)
    replace g6 : Hid (rsE l = 0 → (∃ v, vals l 1 resNames = some [v] ∧ n5 = numL v.data.toList) ∧ In EFd w6 (.slice zb zl zc) (l.drop 1)) := fun h => ⟨⟨(g6 h).1.choose, (g6 h).1.choose_spec.1, (g6 h).1.choose_spec.2.2⟩, (g6 h).2.1.isIn⟩
    clear b6 r5 D5 n6
    simp only [sv, rsv]
    go_upto_if 132 with fail
    go_cut [] from 24 (fun wx => Hid (Below wA.heap.size wA wx))
    case first =>
      as_aux_lemma =>
        have k3 : Hid (Below w6.heap.size w6 (w6.alloc (.cells #[.int .i64 n5, .slice zb zl zc, .string ⟨#[]⟩] 37))) := bel1 w6 _
        have k3' : Hid ((w6.alloc (.cells #[.int .i64 n5, .slice zb zl zc, .string ⟨#[]⟩] 37)).heap[w6.heap.size]? = some (.cells #[.int .i64 n5, .slice zb zl zc, .string ⟨#[]⟩] 37)) := by show _ = _; rw [heap_al, if_pos rfl]
        have D6a : Hid (Below wA.heap.size wA (w6.alloc (.cells #[.int .i64 n5, .slice zb zl zc, .string ⟨#[]⟩] 37))) := D6.out.trans (k3.out.mono D6.out.size)
        by_cases hq : rsE l = 0
        · have e0 : (rsE l == 0) = true := by simp [hq]
          obtain ⟨⟨v, hv, hn5⟩, hin⟩ := g6.out hq
          obtain ⟨hr1, _, hr3, _⟩ := rs_right hq
          obtain ⟨hback, hit, hst, hpos, hl0⟩ := rs_back hq hv
          rw [← hn5] at hback hit
          have HB : Hid (rsE (wrL n5 (l.drop 1)) = 0) := hback
          have HI4 : Hid (In EFd (w6.alloc (.cells #[.int .i64 n5, .slice zb zl zc, .string ⟨#[]⟩] 37)) (.slice zb zl zc) (l.drop 1)) := hin.below k3.out
          have hnn : 100 ≤ n5 ∧ n5 ≤ 599 := by
            unfold stB at hst
            simp only [Bool.and_eq_true, decide_eq_true_eq] at hst
            rw [hn5]
            omega
          have h20 : Hid (Calls Tryd.prog 20 #[.agg #[.int .i64 n5, .slice zb zl zc, .string ⟨#[]⟩]] (w6.alloc (.cells #[.int .i64 n5, .slice zb zl zc, .string ⟨#[]⟩] 37)) fun e w' => WsPost n5 (l.drop 1) (w6.alloc (.cells #[.int .i64 n5, .slice zb zl zc, .string ⟨#[]⟩] 37)) e w') := by
            have hz := HZ.out.1
            exact writeResponse_any n5 (by omega) (by omega) (zb, zl, zc) ⟨#[]⟩ (l.drop 1) _ (HT.out _ D6a.out) HI4.out (fun f hf => (hz.1 f (List.mem_of_mem_drop hf)).1) (by rw [List.length_drop]; have := HZ.out.2; omega)
          have HIT : Hid (wrL n5 (l.drop 1) = ⟨statusName, v, false⟩ :: l.drop 1) := by show _ = _; unfold wrL; rw [hit]
          have HL0 : Hid (l[0].v = v) := hl0
          clear hq hv hin hback hn5 hit hst hl0
          go_wp2_with fail
          go_at_call 20
          refine h20.out.mono ?_
          rintro e w7 ⟨⟨ub, ul, uc⟩, rfl, b7, g7, n7⟩
          clear n7
          have D7 : Hid (Below wA.heap.size wA w7) := D6a.out.trans (b7.mono D6a.out.size)
          have R7 : Hid (In EFd w7 (.slice ub ul uc) (⟨statusName, v, false⟩ :: l.drop 1)) := by
            have := (g7 HB.out).1.isIn
            rw [HIT.out] at this
            exact this
          have BLK : Hid (w7.heap[w6.heap.size]? = some (.cells #[.int .i64 n5, .slice zb zl zc, .string ⟨#[]⟩] 37)) := (b7.block _ (heap_lt k3'.out)).trans k3'.out
          rw [HB.out]
          clear b7 g7 h20 HI4 k3' k3 D6a g6 D6 HIT
          simp only [sv]
          have hwl : ((⟨statusName, v, false⟩ : Fd) :: l.drop 1).length = l.length := by rw [List.length_cons, List.length_drop]; omega
          obtain ⟨gu, ou, eub, eul, hu1, hu2, hu⟩ := R7.out.behind 1 (by decide) (by rw [hwl]; exact hr3)
          obtain ⟨gt, ot, etb, etl_, ht1, ht2, htt⟩ := (HIl.out _ D7.out).behind 1 (by decide) hr3
          rw [hwl, ← HL.out] at hu1 hu eul
          rw [← HL.out] at ht1 htt
          clear etl_
          subst eub etb eul
          have hcel : Hid (∀ W, Below w7.heap.size w7 W → (fun W => W.cell? ⟨gu, ou, none⟩ = some (.string ⟨#[58, 115, 116, 97, 116, 117, 115]⟩) ∧ W.cell? ⟨gu, ou + 1, none⟩ = some (.string v) ∧ W.cell? ⟨gt, ot + 1, none⟩ = some (.string v) ∧ W.cell? ⟨w6.heap.size, 0, none⟩ = some (.int .i64 n5) ∧ W.cell? ⟨w6.heap.size, 2, none⟩ = some (.string ⟨#[]⟩)) W) := fun W hb => by
            obtain ⟨B0, o0, c0, e0, hB0, hc0⟩ := (R7.out.below hb).get okFd 0 (by rw [hwl]; omega)
            injection e0 with e0 _ _
            simp only [Option.some.injEq, Addr.mk.injEq, and_true] at e0
            obtain ⟨rfl, rfl⟩ := e0
            obtain ⟨B1, o1, c1, e1, hB1, hc1⟩ := ((HIl.out _ D7.out).below hb).get okFd 0 hpos
            injection e1 with e1 _ _
            simp only [Option.some.injEq, Addr.mk.injEq, and_true] at e1
            obtain ⟨rfl, rfl⟩ := e1
            have q : W.heap[w6.heap.size]? = some (.cells #[.int .i64 n5, .slice zb zl zc, .string ⟨#[]⟩] 37) := (hb.block _ (heap_lt BLK.out)).trans BLK.out
            refine ⟨hc0 0 _ rfl, hc0 1 _ rfl, ?_, cell_blk q 0, cell_blk q 2⟩
            have := hc1 1 (.string l[0].v) rfl
            rw [HL0.out] at this
            simpa [EFd] using this
          have hr3' : 1 ≤ ul := by rw [HL.out]; exact hr3
          have a4 : decide ((ul : Int) < 1) = false := decide_eq_false (by omega)
          have a4n : decide (ul < 1) = false := decide_eq_false (by omega)
          have a4m : decide (ul = 0) = false := decide_eq_false (by omega)
          have a5 : (1 : Int) ≤ (ul : Int) := by omega
          have a6 : (1 : Int) ≤ (uc : Int) := by omega
          have a7 : (1 : Int) ≤ (tc : Int) := by omega
          have a8 : (ul : Int) ≤ (uc : Int) := by omega
          have a9 : (ul : Int) ≤ (tc : Int) := by omega
          have i1 : 0 < ul := by omega
          have j1 : (0 : Int) < (ul : Int) := by omega
          have j2 : decide (n5 < 100) = false := decide_eq_false (by omega)
          have j3 : decide (599 < n5) = false := decide_eq_false (by omega)
          clear hwl HL0 hpos hr1 hr3 hnn
          go_upto_region 15 with fail
          go_cut [192] from 24 (fun x wx => x = .bool false ∧ Hid (Below w7.heap.size w7 wx))
          case first =>
            have h17 : Hid (∀ W, Below w7.heap.size w7 W → Calls Tryd.prog 17 #[.slice (if uc = 1 then some ⟨gu, ou, none⟩ else some ⟨gu, ou + 3, none⟩) (ul - 1) (uc - 1), .slice (if tc = 1 then some ⟨gt, ot, none⟩ else some ⟨gt, ot + 3, none⟩) (ul - 1) (tc - 1)] W fun e w' => e = .returned (.bool true) ∧ Below w7.heap.size w7 w') := fun W hb => by
              refine (same_eq (_, _, _) (_, _, _) (l.drop 1) W (hu.below hb) (htt.below hb)).mono ?_
              rintro e w' ⟨rfl, h⟩
              exact ⟨rfl, hb.trans (h.mono hb.size)⟩
            clear hu htt
            as_aux_lemma =>
              have hIW : Below w7.heap.size w7 (w7.drew) := (Below.refl _ _).drew
              refine wp_region_held_drew (S := (fun W => W.cell? ⟨gu, ou, none⟩ = some (.string ⟨#[58, 115, 116, 97, 116, 117, 115]⟩) ∧ W.cell? ⟨gu, ou + 1, none⟩ = some (.string v) ∧ W.cell? ⟨gt, ot + 1, none⟩ = some (.string v) ∧ W.cell? ⟨w6.heap.size, 0, none⟩ = some (.int .i64 n5) ∧ W.cell? ⟨w6.heap.size, 2, none⟩ = some (.string ⟨#[]⟩))) (by kernel_rfl) (hcel.out _ hIW) (fun hHeld => ?_)
              generalize hWg : World.drew _ = W at hIW hHeld ⊢
              clear hWg
              refine wpAnyH_take (i := 0) (oi := { dst := some 138, op := Op.move (Operand.tmp 17), type := 27, pos := "outright.go:51", after := #[], guard := none }) (v := ?vv1) rfl (by kernel_rfl) (by kernel_rfl) (by kernel_rfl) (fun _ _ _ h => h) (Or.inl ⟨by rfl, ?hy1⟩) (by assumption) ?_
              case hy1 => (intro w hSw; (try dsimp only at hSw); go_simp; all_goals with_reducible rfl)
              try simp only [Act.put, List.setIfInBounds_toArray, List.set_cons_zero, List.set_cons_succ]
              refine wpAnyH_take (i := 1) (oi := { dst := some 139, op := Op.binOp BinOp.neq 27 (Operand.tmp 138) (Operand.const (Value.int IntKind.i64 0)) 27, type := 4, pos := "outright.go:51", after := #[{ on := 0, ground := Ground.data }], guard := none }) (v := ?vv2) rfl (by kernel_rfl) (by kernel_rfl) (by kernel_rfl) (fun _ _ _ h => h) (Or.inl ⟨by rfl, ?hy2⟩) (by assumption) ?_
              case hy2 => (intro w hSw; (try dsimp only at hSw); go_simp; all_goals with_reducible rfl)
              try simp only [Act.put, List.setIfInBounds_toArray, List.set_cons_zero, List.set_cons_succ]
              refine wpAnyH_take (i := 2) (oi := { dst := some 140, op := Op.move (Operand.tmp 139), type := 4, pos := "outright.go:51", after := #[{ on := 1, ground := Ground.data }], guard := none }) (v := ?vv3) rfl (by kernel_rfl) (by kernel_rfl) (by kernel_rfl) (fun _ _ _ h => h) (Or.inl ⟨by rfl, ?hy3⟩) (by assumption) ?_
              case hy3 => (intro w hSw; (try dsimp only at hSw); go_simp; all_goals with_reducible rfl)
              try simp only [Act.put, List.setIfInBounds_toArray, List.set_cons_zero, List.set_cons_succ]
              refine wpAnyH_take (i := 3) (oi := { dst := some 141, op := Op.move (Operand.tmp 0), type := 24, pos := "outright.go:51", after := #[{ on := 2, ground := Ground.guard }], guard := some (2, false) }) (v := ?vv4) rfl (by kernel_rfl) (by kernel_rfl) (by kernel_rfl) (fun _ _ _ h => h) (Or.inl ⟨by rfl, ?hy4⟩) (by assumption) ?_
              case hy4 => (intro w hSw; (try dsimp only at hSw); go_simp; all_goals with_reducible rfl)
              try simp only [Act.put, List.setIfInBounds_toArray, List.set_cons_zero, List.set_cons_succ]
              refine wpAnyH_take (i := 4) (oi := { dst := some 142, op := Op.call { callee := Callee.builtin Builtin.len, args := #[Operand.tmp 141], argTypes := #[24] }, type := 3, pos := "outright.go:51", after := #[{ on := 3, ground := Ground.data }, { on := 2, ground := Ground.guard }], guard := some (2, false) }) (v := ?vv5) rfl (by kernel_rfl) (by kernel_rfl) (by kernel_rfl) (fun _ _ _ h => h) (Or.inl ⟨by rfl, ?hy5⟩) (by assumption) ?_
              case hy5 => (intro w hSw; (try dsimp only at hSw); go_simp; all_goals with_reducible rfl)
              try simp only [Act.put, List.setIfInBounds_toArray, List.set_cons_zero, List.set_cons_succ]
              refine wpAnyH_take (i := 5) (oi := { dst := some 143, op := Op.binOp BinOp.lss 3 (Operand.tmp 142) (Operand.const (Value.int IntKind.i64 1)) 3, type := 4, pos := "outright.go:51", after := #[{ on := 4, ground := Ground.data }, { on := 2, ground := Ground.guard }], guard := some (2, false) }) (v := ?vv6) rfl (by kernel_rfl) (by kernel_rfl) (by kernel_rfl) (fun _ _ _ h => h) (Or.inl ⟨by rfl, ?hy6⟩) (by assumption) ?_
              case hy6 => (intro w hSw; (try dsimp only at hSw); go_simp; all_goals with_reducible rfl)
              try simp only [Act.put, List.setIfInBounds_toArray, List.set_cons_zero, List.set_cons_succ]
              refine wpAnyH_take (i := 6) (oi := { dst := some 144, op := Op.pick (Operand.tmp 140) (Operand.const (Value.bool true)) (Operand.tmp 143), type := 4, pos := "outright.go:51", after := #[{ on := 2, ground := Ground.data }, { on := 5, ground := Ground.data }], guard := none }) (v := ?vv7) rfl (by kernel_rfl) (by kernel_rfl) (by kernel_rfl) (fun _ _ _ h => h) (Or.inl ⟨by rfl, ?hy7⟩) (by assumption) ?_
              case hy7 => (intro w hSw; (try dsimp only at hSw); go_simp; all_goals with_reducible rfl)
              try simp only [Act.put, List.setIfInBounds_toArray, List.set_cons_zero, List.set_cons_succ]
              refine wpAnyH_take (i := 7) (oi := { dst := some 145, op := Op.move (Operand.tmp 144), type := 4, pos := "outright.go:51", after := #[{ on := 6, ground := Ground.data }, { on := 2, ground := Ground.chain }], guard := none }) (v := ?vv8) rfl (by kernel_rfl) (by kernel_rfl) (by kernel_rfl) (fun _ _ _ h => h) (Or.inl ⟨by rfl, ?hy8⟩) (by assumption) ?_
              case hy8 => (intro w hSw; (try dsimp only at hSw); go_simp; all_goals with_reducible rfl)
              try simp only [Act.put, List.setIfInBounds_toArray, List.set_cons_zero, List.set_cons_succ]
              refine wpAnyH_take (i := 8) (oi := { dst := some 146, op := Op.move (Operand.tmp 16), type := 24, pos := "outright.go:51", after := #[{ on := 7, ground := Ground.guard }], guard := some (7, false) }) (v := ?vv9) rfl (by kernel_rfl) (by kernel_rfl) (by kernel_rfl) (fun _ _ _ h => h) (Or.inl ⟨by rfl, ?hy9⟩) (by assumption) ?_
              case hy9 => (intro w hSw; (try dsimp only at hSw); go_simp; all_goals with_reducible rfl)
              try simp only [Act.put, List.setIfInBounds_toArray, List.set_cons_zero, List.set_cons_succ]
              refine wpAnyH_take (i := 9) (oi := { dst := some 147, op := Op.call { callee := Callee.builtin Builtin.len, args := #[Operand.tmp 146], argTypes := #[24] }, type := 3, pos := "outright.go:51", after := #[{ on := 8, ground := Ground.data }, { on := 7, ground := Ground.guard }], guard := some (7, false) }) (v := ?vv10) rfl (by kernel_rfl) (by kernel_rfl) (by kernel_rfl) (fun _ _ _ h => h) (Or.inl ⟨by rfl, ?hy10⟩) (by assumption) ?_
              case hy10 => (intro w hSw; (try dsimp only at hSw); go_simp; all_goals with_reducible rfl)
              try simp only [Act.put, List.setIfInBounds_toArray, List.set_cons_zero, List.set_cons_succ]
              refine wpAnyH_take (i := 10) (oi := { dst := some 148, op := Op.move (Operand.tmp 0), type := 24, pos := "outright.go:51", after := #[{ on := 7, ground := Ground.guard }], guard := some (7, false) }) (v := ?vv11) rfl (by kernel_rfl) (by kernel_rfl) (by kernel_rfl) (fun _ _ _ h => h) (Or.inl ⟨by rfl, ?hy11⟩) (by assumption) ?_
              case hy11 => (intro w hSw; (try dsimp only at hSw); go_simp; all_goals with_reducible rfl)
              try simp only [Act.put, List.setIfInBounds_toArray, List.set_cons_zero, List.set_cons_succ]
              refine wpAnyH_take (i := 11) (oi := { dst := some 149, op := Op.call { callee := Callee.builtin Builtin.len, args := #[Operand.tmp 148], argTypes := #[24] }, type := 3, pos := "outright.go:51", after := #[{ on := 10, ground := Ground.data }, { on := 7, ground := Ground.guard }], guard := some (7, false) }) (v := ?vv12) rfl (by kernel_rfl) (by kernel_rfl) (by kernel_rfl) (fun _ _ _ h => h) (Or.inl ⟨by rfl, ?hy12⟩) (by assumption) ?_
              case hy12 => (intro w hSw; (try dsimp only at hSw); go_simp; all_goals with_reducible rfl)
              try simp only [Act.put, List.setIfInBounds_toArray, List.set_cons_zero, List.set_cons_succ]
              refine wpAnyH_take (i := 12) (oi := { dst := some 150, op := Op.binOp BinOp.neq 3 (Operand.tmp 147) (Operand.tmp 149) 3, type := 4, pos := "outright.go:51", after := #[{ on := 9, ground := Ground.data }, { on := 11, ground := Ground.data }, { on := 7, ground := Ground.guard }], guard := some (7, false) }) (v := ?vv13) rfl (by kernel_rfl) (by kernel_rfl) (by kernel_rfl) (fun _ _ _ h => h) (Or.inl ⟨by rfl, ?hy13⟩) (by assumption) ?_
              case hy13 => (intro w hSw; (try dsimp only at hSw); go_simp; all_goals with_reducible rfl)
              try simp only [Act.put, List.setIfInBounds_toArray, List.set_cons_zero, List.set_cons_succ]
              refine wpAnyH_take (i := 13) (oi := { dst := some 151, op := Op.pick (Operand.tmp 145) (Operand.const (Value.bool true)) (Operand.tmp 150), type := 4, pos := "outright.go:51", after := #[{ on := 7, ground := Ground.data }, { on := 12, ground := Ground.data }], guard := none }) (v := ?vv14) rfl (by kernel_rfl) (by kernel_rfl) (by kernel_rfl) (fun _ _ _ h => h) (Or.inl ⟨by rfl, ?hy14⟩) (by assumption) ?_
              case hy14 => (intro w hSw; (try dsimp only at hSw); go_simp; all_goals with_reducible rfl)
              try simp only [Act.put, List.setIfInBounds_toArray, List.set_cons_zero, List.set_cons_succ]
              refine wpAnyH_take (i := 14) (oi := { dst := some 152, op := Op.move (Operand.tmp 151), type := 4, pos := "outright.go:51", after := #[{ on := 13, ground := Ground.data }, { on := 7, ground := Ground.chain }], guard := none }) (v := ?vv15) rfl (by kernel_rfl) (by kernel_rfl) (by kernel_rfl) (fun _ _ _ h => h) (Or.inl ⟨by rfl, ?hy15⟩) (by assumption) ?_
              case hy15 => (intro w hSw; (try dsimp only at hSw); go_simp; all_goals with_reducible rfl)
              try simp only [Act.put, List.setIfInBounds_toArray, List.set_cons_zero, List.set_cons_succ]
              refine wpAnyH_take (i := 15) (oi := { dst := some 153, op := Op.move (Operand.tmp 16), type := 24, pos := "outright.go:51", after := #[{ on := 14, ground := Ground.guard }], guard := some (14, false) }) (v := ?vv16) rfl (by kernel_rfl) (by kernel_rfl) (by kernel_rfl) (fun _ _ _ h => h) (Or.inl ⟨by rfl, ?hy16⟩) (by assumption) ?_
              case hy16 => (intro w hSw; (try dsimp only at hSw); go_simp; all_goals with_reducible rfl)
              try simp only [Act.put, List.setIfInBounds_toArray, List.set_cons_zero, List.set_cons_succ]
              refine wpAnyH_take (i := 16) (oi := { dst := some 154, op := Op.indexAddr 24 (Operand.tmp 153) (Operand.const (Value.int IntKind.i64 0)), type := 0, pos := "outright.go:51", after := #[{ on := 15, ground := Ground.data }, { on := 14, ground := Ground.guard }], guard := some (14, false) }) (v := ?vv17) rfl (by kernel_rfl) (by kernel_rfl) (by kernel_rfl) (fun _ _ _ h => h) (Or.inl ⟨by rfl, ?hy17⟩) (by assumption) ?_
              case hy17 => (intro w hSw; (try dsimp only at hSw); go_simp; all_goals with_reducible rfl)
              try simp only [Act.put, List.setIfInBounds_toArray, List.set_cons_zero, List.set_cons_succ]
              refine wpAnyH_take (i := 17) (oi := { dst := some 155, op := Op.fieldAddr 34 (Operand.tmp 154) 0, type := 0, pos := "outright.go:51", after := #[{ on := 16, ground := Ground.data }, { on := 14, ground := Ground.guard }], guard := some (14, false) }) (v := ?vv18) rfl (by kernel_rfl) (by kernel_rfl) (by kernel_rfl) (fun _ _ _ h => h) (Or.inl ⟨by rfl, ?hy18⟩) (by assumption) ?_
              case hy18 => (intro w hSw; (try dsimp only at hSw); go_simp; all_goals with_reducible rfl)
              try simp only [Act.put, List.setIfInBounds_toArray, List.set_cons_zero, List.set_cons_succ]
              refine wpAnyH_take (i := 18) (oi := { dst := some 156, op := Op.load 9 (Operand.tmp 155), type := 9, pos := "outright.go:51", after := #[{ on := 17, ground := Ground.data }, { on := 14, ground := Ground.guard }], guard := some (14, false) }) (v := ?vv19) rfl (by kernel_rfl) (by kernel_rfl) (by kernel_rfl) (fun _ _ _ h => h) (Or.inl ⟨by rfl, ?hy19⟩) (by assumption) ?_
              case hy19 => (intro w hSw; (try dsimp only at hSw); go_simp; all_goals with_reducible rfl)
              try simp only [Act.put, List.setIfInBounds_toArray, List.set_cons_zero, List.set_cons_succ]
              refine wpAnyH_take (i := 19) (oi := { dst := some 157, op := Op.binOp BinOp.neq 9 (Operand.tmp 156) (Operand.const (Value.string { data := #[58, 115, 116, 97, 116, 117, 115] })) 9, type := 4, pos := "outright.go:51", after := #[{ on := 18, ground := Ground.data }, { on := 14, ground := Ground.guard }], guard := some (14, false) }) (v := ?vv20) rfl (by kernel_rfl) (by kernel_rfl) (by kernel_rfl) (fun _ _ _ h => h) (Or.inl ⟨by rfl, ?hy20⟩) (by assumption) ?_
              case hy20 => (intro w hSw; (try dsimp only at hSw); go_simp; all_goals with_reducible rfl)
              try simp only [Act.put, List.setIfInBounds_toArray, List.set_cons_zero, List.set_cons_succ]
              refine wpAnyH_take (i := 20) (oi := { dst := some 158, op := Op.pick (Operand.tmp 152) (Operand.const (Value.bool true)) (Operand.tmp 157), type := 4, pos := "outright.go:51", after := #[{ on := 14, ground := Ground.data }, { on := 19, ground := Ground.data }], guard := none }) (v := ?vv21) rfl (by kernel_rfl) (by kernel_rfl) (by kernel_rfl) (fun _ _ _ h => h) (Or.inl ⟨by rfl, ?hy21⟩) (by assumption) ?_
              case hy21 => (intro w hSw; (try dsimp only at hSw); go_simp; all_goals with_reducible rfl)
              try simp only [Act.put, List.setIfInBounds_toArray, List.set_cons_zero, List.set_cons_succ]
              refine wpAnyH_take (i := 21) (oi := { dst := some 159, op := Op.move (Operand.tmp 158), type := 4, pos := "outright.go:51", after := #[{ on := 20, ground := Ground.data }, { on := 14, ground := Ground.chain }], guard := none }) (v := ?vv22) rfl (by kernel_rfl) (by kernel_rfl) (by kernel_rfl) (fun _ _ _ h => h) (Or.inl ⟨by rfl, ?hy22⟩) (by assumption) ?_
              case hy22 => (intro w hSw; (try dsimp only at hSw); go_simp; all_goals with_reducible rfl)
              try simp only [Act.put, List.setIfInBounds_toArray, List.set_cons_zero, List.set_cons_succ]
              refine wpAnyH_take (i := 22) (oi := { dst := some 160, op := Op.move (Operand.tmp 16), type := 24, pos := "outright.go:51", after := #[{ on := 21, ground := Ground.guard }], guard := some (21, false) }) (v := ?vv23) rfl (by kernel_rfl) (by kernel_rfl) (by kernel_rfl) (fun _ _ _ h => h) (Or.inl ⟨by rfl, ?hy23⟩) (by assumption) ?_
              case hy23 => (intro w hSw; (try dsimp only at hSw); go_simp; all_goals with_reducible rfl)
              try simp only [Act.put, List.setIfInBounds_toArray, List.set_cons_zero, List.set_cons_succ]
              refine wpAnyH_take (i := 23) (oi := { dst := some 161, op := Op.indexAddr 24 (Operand.tmp 160) (Operand.const (Value.int IntKind.i64 0)), type := 0, pos := "outright.go:51", after := #[{ on := 22, ground := Ground.data }, { on := 21, ground := Ground.guard }], guard := some (21, false) }) (v := ?vv24) rfl (by kernel_rfl) (by kernel_rfl) (by kernel_rfl) (fun _ _ _ h => h) (Or.inl ⟨by rfl, ?hy24⟩) (by assumption) ?_
              case hy24 => (intro w hSw; (try dsimp only at hSw); go_simp; all_goals with_reducible rfl)
              try simp only [Act.put, List.setIfInBounds_toArray, List.set_cons_zero, List.set_cons_succ]
              refine wpAnyH_take (i := 24) (oi := { dst := some 162, op := Op.fieldAddr 34 (Operand.tmp 161) 1, type := 0, pos := "outright.go:51", after := #[{ on := 23, ground := Ground.data }, { on := 21, ground := Ground.guard }], guard := some (21, false) }) (v := ?vv25) rfl (by kernel_rfl) (by kernel_rfl) (by kernel_rfl) (fun _ _ _ h => h) (Or.inl ⟨by rfl, ?hy25⟩) (by assumption) ?_
              case hy25 => (intro w hSw; (try dsimp only at hSw); go_simp; all_goals with_reducible rfl)
              try simp only [Act.put, List.setIfInBounds_toArray, List.set_cons_zero, List.set_cons_succ]
              refine wpAnyH_take (i := 25) (oi := { dst := some 163, op := Op.load 9 (Operand.tmp 162), type := 9, pos := "outright.go:51", after := #[{ on := 24, ground := Ground.data }, { on := 21, ground := Ground.guard }], guard := some (21, false) }) (v := ?vv26) rfl (by kernel_rfl) (by kernel_rfl) (by kernel_rfl) (fun _ _ _ h => h) (Or.inl ⟨by rfl, ?hy26⟩) (by assumption) ?_
              case hy26 => (intro w hSw; (try dsimp only at hSw); go_simp; all_goals with_reducible rfl)
              try simp only [Act.put, List.setIfInBounds_toArray, List.set_cons_zero, List.set_cons_succ]
              refine wpAnyH_take (i := 26) (oi := { dst := some 164, op := Op.move (Operand.tmp 0), type := 24, pos := "outright.go:51", after := #[{ on := 21, ground := Ground.guard }], guard := some (21, false) }) (v := ?vv27) rfl (by kernel_rfl) (by kernel_rfl) (by kernel_rfl) (fun _ _ _ h => h) (Or.inl ⟨by rfl, ?hy27⟩) (by assumption) ?_
              case hy27 => (intro w hSw; (try dsimp only at hSw); go_simp; all_goals with_reducible rfl)
              try simp only [Act.put, List.setIfInBounds_toArray, List.set_cons_zero, List.set_cons_succ]
              refine wpAnyH_take (i := 27) (oi := { dst := some 165, op := Op.indexAddr 24 (Operand.tmp 164) (Operand.const (Value.int IntKind.i64 0)), type := 0, pos := "outright.go:51", after := #[{ on := 26, ground := Ground.data }, { on := 21, ground := Ground.guard }], guard := some (21, false) }) (v := ?vv28) rfl (by kernel_rfl) (by kernel_rfl) (by kernel_rfl) (fun _ _ _ h => h) (Or.inl ⟨by rfl, ?hy28⟩) (by assumption) ?_
              case hy28 => (intro w hSw; (try dsimp only at hSw); go_simp; all_goals with_reducible rfl)
              try simp only [Act.put, List.setIfInBounds_toArray, List.set_cons_zero, List.set_cons_succ]
              refine wpAnyH_take (i := 28) (oi := { dst := some 166, op := Op.fieldAddr 34 (Operand.tmp 165) 1, type := 0, pos := "outright.go:51", after := #[{ on := 27, ground := Ground.data }, { on := 21, ground := Ground.guard }], guard := some (21, false) }) (v := ?vv29) rfl (by kernel_rfl) (by kernel_rfl) (by kernel_rfl) (fun _ _ _ h => h) (Or.inl ⟨by rfl, ?hy29⟩) (by assumption) ?_
              case hy29 => (intro w hSw; (try dsimp only at hSw); go_simp; all_goals with_reducible rfl)
              try simp only [Act.put, List.setIfInBounds_toArray, List.set_cons_zero, List.set_cons_succ]
              refine wpAnyH_take (i := 29) (oi := { dst := some 167, op := Op.load 9 (Operand.tmp 166), type := 9, pos := "outright.go:51", after := #[{ on := 28, ground := Ground.data }, { on := 21, ground := Ground.guard }], guard := some (21, false) }) (v := ?vv30) rfl (by kernel_rfl) (by kernel_rfl) (by kernel_rfl) (fun _ _ _ h => h) (Or.inl ⟨by rfl, ?hy30⟩) (by assumption) ?_
              case hy30 => (intro w hSw; (try dsimp only at hSw); go_simp; all_goals with_reducible rfl)
              try simp only [Act.put, List.setIfInBounds_toArray, List.set_cons_zero, List.set_cons_succ]
              refine wpAnyH_take (i := 30) (oi := { dst := some 168, op := Op.binOp BinOp.neq 9 (Operand.tmp 163) (Operand.tmp 167) 9, type := 4, pos := "outright.go:51", after := #[{ on := 25, ground := Ground.data }, { on := 29, ground := Ground.data }, { on := 21, ground := Ground.guard }], guard := some (21, false) }) (v := ?vv31) rfl (by kernel_rfl) (by kernel_rfl) (by kernel_rfl) (fun _ _ _ h => h) (Or.inl ⟨by rfl, ?hy31⟩) (by assumption) ?_
              case hy31 => (intro w hSw; (try dsimp only at hSw); go_simp; all_goals with_reducible rfl)
              try simp only [Act.put, List.setIfInBounds_toArray, List.set_cons_zero, List.set_cons_succ]
              refine wpAnyH_take (i := 31) (oi := { dst := some 169, op := Op.pick (Operand.tmp 159) (Operand.const (Value.bool true)) (Operand.tmp 168), type := 4, pos := "outright.go:51", after := #[{ on := 21, ground := Ground.data }, { on := 30, ground := Ground.data }], guard := none }) (v := ?vv32) rfl (by kernel_rfl) (by kernel_rfl) (by kernel_rfl) (fun _ _ _ h => h) (Or.inl ⟨by rfl, ?hy32⟩) (by assumption) ?_
              case hy32 => (intro w hSw; (try dsimp only at hSw); go_simp; all_goals with_reducible rfl)
              try simp only [Act.put, List.setIfInBounds_toArray, List.set_cons_zero, List.set_cons_succ]
              refine wpAnyH_take (i := 32) (oi := { dst := some 170, op := Op.move (Operand.tmp 169), type := 4, pos := "outright.go:51", after := #[{ on := 31, ground := Ground.data }, { on := 21, ground := Ground.chain }], guard := none }) (v := ?vv33) rfl (by kernel_rfl) (by kernel_rfl) (by kernel_rfl) (fun _ _ _ h => h) (Or.inl ⟨by rfl, ?hy33⟩) (by assumption) ?_
              case hy33 => (intro w hSw; (try dsimp only at hSw); go_simp; all_goals with_reducible rfl)
              try simp only [Act.put, List.setIfInBounds_toArray, List.set_cons_zero, List.set_cons_succ]
              refine wpAnyH_take (i := 33) (oi := { dst := some 171, op := Op.move (Operand.tmp 16), type := 24, pos := "outright.go:51", after := #[{ on := 32, ground := Ground.guard }], guard := some (32, false) }) (v := ?vv34) rfl (by kernel_rfl) (by kernel_rfl) (by kernel_rfl) (fun _ _ _ h => h) (Or.inl ⟨by rfl, ?hy34⟩) (by assumption) ?_
              case hy34 => (intro w hSw; (try dsimp only at hSw); go_simp; all_goals with_reducible rfl)
              try simp only [Act.put, List.setIfInBounds_toArray, List.set_cons_zero, List.set_cons_succ]
              refine wpAnyH_take (i := 34) (oi := { dst := some 172, op := Op.slice 24 (Operand.tmp 171) (some (Operand.const (Value.int IntKind.i64 1))) none none, type := 24, pos := "outright.go:51", after := #[{ on := 33, ground := Ground.data }, { on := 32, ground := Ground.guard }], guard := some (32, false) }) (v := ?vv35) rfl (by kernel_rfl) (by kernel_rfl) (by kernel_rfl) (fun _ _ _ h => h) (Or.inl ⟨by rfl, ?hy35⟩) (by assumption) ?_
              case hy35 => (intro w hSw; (try dsimp only at hSw); go_simp; all_goals with_reducible rfl)
              try simp only [Act.put, List.setIfInBounds_toArray, List.set_cons_zero, List.set_cons_succ]
              refine wpAnyH_take (i := 35) (oi := { dst := some 173, op := Op.move (Operand.tmp 0), type := 24, pos := "outright.go:51", after := #[{ on := 32, ground := Ground.guard }], guard := some (32, false) }) (v := ?vv36) rfl (by kernel_rfl) (by kernel_rfl) (by kernel_rfl) (fun _ _ _ h => h) (Or.inl ⟨by rfl, ?hy36⟩) (by assumption) ?_
              case hy36 => (intro w hSw; (try dsimp only at hSw); go_simp; all_goals with_reducible rfl)
              try simp only [Act.put, List.setIfInBounds_toArray, List.set_cons_zero, List.set_cons_succ]
              refine wpAnyH_take (i := 36) (oi := { dst := some 174, op := Op.slice 24 (Operand.tmp 173) (some (Operand.const (Value.int IntKind.i64 1))) none none, type := 24, pos := "outright.go:51", after := #[{ on := 35, ground := Ground.data }, { on := 32, ground := Ground.guard }], guard := some (32, false) }) (v := ?vv37) rfl (by kernel_rfl) (by kernel_rfl) (by kernel_rfl) (fun _ _ _ h => h) (Or.inl ⟨by rfl, ?hy37⟩) (by assumption) ?_
              case hy37 => (intro w hSw; (try dsimp only at hSw); go_simp; all_goals with_reducible rfl)
              try simp only [Act.put, List.setIfInBounds_toArray, List.set_cons_zero, List.set_cons_succ]
              refine wpAnyH_ready (rs := [37]) (by kernel_rfl) (by simp) ?_
              refine AllReadyH.cons (o := { dst := some 175, op := Op.call { callee := Callee.value (Operand.func 17), args := #[Operand.tmp 172, Operand.tmp 174], argTypes := #[24, 24] }, type := 4, pos := "outright.go:51", after := #[{ on := 34, ground := Ground.data }, { on := 36, ground := Ground.data }, { on := 32, ground := Ground.chain }, { on := 32, ground := Ground.guard }], guard := some (32, false) }) rfl (fun K hK => ?_) AllReadyH.nil
              go_simp
              refine (h17.out W hIW).mono ?_
              rintro e' Wx ⟨rfl, hIX⟩
              generalize (if uc = 1 then some (⟨gu, ou, none⟩ : Addr) else some ⟨gu, ou + 3, none⟩) = U1
              generalize (if tc = 1 then some (⟨gt, ot, none⟩ : Addr) else some ⟨gt, ot + 3, none⟩) = U2
              go_wp2_with fail
              refine hK.out _ _ (hcel.out _ hIX) (fun hHeld => ?_)
              clear hK K hIW
              rename World => Wzz
              try simp only [Act.put, List.setIfInBounds_toArray, List.set_cons_zero, List.set_cons_succ]
              refine wpAnyH_take (i := 38) (oi := { dst := some 176, op := Op.unOp UnOp.not 4 (Operand.tmp 175), type := 4, pos := "outright.go:51", after := #[{ on := 37, ground := Ground.data }, { on := 32, ground := Ground.guard }], guard := some (32, false) }) (v := ?vv38) rfl (by kernel_rfl) (by kernel_rfl) (by kernel_rfl) (fun _ _ _ h => h) (Or.inl ⟨by rfl, ?hy38⟩) (by assumption) ?_
              case hy38 => (intro w hSw; (try dsimp only at hSw); go_simp; all_goals with_reducible rfl)
              try simp only [Act.put, List.setIfInBounds_toArray, List.set_cons_zero, List.set_cons_succ]
              refine wpAnyH_take (i := 39) (oi := { dst := some 177, op := Op.pick (Operand.tmp 170) (Operand.const (Value.bool true)) (Operand.tmp 176), type := 4, pos := "outright.go:51", after := #[{ on := 32, ground := Ground.data }, { on := 38, ground := Ground.data }], guard := none }) (v := ?vv39) rfl (by kernel_rfl) (by kernel_rfl) (by kernel_rfl) (fun _ _ _ h => h) (Or.inl ⟨by rfl, ?hy39⟩) (by assumption) ?_
              case hy39 => (intro w hSw; (try dsimp only at hSw); go_simp; all_goals with_reducible rfl)
              try simp only [Act.put, List.setIfInBounds_toArray, List.set_cons_zero, List.set_cons_succ]
              refine wpAnyH_take (i := 40) (oi := { dst := some 178, op := Op.move (Operand.tmp 177), type := 4, pos := "outright.go:51", after := #[{ on := 39, ground := Ground.data }, { on := 37, ground := Ground.chain }], guard := none }) (v := ?vv40) rfl (by kernel_rfl) (by kernel_rfl) (by kernel_rfl) (fun _ _ _ h => h) (Or.inl ⟨by rfl, ?hy40⟩) (by assumption) ?_
              case hy40 => (intro w hSw; (try dsimp only at hSw); go_simp; all_goals with_reducible rfl)
              try simp only [Act.put, List.setIfInBounds_toArray, List.set_cons_zero, List.set_cons_succ]
              refine wpAnyH_take (i := 41) (oi := { dst := some 179, op := Op.fieldAddr 37 (Operand.tmp 15) 0, type := 0, pos := "outright.go:51", after := #[{ on := 40, ground := Ground.guard }], guard := some (40, false) }) (v := ?vv41) rfl (by kernel_rfl) (by kernel_rfl) (by kernel_rfl) (fun _ _ _ h => h) (Or.inl ⟨by rfl, ?hy41⟩) (by assumption) ?_
              case hy41 => (intro w hSw; (try dsimp only at hSw); go_simp; all_goals with_reducible rfl)
              try simp only [Act.put, List.setIfInBounds_toArray, List.set_cons_zero, List.set_cons_succ]
              refine wpAnyH_take (i := 42) (oi := { dst := some 180, op := Op.load 3 (Operand.tmp 179), type := 3, pos := "outright.go:51", after := #[{ on := 41, ground := Ground.data }, { on := 40, ground := Ground.guard }], guard := some (40, false) }) (v := ?vv42) rfl (by kernel_rfl) (by kernel_rfl) (by kernel_rfl) (fun _ _ _ h => h) (Or.inl ⟨by rfl, ?hy42⟩) (by assumption) ?_
              case hy42 => (intro w hSw; (try dsimp only at hSw); go_simp; all_goals with_reducible rfl)
              try simp only [Act.put, List.setIfInBounds_toArray, List.set_cons_zero, List.set_cons_succ]
              refine wpAnyH_take (i := 43) (oi := { dst := some 181, op := Op.binOp BinOp.lss 3 (Operand.tmp 180) (Operand.const (Value.int IntKind.i64 100)) 3, type := 4, pos := "outright.go:51", after := #[{ on := 42, ground := Ground.data }, { on := 40, ground := Ground.guard }], guard := some (40, false) }) (v := ?vv43) rfl (by kernel_rfl) (by kernel_rfl) (by kernel_rfl) (fun _ _ _ h => h) (Or.inl ⟨by rfl, ?hy43⟩) (by assumption) ?_
              case hy43 => (intro w hSw; (try dsimp only at hSw); go_simp; all_goals with_reducible rfl)
              try simp only [Act.put, List.setIfInBounds_toArray, List.set_cons_zero, List.set_cons_succ]
              refine wpAnyH_take (i := 44) (oi := { dst := some 182, op := Op.pick (Operand.tmp 178) (Operand.const (Value.bool true)) (Operand.tmp 181), type := 4, pos := "outright.go:51", after := #[{ on := 40, ground := Ground.data }, { on := 43, ground := Ground.data }], guard := none }) (v := ?vv44) rfl (by kernel_rfl) (by kernel_rfl) (by kernel_rfl) (fun _ _ _ h => h) (Or.inl ⟨by rfl, ?hy44⟩) (by assumption) ?_
              case hy44 => (intro w hSw; (try dsimp only at hSw); go_simp; all_goals with_reducible rfl)
              try simp only [Act.put, List.setIfInBounds_toArray, List.set_cons_zero, List.set_cons_succ]
              refine wpAnyH_take (i := 45) (oi := { dst := some 183, op := Op.move (Operand.tmp 182), type := 4, pos := "outright.go:51", after := #[{ on := 44, ground := Ground.data }, { on := 40, ground := Ground.chain }], guard := none }) (v := ?vv45) rfl (by kernel_rfl) (by kernel_rfl) (by kernel_rfl) (fun _ _ _ h => h) (Or.inl ⟨by rfl, ?hy45⟩) (by assumption) ?_
              case hy45 => (intro w hSw; (try dsimp only at hSw); go_simp; all_goals with_reducible rfl)
              try simp only [Act.put, List.setIfInBounds_toArray, List.set_cons_zero, List.set_cons_succ]
              refine wpAnyH_take (i := 46) (oi := { dst := some 184, op := Op.fieldAddr 37 (Operand.tmp 15) 0, type := 0, pos := "outright.go:51", after := #[{ on := 45, ground := Ground.guard }], guard := some (45, false) }) (v := ?vv46) rfl (by kernel_rfl) (by kernel_rfl) (by kernel_rfl) (fun _ _ _ h => h) (Or.inl ⟨by rfl, ?hy46⟩) (by assumption) ?_
              case hy46 => (intro w hSw; (try dsimp only at hSw); go_simp; all_goals with_reducible rfl)
              try simp only [Act.put, List.setIfInBounds_toArray, List.set_cons_zero, List.set_cons_succ]
              refine wpAnyH_take (i := 47) (oi := { dst := some 185, op := Op.load 3 (Operand.tmp 184), type := 3, pos := "outright.go:51", after := #[{ on := 46, ground := Ground.data }, { on := 45, ground := Ground.guard }], guard := some (45, false) }) (v := ?vv47) rfl (by kernel_rfl) (by kernel_rfl) (by kernel_rfl) (fun _ _ _ h => h) (Or.inl ⟨by rfl, ?hy47⟩) (by assumption) ?_
              case hy47 => (intro w hSw; (try dsimp only at hSw); go_simp; all_goals with_reducible rfl)
              try simp only [Act.put, List.setIfInBounds_toArray, List.set_cons_zero, List.set_cons_succ]
              refine wpAnyH_take (i := 48) (oi := { dst := some 186, op := Op.binOp BinOp.gtr 3 (Operand.tmp 185) (Operand.const (Value.int IntKind.i64 599)) 3, type := 4, pos := "outright.go:51", after := #[{ on := 47, ground := Ground.data }, { on := 45, ground := Ground.guard }], guard := some (45, false) }) (v := ?vv48) rfl (by kernel_rfl) (by kernel_rfl) (by kernel_rfl) (fun _ _ _ h => h) (Or.inl ⟨by rfl, ?hy48⟩) (by assumption) ?_
              case hy48 => (intro w hSw; (try dsimp only at hSw); go_simp; all_goals with_reducible rfl)
              try simp only [Act.put, List.setIfInBounds_toArray, List.set_cons_zero, List.set_cons_succ]
              refine wpAnyH_take (i := 49) (oi := { dst := some 187, op := Op.pick (Operand.tmp 183) (Operand.const (Value.bool true)) (Operand.tmp 186), type := 4, pos := "outright.go:51", after := #[{ on := 45, ground := Ground.data }, { on := 48, ground := Ground.data }], guard := none }) (v := ?vv49) rfl (by kernel_rfl) (by kernel_rfl) (by kernel_rfl) (fun _ _ _ h => h) (Or.inl ⟨by rfl, ?hy49⟩) (by assumption) ?_
              case hy49 => (intro w hSw; (try dsimp only at hSw); go_simp; all_goals with_reducible rfl)
              try simp only [Act.put, List.setIfInBounds_toArray, List.set_cons_zero, List.set_cons_succ]
              refine wpAnyH_take (i := 50) (oi := { dst := some 188, op := Op.move (Operand.tmp 187), type := 4, pos := "outright.go:51", after := #[{ on := 49, ground := Ground.data }, { on := 45, ground := Ground.chain }], guard := none }) (v := ?vv50) rfl (by kernel_rfl) (by kernel_rfl) (by kernel_rfl) (fun _ _ _ h => h) (Or.inl ⟨by rfl, ?hy50⟩) (by assumption) ?_
              case hy50 => (intro w hSw; (try dsimp only at hSw); go_simp; all_goals with_reducible rfl)
              try simp only [Act.put, List.setIfInBounds_toArray, List.set_cons_zero, List.set_cons_succ]
              refine wpAnyH_take (i := 51) (oi := { dst := some 189, op := Op.fieldAddr 37 (Operand.tmp 15) 2, type := 0, pos := "outright.go:51", after := #[{ on := 50, ground := Ground.guard }], guard := some (50, false) }) (v := ?vv51) rfl (by kernel_rfl) (by kernel_rfl) (by kernel_rfl) (fun _ _ _ h => h) (Or.inl ⟨by rfl, ?hy51⟩) (by assumption) ?_
              case hy51 => (intro w hSw; (try dsimp only at hSw); go_simp; all_goals with_reducible rfl)
              try simp only [Act.put, List.setIfInBounds_toArray, List.set_cons_zero, List.set_cons_succ]
              refine wpAnyH_take (i := 52) (oi := { dst := some 190, op := Op.load 9 (Operand.tmp 189), type := 9, pos := "outright.go:51", after := #[{ on := 51, ground := Ground.data }, { on := 50, ground := Ground.guard }], guard := some (50, false) }) (v := ?vv52) rfl (by kernel_rfl) (by kernel_rfl) (by kernel_rfl) (fun _ _ _ h => h) (Or.inl ⟨by rfl, ?hy52⟩) (by assumption) ?_
              case hy52 => (intro w hSw; (try dsimp only at hSw); go_simp; all_goals with_reducible rfl)
              try simp only [Act.put, List.setIfInBounds_toArray, List.set_cons_zero, List.set_cons_succ]
              refine wpAnyH_take (i := 53) (oi := { dst := some 191, op := Op.binOp BinOp.neq 9 (Operand.tmp 190) (Operand.const (Value.string { data := #[] })) 9, type := 4, pos := "outright.go:51", after := #[{ on := 52, ground := Ground.data }, { on := 50, ground := Ground.guard }], guard := some (50, false) }) (v := ?vv53) rfl (by kernel_rfl) (by kernel_rfl) (by kernel_rfl) (fun _ _ _ h => h) (Or.inl ⟨by rfl, ?hy53⟩) (by assumption) ?_
              case hy53 => (intro w hSw; (try dsimp only at hSw); go_simp; all_goals with_reducible rfl)
              try simp only [Act.put, List.setIfInBounds_toArray, List.set_cons_zero, List.set_cons_succ]
              refine wpAnyH_take (i := 54) (oi := { dst := some 192, op := Op.pick (Operand.tmp 188) (Operand.const (Value.bool true)) (Operand.tmp 191), type := 4, pos := "outright.go:51", after := #[{ on := 50, ground := Ground.data }, { on := 53, ground := Ground.data }], guard := none }) (v := ?vv54) rfl (by kernel_rfl) (by kernel_rfl) (by kernel_rfl) (fun _ _ _ h => h) (Or.inl ⟨by rfl, ?hy54⟩) (by assumption) ?_
              case hy54 => (intro w hSw; (try dsimp only at hSw); go_simp; all_goals with_reducible rfl)
              try simp only [Act.put, List.setIfInBounds_toArray, List.set_cons_zero, List.set_cons_succ]
              refine wpAnyH_done (by kernel_rfl) ?_ _
              go_wp2_with fail
              go_meet
              exact ⟨by first | rfl | simp, hIX⟩
          case rest =>
            obtain ⟨hx, D8⟩ := hcut
            subst hx
            have D8' : Hid (Below wA.heap.size wA wc) := D7.out.trans (D8.out.mono D7.out.size)
            clear D8 hcel hu htt R7 BLK D7 a4 a4n a4m a5 a6 a7 a8 a9 i1 j1 j2 j3
            go_wp2_with fail
            go_meet
            exact D8'.out
        · have e0 : (rsE l == 0) = false := by simp [hq]
          clear hq g6
          go_wp2_with fail
          go_meet
          exact D6a.out
    case rest =>
      have D9 := hcut
      clear hcut D6 g6
      obtain ⟨wD, hwD⟩ : ∃ x, x = wc := ⟨_, rfl⟩
      subst hwD
      obtain ⟨⟨z0, z1, z2, z3, z4, z5⟩, zb5, hlc⟩ := hcl.out _ D9.out
      have J0 : Hid (∀ W, Below wA.heap.size wA W → In EFd W (.slice yb l0.length yc) l0) := fun W hb => (HZ0.out.2.2.2.2.2.2.2.below BA.out).below hb
      have kB : Hid (Below wD.heap.size wD (wD.alloc (.cells #[.string m0, .string s0, .string a0, .string p0, .slice yb l0.length yc, .string b0] 26))) := bel1 wD _
      have kB' : Hid ((wD.alloc (.cells #[.string m0, .string s0, .string a0, .string p0, .slice yb l0.length yc, .string b0] 26)).heap[wD.heap.size]? = some (.cells #[.string m0, .string s0, .string a0, .string p0, .slice yb l0.length yc, .string b0] 26)) := by show _ = _; rw [heap_al, if_pos rfl]
      have DB : Hid (Below wA.heap.size wA (wD.alloc (.cells #[.string m0, .string s0, .string a0, .string p0, .slice yb l0.length yc, .string b0] 26))) := D9.out.trans (kB.out.mono D9.out.size)
      have h15' : Hid (Calls Tryd.prog 15 #[.slice yb l0.length yc] (wD.alloc (.cells #[.string m0, .string s0, .string a0, .string p0, .slice yb l0.length yc, .string b0] 26)) fun e w' => FdPost l0 (wD.alloc (.cells #[.string m0, .string s0, .string a0, .string p0, .slice yb l0.length yc, .string b0] 26)) e w') := copied_any (yb, l0.length, yc) l0 _ (J0.out _ DB.out) (by have := HZ0.out.2.1; omega)
      clear zb5 h15 h14 h18
      go_wp2_with fail
      go_at_call 15
      refine h15'.out.mono ?_
      rintro e w10 ⟨⟨xb, xl, xc⟩, rfl, b10, r10, o10⟩
      have D10 : Hid (Below wA.heap.size wA w10) := DB.out.trans (b10.mono DB.out.size)
      have bl10 : w10.heap[wD.heap.size]? = some (.cells #[.string m0, .string s0, .string a0, .string p0, .slice yb l0.length yc, .string b0] 26) := (b10.block _ (heap_lt kB'.out)).trans kB'.out
      have hown : ∀ k, (Value.slice xb xl xc).ownBlock = some k → k ≠ wD.heap.size := fun k hk e => by
        have := o10 k hk
        rw [size_al] at this
        omega
      obtain ⟨w11, hw11⟩ : ∃ w11, w10.setCell ⟨wD.heap.size, 4, none⟩ (.slice xb xl xc) = w11 := ⟨_, rfl⟩
      have bl11 : w11.heap[wD.heap.size]? = some (.cells #[.string m0, .string s0, .string a0, .string p0, .slice xb xl xc, .string b0] 26) := by
        rw [← hw11, setCell_block _ _ _ _ _ _ _ bl10]
        simp only [List.setIfInBounds_toArray, List.set_cons_zero, List.set_cons_succ]
      have R11 : Hid (R EFd w11 (.slice xb xl xc) l0) := r10.stays fun k hk _ => by rw [← hw11]; exact setCell_other _ _ _ _ _ (hown k hk)
      have OX : Hid (∀ k, (Value.slice xb xl xc).ownBlock = some k → k ≠ w.heap.size) := fun k hk e => by
        have := o10 k hk
        rw [size_al] at this
        omega
      have B11 : Hid (Below wD.heap.size w10 w11) := by show Below _ _ _; rw [← hw11]; exact (Below.refl _ _).setCell (p := ⟨wD.heap.size, 4, none⟩) (Nat.le_refl _) _
      have D11 : Hid (Below wA.heap.size wA w11) := by
        have h1 := D9.out.size
        exact D10.out.trans (B11.out.mono h1)
      have f10 : w10.frozen? ⟨wD.heap.size, 4, none⟩ = false := frozen_blk bl10 4
      have c10 : w10.cell? ⟨wD.heap.size, 4, none⟩ = some (.slice yb l0.length yc) := cell_blk bl10 4
      have hl10 := heap_lt bl10
      have BL11 : Hid (w11.heap[wD.heap.size]? = some (.cells #[.string m0, .string s0, .string a0, .string p0, .slice xb xl xc, .string b0] 26)) := bl11
      obtain ⟨x0, x1, x2, x3, x4, x5⟩ : w11.cell? ⟨wD.heap.size, 0, none⟩ = some (.string m0) ∧ w11.cell? ⟨wD.heap.size, 1, none⟩ = some (.string s0) ∧ w11.cell? ⟨wD.heap.size, 2, none⟩ = some (.string a0) ∧ w11.cell? ⟨wD.heap.size, 3, none⟩ = some (.string p0) ∧ w11.cell? ⟨wD.heap.size, 4, none⟩ = some (.slice xb xl xc) ∧ w11.cell? ⟨wD.heap.size, 5, none⟩ = some (.string b0) := ⟨cell_blk bl11 0, cell_blk bl11 1, cell_blk bl11 2, cell_blk bl11 3, cell_blk bl11 4, cell_blk bl11 5⟩
      have h16 : Hid (Calls Tryd.prog 16 #[.agg #[.string m0, .string s0, .string a0, .string p0, .slice xb xl xc, .string b0]] w11 fun e w' => WqPost m0 s0 a0 p0 l0 w11 e w') := by
        obtain ⟨q1, q2, q3, q4, q5, q6, _, _⟩ := HZ0.out
        exact writeRequest_any m0 s0 a0 p0 b0 (xb, xl, xc) l0 w11 (R.isIn R11.out) q3 q4 q5 q6 q1 q2
      clear b10 r10 o10 bl10 hown bl11 kB kB' DB h15' z0 z1 z2 z3 z4 z5
      simp only [sv]
      go_wp2_with fail
      go_at_call 16
      refine h16.out.mono ?_
      rintro e w12 ⟨⟨ub, ul, uc⟩, rfl, b12, g12, n12⟩
      have D12 : Hid (Below wA.heap.size wA w12) := D11.out.trans (b12.mono D11.out.size)
      have R12 : Hid (rqE (wqL m0 s0 a0 p0 l0) = 0 → In EFd w12 (.slice ub ul uc) (wqL m0 s0 a0 p0 l0)) := fun h => (g12 h).1.isIn
      have X12 : Hid (R EFd w12 (.slice xb xl xc) l0) := R.below R11.out b12
      have BL12 : Hid (w12.heap[wD.heap.size]? = some (.cells #[.string m0, .string s0, .string a0, .string p0, .slice xb xl xc, .string b0] 26)) := (b12.block _ (heap_lt BL11.out)).trans BL11.out
      clear b12 g12 n12 x0 x1 x2 x3 x4 x5 f10 c10 hl10 h16 R11 BL11 D11 D10 B11 hw11
      obtain ⟨E, hE⟩ : ∃ E, rqE (wqL m0 s0 a0 p0 l0) = E := ⟨_, rfl⟩
      rw [hE] at R12 ⊢
      have HE : Hid (rqE (wqL m0 s0 a0 p0 l0) = E) := hE
      clear hE
      simp only [sv]
      go_upto_if 204 with fail
      go_cut [] from 24 (fun wx => Hid ((∃ b', wx.heap[w.heap.size]? = some (.cells #[.string m0, .string s0, .string a0, .string p0, .slice yb l0.length yc, .string b'] 26)) ∧ wx.heap[wD.heap.size]? = some (.cells #[.string m0, .string s0, .string a0, .string p0, .slice xb xl xc, .string b0] 26) ∧ In EFd wx (.slice xb xl xc) l0 ∧ In EFd wx (.slice yb l0.length yc) l0 ∧ Below w.heap.size w wx))
      case first =>
        obtain ⟨⟨z0, z1, z2, z3, z4, z5⟩, zb5, hlb⟩ := hcl.out _ D12.out
        by_cases hq : E = 0
        · have e0 : (E == 0) = true := by simp [hq]
          subst hq
          have hsz : SzOk (wqL m0 s0 a0 p0 l0) := by
            obtain ⟨q1, q2, q3, q4, q5, q6, _, _⟩ := HZ0.out
            exact wqL_sz q3 q4 q5 q6 q1 q2
          have h14 : Hid (Calls Tryd.prog 14 #[.slice ub ul uc] w12 fun e w' => RqPost (wqL m0 s0 a0 p0 l0) w12 e w') := readRequest_any (ub, ul, uc) _ w12 (R12.out rfl) fun f hf => (hsz.1 f hf).1
          clear hsz z0 z1 z2 z3 z4 z5 zb5 hlb
          go_wp2_with fail
          go_at_call 14
          refine h14.out.mono ?_
          rintro e w13 ⟨m6, s6, a6, p6, ⟨vb, vl, vc⟩, rfl, b13, g13, n13⟩
          clear n13
          obtain ⟨hv6, _, r6, o6⟩ := g13 HE.out
          rw [vals_wq] at hv6
          simp only [Option.some.injEq, List.cons.injEq, and_true] at hv6
          obtain ⟨rfl, rfl, rfl, rfl⟩ := hv6
          rw [HE.out]
          have D13 : Hid (Below wA.heap.size wA w13) := D12.out.trans (b13.mono D12.out.size)
          have V13 : Hid (R EFd w13 (.slice vb vl vc) l0 ∧ ∀ k, (Value.slice vb vl vc).ownBlock = some k → k ≠ w.heap.size) := ⟨r6, fun k hk e => by have h := o6 k hk; have := heap_lt (hcl.out _ D12.out).2.1; omega⟩
          have X13 : Hid (R EFd w13 (.slice xb xl xc) l0) := R.below X12.out b13
          have BL13 : Hid (w13.heap[wD.heap.size]? = some (.cells #[.string m0, .string s0, .string a0, .string p0, .slice xb xl xc, .string b0] 26)) := (b13.block _ (heap_lt BL12.out)).trans BL12.out
          obtain ⟨⟨z0, z1, z2, z3, z4, z5⟩, zb5, hlb⟩ := hcl.out _ D13.out
          have f13 : w13.frozen? ⟨w.heap.size, 5, none⟩ = false := frozen_blk zb5 5
          have ZB : Hid (w13.heap[w.heap.size]? = some (.cells #[.string m0, .string s0, .string a0, .string p0, .slice yb l0.length yc, .string b0] 26)) := zb5
          clear b13 g13 r6 o6 zb5 h14 R12 X12 BL12
          simp only [sv, rqv]
          obtain ⟨wS, hwS⟩ : ∃ wS, w13.setCell ⟨w.heap.size, 5, none⟩ (.string ⟨#[]⟩) = wS := ⟨_, rfl⟩
          have BS : Below w.heap.size w13 wS := by rw [← hwS]; exact (Below.refl _ _).setCell (p := ⟨w.heap.size, 5, none⟩) (Nat.le_refl _) _
          have bw13 : Below w.heap.size w w13 := BA.out.trans (D13.out.mono BA.out.size)
          have bwS : Below w.heap.size w wS := bw13.trans BS
          have hlcS : w.heap.size ≠ wD.heap.size := by have := heap_lt (hcl.out _ D9.out).2.1; omega
          have sS : wS.heap.size = w13.heap.size := by rw [← hwS]; simp [World.setCell]
          have ZS : wS.heap[w.heap.size]? = some (.cells #[.string m0, .string s0, .string a0, .string p0, .slice yb l0.length yc, .string ⟨#[]⟩] 26) := by
            rw [← hwS, setCell_block _ _ _ _ _ _ _ ZB.out]
            simp only [List.setIfInBounds_toArray, List.set_cons_zero, List.set_cons_succ]
          have BLS : wS.heap[wD.heap.size]? = some (.cells #[.string m0, .string s0, .string a0, .string p0, .slice xb xl xc, .string b0] 26) := by rw [← hwS, setCell_other _ _ _ _ _ hlcS.symm]; exact BL13.out
          have XS : R EFd wS (.slice xb xl xc) l0 := R.stays X13.out fun k hk _ => by rw [← hwS]; exact setCell_other _ _ _ _ _ (OX.out k hk)
          have VS : R EFd wS (.slice vb vl vc) l0 := R.stays V13.out.1 fun k hk _ => by rw [← hwS]; exact setCell_other _ _ _ _ _ (V13.out.2 k hk)
          have JS : In EFd wS (.slice yb l0.length yc) l0 := HZ0.out.2.2.2.2.2.2.2.below bwS
          have HK : Hid (∀ W, Below wS.heap.size wS W → ((∃ b', W.heap[w.heap.size]? = some (.cells #[.string m0, .string s0, .string a0, .string p0, .slice yb l0.length yc, .string b'] 26)) ∧ W.heap[wD.heap.size]? = some (.cells #[.string m0, .string s0, .string a0, .string p0, .slice xb xl xc, .string b0] 26) ∧ In EFd W (.slice xb xl xc) l0 ∧ In EFd W (.slice yb l0.length yc) l0 ∧ Below w.heap.size w W)) := fun W hb => ⟨⟨_, (hb.block _ (heap_lt ZS)).trans ZS⟩, (hb.block _ (heap_lt BLS)).trans BLS, (XS.below hb).isIn, JS.below hb, bwS.trans (hb.mono bwS.size)⟩
          have h19 : Hid (Calls Tryd.prog 19 #[.agg #[.string m0, .string s0, .string a0, .string p0, .slice vb vl vc, .string ⟨#[]⟩], .agg #[.string m0, .string s0, .string a0, .string p0, .slice yb l0.length yc, .string ⟨#[]⟩]] (wS.alloc (.cells #[.string m0, .string s0, .string a0, .string p0, .slice vb vl vc, .string ⟨#[]⟩] 26)) fun e w' => e = .returned (.bool true) ∧ Hid (Below wS.heap.size wS w')) := by
            have kS := bel1 wS (.cells #[.string m0, .string s0, .string a0, .string p0, .slice vb vl vc, .string ⟨#[]⟩] 26)
            refine (sameRq m0 s0 a0 p0 ⟨#[]⟩ (vb, vl, vc) (yb, l0.length, yc) l0 _ ((VS.below kS).isIn) (JS.below kS)).mono ?_
            rintro e w' ⟨rfl, h⟩
            exact ⟨rfl, kS.trans (h.mono kS.size)⟩
          have hl13 : w.heap.size < w13.heap.size := hlb
          rw [← hwS] at h19
          have HWS : Hid (w13.setCell ⟨w.heap.size, 5, none⟩ (.string ⟨#[]⟩) = wS) := hwS
          clear BS bw13 bwS hlcS sS ZS BLS XS VS JS V13 X13 BL13 ZB hwS
          go_wp2_with fail
          go_at_call 19
          refine h19.out.mono ?_
          rintro e w15 ⟨rfl, b15⟩
          have KK := HK.out _ (by rw [← HWS.out]; exact b15.out)
          replace KK : Hid _ := KK
          clear b15
          go_wp2_with fail
          go_meet
          exact KK.out
        · have e0 : (E == 0) = false := by simp [hq]
          clear hq
          go_wp2_with fail
          go_meet
          exact ⟨⟨_, zb5⟩, BL12.out, R.isIn X12.out, J0.out _ D12.out, BA.out.trans (D12.out.mono BA.out.size)⟩
      case rest =>
        obtain ⟨⟨b', Z14⟩, O14, X14, J14, B14⟩ := hcut.out
        clear hcut D12 X12 BL12 R12 HE OX D9 HIl hcl J0
        have hl1 := heap_lt Z14
        have hl2 := heap_lt O14
        have c14 : wc.cell? ⟨wD.heap.size, 4, none⟩ = some (.slice xb xl xc) := cell_blk O14 4
        have h20 : Hid (Calls Tryd.prog 20 #[.agg #[.int .i64 n, .slice xb xl xc, .string ⟨#[]⟩]] wc fun e w' => WsPost n l0 wc e w') := writeResponse_any n h0 h1 (xb, xl, xc) ⟨#[]⟩ l0 wc (HZ0.out.2.2.2.2.2.2.1.below B14) X14 (fun f hf => (HZ0.out.1.1 f hf).1) (by have := HZ0.out.2.1; omega)
        have Z14' : Hid (wc.heap[w.heap.size]? = some (.cells #[.string m0, .string s0, .string a0, .string p0, .slice yb l0.length yc, .string b'] 26)) := Z14
        have J14' : Hid (In EFd wc (.slice yb l0.length yc) l0) := J14
        have B14' : Hid (Below w.heap.size w wc) := B14
        have SZ : Hid (SzOk (wrL n l0)) := wrL_sz h0 h1 HZ0.out.1 (by have := HZ0.out.2.1; omega)
        clear Z14 O14 X14 J14 B14
        go_wp2_with fail
        go_at_call 20
        refine h20.out.mono ?_
        rintro e w15 ⟨⟨ub, ul, uc⟩, rfl, b15, g15, n15⟩
        have R15 : Hid (rsE (wrL n l0) = 0 → In EFd w15 (.slice ub ul uc) (wrL n l0)) := fun h => (g15 h).1.isIn
        have N15 : Hid (rsE (wrL n l0) ≠ 0 → (ub, ul, uc) = (none, 0, 0)) := n15
        have Z15 : Hid (w15.heap[w.heap.size]? = some (.cells #[.string m0, .string s0, .string a0, .string p0, .slice yb l0.length yc, .string b'] 26)) := (b15.block _ (heap_lt Z14'.out)).trans Z14'.out
        have J15 : Hid (In EFd w15 (.slice yb l0.length yc) l0) := J14'.out.below b15
        have B15 : Hid (Below w.heap.size w w15) := B14'.out.trans (b15.mono B14'.out.size)
        clear b15 g15 n15 h20 c14 Z14' J14' B14' hl1 hl2
        simp only [sv]
        by_cases hq : rsE (wrL n l0) = 0
        · have hin := R15.out hq
          obtain ⟨_, _, _, _, v, hv, hst⟩ := rs_right hq
          rw [vals_wr] at hv
          simp only [Option.some.injEq, List.cons.injEq, and_true] at hv
          have hnum : Hid (numL (itoaS n).data.toList = n) := num_itoa (by rw [hv]; exact hst)
          have h18 : Hid (Calls Tryd.prog 18 #[.slice ub ul uc] w15 fun e w' => RsPost (wrL n l0) w15 e w') := readResponse_any (ub, ul, uc) _ w15 hin fun f hf => (SZ.out.1 f hf).1
          have HQ : Hid (rsE (wrL n l0) = 0) := hq
          rw [hq]
          clear hin hv hst hq
          go_wp2_with fail
          go_at_call 18
          refine h18.out.mono ?_
          rintro e w16 ⟨n6, ⟨vb, vl, vc⟩, rfl, b16, g16, n16⟩
          clear n16
          obtain ⟨⟨v, hv, _, hn6⟩, r16, _⟩ := g16 HQ.out
          rw [vals_wr] at hv
          simp only [Option.some.injEq, List.cons.injEq, and_true] at hv
          subst hv
          rw [hnum.out] at hn6
          subst hn6
          rw [HQ.out]
          have V16 : Hid (In EFd w16 (.slice vb vl vc) l0) := r16.isIn
          have J16 : Hid (In EFd w16 (.slice yb l0.length yc) l0) := J15.out.below b16
          have Z16 : w16.heap[w.heap.size]? = some (.cells #[.string m0, .string s0, .string a0, .string p0, .slice yb l0.length yc, .string b'] 26) := (b16.block _ (heap_lt Z15.out)).trans Z15.out
          have B16 : Hid (Below w.heap.size w w16) := B15.out.trans (b16.mono B15.out.size)
          have hl1 := heap_lt Z16
          have c16 : w16.cell? ⟨w.heap.size, 4, none⟩ = some (.slice yb l0.length yc) := cell_blk Z16 4
          have h17 : Hid (∀ o, Calls Tryd.prog 17 #[.slice vb vl vc, .slice yb l0.length yc] (w16.alloc o) fun e w' => e = .returned (.bool true) ∧ Hid (Below w.heap.size w w')) := fun o => by
            have kS := bel1 w16 o
            refine (same_eq (vb, vl, vc) (yb, l0.length, yc) l0 _ (V16.out.below kS) (J16.out.below kS)).mono ?_
            rintro e w' ⟨rfl, h⟩
            have := B16.out.trans (kS.mono B16.out.size)
            exact ⟨rfl, this.trans (h.mono this.size)⟩
          clear b16 g16 r16 Z16 h18 V16 J16 hnum HQ
          simp only [sv, rsv]
          go_wp2_with fail
          go_at_call 17
          refine (h17.out _).mono ?_
          rintro e w17 ⟨rfl, b17⟩
          go_wp2_with fail
          go_ret
          exact ⟨by first | rfl | simp, b17.out⟩
        · have hy := N15.out hq
          simp only [Prod.mk.injEq] at hy
          obtain ⟨rfl, rfl, rfl⟩ := hy
          obtain ⟨E2, hE2⟩ : ∃ E, rsE (wrL n l0) = E := ⟨_, rfl⟩
          rw [hE2] at hq ⊢
          have e0 : (E2 != 0) = true := by simp [hq]
          clear hq hE2 R15 N15
          go_wp2_with fail
          go_ret
          exact ⟨by first | rfl | simp, B15.out⟩
end Go.Proofs.YtcgfgjhhmbfmdaaDoor
