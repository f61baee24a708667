/- the law's head. -/
import Derived.Test.YtcadlpmopplkeaaDoorFq
namespace Go.Proofs.YtcadlpmopplkeaaDoor
open Go.RowKit Go.Maps
open Go.Shelf
set_option linter.unusedVariables false
set_option linter.unusedSimpArgs false

abbrev slS : ByteArray := ⟨#[47]⟩
abbrev hiS : ByteArray := ⟨#[104, 105]⟩
abbrev newS : ByteArray := ⟨#[110, 101, 119]⟩
abbrev sxS : ByteArray := ⟨#[47, 120]⟩
/-- after the Put -/
def hdF (y : SV) : Fm := (Fk [(⟨aTest, slS, 200, e0S, y⟩, [⟨e0S, hiS⟩])]).put (aTest, slS) ⟨2, 200, e0S, [⟨e0S, newS⟩]⟩
theorem hd_has (y : SV) : ((atE (hdF y (aTest, slS)) 2).isSome && ivB 2 2) = true := by kernel_rfl
theorem hd_not (y : SV) : ((atE (hdF y (aTest, sxS)) 2).isSome && ivB 2 2) = false := by kernel_rfl
theorem hd_1n (y : SV) : anN (atE (hdF y (aTest, slS)) 1) getS = 200 := by kernel_rfl
theorem hd_1b (y : SV) : anBd (atE (hdF y (aTest, slS)) 1) getS [] = hiS := by kernel_rfl
theorem hd_2b (y : SV) : anBd (atE (hdF y (aTest, slS)) 2) getS [] = newS := by kernel_rfl
theorem hd_2l (y : SV) : anL (atE (hdF y (aTest, slS)) 2) getS [] = [szF 3] := by kernel_rfl
theorem hd_3 : itoaS 3 = ⟨#[51]⟩ := by kernel_rfl
theorem hd_p1 (y : SV) : pgB ⟨aTest, slS, 200, e0S, y⟩ [⟨e0S, hiS⟩] = true := by kernel_rfl
theorem hd_p2 (y : SV) : pgB ⟨aTest, slS, 200, e0S, y⟩ [⟨e0S, newS⟩] = true := by kernel_rfl
theorem tz_ts : tz (aTest, slS) := ⟨by decide, by decide⟩
theorem tz_tx : tz (aTest, sxS) := ⟨by decide, by decide⟩
theorem get_lit (w : World) : Calls Tryd.prog 12 #[.string ⟨#[47]⟩, .slice none 0 0] w fun e w' => e = .returned (.agg (rqv getS httpsS aTest slS (.slice none 0 0) e0S)) ∧ Below w.heap.size w w' := get_any slS (none, 0, 0) w
set_option maxHeartbeats 8000000 in
set_option maxRecDepth 100000 in
theorem head_any (w : World) (ht : Tab w) : Calls Tryd.prog 8 #[] w fun e w' => e = .returned (.bool true) ∧ Below w.heap.size w w' := by
  have HT : Hid (Tab w) := ht
  have C1 : Hid (Calls Tryd.prog 13 #[.string ⟨#[47]⟩, .string ⟨#[104, 105]⟩] w fun e w' => ∃ y : SV, e = .returned (.agg (pgv ⟨aTest, slS, 200, e0S, y⟩)) ∧ Below w.heap.size w w' ∧ R ECh w' (sv y) [⟨e0S, hiS⟩] ∧ ∀ k, (sv y).ownBlock = some k → w.heap.size ≤ k) := page_any slS hiS w
  have C2 : Hid (∀ V, Calls Tryd.prog 13 #[.string ⟨#[47]⟩, .string ⟨#[110, 101, 119]⟩] V fun e w' => ∃ y : SV, e = .returned (.agg (pgv ⟨aTest, slS, 200, e0S, y⟩)) ∧ Below V.heap.size V w' ∧ R ECh w' (sv y) [⟨e0S, newS⟩] ∧ ∀ k, (sv y).ownBlock = some k → V.heap.size ≤ k) := fun V => page_any slS newS V
  clear ht
  go_enter Tryd.func8, Tryd.ntmps8
  go_wp2_with fail
  go_at_call 13
  refine C1.out.mono ?_
  rintro e w1 ⟨y, rfl, hb1, hR1, _⟩
  have HB1 : Hid (Below w.heap.size w w1) := hb1
  have CN : Hid (Calls Tryd.prog 10 #[.slice (some ⟨w1.heap.size, 0, none⟩) 1 1] (w1.alloc (.cells (pgv ⟨aTest, slS, 200, e0S, y⟩) 26)) fun e w' => Below w1.heap.size w1 w' ∧ ∃ g, w1.heap.size ≤ g ∧ e = .returned (.tuple #[.pointer (some ⟨g, 0, none⟩), .int .i64 0]) ∧ Sx w' (w1.heap.size + 1) g 1 1 (Fk [(⟨aTest, slS, 200, e0S, y⟩, [⟨e0S, hiS⟩])]) [(aTest, slS)]) := new_one _ _ hR1 (hd_p1 y)
  clear hb1 hR1 C1
  obtain ⟨F1, hF1⟩ : ∃ F1, Fk [(⟨aTest, slS, 200, e0S, y⟩, [⟨e0S, hiS⟩])] = F1 := ⟨_, rfl⟩
  have HF1 : Hid (F1.put (aTest, slS) ⟨2, 200, e0S, [⟨e0S, newS⟩]⟩ = hdF y) := by rw [← hF1]; rfl
  rw [hF1] at CN
  clear hF1
  unfold pgv at CN ⊢
  obtain ⟨yb, yl, yc⟩ := y
  simp only [sv, aTest, e0S] at CN ⊢
  go_wp2_with fail
  go_at_call 10
  refine CN.out.mono ?_
  rintro e w2 ⟨hb2, g, hg, rfl, hS⟩
  have HB2 : Hid (Below w.heap.size w w2) := HB1.out.trans (hb2.mono HB1.out.size)
  have HS : Hid (Sx w2 (w1.heap.size + 1) g 1 1 F1 [(aTest, slS)]) := hS
  have HLO : Hid (w.heap.size ≤ w1.heap.size + 1 ∧ w1.heap.size + 1 ≤ w2.heap.size) := ⟨by have := HB1.out.size; omega, by have := hS.lt; omega⟩
  have CV : Hid (Calls Tryd.prog 15 #[.pointer (some ⟨g, 0, none⟩)] w2 fun e w' => e = .returned (.int .i64 1) ∧ w' = w2) := hS.version
  obtain ⟨lo, hlo⟩ : ∃ lo, lo = w1.heap.size + 1 := ⟨_, rfl⟩
  rw [← hlo] at HS HLO
  clear hb2 hg hS CN hlo HB1
  go_wp2_with fail
  go_at_call 15
  refine CV.out.mono ?_
  rintro e w3 ⟨rfl, hw3⟩
  subst hw3
  clear CV
  go_wp2_with fail
  go_at_call 13
  refine (C2.out _).mono ?_
  rintro e w4 ⟨y2, rfl, hb4, hR4, _⟩
  have HB4 : Hid (Below w.heap.size w w4) := HB2.out.trans (hb4.mono HB2.out.size)
  have CP : Hid (Calls Tryd.prog 14 #[.pointer (some ⟨g, 0, none⟩), .agg (pgv ⟨aTest, slS, 200, e0S, y2⟩)] w4 fun e w' => e = .returned (.int .i64 0) ∧ Below w.heap.size w w' ∧ ∃ K, Sx w' lo g 2 2 (hdF (yb, yl, yc)) K) := by
    refine ((HS.out.below hb4).put ⟨aTest, slS, 200, e0S, y2⟩ [⟨e0S, newS⟩] (Nat.le_trans HLO.out.2 hb4.size) (by omega) hR4.isIn ⟨tz_ts, (by decide : e0S.size ≤ 281474976710656)⟩ (fun c hc => by rw [List.mem_singleton.1 hc]; exact ⟨by decide, by decide⟩)).mono ?_
    rintro e w' ⟨hB, he⟩
    rcases he with ⟨q, _⟩ | ⟨_, q, _⟩ | ⟨_, _, q1, q2⟩
    · rw [hd_p2] at q; cases q
    · simp at q
    · simp only at q2
      refine ⟨q1, ?_, _, by rw [← HF1.out]; exact q2⟩
      exact HB4.out.trans (hB.1.mono HLO.out.1)
  clear hb4 hR4 C2 HS HF1
  unfold pgv at CP ⊢
  obtain ⟨zb, zl, zc⟩ := y2
  simp only [sv, aTest, e0S] at CP ⊢
  go_wp2_with fail
  go_at_call 14
  refine CP.out.mono ?_
  rintro e w5 ⟨rfl, hb5, K, hS5⟩
  have HB5 : Hid (Below w.heap.size w w5) := hb5
  have HS5 : Hid (Sx w5 lo g 2 2 (hdF (yb, yl, yc)) K) := hS5
  have CV : Hid (Calls Tryd.prog 15 #[.pointer (some ⟨g, 0, none⟩)] w5 fun e w' => e = .returned (.int .i64 2) ∧ w' = w5) := hS5.version
  clear hb5 hS5 CP HB4 HB2
  go_wp2_with fail
  go_at_call 15
  refine CV.out.mono ?_
  rintro e w6 ⟨rfl, hw6⟩
  subst hw6
  clear CV
  have CH : Hid (Calls Tryd.prog 16 #[.pointer (some ⟨g, 0, none⟩), .int .i64 2, .string ⟨#[97, 46, 116, 101, 115, 116]⟩, .string ⟨#[47]⟩] w6 fun e w' => e = .returned (.bool true) ∧ Below w6.heap.size w6 w') := by
    have h := HS5.out.has 2 aTest slS tz_ts
    rw [hd_has] at h
    exact h
  go_wp2_with fail
  go_at_call 16
  refine CH.out.mono ?_
  rintro e w7 ⟨rfl, hb7⟩
  have HB7 : Hid (Below w.heap.size w w7) := HB5.out.trans (hb7.mono HB5.out.size)
  have HS7 : Hid (Sx w7 lo g 2 2 (hdF (yb, yl, yc)) K) := HS5.out.below hb7
  clear hb7 CH HB5 HS5
  have CH : Hid (Calls Tryd.prog 16 #[.pointer (some ⟨g, 0, none⟩), .int .i64 2, .string ⟨#[97, 46, 116, 101, 115, 116]⟩, .string ⟨#[47, 120]⟩] w7 fun e w' => e = .returned (.bool false) ∧ Below w7.heap.size w7 w') := by
    have h := HS7.out.has 2 aTest sxS tz_tx
    rw [hd_not] at h
    exact h
  go_wp2_with fail
  go_at_call 16
  refine CH.out.mono ?_
  rintro e w8 ⟨rfl, hb8⟩
  have HB8 : Hid (Below w.heap.size w w8) := HB7.out.trans (hb8.mono HB7.out.size)
  have HS8 : Hid (Sx w8 lo g 2 2 (hdF (yb, yl, yc)) K) := HS7.out.below hb8
  clear hb8 CH HB7 HS7
  have HVX : Hid (∀ V v, Below w8.heap.size w8 V → Calls Tryd.prog 11 #[.pointer (some ⟨g, 0, none⟩), .int .i64 v, .agg (rqv getS httpsS aTest slS (.slice none 0 0) e0S)] V fun r w' => SvP 2 v (hdF (yb, yl, yc) (aTest, slS)) getS [] V r w') := fun V v hV => (HS8.out.below hV).serve v getS httpsS aTest slS (none, 0, 0) e0S [] (.inl ⟨rfl, rfl⟩) ((HT.out.below HB8.out).below hV) tz_ts
  clear HS8 HLO
  go_wp2_with fail
  go_at_call 12
  refine (get_lit _).mono ?_
  rintro e x1 ⟨rfl, hb⟩
  have BX1 : Hid (Below w8.heap.size w8 x1) := hb
  have C := HVX.out x1 1 hb
  have HC : Hid (Calls Tryd.prog 11 #[.pointer (some ⟨g, 0, none⟩), .int .i64 1, .agg (rqv getS httpsS aTest slS (.slice none 0 0) e0S)] x1 fun r w' => Below x1.heap.size x1 w' ∧ ∃ q : SV, r = .returned (.tuple #[.agg #[.int .i64 200, sv q, .string hiS], .int .i64 0])) := C.mono fun r w' ⟨h1, h2⟩ => ⟨h1, by
    rcases h2 with ⟨h2, _⟩ | ⟨_, u, rfl, q, rfl, _⟩
    · simp [ivB] at h2
    · rw [hd_1n, hd_1b]; exact ⟨q, rfl⟩⟩
  clear hb C
  unfold rqv at HC ⊢
  simp only [getS, httpsS, aTest, e0S] at HC ⊢
  go_wp2_with fail
  go_at_call 11
  refine HC.out.mono ?_
  rintro e x2 ⟨hb, q, rfl⟩
  obtain ⟨qb, ql, qc⟩ := q
  simp only [sv]
  obtain ⟨n1, hn1⟩ : ∃ n1, n1 = x2.heap.size := ⟨_, rfl⟩
  have HF1 : Hid ((x2.alloc (.cells #[.int .i64 200, .slice qb ql qc, .string hiS] 37)).heap[n1]? = some (.cells #[.int .i64 200, .slice qb ql qc, .string hiS] 37 (0, 0))) := by show _ = _; rw [hn1, heap_al, if_pos rfl]
  have BX2 : Hid (Below w8.heap.size w8 (x2.alloc (.cells #[.int .i64 200, .slice qb ql qc, .string hiS] 37))) := (BX1.out.trans (hb.mono BX1.out.size)).trans ((bel1 _ _).mono (Nat.le_trans BX1.out.size hb.size))
  clear hb HC BX1
  go_upto_region 7 with fail
  rw [← hn1]
  clear hn1
  obtain ⟨x3, hx3⟩ : ∃ x3, x3 = x2.alloc (.cells #[.int .i64 200, .slice qb ql qc, .string hiS] 37) := ⟨_, rfl⟩
  rw [← hx3] at HF1 BX2 ⊢
  clear hx3
  go_wp2_with fail
  go_at_call 12
  refine (get_lit _).mono ?_
  rintro e x4 ⟨rfl, hb⟩
  have BX4 : Hid (Below w8.heap.size w8 x4) := BX2.out.trans (hb.mono BX2.out.size)
  have HF4 : Hid (x4.heap[n1]? = some (.cells #[.int .i64 200, .slice qb ql qc, .string hiS] 37 (0, 0))) := (hb.block _ (heap_lt HF1.out)).trans HF1.out
  have C := HVX.out x4 2 BX4.out
  have HC : Hid (Calls Tryd.prog 11 #[.pointer (some ⟨g, 0, none⟩), .int .i64 2, .agg (rqv getS httpsS aTest slS (.slice none 0 0) e0S)] x4 fun r w' => Below x4.heap.size x4 w' ∧ ∃ q : SV, r = .returned (.tuple #[.agg #[.int .i64 200, sv q, .string newS], .int .i64 0]) ∧ R EFd w' (sv q) [szF 3]) := C.mono fun r w' ⟨h1, h2⟩ => ⟨h1, by
    rcases h2 with ⟨h2, _⟩ | ⟨_, u, rfl, q, rfl, h3, _⟩
    · simp [ivB] at h2
    · rw [hd_2b]; rw [hd_2l] at h3; exact ⟨q, by rw [show anN (atE (hdF (yb, yl, yc) (aTest, slS)) 2) getS = 200 by kernel_rfl]; rfl, h3⟩⟩
  clear hb C HF1 BX2
  unfold rqv at HC ⊢
  simp only [getS, httpsS, aTest, e0S] at HC ⊢
  go_wp2_with fail
  go_at_call 11
  refine HC.out.mono ?_
  rintro e x5 ⟨hb, q, rfl, hR⟩
  obtain ⟨b0, c0, e0, m1, m2⟩ := hR.slice
  obtain ⟨rb, rl, rc⟩ := q
  simp only [sv] at e0
  injection e0 with e1 e2 e3
  subst e1 e2 e3
  simp only [sv, List.length_singleton] at hR ⊢
  have BX5 : Hid (Below w8.heap.size w8 x5) := BX4.out.trans (hb.mono BX4.out.size)
  have HF5 : Hid (x5.heap[n1]? = some (.cells #[.int .i64 200, .slice qb ql qc, .string hiS] 37 (0, 0))) := (hb.block _ (heap_lt HF4.out)).trans HF4.out
  obtain ⟨x6, hx6⟩ : ∃ x6, x6 = x5.alloc (.cells #[.int .i64 200, .slice rb 1 rc, .string newS] 37) := ⟨_, rfl⟩
  obtain ⟨n2, hn2⟩ : ∃ n2, n2 = x5.heap.size := ⟨_, rfl⟩
  have HG6 : Hid (x6.heap[n2]? = some (.cells #[.int .i64 200, .slice rb 1 rc, .string newS] 37 (0, 0))) := by show _ = _; rw [hx6, hn2, heap_al, if_pos rfl]
  have BX6 : Hid (Below w8.heap.size w8 x6) := by rw [hx6]; exact BX5.out.trans ((bel1 _ _).mono BX5.out.size)
  have HF6 : Hid (x6.heap[n1]? = some (.cells #[.int .i64 200, .slice qb ql qc, .string hiS] 37 (0, 0))) := by rw [hx6]; exact ((bel1 _ _).block _ (heap_lt HF5.out)).trans HF5.out
  have HR6 : Hid (In EFd x6 (.slice rb 1 rc) [szF 3]) := by rw [hx6]; exact (hR.below (bel1 _ _)).isIn
  clear hb HC BX4 HF4 HF5 BX5 hR m1 m2
  go_upto_region 8 with fail
  rw [← hx6, ← hn2]
  clear hx6 hn2
  go_wp2_with fail
  go_at_call 12
  refine (get_lit _).mono ?_
  rintro e x7 ⟨rfl, hb⟩
  have BX7 : Hid (Below w8.heap.size w8 x7) := BX6.out.trans (hb.mono BX6.out.size)
  have HF7 : Hid (x7.heap[n1]? = some (.cells #[.int .i64 200, .slice qb ql qc, .string hiS] 37 (0, 0))) := (hb.block _ (heap_lt HF6.out)).trans HF6.out
  have HG7 : Hid (x7.heap[n2]? = some (.cells #[.int .i64 200, .slice rb 1 rc, .string newS] 37 (0, 0))) := (hb.block _ (heap_lt HG6.out)).trans HG6.out
  have HR7 : Hid (In EFd x7 (.slice rb 1 rc) [szF 3]) := HR6.out.below hb
  have C := HVX.out x7 3 BX7.out
  have HC : Hid (Calls Tryd.prog 11 #[.pointer (some ⟨g, 0, none⟩), .int .i64 3, .agg (rqv getS httpsS aTest slS (.slice none 0 0) e0S)] x7 fun r w' => Below x7.heap.size x7 w' ∧ r = .returned (.tuple #[.agg #[.int .i64 0, .slice none 0 0, .string ⟨#[]⟩], .int .i64 5])) := C.mono fun r w' ⟨h1, h2⟩ => ⟨h1, by
    rcases h2 with ⟨_, h2⟩ | ⟨h2, _⟩
    · exact h2
    · simp [ivB] at h2⟩
  clear hb C HF6 HG6 HR6 BX6
  unfold rqv at HC ⊢
  simp only [getS, httpsS, aTest, e0S] at HC ⊢
  go_wp2_with fail
  go_at_call 11
  refine HC.out.mono ?_
  rintro e x8 ⟨hb, rfl⟩
  obtain ⟨x9, hx9⟩ : ∃ x9, x9 = x8.alloc (.cells #[.int .i64 0, .slice none 0 0, .string ⟨#[]⟩] 37) := ⟨_, rfl⟩
  have hb9 : Below x7.heap.size x7 x9 := by rw [hx9]; exact hb.trans ((bel1 _ _).mono hb.size)
  have HBW : Hid (Below w.heap.size w x9) := HB8.out.trans ((BX7.out.trans (hb9.mono BX7.out.size)).mono HB8.out.size)
  have hF := (hb9.block _ (heap_lt HF7.out)).trans HF7.out
  have hG := (hb9.block _ (heap_lt HG7.out)).trans HG7.out
  have a0 := cell_blk hF 0
  have a2 := cell_blk hF 2
  have g1 := cell_blk hG 1
  have g2 := cell_blk hG 2
  obtain ⟨B, off, cap, ek, hBl, hc⟩ := HR7.out.get okFd 0 (by simp)
  injection ek with e1 e2 e3
  subst e1
  have i1 := (hb9.cell (p := ⟨B, off + 0 * 3 + 1, none⟩) hBl).trans (hc 1 (.string (itoaS 3)) rfl)
  rw [hd_3] at i1
  simp at a0 a2 g1 g2 i1
  clear hb hb9 hF hG HC HF7 HG7 HR7 BX7 hc hBl e2 e3
  go_upto_region 9 with fail
  rw [← hx9]
  clear hx9
  go_wp2_with fail
  go_ret
  exact ⟨rfl, HBW.out⟩
end Go.Proofs.YtcadlpmopplkeaaDoor
