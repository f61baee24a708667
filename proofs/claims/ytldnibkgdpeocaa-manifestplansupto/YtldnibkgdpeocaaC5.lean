/- first: the document's first example. -/
import Derived.Test.YtldnibkgdpeocaaC4
namespace Go.Proofs.Ytldnibkgdpeocaa
open Go.RowKit Go.Maps
open Go.Shelf
set_option linter.unusedVariables false
set_option linter.unusedSimpArgs false

theorem at' (p : ByteArray) (w : World) : Calls Try.prog 19 #[.string p] w fun e w' => e = .returned (.agg #[.string ⟨#[97]⟩, .string p]) ∧ Below w.heap.size w w' := at_any p w
set_option maxHeartbeats 16000000 in
set_option maxRecDepth 100000 in
theorem first_any (w : World) : Calls Try.prog 10 #[] w fun e w' => e = .returned (.bool true) ∧ Below w.heap.size w w' := by
  go_enter Try.func10, Try.ntmps10
  go_wp2_with fail
  go_at_call 19
  refine (at' _ _).mono ?_
  rintro e w1 ⟨rfl, hb⟩
  have Bw1 : Hid (Below w.heap.size w w1) := (Below.refl w.heap.size w).trans (hb.mono (Below.refl w.heap.size w).size)
  clear hb
  go_wp2_with fail
  go_at_call 19
  refine (at' _ _).mono ?_
  rintro e w2 ⟨rfl, hb⟩
  have Bw2 : Hid (Below w.heap.size w w2) := Bw1.out.trans (hb.mono Bw1.out.size)
  clear hb
  go_wp2_with fail
  go_at_call 19
  refine (at' _ _).mono ?_
  rintro e w3 ⟨rfl, hb⟩
  have Bw3 : Hid (Below w.heap.size w w3) := Bw2.out.trans (hb.mono Bw2.out.size)
  clear hb
  obtain ⟨n1, hn1⟩ : ∃ n1, n1 = w3.heap.size := ⟨_, rfl⟩
  obtain ⟨V3, hV3⟩ : ∃ V3, V3 = w3.alloc (.cells #[.string ⟨#[97]⟩, .string ⟨#[47, 121]⟩, .string ⟨#[97]⟩, .string ⟨#[47, 122]⟩] 26) := ⟨_, rfl⟩
  have F1 : Hid (V3.heap[n1]? = some (.cells #[.string ⟨#[97]⟩, .string ⟨#[47, 121]⟩, .string ⟨#[97]⟩, .string ⟨#[47, 122]⟩] 26 (0, 0))) := by show _ = _; rw [hV3, hn1, heap_al, if_pos rfl]
  have BV3 : Hid (Below w.heap.size w V3) := by rw [hV3]; exact Bw3.out.trans ((bel1 _ _).mono Bw3.out.size)
  go_wp2_with (refine wpList_build_run _ rfl 27 2 _ rfl #[(0, .agg #[.string ⟨#[97]⟩, .string ⟨#[47, 121]⟩]), (1, .agg #[.string ⟨#[97]⟩, .string ⟨#[47, 122]⟩])] (by rfl) _ _ (build2 _ _ _ _ _) ?_)
  rw [← hV3, ← hn1]
  clear hV3 hn1
  go_at_call 19
  refine (at' _ _).mono ?_
  rintro e w4 ⟨rfl, hb⟩
  have Bw4 : Hid (Below w.heap.size w w4) := BV3.out.trans (hb.mono BV3.out.size)
  replace F1 : Hid (w4.heap[n1]? = some (.cells #[.string ⟨#[97]⟩, .string ⟨#[47, 121]⟩, .string ⟨#[97]⟩, .string ⟨#[47, 122]⟩] 26 (0, 0))) := (hb.block _ (heap_lt F1.out)).trans F1.out
  clear hb
  go_wp2_with fail
  go_at_call 19
  refine (at' _ _).mono ?_
  rintro e w5 ⟨rfl, hb⟩
  have Bw5 : Hid (Below w.heap.size w w5) := Bw4.out.trans (hb.mono Bw4.out.size)
  replace F1 : Hid (w5.heap[n1]? = some (.cells #[.string ⟨#[97]⟩, .string ⟨#[47, 121]⟩, .string ⟨#[97]⟩, .string ⟨#[47, 122]⟩] 26 (0, 0))) := (hb.block _ (heap_lt F1.out)).trans F1.out
  clear hb
  obtain ⟨n2, hn2⟩ : ∃ n2, n2 = w5.heap.size := ⟨_, rfl⟩
  obtain ⟨V5, hV5⟩ : ∃ V5, V5 = w5.alloc (.cells #[.string ⟨#[97]⟩, .string ⟨#[47, 117]⟩] 26) := ⟨_, rfl⟩
  have F2 : Hid (V5.heap[n2]? = some (.cells #[.string ⟨#[97]⟩, .string ⟨#[47, 117]⟩] 26 (0, 0))) := by show _ = _; rw [hV5, hn2, heap_al, if_pos rfl]
  have BV5 : Hid (Below w.heap.size w V5) := by rw [hV5]; exact Bw5.out.trans ((bel1 _ _).mono Bw5.out.size)
  replace F1 : Hid (V5.heap[n1]? = some (.cells #[.string ⟨#[97]⟩, .string ⟨#[47, 121]⟩, .string ⟨#[97]⟩, .string ⟨#[47, 122]⟩] 26 (0, 0))) := by show _ = _; rw [hV5]; exact ((bel1 _ _).block _ (heap_lt F1.out)).trans F1.out
  go_wp2_with fail
  rw [← hV5, ← hn2]
  clear hV5 hn2
  go_at_call 19
  refine (at' _ _).mono ?_
  rintro e w6 ⟨rfl, hb⟩
  have Bw6 : Hid (Below w.heap.size w w6) := BV5.out.trans (hb.mono BV5.out.size)
  replace F1 : Hid (w6.heap[n1]? = some (.cells #[.string ⟨#[97]⟩, .string ⟨#[47, 121]⟩, .string ⟨#[97]⟩, .string ⟨#[47, 122]⟩] 26 (0, 0))) := (hb.block _ (heap_lt F1.out)).trans F1.out
  replace F2 : Hid (w6.heap[n2]? = some (.cells #[.string ⟨#[97]⟩, .string ⟨#[47, 117]⟩] 26 (0, 0))) := (hb.block _ (heap_lt F2.out)).trans F2.out
  clear hb
  go_wp2_with fail
  go_at_call 19
  refine (at' _ _).mono ?_
  rintro e w7 ⟨rfl, hb⟩
  have Bw7 : Hid (Below w.heap.size w w7) := Bw6.out.trans (hb.mono Bw6.out.size)
  replace F1 : Hid (w7.heap[n1]? = some (.cells #[.string ⟨#[97]⟩, .string ⟨#[47, 121]⟩, .string ⟨#[97]⟩, .string ⟨#[47, 122]⟩] 26 (0, 0))) := (hb.block _ (heap_lt F1.out)).trans F1.out
  replace F2 : Hid (w7.heap[n2]? = some (.cells #[.string ⟨#[97]⟩, .string ⟨#[47, 117]⟩] 26 (0, 0))) := (hb.block _ (heap_lt F2.out)).trans F2.out
  clear hb
  go_wp2_with fail
  go_at_call 19
  refine (at' _ _).mono ?_
  rintro e w8 ⟨rfl, hb⟩
  have Bw8 : Hid (Below w.heap.size w w8) := Bw7.out.trans (hb.mono Bw7.out.size)
  replace F1 : Hid (w8.heap[n1]? = some (.cells #[.string ⟨#[97]⟩, .string ⟨#[47, 121]⟩, .string ⟨#[97]⟩, .string ⟨#[47, 122]⟩] 26 (0, 0))) := (hb.block _ (heap_lt F1.out)).trans F1.out
  replace F2 : Hid (w8.heap[n2]? = some (.cells #[.string ⟨#[97]⟩, .string ⟨#[47, 117]⟩] 26 (0, 0))) := (hb.block _ (heap_lt F2.out)).trans F2.out
  clear hb
  obtain ⟨V9, hV9⟩ : ∃ V9, V9 = (w8.alloc (.cells #[.string ⟨#[97]⟩, .string ⟨#[47, 120]⟩, .string ⟨#[97]⟩, .string ⟨#[47, 122]⟩] 26)).alloc (.cells #[.string ⟨#[97]⟩, .string ⟨#[47, 120]⟩, .slice (some ⟨n1, 0, none⟩) 2 2, .string ⟨#[97]⟩, .string ⟨#[47, 121]⟩, .slice (some ⟨n2, 0, none⟩) 1 1, .string ⟨#[97]⟩, .string ⟨#[47, 117]⟩, .slice (some ⟨w8.heap.size, 0, none⟩) 2 2] 29) := ⟨_, rfl⟩
  have hb9 : Below w8.heap.size w8 V9 := by rw [hV9]; exact bel2 _ _ _
  have BV9 : Hid (Below w.heap.size w V9) := Bw8.out.trans (hb9.mono Bw8.out.size)
  have G1 : V9.heap[n1]? = some (.cells #[.string ⟨#[97]⟩, .string ⟨#[47, 121]⟩, .string ⟨#[97]⟩, .string ⟨#[47, 122]⟩] 26 (0, 0)) := (hb9.block _ (heap_lt F1.out)).trans F1.out
  have G2 : V9.heap[n2]? = some (.cells #[.string ⟨#[97]⟩, .string ⟨#[47, 117]⟩] 26 (0, 0)) := (hb9.block _ (heap_lt F2.out)).trans F2.out
  have G3 : V9.heap[w8.heap.size]? = some (.cells #[.string ⟨#[97]⟩, .string ⟨#[47, 120]⟩, .string ⟨#[97]⟩, .string ⟨#[47, 122]⟩] 26 (0, 0)) := by rw [hV9, heap_al, if_neg (by simp), heap_al, if_pos rfl]
  have G4 : V9.heap[w8.heap.size + 1]? = some (.cells #[.string ⟨#[97]⟩, .string ⟨#[47, 120]⟩, .slice (some ⟨n1, 0, none⟩) 2 2, .string ⟨#[97]⟩, .string ⟨#[47, 121]⟩, .slice (some ⟨n2, 0, none⟩) 1 1, .string ⟨#[97]⟩, .string ⟨#[47, 117]⟩, .slice (some ⟨w8.heap.size, 0, none⟩) 2 2] 29 (0, 0)) := by rw [hV9]; exact fresh2 _ _ _
  have HOF : Hid (Calls Try.prog 8 #[.slice (some ⟨w8.heap.size + 1, 0, none⟩) 3 3] V9 fun e w' => OfPost (rs0 n1 n2 w8.heap.size) V9 e w') := of_any (some ⟨w8.heap.size + 1, 0, none⟩, 3, 3) (rs0 n1 n2 w8.heap.size) V9 (in_whole (E := ER) (rs0 n1 n2 w8.heap.size) (by simp [rs0]) G4 rfl) (fun r hr => by
    simp only [rs0, List.mem_cons, List.not_mem_nil, or_false] at hr
    rcases hr with rfl | rfl | rfl
    · exact in_whole (E := ET) [(aS, yS), (aS, zS)] (by simp) G1 rfl
    · exact in_whole (E := ET) [(aS, uS)] (by simp) G2 rfl
    · exact in_whole (E := ET) [(aS, xS), (aS, zS)] (by simp) G3 rfl)
  clear G1 G2 G3 G4 hb9 F1 F2
  go_wp2_with (first | (refine wpList_build_run _ rfl 27 2 _ rfl #[(0, .agg #[.string ⟨#[97]⟩, .string ⟨#[47, 120]⟩]), (1, .agg #[.string ⟨#[97]⟩, .string ⟨#[47, 122]⟩])] (by rfl) _ _ (build2 _ _ _ _ _) ?_) | (refine wpList_build_run _ rfl 23 3 _ rfl #[(0, .agg #[.string ⟨#[97]⟩, .string ⟨#[47, 120]⟩, .slice (some ⟨n1, 0, none⟩) 2 2]), (1, .agg #[.string ⟨#[97]⟩, .string ⟨#[47, 121]⟩, .slice (some ⟨n2, 0, none⟩) 1 1]), (2, .agg #[.string ⟨#[97]⟩, .string ⟨#[47, 117]⟩, .slice (some ⟨w8.heap.size, 0, none⟩) 2 2])] (by rfl) _ _ (build3R _ _ _ _ _ _ _ _ _ _ _ _ _ _ _ _) ?_))
  rw [← hV9]
  clear hV9
  go_at_call 8
  refine HOF.out.mono ?_
  rintro e wa ⟨hba, hcase⟩
  have Bwa : Hid (Below w.heap.size w wa) := BV9.out.trans (hba.mono BV9.out.size)
  obtain ⟨g, he, hMn⟩ : ∃ g, e = .returned (.tuple #[.pointer (some ⟨g, 0, none⟩), .int .i64 0]) ∧ Mn V9 wa g ((rs0 n1 n2 w8.heap.size).map puR) := by
    rcases hcase with ⟨h, _⟩ | ⟨_, h⟩
    · exact absurd (of0 _ _ _) h
    · exact h
  subst he
  have HM : Hid (MM wa V9.heap.size wa.heap.size g ps0) := MM.of hMn
  clear hba hcase hMn HOF
  go_wp2_with fail
  go_at_call 19
  refine (at' _ _).mono ?_
  rintro e wb ⟨rfl, hb⟩
  have Bwb : Hid (Below w.heap.size w wb) := Bwa.out.trans (hb.mono Bwa.out.size)
  have Mwb : Hid (MM wb V9.heap.size wa.heap.size g ps0) := HM.out.below hb
  clear hb
  have HP : Hid (Calls Try.prog 12 #[.pointer (some ⟨g, 0, none⟩), .agg #[.string ⟨#[97]⟩, .string ⟨#[47, 120]⟩], .int .i64 8] wb fun e w' => PlPost [(aS, yS), (aS, uS), (aS, zS)] wb e w') := by have := Mwb.out.plan (aS, ⟨#[47, 120]⟩) (tz0 _ (by decide)) 8; rw [show plan (nmP ps0) (aS, ⟨#[47, 120]⟩) 8 = [(aS, yS), (aS, uS), (aS, zS)] from plan0] at this; exact this
  go_wp2_with fail
  go_at_call 12
  refine HP.out.mono ?_
  rintro e wc ⟨⟨ybwc, ylwc, ycwc⟩, rfl, hR, hb, hnew⟩
  have Bwc : Hid (Below w.heap.size w wc) := Bwb.out.trans (hb.mono Bwb.out.size)
  have Mwc : Hid (MM wc V9.heap.size wa.heap.size g ps0) := Mwb.out.below hb
  have Rwc : Hid (R ET wc (sv (ybwc, ylwc, ycwc)) [(aS, yS), (aS, uS), (aS, zS)]) := hR
  obtain ⟨b0, c0, e0, _, _⟩ := hR.slice
  simp only [sv] at e0
  injection e0 with e1 e2 e3
  subst e1 e2 e3
  clear hb hR hnew HP
  simp only [sv] at Rwc ⊢
  go_wp2_with fail
  go_at_call 19
  refine (at' _ _).mono ?_
  rintro e wd ⟨rfl, hb⟩
  have Bwd : Hid (Below w.heap.size w wd) := Bwc.out.trans (hb.mono Bwc.out.size)
  have Mwd : Hid (MM wd V9.heap.size wa.heap.size g ps0) := Mwc.out.below hb
  have Rwd : Hid (R ET wd (sv (ybwc, [(aS, yS), (aS, uS), (aS, zS)].length, ycwc)) [(aS, yS), (aS, uS), (aS, zS)]) := Rwc.out.below hb
  clear hb Rwc
  have HP : Hid (Calls Try.prog 12 #[.pointer (some ⟨g, 0, none⟩), .agg #[.string ⟨#[97]⟩, .string ⟨#[47, 121]⟩], .int .i64 1] wd fun e w' => PlPost [(aS, uS)] wd e w') := by have := Mwd.out.plan (aS, ⟨#[47, 121]⟩) (tz0 _ (by decide)) 1; rw [show plan (nmP ps0) (aS, ⟨#[47, 121]⟩) 1 = [(aS, uS)] from plan1] at this; exact this
  go_wp2_with fail
  go_at_call 12
  refine HP.out.mono ?_
  rintro e we ⟨⟨ybwe, ylwe, ycwe⟩, rfl, hR, hb, hnew⟩
  have Bwe : Hid (Below w.heap.size w we) := Bwd.out.trans (hb.mono Bwd.out.size)
  have Mwe : Hid (MM we V9.heap.size wa.heap.size g ps0) := Mwd.out.below hb
  have Rwe : Hid (R ET we (sv (ybwe, ylwe, ycwe)) [(aS, uS)]) := hR
  have Qwe : Hid (R ET we (sv (ybwc, [(aS, yS), (aS, uS), (aS, zS)].length, ycwc)) [(aS, yS), (aS, uS), (aS, zS)]) := Rwd.out.below hb
  obtain ⟨b0, c0, e0, _, _⟩ := hR.slice
  simp only [sv] at e0
  injection e0 with e1 e2 e3
  subst e1 e2 e3
  clear hb hR hnew HP Rwd
  simp only [sv] at Rwe ⊢
  go_wp2_with fail
  go_at_call 19
  refine (at' _ _).mono ?_
  rintro e wf ⟨rfl, hb⟩
  have Bwf : Hid (Below w.heap.size w wf) := Bwe.out.trans (hb.mono Bwe.out.size)
  have Mwf : Hid (MM wf V9.heap.size wa.heap.size g ps0) := Mwe.out.below hb
  have Qwf : Hid (R ET wf (sv (ybwc, [(aS, yS), (aS, uS), (aS, zS)].length, ycwc)) [(aS, yS), (aS, uS), (aS, zS)]) := Qwe.out.below hb
  have Rwf : Hid (R ET wf (sv (ybwe, [(aS, uS)].length, ycwe)) [(aS, uS)]) := Rwe.out.below hb
  clear hb
  go_wp2_with fail
  go_at_call 19
  refine (at' _ _).mono ?_
  rintro e wg ⟨rfl, hb⟩
  have Bwg : Hid (Below w.heap.size w wg) := Bwf.out.trans (hb.mono Bwf.out.size)
  have Mwg : Hid (MM wg V9.heap.size wa.heap.size g ps0) := Mwf.out.below hb
  have Qwg : Hid (R ET wg (sv (ybwc, [(aS, yS), (aS, uS), (aS, zS)].length, ycwc)) [(aS, yS), (aS, uS), (aS, zS)]) := Qwf.out.below hb
  have Rwg : Hid (R ET wg (sv (ybwe, [(aS, uS)].length, ycwe)) [(aS, uS)]) := Rwf.out.below hb
  clear hb
  go_wp2_with fail
  go_at_call 19
  refine (at' _ _).mono ?_
  rintro e wh ⟨rfl, hb⟩
  have Bwh : Hid (Below w.heap.size w wh) := Bwg.out.trans (hb.mono Bwg.out.size)
  have Mwh : Hid (MM wh V9.heap.size wa.heap.size g ps0) := Mwg.out.below hb
  have Qwh : Hid (R ET wh (sv (ybwc, [(aS, yS), (aS, uS), (aS, zS)].length, ycwc)) [(aS, yS), (aS, uS), (aS, zS)]) := Qwg.out.below hb
  have Rwh : Hid (R ET wh (sv (ybwe, [(aS, uS)].length, ycwe)) [(aS, uS)]) := Rwg.out.below hb
  clear hb
  obtain ⟨VH, hVH⟩ : ∃ VH, VH = wh.alloc (.cells #[.string ⟨#[97]⟩, .string ⟨#[47, 121]⟩, .string ⟨#[97]⟩, .string ⟨#[47, 117]⟩, .string ⟨#[97]⟩, .string ⟨#[47, 122]⟩] 26) := ⟨_, rfl⟩
  have hb : Below wh.heap.size wh VH := by rw [hVH]; exact bel1 _ _
  have BVH : Hid (Below w.heap.size w VH) := Bwh.out.trans (hb.mono Bwh.out.size)
  have MVH : Hid (MM VH V9.heap.size wa.heap.size g ps0) := Mwh.out.below hb
  have RVH : Hid (R ET VH (sv (ybwe, [(aS, uS)].length, ycwe)) [(aS, uS)]) := Rwh.out.below hb
  have G : VH.heap[wh.heap.size]? = some (.cells #[.string ⟨#[97]⟩, .string ⟨#[47, 121]⟩, .string ⟨#[97]⟩, .string ⟨#[47, 117]⟩, .string ⟨#[97]⟩, .string ⟨#[47, 122]⟩] 26 (0, 0)) := by rw [hVH, heap_al, if_pos rfl]
  have HS : Hid (Calls Try.prog 13 #[.slice ybwc [(aS, yS), (aS, uS), (aS, zS)].length ycwc, .slice (some ⟨wh.heap.size, 0, none⟩) 3 3] VH fun e w' => e = .returned (.bool true) ∧ Below VH.heap.size VH w') := by
    have := same_any (ybwc, [(aS, yS), (aS, uS), (aS, zS)].length, ycwc) (some ⟨wh.heap.size, 0, none⟩, 3, 3) [(aS, yS), (aS, uS), (aS, zS)] [(aS, yS), (aS, uS), (aS, zS)] VH (Qwh.out.below hb).isIn (in_whole (E := ET) [(aS, yS), (aS, uS), (aS, zS)] (by simp) G rfl)
    rw [decide_eq_true rfl] at this
    exact this
  clear hb G
  go_wp2_with (refine wpList_build_run _ rfl 27 3 _ rfl #[(0, .agg #[.string ⟨#[97]⟩, .string ⟨#[47, 121]⟩]), (1, .agg #[.string ⟨#[97]⟩, .string ⟨#[47, 117]⟩]), (2, .agg #[.string ⟨#[97]⟩, .string ⟨#[47, 122]⟩])] (by rfl) _ _ (build3 _ _ _ _ _ _ _) ?_)
  rw [← hVH]
  clear hVH
  go_at_call 13
  refine HS.out.mono ?_
  rintro e wi ⟨rfl, hb⟩
  have Bwi : Hid (Below w.heap.size w wi) := BVH.out.trans (hb.mono BVH.out.size)
  have Mwi : Hid (MM wi V9.heap.size wa.heap.size g ps0) := MVH.out.below hb
  have Rwi : Hid (R ET wi (sv (ybwe, [(aS, uS)].length, ycwe)) [(aS, uS)]) := RVH.out.below hb
  clear hb HS
  go_wp2_with fail
  go_at_call 19
  refine (at' _ _).mono ?_
  rintro e wj ⟨rfl, hb⟩
  have Bwj : Hid (Below w.heap.size w wj) := Bwi.out.trans (hb.mono Bwi.out.size)
  have Mwj : Hid (MM wj V9.heap.size wa.heap.size g ps0) := Mwi.out.below hb
  have Rwj : Hid (R ET wj (sv (ybwe, [(aS, uS)].length, ycwe)) [(aS, uS)]) := Rwi.out.below hb
  clear hb
  obtain ⟨VJ, hVJ⟩ : ∃ VJ, VJ = wj.alloc (.cells #[.string ⟨#[97]⟩, .string ⟨#[47, 117]⟩] 26) := ⟨_, rfl⟩
  have hb : Below wj.heap.size wj VJ := by rw [hVJ]; exact bel1 _ _
  have BVJ : Hid (Below w.heap.size w VJ) := Bwj.out.trans (hb.mono Bwj.out.size)
  have MVJ : Hid (MM VJ V9.heap.size wa.heap.size g ps0) := Mwj.out.below hb
  have G : VJ.heap[wj.heap.size]? = some (.cells #[.string ⟨#[97]⟩, .string ⟨#[47, 117]⟩] 26 (0, 0)) := by rw [hVJ, heap_al, if_pos rfl]
  have HS : Hid (Calls Try.prog 13 #[.slice ybwe [(aS, uS)].length ycwe, .slice (some ⟨wj.heap.size, 0, none⟩) 1 1] VJ fun e w' => e = .returned (.bool true) ∧ Below VJ.heap.size VJ w') := by
    have := same_any (ybwe, [(aS, uS)].length, ycwe) (some ⟨wj.heap.size, 0, none⟩, 1, 1) [(aS, uS)] [(aS, uS)] VJ (Rwj.out.below hb).isIn (in_whole (E := ET) [(aS, uS)] (by simp) G rfl)
    rw [decide_eq_true rfl] at this
    exact this
  clear hb G
  go_wp2_with fail
  rw [← hVJ]
  clear hVJ
  go_at_call 13
  refine HS.out.mono ?_
  rintro e wk ⟨rfl, hb⟩
  have Bwk : Hid (Below w.heap.size w wk) := BVJ.out.trans (hb.mono BVJ.out.size)
  have Mwk : Hid (MM wk V9.heap.size wa.heap.size g ps0) := MVJ.out.below hb
  clear hb HS
  go_wp2_with fail
  go_at_call 19
  refine (at' _ _).mono ?_
  rintro e wl ⟨rfl, hb⟩
  have Bwl : Hid (Below w.heap.size w wl) := Bwk.out.trans (hb.mono Bwk.out.size)
  have Mwl : Hid (MM wl V9.heap.size wa.heap.size g ps0) := Mwk.out.below hb
  clear hb
  have HP : Hid (Calls Try.prog 12 #[.pointer (some ⟨g, 0, none⟩), .agg #[.string ⟨#[97]⟩, .string ⟨#[47, 122]⟩], .int .i64 8] wl fun e w' => PlPost [] wl e w') := by have := Mwl.out.plan (aS, ⟨#[47, 122]⟩) (tz0 _ (by decide)) 8; rw [show plan (nmP ps0) (aS, ⟨#[47, 122]⟩) 8 = [] from plan2] at this; exact this
  go_wp2_with fail
  go_at_call 12
  refine HP.out.mono ?_
  rintro e wm ⟨⟨ybwm, ylwm, ycwm⟩, rfl, hR, hb, hnew⟩
  have Bwm : Hid (Below w.heap.size w wm) := Bwl.out.trans (hb.mono Bwl.out.size)
  have Mwm : Hid (MM wm V9.heap.size wa.heap.size g ps0) := Mwl.out.below hb
  have Rwm : Hid (R ET wm (sv (ybwm, ylwm, ycwm)) []) := hR
  obtain ⟨b0, c0, e0, _, _⟩ := hR.slice
  simp only [sv] at e0
  injection e0 with e1 e2 e3
  subst e1 e2 e3
  clear hb hR hnew HP
  simp only [sv] at Rwm ⊢
  go_wp2_with fail
  go_ret
  exact ⟨rfl, Bwm.out⟩
end Go.Proofs.Ytldnibkgdpeocaa
