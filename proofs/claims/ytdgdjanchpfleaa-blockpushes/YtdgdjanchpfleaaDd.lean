/- BlockPushes, walked. -/
import Derived.Test.YtdgdjanchpfleaaDc
import Derived.Test.YtdgdjanchpfleaaC2
namespace Go.Proofs.Ytdgdjanchpfleaa
open Go.RowKit
set_option linter.unusedVariables false
set_option linter.unusedSimpArgs false

set_option maxHeartbeats 40000000 in
set_option maxRecDepth 100000 in
theorem blockPushes_any (x1 x2 : SV) (l1 l2 : List ((Fr × SV) × List (Int × Int))) (w : World) (hI1 : In EF w (sv x1) (l1.map (·.1))) (hI2 : In EF w (sv x2) (l2.map (·.1)))
    (he1 : ∀ e ∈ l1, In EP w (sv e.1.2) e.2 ∧ e.2.length * 16 ≤ 140737488351232 ∧ e.1.1.data.size ≤ 140737488351232) (he2 : ∀ e ∈ l2, In EP w (sv e.1.2) e.2 ∧ e.2.length * 16 ≤ 140737488351232 ∧ e.1.1.data.size ≤ 140737488351232) (hn1 : l1.length * 112 ≤ 140737488351232) (hn2 : l2.length * 112 ≤ 140737488351232) :
    Calls Try.prog 7 #[sv x1, sv x2] w fun e w' => e = .returned (.bool true) ∧ Below w.heap.size w w' := by
  obtain ⟨b1, n1, k1⟩ := x1
  obtain ⟨b2, n2, k2⟩ := x2
  simp only [sv] at hI1 hI2 ⊢
  have e1 : n1 = l1.length := by obtain ⟨_, _, e, _⟩ := hI1.slice; injection e with _ e _; rw [e, List.length_map]
  have e2 : n2 = l2.length := by obtain ⟨_, _, e, _⟩ := hI2.slice; injection e with _ e _; rw [e, List.length_map]
  subst e1
  subst e2
  have HI1 : Hid (In EF w (.slice b1 l1.length k1) (l1.map (·.1))) := hI1
  have HI2 : Hid (In EF w (.slice b2 l2.length k2) (l2.map (·.1))) := hI2
  have hk1 : l1.length ≤ k1 ∧ k1 ≤ 9223372036854775807 := by obtain ⟨_, _, e, q1, q2⟩ := hI1.slice; injection e with _ _ e; subst e; rw [List.length_map] at q1; exact ⟨q1, q2⟩
  have hk2 : l2.length ≤ k2 ∧ k2 ≤ 9223372036854775807 := by obtain ⟨_, _, e, q1, q2⟩ := hI2.slice; injection e with _ _ e; subst e; rw [List.length_map] at q1; exact ⟨q1, q2⟩
  obtain ⟨hk11, hk12⟩ := hk1
  obtain ⟨hk21, hk22⟩ := hk2
  have HE1 : Hid (∀ e ∈ l1, _) := he1
  have HE2 : Hid (∀ e ∈ l2, _) := he2
  have HN1 : Hid (l1.length * 112 ≤ 140737488351232) := hn1
  have HN2 : Hid (l2.length * 112 ≤ 140737488351232) := hn2
  have r1 : l1.length ≤ 1256584717422 := by omega
  have r2 : l2.length ≤ 1256584717422 := by omega
  clear hI1 hI2 he1 he2 hn1 hn2
  go_enter Try.func7, Try.ntmps7
  go_wp2_with fail
  go_at_call 9
  refine (new_any w).mono ?_
  rintro e B ⟨rfl, j1, bb1⟩
  replace j1 : Hid (Jn B w.heap.size (.slice none 0 0) .idle) := j1
  replace bb1 : Hid (Below w.heap.size w B) := bb1
  go_wp2_with fail
  go_at_call 9
  refine (new_any B).mono ?_
  rintro e W2 ⟨rfl, j2, bb2⟩
  replace j2 : Hid (Jn W2 B.heap.size (.slice none 0 0) .idle) := j2
  replace bb2 : Hid (Below B.heap.size B W2) := bb2
  go_wp2_with fail
  go_at_call 10
  refine (first_any W2).mono ?_
  rintro e X ⟨rfl, bb3⟩
  replace bb3 : Hid (Below W2.heap.size W2 X) := bb3
  go_wp2_with fail
  go_at_call 18
  refine (rnew_any X).mono ?_
  rintro e Y ⟨rfl, j4, bb4⟩
  replace j4 : Hid (RB Y X.heap.size (.slice none 0 0) 0) := j4
  replace bb4 : Hid (Below X.heap.size X Y) := bb4
  go_wp2_with fail
  go_at_call 18
  refine (rnew_any Y).mono ?_
  rintro e W5 ⟨rfl, j5, bb5⟩
  have HS : Hid _ := Pp.start j1.out bb1.out j2.out bb2.out bb3.out j4.out bb4.out j5 bb5
  clear j1 bb1 j2 bb2 bb3 j4 bb4 j5 bb5
  obtain ⟨A, hA⟩ : ∃ A : World, A = w := ⟨_, rfl⟩
  have HS' : Hid (Pp w W5 A.heap.size B.heap.size X.heap.size Y.heap.size (.slice none 0 0) (.slice none 0 0) (.slice none 0 0) (.slice none 0 0) .idle .idle .idle .idle [] []) := by rw [hA]; exact HS.out
  rw [show (Value.pointer (some ⟨w.heap.size, 0, none⟩)) = .pointer (some ⟨A.heap.size, 0, none⟩) by rw [hA]]
  clear hA HS
  go_wp2_with fail
  go_loopw [9] (fun iv wr => ∃ i : Nat, iv = .int .i64 (i : Int) ∧ i ≤ l1.length + l2.length ∧ Hid (∃ s1 s2 v1 v2 st1 st2 Lx1 Lx2, Pp w wr A.heap.size B.heap.size X.heap.size Y.heap.size s1 s2 v1 v2 st1 st2 st1 st2 Lx1 Lx2 ∧ Lx1.length ≤ i ∧ Lx2.length ≤ i)) (fun iv _ => l1.length + l2.length + 1 - (intOf iv).toNat)
  case atStart => exact ⟨0, rfl, by omega, _, _, _, _, _, _, _, _, HS'.out, by simp, by simp⟩
  case round =>
    obtain ⟨i, rfl, hi, hinv⟩ := hrel
    obtain ⟨s1, s2, v1, v2, st1, st2, Lx1, Lx2, P, hL1, hL2⟩ := hinv.out
    have HP : Hid (Pp w wr A.heap.size B.heap.size X.heap.size Y.heap.size s1 s2 v1 v2 st1 st2 st1 st2 Lx1 Lx2) := P
    have HLL1 : Hid (Lx1.length ≤ i) := hL1
    have HLL2 : Hid (Lx2.length ≤ i) := hL2
    clear hinv HS' P hL1 hL2
    by_cases hi1 : i < l1.length
    · have hj1 : (i : Int) < (l1.length : Int) := by omega
      have P0 := HP.out
      have hLl : Lx1.length ≤ i := HLL1.out
      obtain ⟨gB, off, e1, e2, hcs⟩ := arg_frame HI1.out i hi1
      subst e1
      obtain ⟨q1, q2, q3⟩ := HE1.out (l1[i]'hi1) (List.getElem_mem hi1)
      obtain ⟨⟨⟨f, ub, ul, uc⟩, ps⟩, hel⟩ : ∃ e : (Fr × SV) × List (Int × Int), l1[i]'hi1 = e := ⟨_, rfl⟩
      rw [hel] at hcs q1 q2 q3
      simp only [sv] at hcs q1 q2 q3
      have hown : Hid (∀ W, Below w.heap.size w W → Calls Try.prog 11 #[.agg #[.int .i64 f.ty, .int .i64 f.fl, .int .i64 f.st, .string f.data, .int .i64 f.pad, .int .i64 f.dep, .bool f.excl, .int .i64 f.wt, .int .i64 f.code, .int .i64 f.last, .slice ub ul uc]] W fun e w' => ∃ yb yl yc, e = .returned (.agg #[.int .i64 f.ty, .int .i64 f.fl, .int .i64 f.st, .string f.data, .int .i64 f.pad, .int .i64 f.dep, .bool f.excl, .int .i64 f.wt, .int .i64 f.code, .int .i64 f.last, .slice yb yl yc]) ∧ Hid (R EP w' (.slice yb yl yc) ps ∧ Below W.heap.size W w')) := fun W hb => by
        refine (own_any f (ub, ul, uc) ps W (q1.below hb) (by omega)).mono ?_
        rintro e w' ⟨⟨yb, yl, yc⟩, rfl, r1, r2, r3⟩
        exact ⟨yb, yl, yc, rfl, r1, r3⟩
      obtain ⟨st', ok, g, qs, t, hPb⟩ := push_both st1 Lx1 st1.code P0.sx f ps (by omega) (by omega) (by have := HN1.out; omega)
      have hP12 : Hid (∀ W s (x : SV), Jn W A.heap.size s st1 → R EP W (sv x) ps → Calls Try.prog 12 #[.pointer (some ⟨A.heap.size, 0, none⟩), .agg #[.int .i64 f.ty, .int .i64 f.fl, .int .i64 f.st, .string f.data, .int .i64 f.pad, .int .i64 f.dep, .bool f.excl, .int .i64 f.wt, .int .i64 f.code, .int .i64 f.last, sv x]] W fun e w' => ∃ yb yl yc, e = .returned (.tuple #[.bool ok, .agg #[.int .i64 g.ty, .int .i64 g.fl, .int .i64 g.st, .string g.data, .int .i64 g.pad, .int .i64 g.dep, .bool g.excl, .int .i64 g.wt, .int .i64 g.code, .int .i64 g.last, .slice yb yl yc], .string t, .agg #[.int .i64 st'.code, .int .i64 0]]) ∧ Hid (PuR W s w' A.heap.size st' (yb, yl, yc) qs)) := fun W s x hj hr => by
        refine (hPb.p W A.heap.size s x hj hr.isIn).mono ?_
        rintro e w' ⟨⟨yb, yl, yc⟩, rfl, hp⟩
        exact ⟨yb, yl, yc, rfl, hp⟩
      have hP19 : Hid (∀ x : SV, ∃ (L' : List (Fr × SV)) (yb : Option Addr) (yl yc : Nat), Sm st' L' st'.code ∧ L'.length ≤ Lx1.length + 1 ∧ (∀ W v, RB W X.heap.size v st1.code → R EF W v Lx1 → Calls Try.prog 19 #[.pointer (some ⟨X.heap.size, 0, none⟩), .agg #[.int .i64 f.ty, .int .i64 f.fl, .int .i64 f.st, .string f.data, .int .i64 f.pad, .int .i64 f.dep, .bool f.excl, .int .i64 f.wt, .int .i64 f.code, .int .i64 f.last, sv x]] W fun e w' => e = .returned (.tuple #[.bool ok, .agg #[.int .i64 g.ty, .int .i64 g.fl, .int .i64 g.st, .string g.data, .int .i64 g.pad, .int .i64 g.dep, .bool g.excl, .int .i64 g.wt, .int .i64 g.code, .int .i64 g.last, .slice yb yl yc], .string t, .agg #[.int .i64 st'.code, .int .i64 0]]) ∧ Hid (RuR W v w' X.heap.size L' st'.code)) ∧ (∀ W, Fp W st1 Lx1 → R EP W (sv x) ps → R EP W (sv (yb, yl, yc)) qs ∧ Fp W st' L')) := fun x => by
        obtain ⟨L', ⟨yb, yl, yc⟩, d1, d2, d3, d4⟩ := hPb.d x
        exact ⟨L', yb, yl, yc, d1, d2, fun W v h1 h2 => (d3 W X.heap.size v h1 h2).mono fun e w' hh => ⟨hh.1, hh.2⟩, d4⟩
      replace hcs : Hid _ := hcs
      have HP0 : Hid (Pp w wr A.heap.size B.heap.size X.heap.size Y.heap.size s1 s2 v1 v2 st1 st2 st1 st2 Lx1 Lx2) := P0
      obtain ⟨c0, c1, c2, c3, c4, c5, c6, c7, c8, c9, c10⟩ := hcs.out wr P0.T.bel
      clear P0 hPb q1 q2 q3 hel e2
      try clear HP
      go_wp2_with fail
      go_at_call 11
      refine (hown.out _ HP0.out.T.bel).mono ?_
      rintro e w1 ⟨pb, pl, pc, rfl, h1⟩
      have P1 := HP0.out.below h1.out.2
      have HP1 : Hid _ := P1
      clear c0 c1 c2 c3 c4 c5 c6 c7 c8 c9 c10 P1
      go_wp2_with fail
      go_at_call 12
      refine (hP12.out w1 _ (pb, pl, pc) HP1.out.T.j1 h1.out.1).mono ?_
      rintro e w2 ⟨yb, yl, yc, rfl, hp⟩
      obtain ⟨s', P2⟩ := HP1.out.pushp hp.out
      have HR2 : Hid (R EP w2 (.slice yb yl yc) qs) := hp.out.rp
      have HO2 : Hid (∀ k, v1.ownBlock = some k → k < w2.heap.size) := P2.fx.lt
      have HP2 : Hid _ := P2
      clear P2 hp h1 HP1 hP12
      have b3 := bel2 w2 (.cells (fv g (.slice yb yl yc)) 24) (.cells #[.int .i64 st'.code, .int .i64 0] 32)
      have HF3 : Hid (FB ((w2.alloc (.cells (fv g (.slice yb yl yc)) 24)).alloc (.cells #[.int .i64 st'.code, .int .i64 0] 32)) w2.heap.size g (.slice yb yl yc) ∧ TB ((w2.alloc (.cells (fv g (.slice yb yl yc)) 24)).alloc (.cells #[.int .i64 st'.code, .int .i64 0] 32)) (w2.heap.size + 1) st'.code) := by
        refine ⟨?_, fresh2 _ _ _⟩
        unfold FB
        rw [heap_al, if_neg (by rw [size_al]; omega), heap_al, if_pos rfl]
      have HP3 : Hid _ := HP2.out.below b3
      have HR3 : Hid _ := R.below HR2.out b3
      obtain ⟨c0, c1, c2, c3, c4, c5, c6, c7, c8, c9, c10⟩ := hcs.out w2 HP2.out.T.bel
      have lB : gB < w2.heap.size := World.block_lt_of_cell? _ _ c0
      clear b3
      unfold fv at HF3 HP3 HR3
      go_wp2_with fail
      go_at_call 11
      refine (hown.out _ HP3.out.T.bel).mono ?_
      rintro e w4 ⟨pb, pl, pc, rfl, h1⟩
      have F4 : Hid (FB w4 w2.heap.size g (.slice yb yl yc) ∧ TB w4 (w2.heap.size + 1) st'.code) := ⟨FB.below HF3.out.1 h1.out.2, (h1.out.2.block _ (heap_lt HF3.out.2)).trans HF3.out.2⟩
      have R4 : Hid (R EP w4 (.slice yb yl yc) qs) := R.below HR3.out h1.out.2
      have P4 := HP3.out.below h1.out.2
      have HP4 : Hid _ := P4
      clear c0 c1 c2 c3 c4 c5 c6 c7 c8 c9 c10 P4 HF3 HP3 HR3 HR2 HP2 lB
      obtain ⟨L', zb, zl, zc, dS, dL, dC, dF⟩ := hP19.out (pb, pl, pc)
      replace dC : Hid (∀ W v, _) := dC
      replace dF : Hid (∀ W, _) := dF
      replace dS : Hid (Sm st' L' st'.code) := dS
      clear hP19
      go_wp2_with fail
      go_at_call 19
      refine (dC.out w4 _ HP4.out.rx HP4.out.fx).mono ?_
      rintro e w5 ⟨rfl, hr⟩
      obtain ⟨R5, v', P5⟩ := HP4.out.pushd2 hr.out dS.out dF.out h1.out.1
      have F5 : Hid (FB w5 w2.heap.size g (.slice yb yl yc) ∧ TB w5 (w2.heap.size + 1) st'.code ∧ R EP w5 (.slice yb yl yc) qs ∧ R EP w5 (.slice zb zl zc) qs) :=
        ⟨hr.out.keep HP4.out.rx HP4.out.fx F4.out.1 (by decide) (.inr fun e => by have := HO2.out _ e; omega), hr.out.keep HP4.out.rx HP4.out.fx F4.out.2 (by decide) (.inl (by decide)), R.keeps R4.out fun k c hc _ => hr.out.keep HP4.out.rx HP4.out.fx hc (by decide) (.inl (by decide)), R5⟩
      have l45 : w4.heap.size ≤ w5.heap.size := hr.out.ks.size
      have l24 : w2.heap.size + 1 < w4.heap.size := heap_lt F4.out.2
      have HP5 : Hid _ := P5
      clear P5 R5 hr HP4 dC dF h1 F4 R4
      have b6 := bel2 w5 (.cells (fv g (.slice zb zl zc)) 24) (.cells #[.int .i64 st'.code, .int .i64 0] 32)
      have HF6 : Hid (FB ((w5.alloc (.cells (fv g (.slice zb zl zc)) 24)).alloc (.cells #[.int .i64 st'.code, .int .i64 0] 32)) w5.heap.size g (.slice zb zl zc) ∧ TB ((w5.alloc (.cells (fv g (.slice zb zl zc)) 24)).alloc (.cells #[.int .i64 st'.code, .int .i64 0] 32)) (w5.heap.size + 1) st'.code) := by
        refine ⟨?_, fresh2 _ _ _⟩
        unfold FB
        rw [heap_al, if_neg (by rw [size_al]; omega), heap_al, if_pos rfl]
      have HF7 : Hid (TB ((w5.alloc (.cells (fv g (.slice zb zl zc)) 24)).alloc (.cells #[.int .i64 st'.code, .int .i64 0] 32)) (w2.heap.size + 1) st'.code) := (b6.block _ (heap_lt F5.out.2.1)).trans F5.out.2.1
      have HP6 : Hid _ := HP5.out.below b6
      have hsame : Hid (Calls Try.prog 13 #[.agg (fv g (.slice yb yl yc)), .agg (fv g (.slice zb zl zc))] ((w5.alloc (.cells (fv g (.slice zb zl zc)) 24)).alloc (.cells #[.int .i64 st'.code, .int .i64 0] 32)) fun e w' => e = .returned (.bool true) ∧ Below ((w5.alloc (.cells (fv g (.slice zb zl zc)) 24)).alloc (.cells #[.int .i64 st'.code, .int .i64 0] 32)).heap.size ((w5.alloc (.cells (fv g (.slice zb zl zc)) 24)).alloc (.cells #[.int .i64 st'.code, .int .i64 0] 32)) w') :=
        same_eq g _ (yb, yl, yc) (zb, zl, zc) qs (R.isIn (R.below F5.out.2.2.1 b6)) (R.isIn (R.below F5.out.2.2.2 b6))
      obtain ⟨c0, c1, c2, c3, c4, c5, c6, c7, c8, c9, c10⟩ := FB.cells F5.out.1
      have l25 : w2.heap.size < w5.heap.size := by omega
      have l26 : w2.heap.size + 1 < w5.heap.size := by omega
      clear b6
      unfold fv at HF6 HF7 HP6 hsame
      go_wp2_with fail
      go_at_call 13
      refine hsame.out.mono ?_
      rintro e w7 ⟨rfl, hb⟩
      have P7 := HP6.out.below hb
      have F7 : TB w7 (w2.heap.size + 1) st'.code := (hb.block _ (heap_lt HF7.out)).trans HF7.out
      have F8 : TB w7 (w5.heap.size + 1) st'.code := (hb.block _ (heap_lt HF6.out.2)).trans HF6.out.2
      have t0 := cell_blk F7 0
      have t1 := cell_blk F7 1
      have t2 := cell_blk F8 0
      have t3 := cell_blk F8 1
      simp only [List.getElem?_toArray, List.getElem?_cons_succ, List.getElem?_cons_zero] at t0 t1 t2 t3
      have HP7 : Hid _ := P7
      clear c0 c1 c2 c3 c4 c5 c6 c7 c8 c9 c10 P7 F7 F8 hb HF6 HF7 HP6 hsame HP5 F5 hown
      go_wp2_with fail
      go_at_call 14
      refine (busy_any w7 _ _ _ HP7.out.T.j1).mono ?_
      rintro e w8 ⟨rfl, hb⟩
      have P8 := HP7.out.below hb
      obtain ⟨vb, vc, ev, _, _⟩ := P8.fx.slice
      have hbusy : Hid (busyB st' = decide (0 < L'.length)) := dS.out.busy
      have HR8 : Hid (RB w8 X.heap.size (.slice vb L'.length vc) st'.code) := by rw [← ev]; exact P8.rx
      have HP8 : Hid _ := P8
      have HL8 : Hid (L'.length ≤ i + 1) := by show _ ≤ _; omega
      clear P8 hb HP7 t0 t1 t2 t3 ev dL
      rw [hbusy.out]
      go_wp2_with fail
      go_at_call 20
      refine (rbusy_any w8 _ vb L'.length vc _ HR8.out).mono ?_
      rintro e w9 ⟨rfl, rfl⟩
      clear HR8 hbusy dS
      by_cases hi2 : i < l2.length
      · have hj2 : (i : Int) < (l2.length : Int) := by omega
        obtain ⟨s1', v1', st1', L1', HPn, HLn⟩ : ∃ s1' v1' st1' L1', Hid (Pp w w9 B.heap.size A.heap.size Y.heap.size X.heap.size s2 s1' v2 v1' st2 st1' st2 st1' Lx2 L1') ∧ Hid (L1'.length ≤ i + 1) := ⟨_, _, _, _, HP8.out.swap, HL8.out⟩
        clear HP8 HL8
        have P0 := HPn.out
        have hLl : Lx2.length ≤ i := HLL2.out
        obtain ⟨gB, off, e1, e2, hcs⟩ := arg_frame HI2.out i hi2
        subst e1
        obtain ⟨q1, q2, q3⟩ := HE2.out (l2[i]'hi2) (List.getElem_mem hi2)
        obtain ⟨⟨⟨f, ub, ul, uc⟩, ps⟩, hel⟩ : ∃ e : (Fr × SV) × List (Int × Int), l2[i]'hi2 = e := ⟨_, rfl⟩
        rw [hel] at hcs q1 q2 q3
        simp only [sv] at hcs q1 q2 q3
        have hown : Hid (∀ W, Below w.heap.size w W → Calls Try.prog 11 #[.agg #[.int .i64 f.ty, .int .i64 f.fl, .int .i64 f.st, .string f.data, .int .i64 f.pad, .int .i64 f.dep, .bool f.excl, .int .i64 f.wt, .int .i64 f.code, .int .i64 f.last, .slice ub ul uc]] W fun e w' => ∃ yb yl yc, e = .returned (.agg #[.int .i64 f.ty, .int .i64 f.fl, .int .i64 f.st, .string f.data, .int .i64 f.pad, .int .i64 f.dep, .bool f.excl, .int .i64 f.wt, .int .i64 f.code, .int .i64 f.last, .slice yb yl yc]) ∧ Hid (R EP w' (.slice yb yl yc) ps ∧ Below W.heap.size W w')) := fun W hb => by
          refine (own_any f (ub, ul, uc) ps W (q1.below hb) (by omega)).mono ?_
          rintro e w' ⟨⟨yb, yl, yc⟩, rfl, r1, r2, r3⟩
          exact ⟨yb, yl, yc, rfl, r1, r3⟩
        obtain ⟨st', ok, g, qs, t, hPb⟩ := push_both st2 Lx2 st2.code P0.sx f ps (by omega) (by omega) (by have := HN2.out; omega)
        have hP12 : Hid (∀ W s (x : SV), Jn W B.heap.size s st2 → R EP W (sv x) ps → Calls Try.prog 12 #[.pointer (some ⟨B.heap.size, 0, none⟩), .agg #[.int .i64 f.ty, .int .i64 f.fl, .int .i64 f.st, .string f.data, .int .i64 f.pad, .int .i64 f.dep, .bool f.excl, .int .i64 f.wt, .int .i64 f.code, .int .i64 f.last, sv x]] W fun e w' => ∃ yb yl yc, e = .returned (.tuple #[.bool ok, .agg #[.int .i64 g.ty, .int .i64 g.fl, .int .i64 g.st, .string g.data, .int .i64 g.pad, .int .i64 g.dep, .bool g.excl, .int .i64 g.wt, .int .i64 g.code, .int .i64 g.last, .slice yb yl yc], .string t, .agg #[.int .i64 st'.code, .int .i64 0]]) ∧ Hid (PuR W s w' B.heap.size st' (yb, yl, yc) qs)) := fun W s x hj hr => by
          refine (hPb.p W B.heap.size s x hj hr.isIn).mono ?_
          rintro e w' ⟨⟨yb, yl, yc⟩, rfl, hp⟩
          exact ⟨yb, yl, yc, rfl, hp⟩
        have hP19 : Hid (∀ x : SV, ∃ (L' : List (Fr × SV)) (yb : Option Addr) (yl yc : Nat), Sm st' L' st'.code ∧ L'.length ≤ Lx2.length + 1 ∧ (∀ W v, RB W Y.heap.size v st2.code → R EF W v Lx2 → Calls Try.prog 19 #[.pointer (some ⟨Y.heap.size, 0, none⟩), .agg #[.int .i64 f.ty, .int .i64 f.fl, .int .i64 f.st, .string f.data, .int .i64 f.pad, .int .i64 f.dep, .bool f.excl, .int .i64 f.wt, .int .i64 f.code, .int .i64 f.last, sv x]] W fun e w' => e = .returned (.tuple #[.bool ok, .agg #[.int .i64 g.ty, .int .i64 g.fl, .int .i64 g.st, .string g.data, .int .i64 g.pad, .int .i64 g.dep, .bool g.excl, .int .i64 g.wt, .int .i64 g.code, .int .i64 g.last, .slice yb yl yc], .string t, .agg #[.int .i64 st'.code, .int .i64 0]]) ∧ Hid (RuR W v w' Y.heap.size L' st'.code)) ∧ (∀ W, Fp W st2 Lx2 → R EP W (sv x) ps → R EP W (sv (yb, yl, yc)) qs ∧ Fp W st' L')) := fun x => by
          obtain ⟨L', ⟨yb, yl, yc⟩, d1, d2, d3, d4⟩ := hPb.d x
          exact ⟨L', yb, yl, yc, d1, d2, fun W v h1 h2 => (d3 W Y.heap.size v h1 h2).mono fun e w' hh => ⟨hh.1, hh.2⟩, d4⟩
        replace hcs : Hid _ := hcs
        have HP0 : Hid (Pp w w9 B.heap.size A.heap.size Y.heap.size X.heap.size s2 s1' v2 v1' st2 st1' st2 st1' Lx2 L1') := P0
        obtain ⟨c0, c1, c2, c3, c4, c5, c6, c7, c8, c9, c10⟩ := hcs.out w9 P0.T.bel
        clear P0 hPb q1 q2 q3 hel e2
        try clear HPn
        go_wp2_with fail
        go_at_call 11
        refine (hown.out _ HP0.out.T.bel).mono ?_
        rintro e w1 ⟨pb, pl, pc, rfl, h1⟩
        have P1 := HP0.out.below h1.out.2
        have HP1 : Hid _ := P1
        clear c0 c1 c2 c3 c4 c5 c6 c7 c8 c9 c10 P1
        go_wp2_with fail
        go_at_call 12
        refine (hP12.out w1 _ (pb, pl, pc) HP1.out.T.j1 h1.out.1).mono ?_
        rintro e w2 ⟨yb, yl, yc, rfl, hp⟩
        obtain ⟨s', P2⟩ := HP1.out.pushp hp.out
        have HR2 : Hid (R EP w2 (.slice yb yl yc) qs) := hp.out.rp
        have HO2 : Hid (∀ k, v2.ownBlock = some k → k < w2.heap.size) := P2.fx.lt
        have HP2 : Hid _ := P2
        clear P2 hp h1 HP1 hP12
        have b3 := bel2 w2 (.cells (fv g (.slice yb yl yc)) 24) (.cells #[.int .i64 st'.code, .int .i64 0] 32)
        have HF3 : Hid (FB ((w2.alloc (.cells (fv g (.slice yb yl yc)) 24)).alloc (.cells #[.int .i64 st'.code, .int .i64 0] 32)) w2.heap.size g (.slice yb yl yc) ∧ TB ((w2.alloc (.cells (fv g (.slice yb yl yc)) 24)).alloc (.cells #[.int .i64 st'.code, .int .i64 0] 32)) (w2.heap.size + 1) st'.code) := by
          refine ⟨?_, fresh2 _ _ _⟩
          unfold FB
          rw [heap_al, if_neg (by rw [size_al]; omega), heap_al, if_pos rfl]
        have HP3 : Hid _ := HP2.out.below b3
        have HR3 : Hid _ := R.below HR2.out b3
        obtain ⟨c0, c1, c2, c3, c4, c5, c6, c7, c8, c9, c10⟩ := hcs.out w2 HP2.out.T.bel
        have lB : gB < w2.heap.size := World.block_lt_of_cell? _ _ c0
        clear b3
        unfold fv at HF3 HP3 HR3
        go_wp2_with fail
        go_at_call 11
        refine (hown.out _ HP3.out.T.bel).mono ?_
        rintro e w4 ⟨pb, pl, pc, rfl, h1⟩
        have F4 : Hid (FB w4 w2.heap.size g (.slice yb yl yc) ∧ TB w4 (w2.heap.size + 1) st'.code) := ⟨FB.below HF3.out.1 h1.out.2, (h1.out.2.block _ (heap_lt HF3.out.2)).trans HF3.out.2⟩
        have R4 : Hid (R EP w4 (.slice yb yl yc) qs) := R.below HR3.out h1.out.2
        have P4 := HP3.out.below h1.out.2
        have HP4 : Hid _ := P4
        clear c0 c1 c2 c3 c4 c5 c6 c7 c8 c9 c10 P4 HF3 HP3 HR3 HR2 HP2 lB
        obtain ⟨L', zb, zl, zc, dS, dL, dC, dF⟩ := hP19.out (pb, pl, pc)
        replace dC : Hid (∀ W v, _) := dC
        replace dF : Hid (∀ W, _) := dF
        replace dS : Hid (Sm st' L' st'.code) := dS
        clear hP19
        go_wp2_with fail
        go_at_call 19
        refine (dC.out w4 _ HP4.out.rx HP4.out.fx).mono ?_
        rintro e w5 ⟨rfl, hr⟩
        obtain ⟨R5, v', P5⟩ := HP4.out.pushd2 hr.out dS.out dF.out h1.out.1
        have F5 : Hid (FB w5 w2.heap.size g (.slice yb yl yc) ∧ TB w5 (w2.heap.size + 1) st'.code ∧ R EP w5 (.slice yb yl yc) qs ∧ R EP w5 (.slice zb zl zc) qs) :=
          ⟨hr.out.keep HP4.out.rx HP4.out.fx F4.out.1 (by decide) (.inr fun e => by have := HO2.out _ e; omega), hr.out.keep HP4.out.rx HP4.out.fx F4.out.2 (by decide) (.inl (by decide)), R.keeps R4.out fun k c hc _ => hr.out.keep HP4.out.rx HP4.out.fx hc (by decide) (.inl (by decide)), R5⟩
        have l45 : w4.heap.size ≤ w5.heap.size := hr.out.ks.size
        have l24 : w2.heap.size + 1 < w4.heap.size := heap_lt F4.out.2
        have HP5 : Hid _ := P5
        clear P5 R5 hr HP4 dC dF h1 F4 R4
        have b6 := bel2 w5 (.cells (fv g (.slice zb zl zc)) 24) (.cells #[.int .i64 st'.code, .int .i64 0] 32)
        have HF6 : Hid (FB ((w5.alloc (.cells (fv g (.slice zb zl zc)) 24)).alloc (.cells #[.int .i64 st'.code, .int .i64 0] 32)) w5.heap.size g (.slice zb zl zc) ∧ TB ((w5.alloc (.cells (fv g (.slice zb zl zc)) 24)).alloc (.cells #[.int .i64 st'.code, .int .i64 0] 32)) (w5.heap.size + 1) st'.code) := by
          refine ⟨?_, fresh2 _ _ _⟩
          unfold FB
          rw [heap_al, if_neg (by rw [size_al]; omega), heap_al, if_pos rfl]
        have HF7 : Hid (TB ((w5.alloc (.cells (fv g (.slice zb zl zc)) 24)).alloc (.cells #[.int .i64 st'.code, .int .i64 0] 32)) (w2.heap.size + 1) st'.code) := (b6.block _ (heap_lt F5.out.2.1)).trans F5.out.2.1
        have HP6 : Hid _ := HP5.out.below b6
        have hsame : Hid (Calls Try.prog 13 #[.agg (fv g (.slice yb yl yc)), .agg (fv g (.slice zb zl zc))] ((w5.alloc (.cells (fv g (.slice zb zl zc)) 24)).alloc (.cells #[.int .i64 st'.code, .int .i64 0] 32)) fun e w' => e = .returned (.bool true) ∧ Below ((w5.alloc (.cells (fv g (.slice zb zl zc)) 24)).alloc (.cells #[.int .i64 st'.code, .int .i64 0] 32)).heap.size ((w5.alloc (.cells (fv g (.slice zb zl zc)) 24)).alloc (.cells #[.int .i64 st'.code, .int .i64 0] 32)) w') :=
          same_eq g _ (yb, yl, yc) (zb, zl, zc) qs (R.isIn (R.below F5.out.2.2.1 b6)) (R.isIn (R.below F5.out.2.2.2 b6))
        obtain ⟨c0, c1, c2, c3, c4, c5, c6, c7, c8, c9, c10⟩ := FB.cells F5.out.1
        have l25 : w2.heap.size < w5.heap.size := by omega
        have l26 : w2.heap.size + 1 < w5.heap.size := by omega
        clear b6
        unfold fv at HF6 HF7 HP6 hsame
        go_wp2_with fail
        go_at_call 13
        refine hsame.out.mono ?_
        rintro e w7 ⟨rfl, hb⟩
        have P7 := HP6.out.below hb
        have F7 : TB w7 (w2.heap.size + 1) st'.code := (hb.block _ (heap_lt HF7.out)).trans HF7.out
        have F8 : TB w7 (w5.heap.size + 1) st'.code := (hb.block _ (heap_lt HF6.out.2)).trans HF6.out.2
        have t0 := cell_blk F7 0
        have t1 := cell_blk F7 1
        have t2 := cell_blk F8 0
        have t3 := cell_blk F8 1
        simp only [List.getElem?_toArray, List.getElem?_cons_succ, List.getElem?_cons_zero] at t0 t1 t2 t3
        have HP7 : Hid _ := P7
        clear c0 c1 c2 c3 c4 c5 c6 c7 c8 c9 c10 P7 F7 F8 hb HF6 HF7 HP6 hsame HP5 F5 hown
        go_wp2_with fail
        go_at_call 14
        refine (busy_any w7 _ _ _ HP7.out.T.j1).mono ?_
        rintro e w8 ⟨rfl, hb⟩
        have P8 := HP7.out.below hb
        obtain ⟨vb, vc, ev, _, _⟩ := P8.fx.slice
        have hbusy : Hid (busyB st' = decide (0 < L'.length)) := dS.out.busy
        have HR8 : Hid (RB w8 Y.heap.size (.slice vb L'.length vc) st'.code) := by rw [← ev]; exact P8.rx
        have HP8 : Hid _ := P8
        have HL8 : Hid (L'.length ≤ i + 1) := by show _ ≤ _; omega
        clear P8 hb HP7 t0 t1 t2 t3 ev dL
        rw [hbusy.out]
        go_wp2_with fail
        go_at_call 20
        refine (rbusy_any w8 _ vb L'.length vc _ HR8.out).mono ?_
        rintro e w9 ⟨rfl, rfl⟩
        clear HR8 hbusy dS
        go_wp2_with fail
        go_roundw
        case rel => exact ⟨i + 1, by simp, by omega, _, _, _, _, _, _, _, _, HP8.out.swap, HLn.out, HL8.out⟩
        case measure => simp [intOf]; omega
      · have hj2 : ¬ (i : Int) < (l2.length : Int) := by omega
        go_wp2_with fail
        go_roundw
        case rel => exact ⟨i + 1, by simp, by omega, _, _, _, _, _, _, _, _, HP8.out, HL8.out, (by have := HLL2.out; omega)⟩
        case measure => simp [intOf]; omega
    · have hj1 : ¬ (i : Int) < (l1.length : Int) := by omega
      by_cases hi2 : i < l2.length
      · have hj2 : (i : Int) < (l2.length : Int) := by omega
        have HQ : Hid _ := HP.out.swap
        clear HP
        have P0 := HQ.out
        have hLl : Lx2.length ≤ i := HLL2.out
        obtain ⟨gB, off, e1, e2, hcs⟩ := arg_frame HI2.out i hi2
        subst e1
        obtain ⟨q1, q2, q3⟩ := HE2.out (l2[i]'hi2) (List.getElem_mem hi2)
        obtain ⟨⟨⟨f, ub, ul, uc⟩, ps⟩, hel⟩ : ∃ e : (Fr × SV) × List (Int × Int), l2[i]'hi2 = e := ⟨_, rfl⟩
        rw [hel] at hcs q1 q2 q3
        simp only [sv] at hcs q1 q2 q3
        have hown : Hid (∀ W, Below w.heap.size w W → Calls Try.prog 11 #[.agg #[.int .i64 f.ty, .int .i64 f.fl, .int .i64 f.st, .string f.data, .int .i64 f.pad, .int .i64 f.dep, .bool f.excl, .int .i64 f.wt, .int .i64 f.code, .int .i64 f.last, .slice ub ul uc]] W fun e w' => ∃ yb yl yc, e = .returned (.agg #[.int .i64 f.ty, .int .i64 f.fl, .int .i64 f.st, .string f.data, .int .i64 f.pad, .int .i64 f.dep, .bool f.excl, .int .i64 f.wt, .int .i64 f.code, .int .i64 f.last, .slice yb yl yc]) ∧ Hid (R EP w' (.slice yb yl yc) ps ∧ Below W.heap.size W w')) := fun W hb => by
          refine (own_any f (ub, ul, uc) ps W (q1.below hb) (by omega)).mono ?_
          rintro e w' ⟨⟨yb, yl, yc⟩, rfl, r1, r2, r3⟩
          exact ⟨yb, yl, yc, rfl, r1, r3⟩
        obtain ⟨st', ok, g, qs, t, hPb⟩ := push_both st2 Lx2 st2.code P0.sx f ps (by omega) (by omega) (by have := HN2.out; omega)
        have hP12 : Hid (∀ W s (x : SV), Jn W B.heap.size s st2 → R EP W (sv x) ps → Calls Try.prog 12 #[.pointer (some ⟨B.heap.size, 0, none⟩), .agg #[.int .i64 f.ty, .int .i64 f.fl, .int .i64 f.st, .string f.data, .int .i64 f.pad, .int .i64 f.dep, .bool f.excl, .int .i64 f.wt, .int .i64 f.code, .int .i64 f.last, sv x]] W fun e w' => ∃ yb yl yc, e = .returned (.tuple #[.bool ok, .agg #[.int .i64 g.ty, .int .i64 g.fl, .int .i64 g.st, .string g.data, .int .i64 g.pad, .int .i64 g.dep, .bool g.excl, .int .i64 g.wt, .int .i64 g.code, .int .i64 g.last, .slice yb yl yc], .string t, .agg #[.int .i64 st'.code, .int .i64 0]]) ∧ Hid (PuR W s w' B.heap.size st' (yb, yl, yc) qs)) := fun W s x hj hr => by
          refine (hPb.p W B.heap.size s x hj hr.isIn).mono ?_
          rintro e w' ⟨⟨yb, yl, yc⟩, rfl, hp⟩
          exact ⟨yb, yl, yc, rfl, hp⟩
        have hP19 : Hid (∀ x : SV, ∃ (L' : List (Fr × SV)) (yb : Option Addr) (yl yc : Nat), Sm st' L' st'.code ∧ L'.length ≤ Lx2.length + 1 ∧ (∀ W v, RB W Y.heap.size v st2.code → R EF W v Lx2 → Calls Try.prog 19 #[.pointer (some ⟨Y.heap.size, 0, none⟩), .agg #[.int .i64 f.ty, .int .i64 f.fl, .int .i64 f.st, .string f.data, .int .i64 f.pad, .int .i64 f.dep, .bool f.excl, .int .i64 f.wt, .int .i64 f.code, .int .i64 f.last, sv x]] W fun e w' => e = .returned (.tuple #[.bool ok, .agg #[.int .i64 g.ty, .int .i64 g.fl, .int .i64 g.st, .string g.data, .int .i64 g.pad, .int .i64 g.dep, .bool g.excl, .int .i64 g.wt, .int .i64 g.code, .int .i64 g.last, .slice yb yl yc], .string t, .agg #[.int .i64 st'.code, .int .i64 0]]) ∧ Hid (RuR W v w' Y.heap.size L' st'.code)) ∧ (∀ W, Fp W st2 Lx2 → R EP W (sv x) ps → R EP W (sv (yb, yl, yc)) qs ∧ Fp W st' L')) := fun x => by
          obtain ⟨L', ⟨yb, yl, yc⟩, d1, d2, d3, d4⟩ := hPb.d x
          exact ⟨L', yb, yl, yc, d1, d2, fun W v h1 h2 => (d3 W Y.heap.size v h1 h2).mono fun e w' hh => ⟨hh.1, hh.2⟩, d4⟩
        replace hcs : Hid _ := hcs
        have HP0 : Hid (Pp w wr B.heap.size A.heap.size Y.heap.size X.heap.size s2 s1 v2 v1 st2 st1 st2 st1 Lx2 Lx1) := P0
        obtain ⟨c0, c1, c2, c3, c4, c5, c6, c7, c8, c9, c10⟩ := hcs.out wr P0.T.bel
        clear P0 hPb q1 q2 q3 hel e2
        try clear HQ
        go_wp2_with fail
        go_at_call 11
        refine (hown.out _ HP0.out.T.bel).mono ?_
        rintro e w1 ⟨pb, pl, pc, rfl, h1⟩
        have P1 := HP0.out.below h1.out.2
        have HP1 : Hid _ := P1
        clear c0 c1 c2 c3 c4 c5 c6 c7 c8 c9 c10 P1
        go_wp2_with fail
        go_at_call 12
        refine (hP12.out w1 _ (pb, pl, pc) HP1.out.T.j1 h1.out.1).mono ?_
        rintro e w2 ⟨yb, yl, yc, rfl, hp⟩
        obtain ⟨s', P2⟩ := HP1.out.pushp hp.out
        have HR2 : Hid (R EP w2 (.slice yb yl yc) qs) := hp.out.rp
        have HO2 : Hid (∀ k, v2.ownBlock = some k → k < w2.heap.size) := P2.fx.lt
        have HP2 : Hid _ := P2
        clear P2 hp h1 HP1 hP12
        have b3 := bel2 w2 (.cells (fv g (.slice yb yl yc)) 24) (.cells #[.int .i64 st'.code, .int .i64 0] 32)
        have HF3 : Hid (FB ((w2.alloc (.cells (fv g (.slice yb yl yc)) 24)).alloc (.cells #[.int .i64 st'.code, .int .i64 0] 32)) w2.heap.size g (.slice yb yl yc) ∧ TB ((w2.alloc (.cells (fv g (.slice yb yl yc)) 24)).alloc (.cells #[.int .i64 st'.code, .int .i64 0] 32)) (w2.heap.size + 1) st'.code) := by
          refine ⟨?_, fresh2 _ _ _⟩
          unfold FB
          rw [heap_al, if_neg (by rw [size_al]; omega), heap_al, if_pos rfl]
        have HP3 : Hid _ := HP2.out.below b3
        have HR3 : Hid _ := R.below HR2.out b3
        obtain ⟨c0, c1, c2, c3, c4, c5, c6, c7, c8, c9, c10⟩ := hcs.out w2 HP2.out.T.bel
        have lB : gB < w2.heap.size := World.block_lt_of_cell? _ _ c0
        clear b3
        unfold fv at HF3 HP3 HR3
        go_wp2_with fail
        go_at_call 11
        refine (hown.out _ HP3.out.T.bel).mono ?_
        rintro e w4 ⟨pb, pl, pc, rfl, h1⟩
        have F4 : Hid (FB w4 w2.heap.size g (.slice yb yl yc) ∧ TB w4 (w2.heap.size + 1) st'.code) := ⟨FB.below HF3.out.1 h1.out.2, (h1.out.2.block _ (heap_lt HF3.out.2)).trans HF3.out.2⟩
        have R4 : Hid (R EP w4 (.slice yb yl yc) qs) := R.below HR3.out h1.out.2
        have P4 := HP3.out.below h1.out.2
        have HP4 : Hid _ := P4
        clear c0 c1 c2 c3 c4 c5 c6 c7 c8 c9 c10 P4 HF3 HP3 HR3 HR2 HP2 lB
        obtain ⟨L', zb, zl, zc, dS, dL, dC, dF⟩ := hP19.out (pb, pl, pc)
        replace dC : Hid (∀ W v, _) := dC
        replace dF : Hid (∀ W, _) := dF
        replace dS : Hid (Sm st' L' st'.code) := dS
        clear hP19
        go_wp2_with fail
        go_at_call 19
        refine (dC.out w4 _ HP4.out.rx HP4.out.fx).mono ?_
        rintro e w5 ⟨rfl, hr⟩
        obtain ⟨R5, v', P5⟩ := HP4.out.pushd2 hr.out dS.out dF.out h1.out.1
        have F5 : Hid (FB w5 w2.heap.size g (.slice yb yl yc) ∧ TB w5 (w2.heap.size + 1) st'.code ∧ R EP w5 (.slice yb yl yc) qs ∧ R EP w5 (.slice zb zl zc) qs) :=
          ⟨hr.out.keep HP4.out.rx HP4.out.fx F4.out.1 (by decide) (.inr fun e => by have := HO2.out _ e; omega), hr.out.keep HP4.out.rx HP4.out.fx F4.out.2 (by decide) (.inl (by decide)), R.keeps R4.out fun k c hc _ => hr.out.keep HP4.out.rx HP4.out.fx hc (by decide) (.inl (by decide)), R5⟩
        have l45 : w4.heap.size ≤ w5.heap.size := hr.out.ks.size
        have l24 : w2.heap.size + 1 < w4.heap.size := heap_lt F4.out.2
        have HP5 : Hid _ := P5
        clear P5 R5 hr HP4 dC dF h1 F4 R4
        have b6 := bel2 w5 (.cells (fv g (.slice zb zl zc)) 24) (.cells #[.int .i64 st'.code, .int .i64 0] 32)
        have HF6 : Hid (FB ((w5.alloc (.cells (fv g (.slice zb zl zc)) 24)).alloc (.cells #[.int .i64 st'.code, .int .i64 0] 32)) w5.heap.size g (.slice zb zl zc) ∧ TB ((w5.alloc (.cells (fv g (.slice zb zl zc)) 24)).alloc (.cells #[.int .i64 st'.code, .int .i64 0] 32)) (w5.heap.size + 1) st'.code) := by
          refine ⟨?_, fresh2 _ _ _⟩
          unfold FB
          rw [heap_al, if_neg (by rw [size_al]; omega), heap_al, if_pos rfl]
        have HF7 : Hid (TB ((w5.alloc (.cells (fv g (.slice zb zl zc)) 24)).alloc (.cells #[.int .i64 st'.code, .int .i64 0] 32)) (w2.heap.size + 1) st'.code) := (b6.block _ (heap_lt F5.out.2.1)).trans F5.out.2.1
        have HP6 : Hid _ := HP5.out.below b6
        have hsame : Hid (Calls Try.prog 13 #[.agg (fv g (.slice yb yl yc)), .agg (fv g (.slice zb zl zc))] ((w5.alloc (.cells (fv g (.slice zb zl zc)) 24)).alloc (.cells #[.int .i64 st'.code, .int .i64 0] 32)) fun e w' => e = .returned (.bool true) ∧ Below ((w5.alloc (.cells (fv g (.slice zb zl zc)) 24)).alloc (.cells #[.int .i64 st'.code, .int .i64 0] 32)).heap.size ((w5.alloc (.cells (fv g (.slice zb zl zc)) 24)).alloc (.cells #[.int .i64 st'.code, .int .i64 0] 32)) w') :=
          same_eq g _ (yb, yl, yc) (zb, zl, zc) qs (R.isIn (R.below F5.out.2.2.1 b6)) (R.isIn (R.below F5.out.2.2.2 b6))
        obtain ⟨c0, c1, c2, c3, c4, c5, c6, c7, c8, c9, c10⟩ := FB.cells F5.out.1
        have l25 : w2.heap.size < w5.heap.size := by omega
        have l26 : w2.heap.size + 1 < w5.heap.size := by omega
        clear b6
        unfold fv at HF6 HF7 HP6 hsame
        go_wp2_with fail
        go_at_call 13
        refine hsame.out.mono ?_
        rintro e w7 ⟨rfl, hb⟩
        have P7 := HP6.out.below hb
        have F7 : TB w7 (w2.heap.size + 1) st'.code := (hb.block _ (heap_lt HF7.out)).trans HF7.out
        have F8 : TB w7 (w5.heap.size + 1) st'.code := (hb.block _ (heap_lt HF6.out.2)).trans HF6.out.2
        have t0 := cell_blk F7 0
        have t1 := cell_blk F7 1
        have t2 := cell_blk F8 0
        have t3 := cell_blk F8 1
        simp only [List.getElem?_toArray, List.getElem?_cons_succ, List.getElem?_cons_zero] at t0 t1 t2 t3
        have HP7 : Hid _ := P7
        clear c0 c1 c2 c3 c4 c5 c6 c7 c8 c9 c10 P7 F7 F8 hb HF6 HF7 HP6 hsame HP5 F5 hown
        go_wp2_with fail
        go_at_call 14
        refine (busy_any w7 _ _ _ HP7.out.T.j1).mono ?_
        rintro e w8 ⟨rfl, hb⟩
        have P8 := HP7.out.below hb
        obtain ⟨vb, vc, ev, _, _⟩ := P8.fx.slice
        have hbusy : Hid (busyB st' = decide (0 < L'.length)) := dS.out.busy
        have HR8 : Hid (RB w8 Y.heap.size (.slice vb L'.length vc) st'.code) := by rw [← ev]; exact P8.rx
        have HP8 : Hid _ := P8
        have HL8 : Hid (L'.length ≤ i + 1) := by show _ ≤ _; omega
        clear P8 hb HP7 t0 t1 t2 t3 ev dL
        rw [hbusy.out]
        go_wp2_with fail
        go_at_call 20
        refine (rbusy_any w8 _ vb L'.length vc _ HR8.out).mono ?_
        rintro e w9 ⟨rfl, rfl⟩
        clear HR8 hbusy dS
        go_wp2_with fail
        go_roundw
        case rel => exact ⟨i + 1, by simp, by omega, _, _, _, _, _, _, _, _, HP8.out.swap, (by have := HLL1.out; omega), HL8.out⟩
        case measure => simp [intOf]; omega
      · have hj2 : ¬ (i : Int) < (l2.length : Int) := by omega
        go_wp2_with fail
        go_ret
        exact ⟨rfl, HP.out.T.bel⟩
end Go.Proofs.Ytdgdjanchpfleaa
