/- FeedApart. -/
import Derived.Test.YtmhbaaemihljjaaDoorV1
import Derived.Test.YtmhbaaemihljjaaDoorV2
import Derived.Test.YtmhbaaemihljjaaDoorW1
namespace Go.Proofs.YtmhbaaemihljjaaDoor
open Go.RowKit
set_option linter.unusedVariables false
set_option linter.unusedSimpArgs false

theorem builtM (k : Int) (W : World) : (Instr.build 49 #[(0, .int .i64 k)]).run Tryd.prog W = .ok (.agg #[.int .i64 k, .int .i64 0]) W :=
  run_build W 49 _ _ (by kernel_rfl)
theorem heap_lt' {w : World} {g : Nat} {f : Fr} {p : Value} (h : FB w g f p) : g < w.heap.size := h.lt

set_option maxRecDepth 100000 in
set_option maxHeartbeats 16000000 in
theorem feedApart_any (v : Value) (l : List (Int × Int)) (w : World) (hw : 1 ≤ w.heap.size) (hK : Kinds w) (hv : PIn w v l) :
    Calls Tryd.prog 6 #[v] w fun e w' => e = .returned (.bool true) ∧ Below w.heap.size w w' := by
  have HV : Hid (PIn w v l) := hv
  obtain ⟨vb, n, vc, rfl, hln⟩ : ∃ vb n vc, v = .slice vb n vc ∧ l.length = n := by
    rcases hv with ⟨b, cap, rfl, rfl⟩ | ⟨B, off, cap, rfl, _⟩
    · exact ⟨b, 0, cap, rfl, rfl⟩
    · exact ⟨_, _, cap, rfl, rfl⟩
  have HN : Hid (l.length = n) := hln
  clear hv hln
  go_enter Tryd.func6, Tryd.ntmps6
  go_wp2_with fail
  refine (head_any w hK hw).mono ?_
  rintro e w0 ⟨rfl, hB0⟩
  have P0 : Hid (PRow (w0.alloc (.cells #[.int .i64 4, .int .i64 100] 49)) (.slice (some ⟨w0.heap.size, 0, none⟩) 1 1) [(4, 100)] ∧ (∀ j, (Value.slice (some ⟨w0.heap.size, 0, none⟩) 1 1).ownBlock = some j → w.heap.size ≤ j) ∧ Below w.heap.size w (w0.alloc (.cells #[.int .i64 4, .int .i64 100] 49))) := by
    refine ⟨prow_lit (heap_alloc_new _ _), fun j hj => ?_, hB0.alloc hB0.size _⟩
    simp [Value.ownBlock] at hj
    have := hB0.size
    omega
  clear hB0
  go_wp2_with fail
  go_loopw [3, 4] (fun o i wr => ∃ k : Nat, k ≤ n ∧ k ≤ 50 ∧ i = .int .i64 (k : Int) ∧ Hid (PRow wr o (apK l k) ∧ (∀ j, o.ownBlock = some j → w.heap.size ≤ j) ∧ Below w.heap.size w wr)) (fun _ i _ => 50 - (intOf i).toNat)
  case atStart => exact ⟨0, by omega, by omega, rfl, P0.out⟩
  case round =>
    obtain ⟨k, hk, hk2, rfl, HP⟩ := hrel
    clear P0
    obtain ⟨hP, hfr, hB⟩ := HP.out
    obtain ⟨ob, oc, ho⟩ := hP.slice
    by_cases hboth : k < n ∧ k < 50
    · obtain ⟨hlt, hlt2⟩ := hboth
      have hlen := HN.out
      obtain ⟨B, off, hvb, hc1, hc2, d1, d2⟩ : ∃ B off, vb = some ⟨B, off, none⟩ ∧ n ≤ vc ∧ vc ≤ 9223372036854775807 ∧ wr.cell? ⟨B, off + k * 2, none⟩ = some (.int .i64 (l[k]'(by omega)).1) ∧ wr.cell? ⟨B, off + k * 2 + 1, none⟩ = some (.int .i64 (l[k]'(by omega)).2) := by
        rcases HV.out with ⟨_, _, h1, h2⟩ | ⟨B, off, cap, h1, h2, h3, h4, h5⟩
        · rw [h2] at hlen; simp at hlen; omega
        · injection h1 with e1 e2 e3
          have := h5 k (by omega)
          exact ⟨B, off, e1, by omega, by omega, (hB.cell h4).trans this.1, (hB.cell h4).trans this.2⟩
      subst hvb
      obtain ⟨x, hx⟩ : ∃ x, (l[k]'(by omega)).1 = x := ⟨_, rfl⟩
      obtain ⟨y, hy⟩ : ∃ y, (l[k]'(by omega)).2 = y := ⟨_, rfl⟩
      have hsucc : apK l (k + 1) = apK l k ++ [(x % 65536, y % 4294967296)] := by rw [apK_succ l k (by omega), mk1, hx, hy]
      rw [hx] at d1
      rw [hy] at d2
      have ha1 : bits .and .i64 x 65535 = x % 65536 := and_any x 16 (by decide)
      have ha2 : bits .and .i64 y 4294967295 = y % 4294967296 := and_any y 32 (by decide)
      have hBk : (wr.alloc (.cells #[.int .i64 (x % 65536), .int .i64 (y % 4294967296)] 49)).drew.heap[wr.heap.size]? = some (.cells #[.int .i64 (x % 65536), .int .i64 (y % 4294967296)] 49 (0, 0)) := heap_alloc_new wr _
      have hb1 : Below wr.heap.size wr (wr.alloc (.cells #[.int .i64 (x % 65536), .int .i64 (y % 4294967296)] 49)).drew := ((Below.refl _ wr).alloc (Nat.le_refl _) _).drew
      have hkl : (apK l k).length = k + 1 := apK_length l k (by omega)
      obtain ⟨base, cap, w2, hrun, hP2, hG2⟩ := prow_append _ _ (apK l k) (hP.below (w' := (wr.alloc (.cells #[.int .i64 (x % 65536), .int .i64 (y % 4294967296)] 49)).drew) fun k _ hk => hb1.block k hk) wr.heap.size _ _ hBk (by rw [hkl]; omega)
      have hfin : Hid (PRow w2 (.slice base ((apK l k).length + 1) cap) (apK l (k + 1)) ∧ (∀ j, (Value.slice base ((apK l k).length + 1) cap).ownBlock = some j → w.heap.size ≤ j) ∧ Below w.heap.size w w2) := by
        refine ⟨by rw [hsucc]; exact hP2, fun j hj => (hG2.own j hj).elim (hfr j) fun hh => by have := hB.size; have := hb1.size; omega, ?_⟩
        refine (hB.trans (hb1.mono hB.size)).trans ⟨hG2.os, hG2.tape, hG2.output, hG2.size, fun j hj => hG2.block j (Nat.lt_of_lt_of_le hj (Nat.le_trans hB.size hb1.size)) fun e => ?_⟩
        have := hfr j e
        omega
      obtain ⟨kl, hkl'⟩ : ∃ kl, (apK l k).length = kl := ⟨_, rfl⟩
      rw [hkl'] at hrun hfin ho
      subst ho
      replace hrun : Hid _ := hrun
      have hlti : (k : Int) < (n : Int) := by omega
      have hlt2i : (k : Int) < 50 := by omega
      clear hP2 hG2 hBk hb1 hP hfr HP hsucc hx hy hlen hkl hkl'
      go_wp2_with fail
      go_region_law (refine step_append_run rfl (.tmp 36) (.tmp 50) 26 26 rfl hrun.out (by simp [Act.eval]) (by simp [Act.eval]) ?_)
      all_goals
        go_wp2_with fail
        go_roundw
        case rel => exact ⟨k + 1, by omega, by omega, by simp, hfin.out⟩
        case measure => simp [intOf]; omega
    · by_cases hlt : k < n
      · have hlti : (k : Int) < (n : Int) := by omega
        have hlt2i : ¬ (k : Int) < 50 := by omega
        clear hboth hlt
        rw [ho] at hP hfr ⊢
        obtain ⟨m, hm⟩ : ∃ m, (apK l k).length = m := ⟨_, rfl⟩
        have hm1 : m = k + 1 := by rw [← hm]; exact apK_length l k (by have := HN.out; omega)
        have hm51 : m ≤ 51 := by omega
        rw [hm] at hP hfr ⊢
        have hRt := apK_right l k
        have hwl := set_whole (apK l k)
        have hsz := asmB_size fSet (apK l k)
        rw [hm] at hwl
        obtain ⟨P, hPP⟩ : ∃ P, apK l k = P := ⟨_, rfl⟩
        rw [hPP] at hP hRt hwl hsz hm
        obtain ⟨b, hb⟩ : ∃ b, asmB fSet P = b := ⟨_, rfl⟩
        have hn : Hid (∀ X, nextS ⟨⟨#[]⟩, b.data.toList ++ X, 16384, 0⟩ = ⟨(fSet, P), true, 0, 0, ⟨⟨#[]⟩, X, 16384, 0⟩⟩) := fun X => by
          rw [← hb]
          exact next_tells fSet P hRt X 16384 (by omega) (by omega)
        have hbs : b.size ≤ 400 := by rw [← hb]; omega
        have c18 : Calls Tryd.prog 18 #[.agg (fv fSet (.slice ob m oc))] wr fun e w' => e = .returned (.tuple #[.string b, .int .i64 0]) ∧ Hid (PRow w' (.slice ob m oc) P ∧ (∀ j, (Value.slice ob m oc).ownBlock = some j → w.heap.size ≤ j) ∧ All w w' []) := by
          refine (write_any fSet P _ wr (Nat.le_trans hw hB.size) (hK.of_eq (hB.block 0 (by omega))) hP (by omega)).mono ?_
          rintro e w' ⟨x, rfl, hx, h3⟩
          exact ⟨by rw [hx.1 hRt (by omega), hb], hP.below fun k _ hk => h3.block k hk, hfr, ((All.start hK hw).later hB).later h3⟩
        have HM : Hid (P.length = m) := hm
        clear hP hfr HP hPP hRt hwl hsz hb hm hm1 ho hB HN HV
        simp only [fv, fSet] at c18
        go_wp2_with fail
        refine c18.mono ?_
        clear c18
        rintro e w2 ⟨rfl, H2⟩
        go_wp2_with fail
        refine (new_all H2.out.2.2 false 16384).mono ?_
        rintro e w3 ⟨g, rfl, hA3, kt3⟩
        replace hA3 : Hid (All w w3 [(g, .slice none 0 0, ⟨⟨#[]⟩, [], 16384, 0⟩)]) := hA3
        have p3 : Hid (PRow w3 (.slice ob m oc) P ∧ (∀ j, (Value.slice ob m oc).ownBlock = some j → w.heap.size ≤ j)) := ⟨kt3.prow H2.out.1, H2.out.2.1⟩
        clear H2 kt3
        go_wp2_with fail
        refine (push_all hA3.out 0 (g := g) (v := .slice none 0 0) (S := ⟨⟨#[]⟩, [], 16384, 0⟩) rfl _ (by simp only [ByteArray.size_append, List.length_nil]; omega)).mono ?_
        rintro e w4 ⟨rfl, v4, hA4, kt4⟩
        have eW : pushS ⟨⟨#[]⟩, [], 16384, 0⟩ (b ++ b ++ b) = ⟨⟨#[]⟩, b.data.toList ++ (b.data.toList ++ (b.data.toList ++ [])), 16384, 0⟩ := by
          simp [pushS, ByteArray.data_append]
        replace hA4 : Hid (All w w4 [(g, v4, ⟨⟨#[]⟩, b.data.toList ++ (b.data.toList ++ (b.data.toList ++ [])), 16384, 0⟩)]) := by
          have := hA4
          rw [eW] at this
          exact this
        replace p3 : Hid (PRow w4 (.slice ob m oc) P ∧ (∀ j, (Value.slice ob m oc).ownBlock = some j → w.heap.size ≤ j)) := ⟨kt4.prow p3.out.1, p3.out.2⟩
        clear hA3 kt4 eW
        go_wp2_with fail
        refine (next_all hA4.out 0 (g := g) (v := v4) (S := ⟨⟨#[]⟩, b.data.toList ++ (b.data.toList ++ (b.data.toList ++ [])), 16384, 0⟩) rfl _ (hn.out _)).mono ?_
        rintro e w5 ⟨xb, xl, xc, v5, rfl, xr, xn, hA5, kt5⟩
        obtain rfl : xl = m := by
          obtain ⟨_, _, e⟩ := xr.slice
          injection e with _ e _
          rw [e]
          exact HM.out
        replace hA5 : All w w5 [(g, v5, ⟨⟨#[]⟩, b.data.toList ++ (b.data.toList ++ []), 16384, 0⟩)] := hA5
        obtain ⟨hA6, f6, -, kt6⟩ := box2 hA5 fSet (.slice xb xl xc) 0 0
        have p4lt : ∀ k, (Value.slice ob xl oc).ownBlock = some k → k < w4.heap.size := fun k hk => p3.out.1.lt k hk
        have w45 : w4.heap.size ≤ w5.heap.size ∨ True := .inr trivial
        have H6 : Hid (All w _ _ ∧ PRow _ (.slice ob xl oc) P ∧ PRow _ (.slice xb xl xc) P ∧ FB _ w5.heap.size fSet (.slice xb xl xc) ∧ (∀ k, (Value.slice xb xl xc).ownBlock = some k → (Value.slice ob xl oc).ownBlock ≠ some k) ∧ (∀ k, (Value.slice xb xl xc).ownBlock = some k → w.heap.size ≤ k)) := ⟨hA6, kt6.prow (kt5.prow p3.out.1), kt6.prow xr, f6, fun k hk e => by have := xn k hk; have := p4lt k e; omega, fun k hk => by have := xn k hk; have := hA4.out.bel.size; omega⟩
        clear hA4 hA5 hA6 f6 kt5 kt6 p3 xr xn p4lt w45
        simp only [fv, fSet] at H6
        simp only [fSet]
        obtain ⟨A, hA⟩ : ∃ A, w5.heap.size = A := ⟨_, rfl⟩
        rw [hA] at H6
        go_wp2_with fail
        try rw [hA]
        generalize hW6 : (w5.alloc (.cells #[.int .i64 4, .int .i64 0, .int .i64 0, .string ⟨#[]⟩, .int .i64 0, .int .i64 0, .bool false, .int .i64 0, .int .i64 0, .int .i64 0, .slice xb xl xc] 28)).alloc (.cells #[.int .i64 0, .int .i64 0] 30) = W6 at H6 ⊢
        clear hW6
        obtain ⟨hA6, p6, x6, f6, xp, nx⟩ := H6.out
        clear H6
        refine (next_all hA6 0 (g := g) (v := v5) (S := ⟨⟨#[]⟩, b.data.toList ++ (b.data.toList ++ []), 16384, 0⟩) rfl _ (hn.out _)).mono ?_
        rintro e w7 ⟨yb, yl, yc, v7, rfl, yr, yn, hA7, kt7⟩
        obtain rfl : yl = xl := by
          obtain ⟨_, _, e⟩ := yr.slice
          injection e with _ e _
          rw [e]
          exact HM.out
        replace hA7 : All w w7 [(g, v7, ⟨⟨#[]⟩, b.data.toList ++ [], 16384, 0⟩)] := hA7
        obtain ⟨hA8, f8, -, kt8⟩ := box2 hA7 fSet (.slice yb yl yc) 0 0
        have H8 : Hid (Fa w g v7 ⟨⟨#[]⟩, b.data.toList ++ [], 16384, 0⟩ (.slice ob yl oc) (.slice xb yl xc) (.slice yb yl yc) P P A w7.heap.size ((w7.alloc (.cells (fv fSet (.slice yb yl yc)) 28)).alloc (.cells #[.int .i64 0, .int .i64 0] 30))) :=
          ⟨hA8, kt8.prow (kt7.prow p6), kt8.prow (kt7.prow x6), kt8.prow yr, kt8.fb (kt7.fb f6), f8, xp, fun k hk e => by have := yn k e; have := x6.lt k hk; omega, fun k hk e => by have := yn k hk; have := p6.lt k e; omega, nx, fun k hk => by have := yn k hk; have := hA6.bel.size; omega⟩
        clear hA6 p6 x6 f6 xp nx hA7 hA8 f8 kt7 kt8 yr yn
        simp only [fv, fSet] at H8
        simp only [fSet]
        have hcells : Hid (∀ {W B S X}, Fa w g v7 S (.slice ob yl oc) (.slice xb yl xc) (.slice yb yl yc) P X A B W → W.cell? ⟨A, 10, none⟩ = some (.slice xb yl xc) ∧ W.cell? ⟨B, 10, none⟩ = some (.slice yb yl yc)) := fun h => ⟨h.fx.cell 10, h.fy.cell 10⟩
        obtain ⟨B, hB⟩ : ∃ B, w7.heap.size = B := ⟨_, rfl⟩
        rw [hB] at H8
        obtain ⟨z1, z2⟩ := hcells.out H8.out
        go_wp2_with fail
        try rw [hB]
        generalize hW8 : (w7.alloc (.cells #[.int .i64 4, .int .i64 0, .int .i64 0, .string ⟨#[]⟩, .int .i64 0, .int .i64 0, .bool false, .int .i64 0, .int .i64 0, .int .i64 0, .slice yb yl yc] 28)).alloc (.cells #[.int .i64 0, .int .i64 0] 30) = W8 at H8 z1 z2 ⊢
        clear hW8 z1 z2 hB hA
        go_loopw [14] (fun i wr => ∃ j : Nat, j ≤ yl ∧ i = .int .i64 (j : Int) ∧ Hid (Fa w g v7 ⟨⟨#[]⟩, b.data.toList ++ [], 16384, 0⟩ (.slice ob yl oc) (.slice xb yl xc) (.slice yb yl yc) P P A B wr)) (fun i _ => yl - (intOf i).toNat)
        case atStart => exact ⟨0, Nat.zero_le _, rfl, H8⟩
        case round =>
          obtain ⟨j, hj, rfl, HJ⟩ := hrel
          clear H8
          obtain ⟨z1, z2⟩ := hcells.out HJ.out
          by_cases hjn : j < yl
          · have hPl := HM.out
            obtain ⟨pg, pc', pe, pa, pb', pd0, pd1⟩ := HJ.out.pr.at j (by omega)
            obtain ⟨xg, xc', xe, xa, xb', xd0, xd1⟩ := HJ.out.xr.at j (by omega)
            obtain ⟨yg, yc', ye, ya, yb', yd0, yd1⟩ := HJ.out.yr.at j (by omega)
            rw [hPl] at pe pa xe xa ye ya
            injection pe with pe1 pe2 pe3
            injection xe with xe1 xe2 xe3
            injection ye with ye1 ye2 ye3
            subst pe1 pe3 xe1 xe3 ye1 ye3
            obtain ⟨q, hq⟩ : ∃ q, P[j]'(by omega) = q := ⟨_, rfl⟩
            rw [hq] at pd0 pd1 xd0 xd1 yd0 yd1
            obtain ⟨q1, q2⟩ := q
            simp only at pd0 pd1 xd0 xd1 yd0 yd1
            have hji : (j : Int) < (yl : Int) := by omega
            have HD : Hid (Fa w g v7 ⟨⟨#[]⟩, b.data.toList ++ [], 16384, 0⟩ (.slice (some ⟨pg, 0, none⟩) yl oc) (.slice (some ⟨xg, 0, none⟩) yl xc) (.slice (some ⟨yg, 0, none⟩) yl yc) P P A B wr.drew) := HJ.out.below (Below.refl _ _).drew
            clear HJ hPl hq pe2 xe2 ye2 hcells
            go_wp2_with fail
            go_region
            all_goals
              go_wp2_with fail
              go_roundw
              case rel => exact ⟨j + 1, by omega, by simp, HD⟩
              case measure => simp [intOf]; omega
          · obtain rfl : j = yl := by omega
            have hji : ¬ (j : Int) < (j : Int) := by omega
            clear z1 z2
            go_wp2_with fail
            have hneg : Hid (∀ i, i ≤ j → (negAt P i).length = j) := fun i hi => by rw [negAt_length P i (by have := HM.out; omega)]; exact HM.out
            go_loopw [15] (fun y wr => ∃ i : Nat, i ≤ j ∧ y = .int .i64 (i : Int) ∧ Hid (Fa w g v7 ⟨⟨#[]⟩, b.data.toList ++ [], 16384, 0⟩ (.slice ob j oc) (.slice xb j xc) (.slice yb j yc) P (negAt P i) A B wr)) (fun y _ => j - (intOf y).toNat)
            case atStart => exact ⟨0, Nat.zero_le _, rfl, by rw [negAt_zero]; exact HJ.out⟩
            case round =>
              obtain ⟨i, hi, rfl, HI⟩ := hrel
              clear HJ
              obtain ⟨z1, z2⟩ := hcells.out HI.out
              by_cases hin : i < j
              · obtain ⟨xg, xc', xe, xa, xm, xlt, ⟨u1, d1⟩, ⟨u2, d2⟩, f1, f2, HS⟩ := HI.out.set i (by rw [hneg.out i (by omega)]; exact hin) (-1) 0
                rw [hneg.out i (by omega)] at xe xa
                injection xe with xe1 xe2 xe3
                subst xe1 xe3
                rw [negAt_step P i (by have := HM.out; omega)] at HS
                replace HS : Hid _ := HS
                have hii : (i : Int) < (j : Int) := by omega
                have hbld := builtM (-1)
                clear HI xe2 z2
                go_wp2_with fail
                go_roundw
                case rel => exact ⟨i + 1, by omega, by simp, HS⟩
                case measure => simp [intOf]; omega
              · obtain rfl : i = j := by omega
                have hii : ¬ (i : Int) < (i : Int) := by omega
                have hl1 := hneg.out i (Nat.le_refl _)
                have hl2 := HM.out
                obtain ⟨b1, c1, W2, b2, c2, W4, hr1, y2, hr2, a4, p4, x4, ar4, cr4, f4⟩ := HI.out.two (by omega) (by omega)
                rw [hl1] at hr1 ar4
                rw [hl2] at hr2 cr4
                obtain ⟨m1, hm1⟩ : ∃ m1, i + 1 = m1 := ⟨_, rfl⟩
                rw [hm1] at hr1 ar4 hr2 cr4
                have H4 : Hid (All w W4 [(g, v7, ⟨⟨#[]⟩, b.data.toList ++ [], 16384, 0⟩)] ∧ PRow W4 (.slice ob i oc) P ∧ PRow W4 (.slice xb i xc) (negAt P i) ∧ PRow W4 (.slice b1 m1 c1) (negAt P i ++ [(-2, 0)]) ∧ PRow W4 (.slice b2 m1 c2) (P ++ [(-3, 0)]) ∧ FB W4 A fSet (.slice xb i xc)) := ⟨a4, p4, x4, ar4, cr4, f4⟩
                have HR1 : Hid _ := hr1
                have HR2 : Hid _ := hr2
                have hb1 := builtM (-2)
                have hb2 := builtM (-3)
                have hAlt := heap_lt' HI.out.fx
                have hBlt := heap_lt' HI.out.fy
                clear hr1 hr2 a4 p4 x4 ar4 cr4 f4 HI hl1 hl2 hneg hcells z2
                go_wp2_with (at_builtin; first | (refine Lib.wpList_append_run _ rfl (.tmp 138) (.tmp 140) 26 26 rfl _ _ rfl rfl _ _ HR1.out ?_; clear HR1) | (refine Lib.wpList_append_run _ rfl (.tmp 143) (.tmp 145) 26 26 rfl _ _ rfl rfl _ _ HR2.out ?_; clear HR2))
                refine (next_all H4.out.1 0 (g := g) (v := v7) (S := ⟨⟨#[]⟩, b.data.toList ++ [], 16384, 0⟩) rfl _ (hn.out _)).mono ?_
                rintro e w9 ⟨zb, zl, zc, v9, rfl, zr, -, hA9, kt9⟩
                obtain rfl : zl = i := by
                  obtain ⟨_, _, e⟩ := zr.slice
                  injection e with _ e _
                  rw [e]
                  exact HM.out
                obtain ⟨hA10, f10, -, kt10⟩ := box2 hA9 fSet (.slice zb zl zc) 0 0
                have H10 : Hid (Fc w (.slice ob zl oc) (.slice xb zl xc) (.slice zb zl zc) (.slice b1 m1 c1) (.slice b2 m1 c2) P (negAt P zl) A w9.heap.size ((w9.alloc (.cells (fv fSet (.slice zb zl zc)) 28)).alloc (.cells #[.int .i64 0, .int .i64 0] 30))) :=
                  ⟨hA10.bel, kt10.prow (kt9.prow H4.out.2.1), kt10.prow (kt9.prow H4.out.2.2.1), kt10.prow zr, kt10.prow (kt9.prow H4.out.2.2.2.1), kt10.prow (kt9.prow H4.out.2.2.2.2.1), kt10.fb (kt9.fb H4.out.2.2.2.2.2), f10⟩
                clear hA9 hA10 f10 kt9 kt10 zr H4 y2
                simp only [fv, fSet] at H10
                simp only [fSet]
                obtain ⟨C, hC⟩ : ∃ C, w9.heap.size = C := ⟨_, rfl⟩
                rw [hC] at H10
                go_wp2_with fail
                try rw [hC]
                generalize hW10 : (w9.alloc (.cells #[.int .i64 4, .int .i64 0, .int .i64 0, .string ⟨#[]⟩, .int .i64 0, .int .i64 0, .bool false, .int .i64 0, .int .i64 0, .int .i64 0, .slice zb zl zc] 28)).alloc (.cells #[.int .i64 0, .int .i64 0] 30) = W10 at H10 ⊢
                clear hW10 hC hAlt hBlt z1
                go_loopw [21] (fun y wr => ∃ j : Nat, j ≤ zl ∧ y = .int .i64 (j : Int) ∧ Hid (Fc w (.slice ob zl oc) (.slice xb zl xc) (.slice zb zl zc) (.slice b1 m1 c1) (.slice b2 m1 c2) P (negAt P zl) A C wr)) (fun y _ => zl - (intOf y).toNat)
                case atStart => exact ⟨0, Nat.zero_le _, rfl, H10⟩
                case round =>
                  obtain ⟨j, hj, rfl, HJ⟩ := hrel
                  clear H10
                  have hPl := HM.out
                  have hXl := negAt_length P zl (by omega)
                  have z1 : wr.cell? ⟨A, 10, none⟩ = some (.slice xb zl xc) := HJ.out.fx.cell 10
                  have z3 : wr.cell? ⟨C, 10, none⟩ = some (.slice zb zl zc) := HJ.out.fz.cell 10
                  by_cases hjn : j < zl
                  · obtain ⟨pg, pc', pe, pa, pm, pd0, pd1⟩ := HJ.out.pr.at j (by omega)
                    obtain ⟨xg, xc', xe, xa, xm, xd0, xd1⟩ := HJ.out.xr.at j (by omega)
                    obtain ⟨zg, zc', ze, za, zm, zd0, zd1⟩ := HJ.out.zr.at j (by omega)
                    obtain ⟨cg, cc', ce, ca, cm, cd0, cd1⟩ := HJ.out.cr.at j (by rw [List.length_append]; omega)
                    rw [negAt_get P zl j hjn (by omega)] at xd0 xd1
                    rw [List.getElem_append_left (by omega)] at cd0 cd1
                    rw [hPl] at pe pa ze za
                    rw [hXl, hPl] at xe xa
                    rw [List.length_append, hPl] at ce ca
                    injection pe with pe1 pe2 pe3
                    injection xe with xe1 xe2 xe3
                    injection ze with ze1 ze2 ze3
                    injection ce with ce1 ce2 ce3
                    subst pe1 pe3 xe1 xe3 ze1 ze3 ce1 ce3
                    obtain ⟨q, hq⟩ : ∃ q, P[j]'(by omega) = q := ⟨_, rfl⟩
                    rw [hq] at pd0 pd1 zd0 zd1 cd0 cd1
                    obtain ⟨q1, q2⟩ := q
                    simp only at pd0 pd1 xd0 xd1 zd0 zd1 cd0 cd1
                    have hji : (j : Int) < (zl : Int) := by omega
                    have hjm : (j : Int) < (m1 : Int) := by omega
                    rw [← ce2] at ca
                    have HD : Hid (Fc w (.slice (some ⟨pg, 0, none⟩) zl oc) (.slice (some ⟨xg, 0, none⟩) zl xc) (.slice (some ⟨zg, 0, none⟩) zl zc) (.slice b1 m1 c1) (.slice (some ⟨cg, 0, none⟩) m1 c2) P (negAt P zl) A C wr.drew) := HJ.out.below (Below.refl _ _).drew
                    clear HJ hPl hXl hq pe2 xe2 ze2 ce2
                    go_wp2_with fail
                    go_region
                    all_goals
                      go_wp2_with fail
                      go_roundw
                      case rel => exact ⟨j + 1, by omega, by simp, HD⟩
                      case measure => simp [intOf]; omega
                  · obtain rfl : j = zl := by omega
                    obtain ⟨ag, ac', ae, aa, am, ad0, ad1⟩ := HJ.out.ar.at j (by rw [List.length_append]; simp; omega)
                    obtain ⟨cg, cc', ce, ca, cm, cd0, cd1⟩ := HJ.out.cr.at j (by rw [List.length_append]; simp; omega)
                    have ea : (negAt P j ++ [((-2 : Int), (0 : Int))])[j]'(by rw [List.length_append]; simp; omega) = (-2, 0) := by rw [List.getElem_append_right (by omega)]; simp [hXl, hPl]
                    have ec : (P ++ [((-3 : Int), (0 : Int))])[j]'(by rw [List.length_append]; simp; omega) = (-3, 0) := by rw [List.getElem_append_right (by omega)]; simp [hPl]
                    rw [ea] at ad0 ad1
                    rw [ec] at cd0 cd1
                    rw [List.length_append, hXl, hPl] at ae aa
                    rw [List.length_append, hPl] at ce ca
                    injection ae with ae1 ae2 ae3
                    injection ce with ce1 ce2 ce3
                    subst ae1 ae3 ce1 ce3
                    rw [← ae2] at aa
                    rw [← ce2] at ca
                    simp only at ad0 ad1 cd0 cd1
                    have hji : ¬ (j : Int) < (j : Int) := by omega
                    have hjm : (j : Int) < (m1 : Int) := by
                      simp only [List.length_singleton] at ae2
                      omega
                    have hjj : ((j : Int) == (j : Int)) = true := by simp
                    have hbel : Hid (Below w.heap.size w wr) := HJ.out.bel
                    clear HJ hPl hXl ea ec ae2 ce2
                    go_wp2
                    go_ret
                    exact ⟨rfl, hbel.out⟩
      · have hlti : ¬ (k : Int) < (n : Int) := by omega
        clear hboth hlt
        rw [ho] at hP hfr ⊢
        obtain ⟨m, hm⟩ : ∃ m, (apK l k).length = m := ⟨_, rfl⟩
        have hm1 : m = k + 1 := by rw [← hm]; exact apK_length l k (by have := HN.out; omega)
        have hm51 : m ≤ 51 := by omega
        rw [hm] at hP hfr ⊢
        have hRt := apK_right l k
        have hwl := set_whole (apK l k)
        have hsz := asmB_size fSet (apK l k)
        rw [hm] at hwl
        obtain ⟨P, hPP⟩ : ∃ P, apK l k = P := ⟨_, rfl⟩
        rw [hPP] at hP hRt hwl hsz hm
        obtain ⟨b, hb⟩ : ∃ b, asmB fSet P = b := ⟨_, rfl⟩
        have hn : Hid (∀ X, nextS ⟨⟨#[]⟩, b.data.toList ++ X, 16384, 0⟩ = ⟨(fSet, P), true, 0, 0, ⟨⟨#[]⟩, X, 16384, 0⟩⟩) := fun X => by
          rw [← hb]
          exact next_tells fSet P hRt X 16384 (by omega) (by omega)
        have hbs : b.size ≤ 400 := by rw [← hb]; omega
        have c18 : Calls Tryd.prog 18 #[.agg (fv fSet (.slice ob m oc))] wr fun e w' => e = .returned (.tuple #[.string b, .int .i64 0]) ∧ Hid (PRow w' (.slice ob m oc) P ∧ (∀ j, (Value.slice ob m oc).ownBlock = some j → w.heap.size ≤ j) ∧ All w w' []) := by
          refine (write_any fSet P _ wr (Nat.le_trans hw hB.size) (hK.of_eq (hB.block 0 (by omega))) hP (by omega)).mono ?_
          rintro e w' ⟨x, rfl, hx, h3⟩
          exact ⟨by rw [hx.1 hRt (by omega), hb], hP.below fun k _ hk => h3.block k hk, hfr, ((All.start hK hw).later hB).later h3⟩
        have HM : Hid (P.length = m) := hm
        clear hP hfr HP hPP hRt hwl hsz hb hm hm1 ho hB HN HV
        simp only [fv, fSet] at c18
        go_wp2_with fail
        refine c18.mono ?_
        clear c18
        rintro e w2 ⟨rfl, H2⟩
        go_wp2_with fail
        refine (new_all H2.out.2.2 false 16384).mono ?_
        rintro e w3 ⟨g, rfl, hA3, kt3⟩
        replace hA3 : Hid (All w w3 [(g, .slice none 0 0, ⟨⟨#[]⟩, [], 16384, 0⟩)]) := hA3
        have p3 : Hid (PRow w3 (.slice ob m oc) P ∧ (∀ j, (Value.slice ob m oc).ownBlock = some j → w.heap.size ≤ j)) := ⟨kt3.prow H2.out.1, H2.out.2.1⟩
        clear H2 kt3
        go_wp2_with fail
        refine (push_all hA3.out 0 (g := g) (v := .slice none 0 0) (S := ⟨⟨#[]⟩, [], 16384, 0⟩) rfl _ (by simp only [ByteArray.size_append, List.length_nil]; omega)).mono ?_
        rintro e w4 ⟨rfl, v4, hA4, kt4⟩
        have eW : pushS ⟨⟨#[]⟩, [], 16384, 0⟩ (b ++ b ++ b) = ⟨⟨#[]⟩, b.data.toList ++ (b.data.toList ++ (b.data.toList ++ [])), 16384, 0⟩ := by
          simp [pushS, ByteArray.data_append]
        replace hA4 : Hid (All w w4 [(g, v4, ⟨⟨#[]⟩, b.data.toList ++ (b.data.toList ++ (b.data.toList ++ [])), 16384, 0⟩)]) := by
          have := hA4
          rw [eW] at this
          exact this
        replace p3 : Hid (PRow w4 (.slice ob m oc) P ∧ (∀ j, (Value.slice ob m oc).ownBlock = some j → w.heap.size ≤ j)) := ⟨kt4.prow p3.out.1, p3.out.2⟩
        clear hA3 kt4 eW
        go_wp2_with fail
        refine (next_all hA4.out 0 (g := g) (v := v4) (S := ⟨⟨#[]⟩, b.data.toList ++ (b.data.toList ++ (b.data.toList ++ [])), 16384, 0⟩) rfl _ (hn.out _)).mono ?_
        rintro e w5 ⟨xb, xl, xc, v5, rfl, xr, xn, hA5, kt5⟩
        obtain rfl : xl = m := by
          obtain ⟨_, _, e⟩ := xr.slice
          injection e with _ e _
          rw [e]
          exact HM.out
        replace hA5 : All w w5 [(g, v5, ⟨⟨#[]⟩, b.data.toList ++ (b.data.toList ++ []), 16384, 0⟩)] := hA5
        obtain ⟨hA6, f6, -, kt6⟩ := box2 hA5 fSet (.slice xb xl xc) 0 0
        have p4lt : ∀ k, (Value.slice ob xl oc).ownBlock = some k → k < w4.heap.size := fun k hk => p3.out.1.lt k hk
        have w45 : w4.heap.size ≤ w5.heap.size ∨ True := .inr trivial
        have H6 : Hid (All w _ _ ∧ PRow _ (.slice ob xl oc) P ∧ PRow _ (.slice xb xl xc) P ∧ FB _ w5.heap.size fSet (.slice xb xl xc) ∧ (∀ k, (Value.slice xb xl xc).ownBlock = some k → (Value.slice ob xl oc).ownBlock ≠ some k) ∧ (∀ k, (Value.slice xb xl xc).ownBlock = some k → w.heap.size ≤ k)) := ⟨hA6, kt6.prow (kt5.prow p3.out.1), kt6.prow xr, f6, fun k hk e => by have := xn k hk; have := p4lt k e; omega, fun k hk => by have := xn k hk; have := hA4.out.bel.size; omega⟩
        clear hA4 hA5 hA6 f6 kt5 kt6 p3 xr xn p4lt w45
        simp only [fv, fSet] at H6
        simp only [fSet]
        obtain ⟨A, hA⟩ : ∃ A, w5.heap.size = A := ⟨_, rfl⟩
        rw [hA] at H6
        go_wp2_with fail
        try rw [hA]
        generalize hW6 : (w5.alloc (.cells #[.int .i64 4, .int .i64 0, .int .i64 0, .string ⟨#[]⟩, .int .i64 0, .int .i64 0, .bool false, .int .i64 0, .int .i64 0, .int .i64 0, .slice xb xl xc] 28)).alloc (.cells #[.int .i64 0, .int .i64 0] 30) = W6 at H6 ⊢
        clear hW6
        obtain ⟨hA6, p6, x6, f6, xp, nx⟩ := H6.out
        clear H6
        refine (next_all hA6 0 (g := g) (v := v5) (S := ⟨⟨#[]⟩, b.data.toList ++ (b.data.toList ++ []), 16384, 0⟩) rfl _ (hn.out _)).mono ?_
        rintro e w7 ⟨yb, yl, yc, v7, rfl, yr, yn, hA7, kt7⟩
        obtain rfl : yl = xl := by
          obtain ⟨_, _, e⟩ := yr.slice
          injection e with _ e _
          rw [e]
          exact HM.out
        replace hA7 : All w w7 [(g, v7, ⟨⟨#[]⟩, b.data.toList ++ [], 16384, 0⟩)] := hA7
        obtain ⟨hA8, f8, -, kt8⟩ := box2 hA7 fSet (.slice yb yl yc) 0 0
        have H8 : Hid (Fa w g v7 ⟨⟨#[]⟩, b.data.toList ++ [], 16384, 0⟩ (.slice ob yl oc) (.slice xb yl xc) (.slice yb yl yc) P P A w7.heap.size ((w7.alloc (.cells (fv fSet (.slice yb yl yc)) 28)).alloc (.cells #[.int .i64 0, .int .i64 0] 30))) :=
          ⟨hA8, kt8.prow (kt7.prow p6), kt8.prow (kt7.prow x6), kt8.prow yr, kt8.fb (kt7.fb f6), f8, xp, fun k hk e => by have := yn k e; have := x6.lt k hk; omega, fun k hk e => by have := yn k hk; have := p6.lt k e; omega, nx, fun k hk => by have := yn k hk; have := hA6.bel.size; omega⟩
        clear hA6 p6 x6 f6 xp nx hA7 hA8 f8 kt7 kt8 yr yn
        simp only [fv, fSet] at H8
        simp only [fSet]
        have hcells : Hid (∀ {W B S X}, Fa w g v7 S (.slice ob yl oc) (.slice xb yl xc) (.slice yb yl yc) P X A B W → W.cell? ⟨A, 10, none⟩ = some (.slice xb yl xc) ∧ W.cell? ⟨B, 10, none⟩ = some (.slice yb yl yc)) := fun h => ⟨h.fx.cell 10, h.fy.cell 10⟩
        obtain ⟨B, hB⟩ : ∃ B, w7.heap.size = B := ⟨_, rfl⟩
        rw [hB] at H8
        obtain ⟨z1, z2⟩ := hcells.out H8.out
        go_wp2_with fail
        try rw [hB]
        generalize hW8 : (w7.alloc (.cells #[.int .i64 4, .int .i64 0, .int .i64 0, .string ⟨#[]⟩, .int .i64 0, .int .i64 0, .bool false, .int .i64 0, .int .i64 0, .int .i64 0, .slice yb yl yc] 28)).alloc (.cells #[.int .i64 0, .int .i64 0] 30) = W8 at H8 z1 z2 ⊢
        clear hW8 z1 z2 hB hA
        go_loopw [14] (fun i wr => ∃ j : Nat, j ≤ yl ∧ i = .int .i64 (j : Int) ∧ Hid (Fa w g v7 ⟨⟨#[]⟩, b.data.toList ++ [], 16384, 0⟩ (.slice ob yl oc) (.slice xb yl xc) (.slice yb yl yc) P P A B wr)) (fun i _ => yl - (intOf i).toNat)
        case atStart => exact ⟨0, Nat.zero_le _, rfl, H8⟩
        case round =>
          obtain ⟨j, hj, rfl, HJ⟩ := hrel
          clear H8
          obtain ⟨z1, z2⟩ := hcells.out HJ.out
          by_cases hjn : j < yl
          · have hPl := HM.out
            obtain ⟨pg, pc', pe, pa, pb', pd0, pd1⟩ := HJ.out.pr.at j (by omega)
            obtain ⟨xg, xc', xe, xa, xb', xd0, xd1⟩ := HJ.out.xr.at j (by omega)
            obtain ⟨yg, yc', ye, ya, yb', yd0, yd1⟩ := HJ.out.yr.at j (by omega)
            rw [hPl] at pe pa xe xa ye ya
            injection pe with pe1 pe2 pe3
            injection xe with xe1 xe2 xe3
            injection ye with ye1 ye2 ye3
            subst pe1 pe3 xe1 xe3 ye1 ye3
            obtain ⟨q, hq⟩ : ∃ q, P[j]'(by omega) = q := ⟨_, rfl⟩
            rw [hq] at pd0 pd1 xd0 xd1 yd0 yd1
            obtain ⟨q1, q2⟩ := q
            simp only at pd0 pd1 xd0 xd1 yd0 yd1
            have hji : (j : Int) < (yl : Int) := by omega
            have HD : Hid (Fa w g v7 ⟨⟨#[]⟩, b.data.toList ++ [], 16384, 0⟩ (.slice (some ⟨pg, 0, none⟩) yl oc) (.slice (some ⟨xg, 0, none⟩) yl xc) (.slice (some ⟨yg, 0, none⟩) yl yc) P P A B wr.drew) := HJ.out.below (Below.refl _ _).drew
            clear HJ hPl hq pe2 xe2 ye2 hcells
            go_wp2_with fail
            go_region
            all_goals
              go_wp2_with fail
              go_roundw
              case rel => exact ⟨j + 1, by omega, by simp, HD⟩
              case measure => simp [intOf]; omega
          · obtain rfl : j = yl := by omega
            have hji : ¬ (j : Int) < (j : Int) := by omega
            clear z1 z2
            go_wp2_with fail
            have hneg : Hid (∀ i, i ≤ j → (negAt P i).length = j) := fun i hi => by rw [negAt_length P i (by have := HM.out; omega)]; exact HM.out
            go_loopw [15] (fun y wr => ∃ i : Nat, i ≤ j ∧ y = .int .i64 (i : Int) ∧ Hid (Fa w g v7 ⟨⟨#[]⟩, b.data.toList ++ [], 16384, 0⟩ (.slice ob j oc) (.slice xb j xc) (.slice yb j yc) P (negAt P i) A B wr)) (fun y _ => j - (intOf y).toNat)
            case atStart => exact ⟨0, Nat.zero_le _, rfl, by rw [negAt_zero]; exact HJ.out⟩
            case round =>
              obtain ⟨i, hi, rfl, HI⟩ := hrel
              clear HJ
              obtain ⟨z1, z2⟩ := hcells.out HI.out
              by_cases hin : i < j
              · obtain ⟨xg, xc', xe, xa, xm, xlt, ⟨u1, d1⟩, ⟨u2, d2⟩, f1, f2, HS⟩ := HI.out.set i (by rw [hneg.out i (by omega)]; exact hin) (-1) 0
                rw [hneg.out i (by omega)] at xe xa
                injection xe with xe1 xe2 xe3
                subst xe1 xe3
                rw [negAt_step P i (by have := HM.out; omega)] at HS
                replace HS : Hid _ := HS
                have hii : (i : Int) < (j : Int) := by omega
                have hbld := builtM (-1)
                clear HI xe2 z2
                go_wp2_with fail
                go_roundw
                case rel => exact ⟨i + 1, by omega, by simp, HS⟩
                case measure => simp [intOf]; omega
              · obtain rfl : i = j := by omega
                have hii : ¬ (i : Int) < (i : Int) := by omega
                have hl1 := hneg.out i (Nat.le_refl _)
                have hl2 := HM.out
                obtain ⟨b1, c1, W2, b2, c2, W4, hr1, y2, hr2, a4, p4, x4, ar4, cr4, f4⟩ := HI.out.two (by omega) (by omega)
                rw [hl1] at hr1 ar4
                rw [hl2] at hr2 cr4
                obtain ⟨m1, hm1⟩ : ∃ m1, i + 1 = m1 := ⟨_, rfl⟩
                rw [hm1] at hr1 ar4 hr2 cr4
                have H4 : Hid (All w W4 [(g, v7, ⟨⟨#[]⟩, b.data.toList ++ [], 16384, 0⟩)] ∧ PRow W4 (.slice ob i oc) P ∧ PRow W4 (.slice xb i xc) (negAt P i) ∧ PRow W4 (.slice b1 m1 c1) (negAt P i ++ [(-2, 0)]) ∧ PRow W4 (.slice b2 m1 c2) (P ++ [(-3, 0)]) ∧ FB W4 A fSet (.slice xb i xc)) := ⟨a4, p4, x4, ar4, cr4, f4⟩
                have HR1 : Hid _ := hr1
                have HR2 : Hid _ := hr2
                have hb1 := builtM (-2)
                have hb2 := builtM (-3)
                have hAlt := heap_lt' HI.out.fx
                have hBlt := heap_lt' HI.out.fy
                clear hr1 hr2 a4 p4 x4 ar4 cr4 f4 HI hl1 hl2 hneg hcells z2
                go_wp2_with (at_builtin; first | (refine Lib.wpList_append_run _ rfl (.tmp 138) (.tmp 140) 26 26 rfl _ _ rfl rfl _ _ HR1.out ?_; clear HR1) | (refine Lib.wpList_append_run _ rfl (.tmp 143) (.tmp 145) 26 26 rfl _ _ rfl rfl _ _ HR2.out ?_; clear HR2))
                refine (next_all H4.out.1 0 (g := g) (v := v7) (S := ⟨⟨#[]⟩, b.data.toList ++ [], 16384, 0⟩) rfl _ (hn.out _)).mono ?_
                rintro e w9 ⟨zb, zl, zc, v9, rfl, zr, -, hA9, kt9⟩
                obtain rfl : zl = i := by
                  obtain ⟨_, _, e⟩ := zr.slice
                  injection e with _ e _
                  rw [e]
                  exact HM.out
                obtain ⟨hA10, f10, -, kt10⟩ := box2 hA9 fSet (.slice zb zl zc) 0 0
                have H10 : Hid (Fc w (.slice ob zl oc) (.slice xb zl xc) (.slice zb zl zc) (.slice b1 m1 c1) (.slice b2 m1 c2) P (negAt P zl) A w9.heap.size ((w9.alloc (.cells (fv fSet (.slice zb zl zc)) 28)).alloc (.cells #[.int .i64 0, .int .i64 0] 30))) :=
                  ⟨hA10.bel, kt10.prow (kt9.prow H4.out.2.1), kt10.prow (kt9.prow H4.out.2.2.1), kt10.prow zr, kt10.prow (kt9.prow H4.out.2.2.2.1), kt10.prow (kt9.prow H4.out.2.2.2.2.1), kt10.fb (kt9.fb H4.out.2.2.2.2.2), f10⟩
                clear hA9 hA10 f10 kt9 kt10 zr H4 y2
                simp only [fv, fSet] at H10
                simp only [fSet]
                obtain ⟨C, hC⟩ : ∃ C, w9.heap.size = C := ⟨_, rfl⟩
                rw [hC] at H10
                go_wp2_with fail
                try rw [hC]
                generalize hW10 : (w9.alloc (.cells #[.int .i64 4, .int .i64 0, .int .i64 0, .string ⟨#[]⟩, .int .i64 0, .int .i64 0, .bool false, .int .i64 0, .int .i64 0, .int .i64 0, .slice zb zl zc] 28)).alloc (.cells #[.int .i64 0, .int .i64 0] 30) = W10 at H10 ⊢
                clear hW10 hC hAlt hBlt z1
                go_loopw [21] (fun y wr => ∃ j : Nat, j ≤ zl ∧ y = .int .i64 (j : Int) ∧ Hid (Fc w (.slice ob zl oc) (.slice xb zl xc) (.slice zb zl zc) (.slice b1 m1 c1) (.slice b2 m1 c2) P (negAt P zl) A C wr)) (fun y _ => zl - (intOf y).toNat)
                case atStart => exact ⟨0, Nat.zero_le _, rfl, H10⟩
                case round =>
                  obtain ⟨j, hj, rfl, HJ⟩ := hrel
                  clear H10
                  have hPl := HM.out
                  have hXl := negAt_length P zl (by omega)
                  have z1 : wr.cell? ⟨A, 10, none⟩ = some (.slice xb zl xc) := HJ.out.fx.cell 10
                  have z3 : wr.cell? ⟨C, 10, none⟩ = some (.slice zb zl zc) := HJ.out.fz.cell 10
                  by_cases hjn : j < zl
                  · obtain ⟨pg, pc', pe, pa, pm, pd0, pd1⟩ := HJ.out.pr.at j (by omega)
                    obtain ⟨xg, xc', xe, xa, xm, xd0, xd1⟩ := HJ.out.xr.at j (by omega)
                    obtain ⟨zg, zc', ze, za, zm, zd0, zd1⟩ := HJ.out.zr.at j (by omega)
                    obtain ⟨cg, cc', ce, ca, cm, cd0, cd1⟩ := HJ.out.cr.at j (by rw [List.length_append]; omega)
                    rw [negAt_get P zl j hjn (by omega)] at xd0 xd1
                    rw [List.getElem_append_left (by omega)] at cd0 cd1
                    rw [hPl] at pe pa ze za
                    rw [hXl, hPl] at xe xa
                    rw [List.length_append, hPl] at ce ca
                    injection pe with pe1 pe2 pe3
                    injection xe with xe1 xe2 xe3
                    injection ze with ze1 ze2 ze3
                    injection ce with ce1 ce2 ce3
                    subst pe1 pe3 xe1 xe3 ze1 ze3 ce1 ce3
                    obtain ⟨q, hq⟩ : ∃ q, P[j]'(by omega) = q := ⟨_, rfl⟩
                    rw [hq] at pd0 pd1 zd0 zd1 cd0 cd1
                    obtain ⟨q1, q2⟩ := q
                    simp only at pd0 pd1 xd0 xd1 zd0 zd1 cd0 cd1
                    have hji : (j : Int) < (zl : Int) := by omega
                    have hjm : (j : Int) < (m1 : Int) := by omega
                    rw [← ce2] at ca
                    have HD : Hid (Fc w (.slice (some ⟨pg, 0, none⟩) zl oc) (.slice (some ⟨xg, 0, none⟩) zl xc) (.slice (some ⟨zg, 0, none⟩) zl zc) (.slice b1 m1 c1) (.slice (some ⟨cg, 0, none⟩) m1 c2) P (negAt P zl) A C wr.drew) := HJ.out.below (Below.refl _ _).drew
                    clear HJ hPl hXl hq pe2 xe2 ze2 ce2
                    go_wp2_with fail
                    go_region
                    all_goals
                      go_wp2_with fail
                      go_roundw
                      case rel => exact ⟨j + 1, by omega, by simp, HD⟩
                      case measure => simp [intOf]; omega
                  · obtain rfl : j = zl := by omega
                    obtain ⟨ag, ac', ae, aa, am, ad0, ad1⟩ := HJ.out.ar.at j (by rw [List.length_append]; simp; omega)
                    obtain ⟨cg, cc', ce, ca, cm, cd0, cd1⟩ := HJ.out.cr.at j (by rw [List.length_append]; simp; omega)
                    have ea : (negAt P j ++ [((-2 : Int), (0 : Int))])[j]'(by rw [List.length_append]; simp; omega) = (-2, 0) := by rw [List.getElem_append_right (by omega)]; simp [hXl, hPl]
                    have ec : (P ++ [((-3 : Int), (0 : Int))])[j]'(by rw [List.length_append]; simp; omega) = (-3, 0) := by rw [List.getElem_append_right (by omega)]; simp [hPl]
                    rw [ea] at ad0 ad1
                    rw [ec] at cd0 cd1
                    rw [List.length_append, hXl, hPl] at ae aa
                    rw [List.length_append, hPl] at ce ca
                    injection ae with ae1 ae2 ae3
                    injection ce with ce1 ce2 ce3
                    subst ae1 ae3 ce1 ce3
                    rw [← ae2] at aa
                    rw [← ce2] at ca
                    simp only at ad0 ad1 cd0 cd1
                    have hji : ¬ (j : Int) < (j : Int) := by omega
                    have hjm : (j : Int) < (m1 : Int) := by
                      simp only [List.length_singleton] at ae2
                      omega
                    have hjj : ((j : Int) == (j : Int)) = true := by simp
                    have hbel : Hid (Below w.heap.size w wr) := HJ.out.bel
                    clear HJ hPl hXl ea ec ae2 ce2
                    go_wp2
                    go_ret
                    exact ⟨rfl, hbel.out⟩
end Go.Proofs.YtmhbaaemihljjaaDoor
