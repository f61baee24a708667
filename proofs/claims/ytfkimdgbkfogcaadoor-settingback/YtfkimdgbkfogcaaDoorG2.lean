/- SettingBack of a client. -/
import Derived.Test.YtfkimdgbkfogcaaDoorG0
namespace Go.Proofs.YtfkimdgbkfogcaaDoor
open Go.RowKit
set_option linter.unusedVariables false
set_option linter.unusedSimpArgs false

set_option maxRecDepth 100000 in
set_option maxHeartbeats 16000000 in
theorem settingBack_true (f t : St) (w : World) (hS : Std w) :
    Calls Tryd.prog 4 #[.agg f.a, .agg t.a, .bool true] w fun e w' => e = .returned (.bool true) ∧ Below w.heap.size w w' := by
  obtain ⟨a, ha⟩ : ∃ a, madeS f = a := ⟨_, rfl⟩
  obtain ⟨b, hb⟩ : ∃ b, madeS t = b := ⟨_, rfl⟩
  have hfa : fitsS a = true := by rw [← ha]; exact made_fits f
  have hfb : fitsS b = true := by rw [← hb]; exact made_fits t
  obtain ⟨L, hL⟩ : ∃ L, parS a b true = L := ⟨_, rfl⟩
  have HS : Hid (Std w) := hS
  have hLen : L.length ≤ 6 := by rw [← hL]; exact par_len a b true
  have hApp : applyS a L true = (endS a b true, 0) := by rw [← hL]; exact par_apply a b true hfb
  have HLess : Hid (∀ i, i < L.length → ∃ u, applyS a (L.take i ++ L.drop (i + 1)) true = (u, 0) ∧ u ≠ endS a b true) := fun i hi => by
    rw [← hL] at hi ⊢
    exact par_less a b true hfb i hi
  have HSrt : Hid (∀ i (h : i < L.length), 1 ≤ (L[i]).1 ∧ (L[i]).1 ≤ 6 ∧ (∀ (h0 : 0 < i), (L[i - 1]'(by omega)).1 < (L[i]).1)) := fun i h => by
    subst hL
    obtain ⟨j, hj, hq, _⟩ := par_mem a b true 6 _ (List.getElem_mem h)
    have hs : (parS a b true).Pairwise (fun x y => x.1 < y.1) := par_sorted a b true 6
    rw [List.pairwise_iff_getElem] at hs
    refine ⟨?_, ?_, fun h0 => hs (i - 1) i (by omega) h (by omega)⟩
    · rw [hq]; simp only; omega
    · rw [hq]; simp only; omega
  have hEnd : parS a (endS a b true) true = L := by rw [par_end, hL]
  have hEF : fitsS (endS a b true) = true := end_fits a b true hfa hfb
  have hSelf : parS b b true = [] := par_self b true
  have hM1 : Calls Tryd.prog 16 #[.agg f.a] ((w.alloc (.cells f.a 27)).alloc (.cells t.a 27)) fun e w1 => e = .returned (.agg a.a) ∧ C6 (w1.alloc (.cells a.a 27)) (w.heap.size + 1) t ∧ Hid (Below w.heap.size w (w1.alloc (.cells a.a 27)) ∧ (w1.alloc (.cells a.a 27)).heap[w1.heap.size]? = some (.cells a.a 27 (0, 0))) := by
    refine (made_any f _).mono ?_
    rintro e w1 ⟨rfl, hb1⟩
    have h0 := bel2 w (.cells f.a 27) (.cells t.a 27)
    have k := (hb1.block _ (heap_lt (fresh2 w (.cells f.a 27) (.cells t.a 27)))).trans (fresh2 _ _ _)
    have k2 := ((bel1 w1 (.cells a.a 27)).block _ (heap_lt k)).trans k
    exact ⟨by rw [ha], c6 k2, h0.trans ((hb1.mono h0.size).trans ((bel1 w1 _).mono (Nat.le_trans h0.size hb1.size))), heap_alloc_new _ _⟩
  have hM2 : ∀ (W : World) (g7 : Nat), Hid (Below w.heap.size w W ∧ W.heap[g7]? = some (.cells a.a 27 (0, 0))) → Calls Tryd.prog 16 #[.agg t.a] W fun e w1 => e = .returned (.agg b.a) ∧ C6 (w1.alloc (.cells b.a 27)) g7 a ∧ Hid (Sb w a b g7 w1.heap.size (w1.alloc (.cells b.a 27))) := by
    intro W g7 h
    obtain ⟨h1, h2⟩ := h.out
    refine (made_any t W).mono ?_
    rintro e w1 ⟨rfl, hb1⟩
    have k := (hb1.block _ (heap_lt h2)).trans h2
    have k2 := ((bel1 w1 (.cells b.a 27)).block _ (heap_lt k)).trans k
    have hle : w.heap.size ≤ w1.heap.size := Nat.le_trans h1.size hb1.size
    have hne : w1.heap.size ≠ g7 := fun e => by have := heap_lt k; omega
    exact ⟨by rw [hb], c6 k2, h1.trans ((hb1.mono h1.size).trans ((bel1 w1 _).mono hle)), k2, heap_alloc_new _ _, hle, hne⟩
  have hP1 : ∀ (W : World) (g7 g8 : Nat), Hid (Sb w a b g7 g8 W) → Calls Tryd.prog 17 #[.agg a.a, .agg b.a, .bool true] W fun e w1 => ∃ lb lc, e = .returned (.slice lb L.length lc) ∧ C6 w1 g7 a ∧ C6 w1 g8 b ∧ L.length ≤ lc ∧ lc ≤ 9223372036854775807 ∧ Hid (Sb w a b g7 g8 w1 ∧ R EP w1 (.slice lb L.length lc) L ∧ ∀ k, (Value.slice lb L.length lc).ownBlock = some k → w.heap.size ≤ k ∧ W.heap.size ≤ k) := by
    intro W g7 g8 h
    refine (params_any a b true W).mono ?_
    rintro e w1 ⟨o, rfl, hR, hfr, hb1⟩
    rw [hL] at hR
    obtain ⟨lb, lc, rfl, h1, h2⟩ := hR.slice
    have hs := h.out.below hb1
    exact ⟨lb, lc, rfl, c6 hs.2.1, c6 hs.2.2.1, h1, h2, hs, hR, fun k hk => ⟨Nat.le_trans h.out.1.size (hfr k hk), hfr k hk⟩⟩
  have hP2 : ∀ (W : World) (g7 g8 : Nat) (lv : Value), Hid (Sb w a b g7 g8 W ∧ R EP W lv L ∧ ∀ k, lv.ownBlock = some k → w.heap.size ≤ k) → Calls Tryd.prog 17 #[.agg a.a, .agg b.a, .bool true] W fun e w1 => ∃ mb mc, e = .returned (.slice mb L.length mc) ∧ C6 w1 g8 b ∧ Hid (Sl w a b g7 g8 L lv (.slice mb L.length mc) w1) := by
    intro W g7 g8 lv h
    obtain ⟨h1, h2, h3⟩ := h.out
    refine (params_any a b true W).mono ?_
    rintro e w1 ⟨o, rfl, hR, hfr, hb1⟩
    rw [hL] at hR
    obtain ⟨mb, mc, rfl, _, _⟩ := hR.slice
    have hs := h1.below hb1
    refine ⟨mb, mc, rfl, c6 hs.2.2.1, hs, h2.below hb1, hR, h3, fun k hk e => ?_⟩
    have := h2.lt k hk
    have := hfr k e
    omega
  have hP3 : ∀ (W : World) (g7 g8 : Nat) (lv mv : Value), Hid (Sl w a b g7 g8 L lv mv W) → Calls Tryd.prog 17 #[.agg b.a, .agg b.a, .bool true] W fun e w1 => ∃ nb nc, e = .returned (.slice nb 0 nc) ∧ C6 w1 g7 a ∧ C6 w1 g8 b ∧ F6 w1 g8 ∧ g7 ≠ g8 ∧ g7 < w1.heap.size ∧ g8 < w1.heap.size ∧ Hid (Sl w a b g7 g8 L lv mv w1) := by
    intro W g7 g8 lv mv h
    refine (params_any b b true W).mono ?_
    rintro e w1 ⟨o, rfl, hR, hfr, hb1⟩
    rw [hSelf] at hR
    obtain ⟨nb, nc, rfl, _, _⟩ := hR.slice
    have hs := h.out.below hb1
    exact ⟨nb, nc, rfl, c6 hs.1.2.1, c6 hs.1.2.2.1, f6 hs.1.2.2.1, fun e => hs.1.2.2.2.2 e.symm, heap_lt hs.1.2.1, heap_lt hs.1.2.2.1, hs⟩
  have hSt : ∀ (W : World) (g7 g8 : Nat) (lv mv : Value), Hid (Sl w a b g7 g8 L lv mv W) → Hid (Sl w a (endS a b true) g7 g8 L lv mv W) := by
    intro W g7 g8 lv mv h
    exact h
  have hAp : ∀ (W : World) (g7 g8 : Nat) (lv mv : Value), Hid (Sl w a (endS a b true) g7 g8 L lv mv W) → Calls Tryd.prog 11 #[.agg a.a, lv, .bool true] W fun e w1 => e = .returned (.tuple #[.agg (endS a b true).a, .int .i64 0]) ∧ C6 (w1.alloc (.cells (endS a b true).a 27)) g7 a ∧ C6 (w1.alloc (.cells (endS a b true).a 27)) g8 (endS a b true) ∧ Hid (Sl w a (endS a b true) g7 g8 L lv mv (w1.alloc (.cells (endS a b true).a 27)) ∧ (w1.alloc (.cells (endS a b true).a 27)).heap[w1.heap.size]? = some (.cells (endS a b true).a 27 (0, 0))) := by
    intro W g7 g8 lv mv h
    refine (apply_any a lv L true W h.out.2.1.isIn).mono ?_
    rintro e w1 ⟨rfl, hb1⟩
    rw [hApp]
    have hs := (h.out.below hb1).below (bel1 w1 (.cells (endS a b true).a 27))
    exact ⟨rfl, c6 hs.1.2.1, c6 hs.1.2.2.1, hs, heap_alloc_new _ _⟩
  have hF1 : ∀ (W : World) (g7 g8 g12 : Nat) (lv mv : Value), Hid (Sl w a (endS a b true) g7 g8 L lv mv W ∧ W.heap[g12]? = some (.cells (endS a b true).a 27 (0, 0))) → Calls Tryd.prog 18 #[.agg a.a] W fun e w1 => e = .returned (.bool true) ∧ C6 w1 g12 (endS a b true) ∧ Hid (Sl w a (endS a b true) g7 g8 L lv mv w1) := by
    intro W g7 g8 g12 lv mv h
    refine (fits_any a W).mono ?_
    rintro e w1 ⟨rfl, hb1⟩
    rw [hfa]
    exact ⟨rfl, c6 ((hb1.block _ (heap_lt h.out.2)).trans h.out.2), h.out.1.below hb1⟩
  have hF2 : ∀ (W : World) (g7 g8 : Nat) (lv mv : Value), Hid (Sl w a (endS a b true) g7 g8 L lv mv W) → Calls Tryd.prog 18 #[.agg (endS a b true).a] W fun e w1 => e = .returned (.bool true) ∧ Hid (Sl w a (endS a b true) g7 g8 L lv mv w1) := by
    intro W g7 g8 lv mv h
    refine (fits_any _ W).mono ?_
    rintro e w1 ⟨rfl, hb1⟩
    rw [hEF]
    exact ⟨rfl, h.out.below hb1⟩
  have hSm : ∀ (W : World) (g7 g8 : Nat) (lv mv : Value), Hid (Sl w a (endS a b true) g7 g8 L lv mv W) → Calls Tryd.prog 19 #[lv, mv] W fun e w1 => e = .returned (.bool true) ∧ Hid (Sl w a (endS a b true) g7 g8 L lv mv w1) := by
    intro W g7 g8 lv mv h
    refine (sameParams_eq W lv mv L h.out.2.1.isIn h.out.2.2.1.isIn).mono ?_
    rintro e w1 ⟨rfl, hb1⟩
    exact ⟨rfl, h.out.below hb1⟩
  have hFi : ∀ (W : World) (g7 g8 : Nat) (lv mv : Value), Hid (Sl w a (endS a b true) g7 g8 L lv mv W) → Calls Tryd.prog 9 #[] W fun e w1 => e = .returned (.bool true) ∧ Hid (Sl w a (endS a b true) g7 g8 L lv mv w1) := by
    intro W g7 g8 lv mv h
    refine (first_any W (HS.out.below h.out.1.1)).mono ?_
    rintro e w1 ⟨rfl, hb1⟩
    exact ⟨rfl, h.out.below hb1⟩
  clear hS ha hb hfa hfb hL hApp hEF hSelf
  obtain ⟨f1, f2, f3, f4, f5, f6⟩ := f
  obtain ⟨t1, t2, t3, t4, t5, t6⟩ := t
  obtain ⟨a1, a2, a3, a4, a5, a6⟩ := a
  obtain ⟨b1, b2, b3, b4, b5, b6⟩ := b
  have hEq : endS (St.mk a1 a2 a3 a4 a5 a6) (St.mk b1 b2 b3 b4 b5 b6) true = (St.mk b1 b2 b3 b4 b5 b6) := rfl
  rw [hEq] at hSt hAp hF1 hF2 hSm hFi HLess hEnd
  clear hEq
  obtain ⟨n, hn⟩ : ∃ n, L.length = n := ⟨_, rfl⟩
  have HN : Hid (L.length = n) := hn
  rw [hn] at hP1 hP2 hLen
  simp only [St.a] at hM1 hM2 hP1 hP2 hP3 hSt hAp hF1 hF2 ⊢
  have hLen2 : ¬ (6 : Int) < (n : Int) := by omega
  clear hn
  go_enter Tryd.func4, Tryd.ntmps4
  go_wp2_with (go_at_call 16; refine hM1.mono ?_; clear hM1; rintro e w1 ⟨rfl, ⟨p0, p1, p2, p3, p4, p5⟩, H1⟩; try simp only at p0 p1 p2 p3 p4 p5)
  refine (hM2 _ _ H1).mono ?_
  rintro e w2 ⟨rfl, ⟨q0, q1, q2, q3, q4, q5⟩, H2⟩
  simp only at q0 q1 q2 q3 q4 q5
  go_wp2_with (go_at_call 17; refine (hP1 _ _ _ H2).mono ?_; clear hP1; rintro e w3 ⟨lb, lc, rfl, ⟨r0, r1, r2, r3, r4, r5⟩, ⟨s0, s1, s2, s3, s4, s5⟩, hlc, hlm, H3⟩; simp only at r0 r1 r2 r3 r4 r5 s0 s1 s2 s3 s4 s5)
  have H3' : Hid (Sb w (St.mk a1 a2 a3 a4 a5 a6) (St.mk b1 b2 b3 b4 b5 b6) w1.heap.size w2.heap.size w3 ∧ R EP w3 (.slice lb n lc) L ∧ ∀ k, (Value.slice lb n lc).ownBlock = some k → w.heap.size ≤ k) := ⟨H3.out.1, H3.out.2.1, fun k hk => (H3.out.2.2 k hk).1⟩
  refine (hP2 _ _ _ _ H3').mono ?_
  rintro e w4 ⟨mb, mc, rfl, ⟨u0, u1, u2, u3, u4, u5⟩, H4⟩
  simp only at u0 u1 u2 u3 u4 u5
  go_wp2_with (go_at_call 17; refine (hP3 _ _ _ _ _ H4).mono ?_; clear hP3; rintro e w5 ⟨nb, nc, rfl, ⟨v0, v1, v2, v3, v4, v5⟩, ⟨x0, x1, x2, x3, x4, x5⟩, ⟨y0, y1, y2, y3, y4, y5⟩, h78, hg7, hg8, H5⟩; simp only at v0 v1 v2 v3 v4 v5 x0 x1 x2 x3 x4 x5)
  have H6 := hSt _ _ _ _ _ H5
  clear hSt H5 H4 H3' H3 H2 H1 p0 p1 p2 p3 p4 p5 q0 q1 q2 q3 q4 q5 r0 r1 r2 r3 r4 r5 s0 s1 s2 s3 s4 s5 u0 u1 u2 u3 u4 u5 hM2 hP2
  refine (hAp _ _ _ _ _ H6).mono ?_
  rintro e w6 ⟨rfl, ⟨p0, p1, p2, p3, p4, p5⟩, ⟨q0, q1, q2, q3, q4, q5⟩, H7⟩
  simp only at p0 p1 p2 p3 p4 p5 q0 q1 q2 q3 q4 q5
  clear hAp H6 v0 v1 v2 v3 v4 v5 x0 x1 x2 x3 x4 x5 y0 y1 y2 y3 y4 y5
  go_wp2_with (first | (go_at_call 18; refine (hF1 _ _ _ _ _ _ H7).mono ?_; clear hF1 H7; rintro e w7 ⟨rfl, ⟨s0, s1, s2, s3, s4, s5⟩, H8⟩; simp only at s0 s1 s2 s3 s4 s5))
  refine (hF2 _ _ _ _ _ H8).mono ?_
  rintro e w8 ⟨rfl, H9⟩
  clear hF2 H8
  go_wp2_with (first | (go_at_call 19; refine (hSm _ _ _ _ _ H9).mono ?_; clear hSm H9; rintro e w9 ⟨rfl, HA⟩) | (go_at_call 9; refine (hFi _ _ _ _ _ HA).mono ?_; clear hFi HA; rintro e wA ⟨rfl, HB⟩))
  obtain ⟨g7, hg7e⟩ : ∃ g, w1.heap.size = g := ⟨_, rfl⟩
  obtain ⟨g8, hg8e⟩ : ∃ g, w2.heap.size = g := ⟨_, rfl⟩
  rw [hg7e, hg8e] at HB ⊢
  clear hg7e hg8e hg7 hg8 h78 p0 p1 p2 p3 p4 p5 q0 q1 q2 q3 q4 q5 s0 s1 s2 s3 s4 s5
  go_loopw [14] (fun i wr => ∃ k : Nat, k ≤ n ∧ i = .int .i64 (k : Int) ∧ Hid (Sl w (St.mk a1 a2 a3 a4 a5 a6) (St.mk b1 b2 b3 b4 b5 b6) g7 g8 L (.slice lb n lc) (.slice mb n mc) wr)) (fun i _ => n - (intOf i).toNat)
  case atStart => exact ⟨0, Nat.zero_le _, rfl, HB⟩
  case round =>
    obtain ⟨k, hk, rfl, HP⟩ := hrel
    clear HB
    by_cases hlt : k < n
    · have hlen := HN.out
      have hs := HP.out
      obtain ⟨B, off, cap', hvb, hBl, d1, d2z⟩ := hs.2.1.isIn.par k (by omega)
      clear d2z
      injection hvb with e1 e2 e3
      subst e1
      clear e2 e3
      have hz0 := hs.2.1.zero_off.1
      subst hz0
      have hprev0 : ∀ h0 : 0 < k, wr.cell? ⟨B, (k - 1) * 2, none⟩ = some (.int .i64 (L[k - 1]'(by omega)).1) := fun h0 => by
        obtain ⟨B', off', cap'', hvb, _, d1', _⟩ := hs.2.1.isIn.par (k - 1) (by omega)
        injection hvb with e1 _ _
        injection e1 with e1
        injection e1 with e1 e2 _
        subst e1
        subst e2
        rw [Nat.zero_add] at d1'
        exact d1'
      rw [Nat.zero_add] at d1
      obtain ⟨x, y, hq⟩ : ∃ x y, L[k]'(by omega) = (x, y) := ⟨_, _, rfl⟩
      obtain ⟨hx1, hx6, hxp⟩ := HSrt.out k (by omega)
      rw [hq] at d1 hx1 hx6 hxp
      simp only at d1 hx1 hx6 hxp
      obtain ⟨xp, hprev⟩ : ∃ xp : Int, 0 < k → wr.cell? ⟨B, (k - 1) * 2, none⟩ = some (.int .i64 xp) ∧ xp < x := by
        by_cases h0 : 0 < k
        · exact ⟨_, fun _ => ⟨hprev0 h0, hxp h0⟩⟩
        · exact ⟨0, fun h => absurd h h0⟩
      clear hprev0 hxp
      obtain ⟨u, hu, hune⟩ := HLess.out k (by omega)
      have hlti : (k : Int) < (n : Int) := by omega
      have hxl : decide (x < 1) = false := by simp; omega
      have hxg : decide (6 < x) = false := by simp; omega
      have hln6 : n ≤ 6 := hLen
      obtain ⟨zb1, zc1, v1, hrun1, hR1, hG1⟩ := app okP wr (.slice none 0 0) [] (R.nil _ _) _ _ (hs.2.1.isIn.take k (by omega)) (by simp only [EP, List.length_nil, List.length_take]; omega)
      have hb1 := hG1.fresh
      have hn1 := hG1.new
      have hlt1 : (L.take k).length = k := by rw [List.length_take]; omega
      rw [List.length_nil, Nat.zero_add, hlt1] at hrun1 hR1 hn1
      rw [List.nil_append] at hR1
      obtain ⟨N1, hN1⟩ : ∃ N1, n - 1 = N1 := ⟨_, rfl⟩
      have hdl : n - (k + 1) + k = N1 := by omega
      by_cases hcap : lc = k + 1
      · skip
        have hD := (hs.2.1.isIn.drop okP (k + 1) (by omega)).2 hcap
        rw [hlen] at hD
        have hD' : In EP wr (.slice (some ⟨B, 0, none⟩) 0 0) (L.drop (k + 1)) := by rw [show n - (k + 1) = 0 by omega, show lc - (k + 1) = 0 by omega] at hD; exact hD
        obtain ⟨zb2, zc2, v2, hrun2, hR2, hG2⟩ := app okP v1 _ _ hR1 _ _ (hD'.below hb1) (by simp only [EP]; rw [hlt1, List.length_drop]; omega)
        have hdd : (L.take k).length + (L.drop (k + 1)).length = N1 := by rw [hlt1, List.length_drop, hlen]; omega
        rw [hdd] at hrun2 hR2 hG2
        have hbel2 : Below wr.heap.size wr v2 := hb1.trans (hG2.belowB hb1.size hn1)
        have hs2 := hs.below hbel2
        have hApL : Calls Tryd.prog 11 #[.agg (St.mk a1 a2 a3 a4 a5 a6).a, .slice zb2 N1 zc2, .bool true] v2 fun e v3 => e = .returned (.tuple #[.agg u.a, .int .i64 0]) ∧ (v3.alloc (.cells u.a 27)).cell? ⟨B, k * 2, none⟩ = some (.int .i64 x) ∧ (0 < k → (v3.alloc (.cells u.a 27)).cell? ⟨B, (k - 1) * 2, none⟩ = some (.int .i64 xp) ∧ xp < x) ∧ C6 (v3.alloc (.cells u.a 27)) g8 (St.mk b1 b2 b3 b4 b5 b6) ∧ Hid (Sl w (St.mk a1 a2 a3 a4 a5 a6) (St.mk b1 b2 b3 b4 b5 b6) g7 g8 L (.slice (some ⟨B, 0, none⟩) n lc) (.slice mb n mc) (v3.alloc (.cells u.a 27))) := by
          refine (apply_any (St.mk a1 a2 a3 a4 a5 a6) _ _ true v2 hR2.isIn).mono ?_
          rintro e v3 ⟨rfl, hb3⟩
          rw [hu]
          have hb4 := hb3.trans ((bel1 v3 (.cells u.a 27)).mono hb3.size)
          have hs4 := hs2.below hb4
          have hbl : Below wr.heap.size wr (v3.alloc (.cells u.a 27)) := hbel2.trans (hb4.mono hbel2.size)
          exact ⟨rfl, (hbl.cell hBl).trans d1, fun h0 => ⟨(hbl.cell hBl).trans (hprev h0).1, (hprev h0).2⟩, c6 hs4.1.2.2.1, hs4⟩
        obtain ⟨o0, o1, o2, o3, o4, o5⟩ := c6 hs2.1.2.1
        simp only at o0 o1 o2 o3 o4 o5
        obtain ⟨u1, u2, u3, u4, u5, u6⟩ := u
        simp only [EP] at hrun1 hrun2
        have HR1 : Hid _ := hrun1
        have HR2 : Hid _ := hrun2
        have hk1 : k + 1 ≤ n := by omega
        have hk1i : (k : Int) + 1 ≤ (n : Int) := by omega
        have hcapi : (k : Int) + 1 ≤ (lc : Int) := by omega
        have hkc : (k : Int) ≤ (lc : Int) := by omega
        have hnci : (n : Int) ≤ (lc : Int) := by omega
        simp only [St.a] at hApL
        clear hu hrun1 hrun2 hR1 hR2 hG1 hG2 hD hD' hdd hbel2 hs2 hs HP hprev hb1 hn1 hlt1 hq d1
        have hnk : k = N1 := by omega
        subst hnk
        obtain ⟨M, hM⟩ : ∃ M, k + 1 = M := ⟨_, rfl⟩
        have hnM : n = M := by omega
        rw [hM] at hcap
        subst hcap
        subst hnM
        have hMi : (k : Int) + 1 = (n : Int) := by omega
        have hMk : n - (k + 1) = 0 := by omega
        clear hM
        clear hdl hN1 hk hlt hln6 hlc
        go_wp2_with (first | (go_at_call 11; refine hApL.mono ?_; clear hApL; rintro e v3 ⟨rfl, dk, dp, ⟨i0, i1, i2, i3, i4, i5⟩, HT⟩; try simp only at i0 i1 i2 i3 i4 i5) | (at_builtin; first | refine Lib.wpList_append_run _ rfl (.tmp 90) (.tmp 93) 30 30 rfl _ _ rfl rfl _ _ HR1.out ?_ | refine Lib.wpList_append_run _ rfl (.tmp 95) (.tmp 99) 30 30 rfl _ _ rfl rfl _ _ HR2.out ?_))
        have h6 : (u1 == b1) = false ∨ (u1 = b1 ∧ (u2 == b2) = false) ∨ (u1 = b1 ∧ u2 = b2 ∧ (u3 == b3) = false) ∨ (u1 = b1 ∧ u2 = b2 ∧ u3 = b3 ∧ (u4 == b4) = false) ∨ (u1 = b1 ∧ u2 = b2 ∧ u3 = b3 ∧ u4 = b4 ∧ (u5 == b5) = false) ∨ (u1 = b1 ∧ u2 = b2 ∧ u3 = b3 ∧ u4 = b4 ∧ u5 = b5 ∧ (u6 == b6) = false) := six_ne hune
        have hnpos : 0 < n := by omega
        clear hune
        by_cases hk0 : k = 0
        · subst hk0
          rcases h6 with h6 | ⟨rfl, h6⟩ | ⟨rfl, rfl, h6⟩ | ⟨rfl, rfl, rfl, h6⟩ | ⟨rfl, rfl, rfl, rfl, h6⟩ | ⟨rfl, rfl, rfl, rfl, rfl, h6⟩
          all_goals
            go_region
            all_goals
              go_wp2_with fail
              go_roundw
              case rel => exact ⟨0 + 1, by omega, by simp, HT.out.below (Below.refl _ _).drew⟩
              case measure => simp [intOf]; omega
        · obtain ⟨j, hj⟩ : ∃ j, k = j + 1 := ⟨k - 1, by omega⟩
          obtain ⟨dp1, dpx⟩ := dp (by omega)
          subst hj
          rw [Nat.add_sub_cancel] at dp1
          have hxd : decide (x ≤ xp) = false := by simp; omega
          have hjp : (0 : Int) < (j : Int) + 1 := by omega
          clear dp hk0
          rcases h6 with h6 | ⟨rfl, h6⟩ | ⟨rfl, rfl, h6⟩ | ⟨rfl, rfl, rfl, h6⟩ | ⟨rfl, rfl, rfl, rfl, h6⟩ | ⟨rfl, rfl, rfl, rfl, rfl, h6⟩
          all_goals
            go_region
            all_goals
              go_wp2_with fail
              go_roundw
              case rel => exact ⟨j + 1 + 1, by omega, by simp, HT.out.below (Below.refl _ _).drew⟩
              case measure => simp [intOf]; omega
      · skip
        have hD := (hs.2.1.isIn.drop okP (k + 1) (by omega)).1 hcap
        rw [hlen] at hD
        have hD' : In EP wr (.slice (some ⟨B, (k + 1) * 2, none⟩) (n - (k + 1)) (lc - (k + 1))) (L.drop (k + 1)) := by rw [Nat.zero_add] at hD; exact hD
        obtain ⟨zb2, zc2, v2, hrun2, hR2, hG2⟩ := app okP v1 _ _ hR1 _ _ (hD'.below hb1) (by simp only [EP]; rw [hlt1, List.length_drop]; omega)
        have hdd : (L.take k).length + (L.drop (k + 1)).length = N1 := by rw [hlt1, List.length_drop, hlen]; omega
        rw [hdd] at hrun2 hR2 hG2
        have hbel2 : Below wr.heap.size wr v2 := hb1.trans (hG2.belowB hb1.size hn1)
        have hs2 := hs.below hbel2
        have hApL : Calls Tryd.prog 11 #[.agg (St.mk a1 a2 a3 a4 a5 a6).a, .slice zb2 N1 zc2, .bool true] v2 fun e v3 => e = .returned (.tuple #[.agg u.a, .int .i64 0]) ∧ (v3.alloc (.cells u.a 27)).cell? ⟨B, k * 2, none⟩ = some (.int .i64 x) ∧ (0 < k → (v3.alloc (.cells u.a 27)).cell? ⟨B, (k - 1) * 2, none⟩ = some (.int .i64 xp) ∧ xp < x) ∧ C6 (v3.alloc (.cells u.a 27)) g8 (St.mk b1 b2 b3 b4 b5 b6) ∧ Hid (Sl w (St.mk a1 a2 a3 a4 a5 a6) (St.mk b1 b2 b3 b4 b5 b6) g7 g8 L (.slice (some ⟨B, 0, none⟩) n lc) (.slice mb n mc) (v3.alloc (.cells u.a 27))) := by
          refine (apply_any (St.mk a1 a2 a3 a4 a5 a6) _ _ true v2 hR2.isIn).mono ?_
          rintro e v3 ⟨rfl, hb3⟩
          rw [hu]
          have hb4 := hb3.trans ((bel1 v3 (.cells u.a 27)).mono hb3.size)
          have hs4 := hs2.below hb4
          have hbl : Below wr.heap.size wr (v3.alloc (.cells u.a 27)) := hbel2.trans (hb4.mono hbel2.size)
          exact ⟨rfl, (hbl.cell hBl).trans d1, fun h0 => ⟨(hbl.cell hBl).trans (hprev h0).1, (hprev h0).2⟩, c6 hs4.1.2.2.1, hs4⟩
        obtain ⟨o0, o1, o2, o3, o4, o5⟩ := c6 hs2.1.2.1
        simp only at o0 o1 o2 o3 o4 o5
        obtain ⟨u1, u2, u3, u4, u5, u6⟩ := u
        simp only [EP] at hrun1 hrun2
        have HR1 : Hid _ := hrun1
        have HR2 : Hid _ := hrun2
        have hk1 : k + 1 ≤ n := by omega
        have hk1i : (k : Int) + 1 ≤ (n : Int) := by omega
        have hcapi : (k : Int) + 1 ≤ (lc : Int) := by omega
        have hkc : (k : Int) ≤ (lc : Int) := by omega
        have hnci : (n : Int) ≤ (lc : Int) := by omega
        simp only [St.a] at hApL
        clear hu hrun1 hrun2 hR1 hR2 hG1 hG2 hD hD' hdd hbel2 hs2 hs HP hprev hb1 hn1 hlt1 hq d1
        clear hdl hN1 hk hlt hln6 hlc
        go_wp2_with (first | (go_at_call 11; refine hApL.mono ?_; clear hApL; rintro e v3 ⟨rfl, dk, dp, ⟨i0, i1, i2, i3, i4, i5⟩, HT⟩; try simp only at i0 i1 i2 i3 i4 i5) | (at_builtin; first | refine Lib.wpList_append_run _ rfl (.tmp 90) (.tmp 93) 30 30 rfl _ _ rfl rfl _ _ HR1.out ?_ | refine Lib.wpList_append_run _ rfl (.tmp 95) (.tmp 99) 30 30 rfl _ _ rfl rfl _ _ HR2.out ?_))
        have h6 : (u1 == b1) = false ∨ (u1 = b1 ∧ (u2 == b2) = false) ∨ (u1 = b1 ∧ u2 = b2 ∧ (u3 == b3) = false) ∨ (u1 = b1 ∧ u2 = b2 ∧ u3 = b3 ∧ (u4 == b4) = false) ∨ (u1 = b1 ∧ u2 = b2 ∧ u3 = b3 ∧ u4 = b4 ∧ (u5 == b5) = false) ∨ (u1 = b1 ∧ u2 = b2 ∧ u3 = b3 ∧ u4 = b4 ∧ u5 = b5 ∧ (u6 == b6) = false) := six_ne hune
        have hnpos : 0 < n := by omega
        clear hune
        by_cases hk0 : k = 0
        · subst hk0
          rcases h6 with h6 | ⟨rfl, h6⟩ | ⟨rfl, rfl, h6⟩ | ⟨rfl, rfl, rfl, h6⟩ | ⟨rfl, rfl, rfl, rfl, h6⟩ | ⟨rfl, rfl, rfl, rfl, rfl, h6⟩
          all_goals
            go_region
            all_goals
              go_wp2_with fail
              go_roundw
              case rel => exact ⟨0 + 1, by omega, by simp, HT.out.below (Below.refl _ _).drew⟩
              case measure => simp [intOf]; omega
        · obtain ⟨j, hj⟩ : ∃ j, k = j + 1 := ⟨k - 1, by omega⟩
          obtain ⟨dp1, dpx⟩ := dp (by omega)
          subst hj
          rw [Nat.add_sub_cancel] at dp1
          have hxd : decide (x ≤ xp) = false := by simp; omega
          have hjp : (0 : Int) < (j : Int) + 1 := by omega
          clear dp hk0
          rcases h6 with h6 | ⟨rfl, h6⟩ | ⟨rfl, rfl, h6⟩ | ⟨rfl, rfl, rfl, h6⟩ | ⟨rfl, rfl, rfl, rfl, h6⟩ | ⟨rfl, rfl, rfl, rfl, rfl, h6⟩
          all_goals
            go_region
            all_goals
              go_wp2_with fail
              go_roundw
              case rel => exact ⟨j + 1 + 1, by omega, by simp, HT.out.below (Below.refl _ _).drew⟩
              case measure => simp [intOf]; omega
    · obtain rfl : k = n := by omega
      have hlen := HN.out
      have HP2 : Hid (Sm w (St.mk a1 a2 a3 a4 a5 a6) (St.mk b1 b2 b3 b4 b5 b6) g7 g8 L L (.slice lb k lc) (.slice mb k mc) wr) := HP
      have hEn : ∀ (W : World), Hid (Sb w (St.mk a1 a2 a3 a4 a5 a6) (St.mk b1 b2 b3 b4 b5 b6) g7 g8 W ∧ R EP W (.slice mb k mc) L) → Calls Tryd.prog 17 #[.agg (St.mk a1 a2 a3 a4 a5 a6).a, .agg (St.mk b1 b2 b3 b4 b5 b6).a, .bool true] W fun e w1 => ∃ rb rn rc, e = .returned (.slice rb rn rc) ∧ Hid (Sb w (St.mk a1 a2 a3 a4 a5 a6) (St.mk b1 b2 b3 b4 b5 b6) g7 g8 w1 ∧ R EP w1 (.slice mb k mc) L ∧ R EP w1 (.slice rb rn rc) L) := by
        intro W h
        refine (params_any (St.mk a1 a2 a3 a4 a5 a6) (St.mk b1 b2 b3 b4 b5 b6) true W).mono ?_
        rintro e w1 ⟨o, rfl, hR, _, hb1⟩
        rw [hEnd] at hR
        obtain ⟨rb, rc, rfl, _, _⟩ := hR.slice
        exact ⟨rb, _, rc, rfl, h.out.1.below hb1, h.out.2.below hb1, hR⟩
      have hEs : ∀ (W : World) (rv : Value), Hid (Sb w (St.mk a1 a2 a3 a4 a5 a6) (St.mk b1 b2 b3 b4 b5 b6) g7 g8 W ∧ R EP W (.slice mb k mc) L ∧ R EP W rv L) → Calls Tryd.prog 19 #[.slice mb k mc, rv] W fun e w1 => e = .returned (.bool true) ∧ Hid (Below w.heap.size w w1) := by
        intro W rv h
        obtain ⟨h1, h2, h3⟩ := h.out
        refine (sameParams_eq W _ rv L h2.isIn h3.isIn).mono ?_
        rintro e w1 ⟨rfl, hb1⟩
        exact ⟨rfl, h1.1.trans (hb1.mono h1.1.size)⟩
      simp only [St.a] at hEn
      clear HLess HSrt HP hlen hEnd hlt
      go_wp2_with fail
      go_loopw [18] (fun i wr => ∃ j : Nat, j ≤ k ∧ i = .int .i64 (j : Int) ∧ Hid (∃ M : List (Int × Int), M.length = k ∧ Sm w (St.mk a1 a2 a3 a4 a5 a6) (St.mk b1 b2 b3 b4 b5 b6) g7 g8 M L (.slice lb k lc) (.slice mb k mc) wr)) (fun i _ => k - (intOf i).toNat)
      case atStart => exact ⟨0, Nat.zero_le _, rfl, L, HN.out, HP2.out⟩
      case round =>
        obtain ⟨j, hj, rfl, HQ⟩ := hrel
        clear HP2
        obtain ⟨M, hM, hs⟩ := HQ.out
        by_cases hlt : j < k
        · obtain ⟨B, off, cap', hvb, hBl, d1, d2⟩ := hs.2.1.isIn.par j (by omega)
          injection hvb with e1 e2 e3
          subst e1
          clear e2 e3
          have hz0 := hs.2.1.zero_off.1
          subst hz0
          obtain ⟨k1, k2, f1, f2, hset⟩ := hs.put j (by omega) 77 0
          have hfin : Hid (∃ M : List (Int × Int), M.length = k ∧ Sm w (St.mk a1 a2 a3 a4 a5 a6) (St.mk b1 b2 b3 b4 b5 b6) g7 g8 M L (.slice (some ⟨B, 0, none⟩) k lc) (.slice mb k mc) ((wr.setCell ⟨B, j * 2, none⟩ (.int .i64 77)).setCell ⟨B, j * 2 + 1, none⟩ (.int .i64 0))) := ⟨_, by rw [List.length_set]; exact hM, hset⟩
          obtain ⟨x1, hx1⟩ := k1
          obtain ⟨x2, hx2⟩ := k2
          have hji : (j : Int) < (k : Int) := by omega
          clear hs HQ hset d1 d2 hM hj
          go_wp2_with fail
          go_roundw
          case rel => exact ⟨j + 1, by omega, by simp, hfin.out⟩
          case measure => simp [intOf]; omega
        · obtain rfl : j = k := by omega
          have hb1 := bel1 wr (.cells #[.int .i64 78, .int .i64 0] 46)
          have hs1 := hs.below hb1
          obtain ⟨zb, zc, v1, hrun, hR, hG⟩ := app okP _ _ M hs1.2.1 _ _ (in_one (E := EP) (wr.alloc (.cells #[.int .i64 78, .int .i64 0] 46)) wr.heap.size (78, 0) _ 46 (0, 0) (heap_alloc_new _ _) rfl) (by simp only [EP, List.length_cons, List.length_nil]; omega)
          simp only [List.length_cons, List.length_nil, Nat.zero_add] at hrun
          have hend := hs1.grown hG
          obtain ⟨p0, p1, p2, p3, p4, p5⟩ := c6 hend.1.2.1
          obtain ⟨q0, q1, q2, q3, q4, q5⟩ := c6 hend.1.2.2.1
          simp only at p0 p1 p2 p3 p4 p5 q0 q1 q2 q3 q4 q5
          have HE : Hid _ := hend
          obtain ⟨N2, hN2⟩ : ∃ N2, M.length + 1 = N2 := ⟨_, rfl⟩
          rw [hN2] at hrun
          simp only [EP] at hrun
          replace hrun : Hid _ := hrun
          clear hs HQ hs1 hR hG hend hb1 hM hN2 hj
          go_wp2_with (first | (go_at_call 17; refine (hEn _ HE).mono ?_; clear hEn HE; rintro e w7 ⟨rb, rn, rc, rfl, HF⟩) | (go_at_call 19; refine (hEs _ _ HF).mono ?_; clear hEs HF; rintro e w8 ⟨rfl, HG⟩) | (at_builtin; refine Lib.wpList_append_run _ rfl (.tmp 159) (.tmp 161) 30 30 rfl _ _ rfl rfl _ _ hrun.out ?_))
          go_ret
          exact ⟨rfl, HG.out⟩
end Go.Proofs.YtfkimdgbkfogcaaDoor
