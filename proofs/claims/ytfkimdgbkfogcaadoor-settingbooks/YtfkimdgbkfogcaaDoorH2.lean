/- SettingOneByOne. -/
import Derived.Test.YtfkimdgbkfogcaaDoorH1
namespace Go.Proofs.YtfkimdgbkfogcaaDoor
open Go.RowKit
set_option linter.unusedVariables false
set_option linter.unusedSimpArgs false

/-- the law's sets -/
def Ob (w : World) (g4 g9 g12 : Nat) (S A T : St) (W : World) : Prop := Below w.heap.size w W ∧ W.heap[g4]? = some (.cells S.a 27 (0, 0)) ∧ W.heap[g9]? = some (.cells A.a 27 (0, 0)) ∧ W.heap[g12]? = some (.cells T.a 27 (0, 0))
theorem Ob.below {w : World} {g4 g9 g12 : Nat} {S A T : St} {W W' : World} (h : Ob w g4 g9 g12 S A T W) (hb : Below W.heap.size W W') : Ob w g4 g9 g12 S A T W' :=
  ⟨h.1.trans (hb.mono h.1.size), (hb.block _ (heap_lt h.2.1)).trans h.2.1, (hb.block _ (heap_lt h.2.2.1)).trans h.2.2.1, (hb.block _ (heap_lt h.2.2.2)).trans h.2.2.2⟩
def Oc (w : World) (g4 g9 g12 g16 : Nat) (S A T U : St) (W : World) : Prop := Ob w g4 g9 g12 S A T W ∧ W.heap[g16]? = some (.cells U.a 27 (0, 0))
theorem Oc.below {w : World} {g4 g9 g12 g16 : Nat} {S A T U : St} {W W' : World} (h : Oc w g4 g9 g12 g16 S A T U W) (hb : Below W.heap.size W W') : Oc w g4 g9 g12 g16 S A T U W' :=
  ⟨h.1.below hb, (hb.block _ (heap_lt h.2)).trans h.2⟩
theorem Oc.grow {w : World} {g4 g9 g12 g16 : Nat} {S A T U : St} {W W' : World} {o o' : Value} {l : List (Int × Int)} (h : Oc w g4 g9 g12 g16 S A T U W) (hR : R EP W o l) (hfr : ∀ k, o.ownBlock = some k → w.heap.size ≤ k) (hG : Gr W W' o o') : Oc w g4 g9 g12 g16 S A T U W' := by
  have hne : ∀ (g : Nat) (s : St), W.heap[g]? = some (.cells s.a 27 (0, 0)) → o.ownBlock ≠ some g := fun g s hg e => by
    obtain ⟨c, hc⟩ := hR.ty _ e
    rw [hg] at hc
    simp [EP] at hc
  exact ⟨⟨h.1.1.trans (hG.belowB h.1.1.size hfr), (hG.block _ (heap_lt h.1.2.1) (hne _ _ h.1.2.1)).trans h.1.2.1, (hG.block _ (heap_lt h.1.2.2.1) (hne _ _ h.1.2.2.1)).trans h.1.2.2.1, (hG.block _ (heap_lt h.1.2.2.2) (hne _ _ h.1.2.2.2)).trans h.1.2.2.2⟩, (hG.block _ (heap_lt h.2) (hne _ _ h.2)).trans h.2⟩

theorem fits_may {s : St} (h : fitsS s = true) : mayS s := by
  unfold fitsS inB at h
  simp only [Bool.and_eq_true, decide_eq_true_eq] at h
  unfold mayS
  omega

set_option maxRecDepth 100000 in
set_option maxHeartbeats 16000000 in
theorem settingOneByOne_any (s : St) (lv kv : Value) (l kk : List (Int × Int)) (c : Bool) (w : World) (hS : Std w) (hl : In EP w lv l) (hk : In EP w kv kk) (hnl : l.length ≤ 1048576) (hnk : kk.length ≤ 1048576) :
    Calls Tryd.prog 5 #[.agg s.a, lv, kv, .bool c] w fun e w' => e = .returned (.bool true) ∧ Below w.heap.size w w' := by
  obtain ⟨lb, lc, rfl, hl1, hl2⟩ := hl.slice
  obtain ⟨kb, kc, rfl, hk1, hk2⟩ := hk.slice
  obtain ⟨n, hn⟩ : ∃ n, l.length = n := ⟨_, rfl⟩
  obtain ⟨m, hm⟩ : ∃ m, kk.length = m := ⟨_, rfl⟩
  rw [hn] at hl1 hl hnl ⊢
  rw [hm] at hk1 hk hnk ⊢
  have HL : Hid (In EP w (.slice lb n lc) l) := hl
  have HK : Hid (In EP w (.slice kb m kc) kk) := hk
  have HN : Hid (l.length = n) := hn
  have HS : Hid (Std w) := hS
  obtain ⟨S, hSe⟩ : ∃ S, madeS s = S := ⟨_, rfl⟩
  have hfS : fitsS S = true := by rw [← hSe]; exact made_fits s
  have hmS : mayS S := fits_may hfS
  obtain ⟨⟨A, cA⟩, hA⟩ : ∃ A, applyS S l c = A := ⟨_, rfl⟩
  obtain ⟨⟨T, cT⟩, hT⟩ : ∃ A, applyS S (l ++ kk) c = A := ⟨_, rfl⟩
  obtain ⟨⟨U, cU⟩, hU⟩ : ∃ X, applyS A kk c = X := ⟨_, rfl⟩
  have hjoin : applyS S (l ++ kk) c = if cA = 0 then (U, cU) else (A, cA) := by
    rw [applyS_append, hA]
    simp only
    rw [hU]
  rw [hT] at hjoin
  have hbad : cA ≠ 0 → A = St.zero := fun h => by
    have := bad_zero S l c (by rw [hA]; exact h)
    rw [hA] at this
    exact this
  have HB : Hid ((l.any fun q => validS q c != 0) = (cA != 0)) := by
    have hz := code_zero S l c
    rw [hA] at hz
    simp only at hz
    by_cases h : cA = 0
    · have h1 := hz.1 h
      rw [show (cA != 0) = false by simpa using h]
      show (l.any fun q => validS q c != 0) = false
      rw [List.any_eq_false]
      intro q hq
      simp [h1 q hq]
    · rw [show (cA != 0) = true by simpa using h]
      show (l.any fun q => validS q c != 0) = true
      refine Classical.byContradiction fun hne => h (hz.2 fun q hq => ?_)
      have h2 : (l.any fun q => validS q c != 0) = false := by simpa using hne
      rw [List.any_eq_false] at h2
      have := h2 q hq
      simpa using this
  have hMd : Calls Tryd.prog 16 #[.agg s.a] (w.alloc (.cells s.a 27)) fun e w1 => e = .returned (.agg S.a) ∧ C6 w1 w.heap.size s ∧ F6 w1 w.heap.size ∧ Hid (Below w.heap.size w (set6 w1 w.heap.size S) ∧ (set6 w1 w.heap.size S).heap[w.heap.size]? = some (.cells S.a 27 (0, 0))) := by
    refine (made_any s _).mono ?_
    rintro e w1 ⟨rfl, hb⟩
    have h0 := bel1 w (.cells s.a 27)
    have k := (hb.block _ (heap_lt (heap_alloc_new w (.cells s.a 27)))).trans (heap_alloc_new w _)
    have h1 := h0.trans (hb.mono h0.size)
    exact ⟨by rw [hSe], c6 k, f6 k, h1.trans ((set6_ks w1 _ _).below h1.size fun i hi => by omega), set6_blk _ k⟩
  have hAp : ∀ W : World, Hid (Below w.heap.size w W ∧ W.heap[w.heap.size]? = some (.cells S.a 27 (0, 0))) → Calls Tryd.prog 11 #[.agg S.a, .slice lb n lc, .bool c] W fun e w2 => e = .returned (.tuple #[.agg A.a, .int .i64 cA]) ∧ Hid (Ob w w.heap.size w2.heap.size w2.heap.size S A A (w2.alloc (.cells A.a 27))) := by
    intro W h
    obtain ⟨h1, h2⟩ := h.out
    refine (apply_any S _ l c W (HL.out.below h1)).mono ?_
    rintro e w2 ⟨rfl, hb⟩
    have hb1 := hb.trans ((bel1 w2 (.cells A.a 27)).mono hb.size)
    exact ⟨by rw [hA], h1.trans (hb1.mono h1.size), (hb1.block _ (heap_lt h2)).trans h2, heap_alloc_new _ _, heap_alloc_new _ _⟩
  have hCp : ∀ (W : World) (g9 : Nat), Hid (Ob w w.heap.size g9 g9 S A A W) → ∃ b1 c1 w3 b2 c2 w4, Hid ((Builtin.append_ #[30, 30] 30 #[.slice none 0 0, .slice lb n lc]).run Tryd.prog W = .ok (.slice b1 n c1) w3) ∧ Hid ((Builtin.append_ #[30, 30] 30 #[.slice b1 n c1, .slice kb m kc]).run Tryd.prog w3 = .ok (.slice b2 (n + m) c2) w4) ∧ C6 w4 w.heap.size S ∧ Hid (Ob w w.heap.size g9 g9 S A A w4 ∧ In EP w4 (.slice b2 (n + m) c2) (l ++ kk)) := by
    intro W g9 h
    obtain ⟨b1, c1, w3, hr1, hR1, hG1⟩ := app okP W (.slice none 0 0) [] (R.nil _ _) _ l (HL.out.below h.out.1) (by simp only [EP, List.length_nil]; omega)
    have hb1 := hG1.fresh
    have hn1 := hG1.new
    simp only [List.length_nil, Nat.zero_add, List.nil_append, hn] at hr1 hR1 hn1
    have h3 := h.out.below hb1
    obtain ⟨b2, c2, w4, hr2, hR2, hG2⟩ := app okP w3 _ l hR1 _ kk (HK.out.below h3.1) (by simp only [EP]; omega)
    rw [hn, hm] at hr2 hR2
    have hb2 : Below W.heap.size W w4 := hb1.trans (hG2.belowB hb1.size hn1)
    have h4 := h.out.below hb2
    exact ⟨b1, c1, w3, b2, c2, w4, hr1, hr2, c6 h4.2.1, h4, hR2.isIn⟩
  have hTp : ∀ (W : World) (g9 : Nat) (b2 : Option Addr) (c2 : Nat), Hid (Ob w w.heap.size g9 g9 S A A W ∧ In EP W (.slice b2 (n + m) c2) (l ++ kk)) → Calls Tryd.prog 11 #[.agg S.a, .slice b2 (n + m) c2, .bool c] W fun e w2 => e = .returned (.tuple #[.agg T.a, .int .i64 cT]) ∧ Hid (Ob w w.heap.size g9 w2.heap.size S A T (w2.alloc (.cells T.a 27))) := by
    intro W g9 b2 c2 h
    obtain ⟨h1, h2⟩ := h.out
    refine (apply_any S _ (l ++ kk) c W h2).mono ?_
    rintro e w2 ⟨rfl, hb⟩
    have hb1 := hb.trans ((bel1 w2 (.cells T.a 27)).mono hb.size)
    have h3 := h1.below hb1
    exact ⟨by rw [hT], h3.1, h3.2.1, h3.2.2.1, heap_alloc_new _ _⟩
  have hFi : ∀ (W : World) (g9 g12 : Nat), Hid (Ob w w.heap.size g9 g12 S A T W) → Calls Tryd.prog 9 #[] W fun e w1 => e = .returned (.bool true) ∧ C6 w1 g9 A ∧ C6 w1 g12 T ∧ Hid (Ob w w.heap.size g9 g12 S A T w1) := by
    intro W g9 g12 h
    refine (first_any W (HS.out.below h.out.1)).mono ?_
    rintro e w1 ⟨rfl, hb⟩
    have h1 := h.out.below hb
    exact ⟨rfl, c6 h1.2.2.1, c6 h1.2.2.2, h1⟩
  have hUp : ∀ (W : World) (g9 g12 : Nat), Hid (Ob w w.heap.size g9 g12 S A T W) → Calls Tryd.prog 11 #[.agg A.a, .slice kb m kc, .bool c] W fun e w2 => e = .returned (.tuple #[.agg U.a, .int .i64 cU]) ∧ Hid (Oc w w.heap.size g9 g12 w2.heap.size S A T U (w2.alloc (.cells U.a 27))) := by
    intro W g9 g12 h
    refine (apply_any A _ kk c W (HK.out.below h.out.1)).mono ?_
    rintro e w2 ⟨rfl, hb⟩
    have hb1 := hb.trans ((bel1 w2 (.cells U.a 27)).mono hb.size)
    exact ⟨by rw [hU], h.out.below hb1, heap_alloc_new _ _⟩
  have HGood : Hid (cA = 0 → ∀ q ∈ l, validS q c = 0) := fun h => (code_zero S l c).1 (by rw [hA]; exact h)
  have hVp : cA = 0 → ∀ (W : World) (g9 g12 g16 : Nat) (v : Value), Hid (Oc w w.heap.size g9 g12 g16 S A T U W ∧ R EP W v (lastK l n)) → Calls Tryd.prog 11 #[.agg S.a, v, .bool c] W fun e w2 => e = .returned (.tuple #[.agg A.a, .int .i64 0]) ∧ C6 (w2.alloc (.cells A.a 27)) g9 A ∧ C6 (w2.alloc (.cells A.a 27)) g12 T ∧ C6 (w2.alloc (.cells A.a 27)) g16 U ∧ Hid (Oc w w.heap.size g9 g12 g16 S A T U (w2.alloc (.cells A.a 27)) ∧ (w2.alloc (.cells A.a 27)).heap[w2.heap.size]? = some (.cells A.a 27 (0, 0))) := by
    intro h0 W g9 g12 g16 v h
    obtain ⟨h1, h2⟩ := h.out
    refine (apply_any S v _ c W h2.isIn).mono ?_
    rintro e w2 ⟨rfl, hb⟩
    rw [← hn, lastK_all, last_apply S l c (HGood.out h0), hA]
    have hb1 := hb.trans ((bel1 w2 (.cells A.a 27)).mono hb.size)
    have h3 := h1.below hb1
    exact ⟨by rw [h0], c6 h3.1.2.2.1, c6 h3.1.2.2.2, c6 h3.2, h3, heap_alloc_new _ _⟩
  have hmA : cA = 0 → mayS A := fun h => by
    have := apply_may S l c hmS (by rw [hA]; exact h)
    rw [hA] at this
    exact this
  have hmT : cT = 0 → mayS T := fun h => by
    have := apply_may S (l ++ kk) c hmS (by rw [hT]; exact h)
    rw [hT] at this
    exact this
  have hM1 : cA = 0 → ∀ (W : World) (g9 g12 g16 g22 : Nat), Hid (Oc w w.heap.size g9 g12 g16 S A T U W ∧ W.heap[g22]? = some (.cells A.a 27 (0, 0))) → Calls Tryd.prog 21 #[.agg A.a] W fun e w1 => e = .returned (.bool true) ∧ C6 w1 g22 A ∧ C6 w1 g9 A ∧ C6 w1 g12 T ∧ C6 w1 w.heap.size S ∧ Hid (Oc w w.heap.size g9 g12 g16 S A T U w1) := by
    intro h0 W g9 g12 g16 g22 h
    obtain ⟨h1, h2⟩ := h.out
    refine (may_any A (hmA h0) W).mono ?_
    rintro e w1 ⟨rfl, hb⟩
    have h3 := h1.below hb
    exact ⟨rfl, c6 ((hb.block _ (heap_lt h2)).trans h2), c6 h3.1.2.2.1, c6 h3.1.2.2.2, c6 h3.1.2.1, h3⟩
  have hM2 : cT = 0 → ∀ (W : World) (g9 g12 g16 : Nat), Hid (Oc w w.heap.size g9 g12 g16 S A T U W) → Calls Tryd.prog 21 #[.agg T.a] W fun e w1 => e = .returned (.bool true) ∧ C6 w1 w.heap.size S ∧ Hid (Oc w w.heap.size g9 g12 g16 S A T U w1) := by
    intro h0 W g9 g12 g16 h
    refine (may_any T (hmT h0) W).mono ?_
    rintro e w1 ⟨rfl, hb⟩
    have h3 := h.out.below hb
    exact ⟨rfl, c6 h3.1.2.1, h3⟩
  have hFt : ∀ (W : World) (g9 g12 g16 : Nat), Hid (Oc w w.heap.size g9 g12 g16 S A T U W) → Calls Tryd.prog 18 #[.agg S.a] W fun e w1 => e = .returned (.bool true) ∧ Hid (Below w.heap.size w w1) := by
    intro W g9 g12 g16 h
    refine (fits_any S W).mono ?_
    rintro e w1 ⟨rfl, hb⟩
    rw [hfS]
    exact ⟨rfl, (h.out.below hb).1.1⟩
  clear hS hl hk hn hm hSe hfS hmS hA hT hU hmA hmT
  obtain ⟨s1, s2, s3, s4, s5, s6⟩ := s
  obtain ⟨S1, S2, S3, S4, S5, S6⟩ := S
  obtain ⟨A1, A2, A3, A4, A5, A6⟩ := A
  obtain ⟨T1, T2, T3, T4, T5, T6⟩ := T
  obtain ⟨U1, U2, U3, U4, U5, U6⟩ := U
  obtain ⟨N, hN⟩ : ∃ N, n + m = N := ⟨_, rfl⟩
  rw [hN] at hCp hTp
  clear hN
  simp only [St.a, set6] at hMd hAp hCp hTp hUp hVp hM1 hM2 hFt ⊢
  go_enter Tryd.func5, Tryd.ntmps5
  go_wp2_with (first | (go_at_call 16; refine hMd.mono ?_; clear hMd; rintro e w1 ⟨rfl, ⟨p0, p1, p2, p3, p4, p5⟩, ⟨q0, q1, q2, q3, q4, q5⟩, H1⟩; try simp only at p0 p1 p2 p3 p4 p5) | (go_at_call 11; refine (hAp _ H1).mono ?_; clear hAp H1; rintro e w2 ⟨rfl, H2⟩) | (go_at_call 11; refine (hTp _ _ _ _ H4).mono ?_; clear hTp H4; rintro e w5 ⟨rfl, H5⟩) | (at_builtin; obtain ⟨b1, c1, w3, b2, c2, w4, hr1, hr2, ⟨r0, r1, r2, r3, r4, r5⟩, H4⟩ := hCp _ _ H2; simp only at r0 r1 r2 r3 r4 r5; clear hCp H2; refine Lib.wpList_append_run _ rfl (.const (.slice none 0 0)) (.tmp 33) 30 30 rfl _ _ rfl rfl _ _ hr1.out ?_; clear hr1) | (at_builtin; refine Lib.wpList_append_run _ rfl (.tmp 34) (.tmp 35) 30 30 rfl _ _ rfl rfl _ _ hr2.out ?_; clear hr2))
  obtain ⟨g9, hg9⟩ : ∃ g, w2.heap.size = g := ⟨_, rfl⟩
  obtain ⟨g12, hg12⟩ : ∃ g, w5.heap.size = g := ⟨_, rfl⟩
  rw [hg9, hg12] at H5 ⊢
  clear hg9 hg12 p0 p1 p2 p3 p4 p5 q0 q1 q2 q3 q4 q5 r0 r1 r2 r3 r4 r5
  go_loopw [14, 15] (fun b i wr => ∃ k : Nat, k ≤ n ∧ i = .int .i64 (k : Int) ∧ ∃ B : Bool, b = .bool B ∧ Hid (B = (l.take k).any (fun q => validS q c != 0) ∧ Ob w w.heap.size g9 g12 (St.mk S1 S2 S3 S4 S5 S6) (St.mk A1 A2 A3 A4 A5 A6) (St.mk T1 T2 T3 T4 T5 T6) wr)) (fun _ i _ => n - (intOf i).toNat)
  case atStart => exact ⟨0, Nat.zero_le _, rfl, false, rfl, by simp, H5.out⟩
  case round =>
    obtain ⟨k, hk, rfl, B, rfl, HP⟩ := hrel
    clear H5
    have hlen := HN.out
    by_cases hlt : k < n
    · obtain ⟨hBe, hOb⟩ := HP.out
      obtain ⟨Bk, off, cap', hvb, hBl, d1, d2⟩ := (HL.out.below hOb.1).par k (by omega)
      injection hvb with e1 e2 e3
      subst e1
      clear e2 e3
      obtain ⟨x, y, hq⟩ : ∃ x y, l[k]'(by omega) = (x, y) := ⟨_, _, rfl⟩
      have hany : (l.take (k + 1)).any (fun q => validS q c != 0) = (B || (validS (x, y) c != 0)) := by
        rw [List.take_succ_eq_append_getElem (by omega), List.any_append, ← hBe, hq]
        simp
      rw [hq] at d1 d2
      simp only at d1 d2
      have hlti : (k : Int) < (n : Int) := by omega
      have HO : Hid (Ob w w.heap.size g9 g12 (St.mk S1 S2 S3 S4 S5 S6) (St.mk A1 A2 A3 A4 A5 A6) (St.mk T1 T2 T3 T4 T5 T6) wr) := hOb
      clear hOb HP hq hlen hBe
      cases B
      · have hcall : Calls Tryd.prog 20 #[.agg #[.int .i64 x, .int .i64 y], .bool c] wr fun e w1 => e = .returned (.int .i64 (validS (x, y) c)) ∧ Hid (Ob w w.heap.size g9 g12 (St.mk S1 S2 S3 S4 S5 S6) (St.mk A1 A2 A3 A4 A5 A6) (St.mk T1 T2 T3 T4 T5 T6) w1) := by
          refine (valid_any x y c wr).mono ?_
          rintro e w1 ⟨rfl, hb⟩
          exact ⟨rfl, HO.out.below hb⟩
        rw [Bool.false_or] at hany
        obtain ⟨V, hV⟩ : ∃ V, validS (x, y) c = V := ⟨_, rfl⟩
        rw [hV] at hcall hany
        have HA : Hid _ := hany
        clear hV hany HO hFi hUp hVp hM1 hM2 hFt
        go_wp2_with (go_at_call 20; refine hcall.mono ?_; clear hcall; rintro e w1 ⟨rfl, HH⟩)
        go_roundw
        case rel => exact ⟨k + 1, by omega, by simp, _, rfl, HA.out.symm, HH.out⟩
        case measure => simp [intOf]; omega
      · rw [Bool.true_or] at hany
        have HA : Hid _ := hany
        clear hany hFi hUp hVp hM1 hM2 hFt d1 d2
        go_wp2_with fail
        go_roundw
        case rel => exact ⟨k + 1, by omega, by simp, true, rfl, HA.out.symm, HO.out⟩
        case measure => simp [intOf]; omega
    · obtain rfl : k = n := by omega
      obtain ⟨hBe, hOb⟩ := HP.out
      rw [List.take_of_length_le (by omega), HB.out] at hBe
      have HO : Hid (Ob w w.heap.size g9 g12 (St.mk S1 S2 S3 S4 S5 S6) (St.mk A1 A2 A3 A4 A5 A6) (St.mk T1 T2 T3 T4 T5 T6) wr) := hOb
      clear hOb HP hlen hlt
      subst hBe
      by_cases h0 : cA = 0
      · rw [if_pos h0] at hjoin
        simp only [Prod.mk.injEq, St.mk.injEq] at hjoin
        obtain ⟨⟨rfl, rfl, rfl, rfl, rfl, rfl⟩, rfl⟩ := hjoin
        subst h0
        replace hVp := hVp rfl
        replace hM1 := hM1 rfl
        clear hbad HGood
        go_wp2_with (first | (go_at_call 9; refine (hFi _ _ _ HO).mono ?_; clear hFi HO; rintro e w6 ⟨rfl, ⟨p0, p1, p2, p3, p4, p5⟩, ⟨q0, q1, q2, q3, q4, q5⟩, H6⟩; simp only at p0 p1 p2 p3 p4 p5 q0 q1 q2 q3 q4 q5) | (go_at_call 11; refine (hUp _ _ _ H6).mono ?_; clear hUp H6; rintro e w7 ⟨rfl, H7⟩))
        obtain ⟨g16, hg16⟩ : ∃ g, w7.heap.size = g := ⟨_, rfl⟩
        rw [hg16] at H7 ⊢
        clear hg16 p0 p1 p2 p3 p4 p5 q0 q1 q2 q3 q4 q5
        go_loopw [18, 19] (fun o i wr => ∃ a : Nat, a ≤ k ∧ i = .int .i64 (a : Int) ∧ Hid (R EP wr o (lastK l a) ∧ (∀ j, o.ownBlock = some j → w.heap.size ≤ j) ∧ Oc w w.heap.size g9 g12 g16 (St.mk S1 S2 S3 S4 S5 S6) (St.mk A1 A2 A3 A4 A5 A6) (St.mk T1 T2 T3 T4 T5 T6) (St.mk T1 T2 T3 T4 T5 T6) wr)) (fun _ i _ => k - (intOf i).toNat)
        case atStart => exact ⟨0, Nat.zero_le _, rfl, R.nil _ _, fun j hj => by simp [Value.ownBlock] at hj, H7.out⟩
        case round =>
          obtain ⟨a, ha, rfl, HP⟩ := hrel
          clear H7
          have hlen := HN.out
          obtain ⟨hR, hfr, hOc⟩ := HP.out
          obtain ⟨ob, oc, ho, _, _⟩ := hR.slice
          subst ho
          by_cases hlt : a < k
          · obtain ⟨Bk, off, cap', hvb, hBl, d1, d2⟩ := HL.out.par a (by omega)
            injection hvb with e1 e2 e3
            subst e1
            clear e2 e3
            obtain ⟨x, y, hq⟩ : ∃ x y, l[a]'(by omega) = (x, y) := ⟨_, _, rfl⟩
            rw [hq] at d1 d2
            simp only at d1 d2
            have hgd : l.getD a (0, 0) = (x, y) := by rw [← hq]; simp [List.getD, List.getElem?_eq_getElem (show a < l.length by omega)]
            have hcell : Hid (∀ (W : World) (j : Nat) (hj : j < l.length), Below w.heap.size w W → W.cell? ⟨Bk, off + j * 2, none⟩ = some (.int .i64 (l[j]).1)) := fun W j hj hb => by
              obtain ⟨B', off', cap'', hvb, hBl', d1', _⟩ := HL.out.par j hj
              injection hvb with e1 _ _
              injection e1 with e1
              injection e1 with e1 e2 _
              subst e1
              subst e2
              exact (hb.cell hBl').trans d1'
            have hlti : (a : Int) < (k : Int) := by omega
            have HQ : Hid (R EP wr (.slice ob (lastK l a).length oc) (lastK l a) ∧ (∀ j, (Value.slice ob (lastK l a).length oc).ownBlock = some j → w.heap.size ≤ j) ∧ Oc w w.heap.size g9 g12 g16 (St.mk S1 S2 S3 S4 S5 S6) (St.mk A1 A2 A3 A4 A5 A6) (St.mk T1 T2 T3 T4 T5 T6) (St.mk T1 T2 T3 T4 T5 T6) wr) := ⟨hR, hfr, hOc⟩
            have hstep := lastK_succ l a
            rw [hgd] at hstep
            simp only at hstep
            have hLL := lastK_length l a
            obtain ⟨LL, hLLe⟩ : ∃ LL, (lastK l a).length = LL := ⟨_, rfl⟩
            rw [hLLe] at HQ hLL ⊢
            have HLE : Hid ((lastK l a).length = LL) := hLLe
            have HST : Hid _ := hstep
            clear hR hfr hOc HP hq hgd hstep hLLe hlen
            go_wp2_with fail
            go_loopw [20, 21] (fun b jv wi => ∃ j : Nat, a + 1 ≤ j ∧ j ≤ k ∧ jv = .int .i64 (j : Int) ∧ ∃ B : Bool, b = .bool B ∧ Hid (B = ((l.drop (a + 1)).take (j - (a + 1))).any (fun q => q.1 == x) ∧ R EP wi (.slice ob LL oc) (lastK l a) ∧ (∀ j, (Value.slice ob LL oc).ownBlock = some j → w.heap.size ≤ j) ∧ Oc w w.heap.size g9 g12 g16 (St.mk S1 S2 S3 S4 S5 S6) (St.mk A1 A2 A3 A4 A5 A6) (St.mk T1 T2 T3 T4 T5 T6) (St.mk T1 T2 T3 T4 T5 T6) wi)) (fun _ jv _ => k - (intOf jv).toNat)
            case atStart => exact ⟨a + 1, Nat.le_refl _, by omega, by simp, false, rfl, by simp, HQ.out⟩
            case round =>
              obtain ⟨j, hj1, hj2, rfl, B, rfl, HI⟩ := hrel
              clear HQ
              have hlen := HN.out
              obtain ⟨hBe, hR, hfr, hOc⟩ := HI.out
              by_cases hjl : j < k
              · obtain ⟨z, hz⟩ : ∃ z, (l[j]'(by omega)).1 = z := ⟨_, rfl⟩
                have dj := hcell.out wr j (by omega) hOc.1.1
                have da := (hOc.1.1.cell hBl).trans d1
                rw [hz] at dj
                have hany : ((l.drop (a + 1)).take (j + 1 - (a + 1))).any (fun q => q.1 == x) = (B || (z == x)) := by
                  rw [show j + 1 - (a + 1) = (j - (a + 1)) + 1 by omega, List.take_succ_eq_append_getElem (by rw [List.length_drop]; omega), List.any_append, ← hBe, List.getElem_drop]
                  simp only [show a + 1 + (j - (a + 1)) = j by omega, hz, List.any_cons, List.any_nil, Bool.or_false]
                have hb1 := (Below.refl wr.heap.size wr).drew
                have HF : Hid (R EP wr.drew (.slice ob LL oc) (lastK l a) ∧ (∀ j, (Value.slice ob LL oc).ownBlock = some j → w.heap.size ≤ j) ∧ Oc w w.heap.size g9 g12 g16 (St.mk S1 S2 S3 S4 S5 S6) (St.mk A1 A2 A3 A4 A5 A6) (St.mk T1 T2 T3 T4 T5 T6) (St.mk T1 T2 T3 T4 T5 T6) wr.drew) := ⟨hR.below hb1, hfr, hOc.below hb1⟩
                have hjlti : (j : Int) < (k : Int) := by omega
                have HA : Hid _ := hany
                clear hany hR hfr hOc HI hBe hz hlen hb1
                cases B
                · go_wp2_with fail
                  go_region
                  all_goals
                    go_wp2_with fail
                    go_roundw
                    case rel => exact ⟨j + 1, by omega, by omega, by simp, _, rfl, by rw [HA.out, Bool.false_or], HF.out⟩
                    case measure => simp [intOf]; omega
                · clear dj da
                  go_wp2_with fail
                  go_region
                  all_goals
                    go_wp2_with fail
                    go_roundw
                    case rel => exact ⟨j + 1, by omega, by omega, by simp, true, rfl, by rw [HA.out, Bool.true_or], HF.out⟩
                    case measure => simp [intOf]; omega
              · obtain rfl : j = k := by omega
                rw [List.take_of_length_le (by rw [List.length_drop]; omega)] at hBe
                have hst := HST.out
                rw [← hBe] at hst
                have hLe := HLE.out
                cases B
                · rw [if_neg (by simp)] at hst
                  have da := (hOc.1.1.cell hBl).trans d1
                  have da2 := (hOc.1.1.cell hBl).trans d2
                  have hb1 := bel1 wr (.cells #[.int .i64 x, .int .i64 y] 46)
                  obtain ⟨zb, zc, v1, hrun, hR2, hG2⟩ := app okP _ _ _ (hR.below hb1) _ _ (in_one (E := EP) (wr.alloc (.cells #[.int .i64 x, .int .i64 y] 46)) wr.heap.size (x, y) _ 46 (0, 0) (heap_alloc_new _ _) rfl) (by simp only [EP, List.length_cons, List.length_nil]; omega)
                  simp only [List.length_cons, List.length_nil, Nat.zero_add] at hrun hR2 hG2
                  rw [hLe] at hrun hR2 hG2
                  have HF : Hid (R EP v1 (.slice zb (LL + 1) zc) (lastK l (a + 1)) ∧ (∀ j, (Value.slice zb (LL + 1) zc).ownBlock = some j → w.heap.size ≤ j) ∧ Oc w w.heap.size g9 g12 g16 (St.mk S1 S2 S3 S4 S5 S6) (St.mk A1 A2 A3 A4 A5 A6) (St.mk T1 T2 T3 T4 T5 T6) (St.mk T1 T2 T3 T4 T5 T6) v1) := by
                    refine ⟨by rw [hst]; exact hR2, fun i hi => (hG2.own i hi).elim (hfr i) fun hh => ?_, (hOc.below hb1).grow (hR.below hb1) hfr hG2⟩
                    have := hOc.1.1.size
                    rw [size_al] at hh
                    omega
                  obtain ⟨L1, hL1⟩ : ∃ L1, LL + 1 = L1 := ⟨_, rfl⟩
                  rw [hL1] at hrun HF
                  simp only [EP] at hrun
                  replace hrun : Hid _ := hrun
                  clear hR hfr hOc HI hBe hst hLe hR2 hG2 hb1 hL1 hlen hjl
                  go_wp2_with (at_builtin; refine Lib.wpList_append_run _ rfl (.tmp 119) (.tmp 124) 30 30 rfl _ _ rfl rfl _ _ hrun.out ?_)
                  go_roundw
                  case rel => exact ⟨a + 1, by omega, by simp, HF.out⟩
                  case measure => simp [intOf]; omega
                · rw [if_pos rfl, List.append_nil] at hst
                  have HF : Hid (R EP wr (.slice ob LL oc) (lastK l (a + 1)) ∧ (∀ j, (Value.slice ob LL oc).ownBlock = some j → w.heap.size ≤ j) ∧ Oc w w.heap.size g9 g12 g16 (St.mk S1 S2 S3 S4 S5 S6) (St.mk A1 A2 A3 A4 A5 A6) (St.mk T1 T2 T3 T4 T5 T6) (St.mk T1 T2 T3 T4 T5 T6) wr) := ⟨by rw [hst]; exact hR, hfr, hOc⟩
                  clear hR hfr hOc HI hBe hst hLe hlen hjl
                  go_wp2_with fail
                  go_roundw
                  case rel => exact ⟨a + 1, by omega, by simp, HF.out⟩
                  case measure => simp [intOf]; omega
          · obtain rfl : a = k := by omega
            obtain ⟨f0, f1, f2, f3, f4, f5⟩ := c6 hOc.1.2.1
            simp only at f0 f1 f2 f3 f4 f5
            have HE : Hid (Oc w w.heap.size g9 g12 g16 (St.mk S1 S2 S3 S4 S5 S6) (St.mk A1 A2 A3 A4 A5 A6) (St.mk T1 T2 T3 T4 T5 T6) (St.mk T1 T2 T3 T4 T5 T6) wr ∧ R EP wr (.slice ob (lastK l a).length oc) (lastK l a)) := ⟨hOc, hR⟩
            obtain ⟨LL, hLLe⟩ : ∃ LL, (lastK l a).length = LL := ⟨_, rfl⟩
            rw [hLLe] at HE ⊢
            have hwl : w.heap.size < wr.heap.size := heap_lt hOc.1.2.1
            clear hR hfr hOc HP hlen hlt hLLe
            by_cases hc0 : cT = 0
            · subst hc0
              replace hM2 := hM2 rfl
              go_wp2_with (first | (go_at_call 11; refine (hVp _ _ _ _ _ HE).mono ?_; clear hVp HE; rintro e w8 ⟨rfl, ⟨i0, i1, i2, i3, i4, i5⟩, ⟨j0, j1, j2, j3, j4, j5⟩, ⟨m0, m1, m2, m3, m4, m5⟩, H8⟩; simp only at i0 i1 i2 i3 i4 i5 j0 j1 j2 j3 j4 j5 m0 m1 m2 m3 m4 m5) | (go_at_call 21; refine (hM1 _ _ _ _ _ H8).mono ?_; clear hM1 H8; rintro e w9 ⟨rfl, ⟨n0, n1, n2, n3, n4, n5⟩, ⟨o0, o1, o2, o3, o4, o5⟩, ⟨p0, p1, p2, p3, p4, p5⟩, ⟨q0, q1, q2, q3, q4, q5⟩, H9⟩; simp only at n0 n1 n2 n3 n4 n5 o0 o1 o2 o3 o4 o5 p0 p1 p2 p3 p4 p5 q0 q1 q2 q3 q4 q5) | (go_at_call 21; refine (hM2 _ _ _ _ H9).mono ?_; clear hM2 H9; rintro e wA ⟨rfl, ⟨r0, r1, r2, r3, r4, r5⟩, HA⟩; simp only at r0 r1 r2 r3 r4 r5) | (go_at_call 18; refine (hFt _ _ _ _ HA).mono ?_; clear hFt HA; rintro e wB ⟨rfl, HBl⟩))
              go_ret
              exact ⟨rfl, HBl.out⟩
            · have hcb : (cT != 0) = true := by simpa using hc0
              clear hc0 hM2
              go_wp2_with (first | (go_at_call 11; refine (hVp _ _ _ _ _ HE).mono ?_; clear hVp HE; rintro e w8 ⟨rfl, ⟨i0, i1, i2, i3, i4, i5⟩, ⟨j0, j1, j2, j3, j4, j5⟩, ⟨m0, m1, m2, m3, m4, m5⟩, H8⟩; simp only at i0 i1 i2 i3 i4 i5 j0 j1 j2 j3 j4 j5 m0 m1 m2 m3 m4 m5) | (go_at_call 21; refine (hM1 _ _ _ _ _ H8).mono ?_; clear hM1 H8; rintro e w9 ⟨rfl, ⟨n0, n1, n2, n3, n4, n5⟩, ⟨o0, o1, o2, o3, o4, o5⟩, ⟨p0, p1, p2, p3, p4, p5⟩, ⟨q0, q1, q2, q3, q4, q5⟩, H9⟩; simp only at n0 n1 n2 n3 n4 n5 o0 o1 o2 o3 o4 o5 p0 p1 p2 p3 p4 p5 q0 q1 q2 q3 q4 q5) | (go_at_call 18; refine (hFt _ _ _ _ H9).mono ?_; clear hFt H9; rintro e wB ⟨rfl, HBl⟩))
              go_ret
              exact ⟨rfl, HBl.out⟩
      · rw [if_neg h0] at hjoin
        have hz := hbad h0
        rw [hz] at hjoin
        simp only [St.zero, Prod.mk.injEq, St.mk.injEq] at hjoin hz
        obtain ⟨⟨rfl, rfl, rfl, rfl, rfl, rfl⟩, rfl⟩ := hjoin
        obtain ⟨rfl, rfl, rfl, rfl, rfl, rfl⟩ := hz
        have hcb : (cT != 0) = true := by simpa using h0
        rw [hcb]
        clear hUp hVp hM1 hM2 hFt hbad HGood
        go_wp2_with (go_at_call 9; refine (hFi _ _ _ HO).mono ?_; clear hFi HO; rintro e w6 ⟨rfl, ⟨p0, p1, p2, p3, p4, p5⟩, ⟨q0, q1, q2, q3, q4, q5⟩, H6⟩; simp only at p0 p1 p2 p3 p4 p5 q0 q1 q2 q3 q4 q5)
        go_ret
        exact ⟨rfl, H6.out.1⟩
end Go.Proofs.YtfkimdgbkfogcaaDoor
