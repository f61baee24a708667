/- ManifestCuts. -/
import Derived.Test.YtldnibkgdpeocaaS4
import Derived.Test.YtldnibkgdpeocaaD1
namespace Go.Proofs.Ytldnibkgdpeocaa
open Go.RowKit Go.Maps
open Go.Shelf
set_option linter.unusedVariables false
set_option linter.unusedSimpArgs false

def wT : Tg := (⟨#[119]⟩, ⟨#[]⟩)
def xT : Tg := (⟨#[120]⟩, ⟨#[]⟩)
/-- the first i written over -/
def wL (A : List Tg) (i : Nat) : List Tg := List.replicate i wT ++ A.drop i
theorem wL_len {A : List Tg} {i : Nat} (h : i ≤ A.length) : (wL A i).length = A.length := by unfold wL; simp; omega
theorem wL_step {A : List Tg} {i : Nat} (h : i < A.length) : (wL A i).set i wT = wL A (i + 1) := by
  unfold wL
  rw [List.set_append_right _ _ (by simp), List.length_replicate, Nat.sub_self, List.drop_eq_getElem_cons h, List.set_cons_zero, List.replicate_succ', List.append_assoc]
  rfl
theorem wL_end (A : List Tg) : wL A A.length = List.replicate A.length wT := by unfold wL; simp
theorem take_plan (PL : List Tg) (most : Int) (h : PL.length ≤ 8) : PL.take (min most 8).toNat = PL.take (min (max most 0) (PL.length : Int)).toNat := by
  rw [List.take_eq_take_iff]
  omega

/-- what lies in memory while an answer is written over -/
structure Cu (w0 : World) (q g lo hi : Nat) (t : Tg) (lv bv av : SV) (ps : List Pu) (PL PK : List Tg) (W : World) : Prop where
  bel : Below w0.heap.size w0 W
  box : W.heap[q]? = some (.cells (tgv t) 26 (0, 0))
  man : MM W lo hi g ps
  l : R ET W (sv lv) PL
  b : R ET W (sv bv) PK
  ne : ∀ k, (sv av).ownBlock = some k → w0.heap.size ≤ k ∧ hi ≤ k ∧ k ≠ q ∧ (sv lv).ownBlock ≠ some k ∧ (sv bv).ownBlock ≠ some k
theorem Cu.ks {w0 W W' : World} {q g lo hi : Nat} {t : Tg} {lv bv av : SV} {ps : List Pu} {PL PK : List Tg} (h : Cu w0 q g lo hi t lv bv av ps PL PK W) (hk : Ks (fun k => (sv av).ownBlock = some k) W W') : Cu w0 q g lo hi t lv bv av ps PL PK W' := by
  obtain ⟨h1, h2, h3, h4, h5, h6⟩ := h
  refine ⟨h1.trans (hk.below h1.size fun i hi e => by have := (h6 i e).1; omega), (hk.block q (heap_lt h2) fun e => (h6 q e).2.2.1 rfl).trans h2, h3.keep hk.size fun k _ hkh => hk.block k ?_ fun e => by have := (h6 k e).2.1; omega, h4.stays fun k hk' hl => hk.block k hl fun e => (h6 k e).2.2.2.1 hk', h5.stays fun k hk' hl => hk.block k hl fun e => (h6 k e).2.2.2.2 hk', h6⟩
  obtain ⟨b, L, h7, _⟩ := h3
  have := h7.lh
  omega
theorem Cu.below {w0 W W' : World} {q g lo hi : Nat} {t : Tg} {lv bv av : SV} {ps : List Pu} {PL PK : List Tg} (h : Cu w0 q g lo hi t lv bv av ps PL PK W) (hb : Below W.heap.size W W') : Cu w0 q g lo hi t lv bv av ps PL PK W' := h.ks (Ks.of_below hb)
theorem setT_ks (W : World) (g j : Nat) (f : Tg) (A : Nat → Prop) (h : A g) : Ks A W (setT W g j f) := by
  unfold setT
  exact (Ks.setCell A W g (j * 2) _ h).trans (Ks.setCell A _ g (j * 2 + 1) _ h) (fun _ _ h => h) (fun _ _ h => h)

set_option maxHeartbeats 32000000 in
set_option maxRecDepth 100000 in
theorem cuts_any (x : SV) (es : List Eg) (fr most tu : Int) (w : World) (hI : In EE w (sv x) es) : Calls Try.prog 3 #[sv x, .int .i64 fr, .int .i64 most, .int .i64 tu] w fun e w' => e = .returned (.bool true) ∧ Below w.heap.size w w' := by
  obtain ⟨NM, hNM⟩ : ∃ NM, nmP (mkR es 16) = NM := ⟨_, rfl⟩
  have HNM : Hid (nmP (mkR es 16) = NM) := hNM
  have HMD : Hid (Calls Try.prog 7 #[sv x] w fun e w' => OwPost (mkR es 16) w e w') := made_any x es w hI
  have hm := pgN_and tu
  obtain ⟨m, hm'⟩ : ∃ m, pgN tu = m := ⟨_, rfl⟩
  have hm16 : m < 16 := by rw [← hm']; exact pgN_lt tu
  rw [hm'] at hm
  clear hI hNM hm'
  obtain ⟨sb, sl, sc⟩ := x
  simp only [sv] at HMD ⊢
  go_enter Try.func3, Try.ntmps3
  go_wp2_with fail
  go_at_call 7
  refine HMD.out.mono ?_
  rintro e w1 ⟨⟨rb, rl, rc⟩, rs, rfl, hR1, hP1, hps, hb1, hnw1⟩
  have HW1 : Hid (Below w.heap.size w w1) := hb1
  have HRI : Hid (In ER w1 (sv (rb, rl, rc)) rs) := hR1.isIn
  have HPI : Hid (PsIn w1 rs) := fun r hr => (hP1 r hr).isIn
  have HPS : Hid (rs.map puR = mkR es 16) := hps
  obtain ⟨n, hn⟩ : ∃ n, n = rs.length := ⟨_, rfl⟩
  have HN : Hid (n = rs.length) := hn
  have hn16 : n ≤ 16 := by rw [hn, ← List.length_map, hps]; exact mkR_len es 16
  obtain ⟨b0, c0, e0, m1, m2⟩ := hR1.slice
  simp only [sv] at e0 HRI ⊢
  injection e0 with e1 e2 e3
  subst e1 e2 e3
  rw [← hn] at HRI m1 ⊢
  clear hR1 hP1 hps hb1 hnw1 hn HMD
  go_wp2_with fail
  go_loopw [11, 12] (fun tv iv wr => ∃ (i : Nat) (tv' : SV), iv = .int .i64 (i : Int) ∧ i ≤ n ∧ tv = sv tv' ∧ Hid (R ER wr (sv tv') (tn rs m i)) ∧ Hid (Below w1.heap.size w1 wr)) (fun _ iv _ => n - (intOf iv).toNat)
  case atStart => exact ⟨0, (none, 0, 0), rfl, by omega, rfl, R.nil _ _, Below.refl _ _⟩
  case round =>
    obtain ⟨i, ⟨tb, tl, tc⟩, rfl, hi, rfl, hRt, hb⟩ := hrel
    obtain ⟨b0, c0, e0, k1, k2⟩ := hRt.out.slice
    rw [tn_len] at e0 k1
    simp only [sv] at e0 hRt ⊢
    injection e0 with e1 e2 e3
    replace e2 := e2.symm
    subst e1 e2 e3
    by_cases hlt : i < n
    · have l1 : (i : Int) < (n : Int) := by omega
      obtain ⟨s, hs⟩ : ∃ s, s = i + m := ⟨_, rfl⟩
      have hw : wrap64 ((i : Int) + (m : Int)) = (s : Int) := by unfold wrap64; omega
      obtain ⟨k, hk⟩ : ∃ k, k = s % n := ⟨_, rfl⟩
      have hkn : k < n := by rw [hk]; exact Nat.mod_lt _ (by omega)
      have hr1 : (s : Int) % (n : Int) = (k : Int) := by rw [hk]; omega
      have hr2 : (s : Int).tmod (n : Int) = (k : Int) := by rw [Int.tmod_eq_emod_of_nonneg (by omega)]; exact hr1
      have hr4 : (i + m) % n = k := by rw [hk, hs]
      have hr3 : ((i : Int) + (m : Int)) % (n : Int) = (k : Int) := by rw [← hr1, hs]; simp
      have hn0 : ((n : Int) == 0) = false := beq_eq_false_iff_ne.2 (by omega)
      have hn1 : ¬ (n : Int) = 0 := by omega
      have hn2 : ¬ n = 0 := by omega
      have hkl : k < rs.length := by have := HN.out; omega
      obtain ⟨Bk, off, cap, e, hBk, hc⟩ := HRI.out.ru k hkl
      injection e with e1 e2 e3
      clear e2 e3
      subst e1
      obtain ⟨r, hr⟩ : ∃ r, rs[k] = r := ⟨_, rfl⟩
      rw [hr] at hc
      have HTN : Hid (tn rs m (i + 1) = [r] ++ tn rs m i) := by
        have e : (i + m) % rs.length = k := by rw [← HN.out, ← hs, hk]
        show _ = _
        rw [tn_succ rs m i (by rw [e]; exact hkl), ← hr]
        simp only [e]
      obtain ⟨c0, c1, c2⟩ := hc wr hb.out
      clear hc hr
      have lk : (k : Int) < (n : Int) := by omega
      obtain ⟨⟨ra, rp⟩, ⟨ub, ul, uc⟩, rps⟩ := r
      simp only [sv] at c0 c1 c2
      have HRo : R ER (wr.alloc (.cells #[.string ra, .string rp, .slice ub ul uc] 29)) (.slice (some ⟨wr.heap.size, 0, none⟩) 1 1) [(⟨(ra, rp), (ub, ul, uc), rps⟩ : Ru)] := R.one okR _ (by rw [heap_al, if_pos rfl]; rfl) rfl
      obtain ⟨ab, ac, W4, hrun, hRa, hGa⟩ := app okR _ _ _ HRo (.slice tb i tc) (tn rs m i) (hRt.out.below (bel1 _ _)).isIn (by rw [tn_len]; simp [ER]; omega)
      rw [tn_len] at hrun hRa hGa
      obtain ⟨i1, hi1⟩ : ∃ i1, i1 = i + 1 := ⟨_, rfl⟩
      simp only [List.length_singleton, show 1 + i = i1 from by omega] at hrun hRa hGa
      have HRUN : Hid ((Builtin.append_ #[23, 23] 23 #[.slice (some ⟨wr.heap.size, 0, none⟩) 1 1, .slice tb i tc]).run Try.prog (wr.alloc (.cells #[.string ra, .string rp, .slice ub ul uc] 29)) = .ok (.slice ab i1 ac) W4) := hrun
      have HRa : Hid (R ER W4 (.slice ab i1 ac) (tn rs m i1)) := by rw [hi1, HTN.out, ← hi1]; exact hRa
      have HB4 : Hid (Below w1.heap.size w1 W4) := hb.out.trans (((bel1 wr (.cells #[.string ra, .string rp, .slice ub ul uc] 29)).trans (hGa.belowB (bel1 _ _).size fun k hk => by simp [Value.ownBlock] at hk; omega)).mono hb.out.size)
      have HI1 : Hid (i1 = i + 1) := hi1
      have hwi : wrap64 ((i : Int) + 1) = (i1 : Int) := by unfold wrap64; omega
      clear hrun hRa hGa HRo hs hk hi1
      go_wp2_with (at_builtin; refine Lib.wpList_append_run _ rfl _ _ _ _ rfl _ _ rfl rfl _ _ HRUN.out ?_)
      go_roundw
      case rel => exact ⟨i1, (ab, i1, ac), by rw [HI1.out]; simp, by have := HI1.out; omega, rfl, HRa.out, HB4.out⟩
      case measure => have := HI1.out; simp [intOf]; omega
    · obtain rfl : i = n := by omega
      have l1 : ¬ (i : Int) < (i : Int) := by omega
      obtain ⟨w2, hw2⟩ : ∃ w2, w2 = wr := ⟨_, rfl⟩
      subst hw2
      have hTOK := tn_ok (mkR_ok es) HPS.out m
      rw [← HN.out] at hTOK
      obtain ⟨TP, hTP⟩ : ∃ TP, (tn rs m i).map puR = TP := ⟨_, rfl⟩
      rw [hTP, HNM.out] at hTOK
      have HTO : Hid (OkP TP) := hTOK.1
      have HTN : Hid (nmP TP = NM) := hTOK.2
      have HTL : Hid (TP.length ≤ 16) := by rw [← hTP, List.length_map, tn_len]; exact hn16
      have HR2 : Hid (Rd w2 (rb, i, rc) (mkR es 16)) := ⟨rs, HRI.out.below hb.out, HPI.out.below hb.out, HPS.out⟩
      have HT2 : Hid (Rd w2 (tb, i, tc) TP) := ⟨tn rs m i, hRt.out.isIn, fun r hr => (HPI.out.below hb.out) r (by rw [HN.out] at hr; exact mem_tn.1 hr), hTP⟩
      have HW2 : Hid (Below w.heap.size w w2) := HW1.out.trans (hb.out.mono HW1.out.size)
      have HOW : Hid (Calls Try.prog 9 #[sv (rb, i, rc)] w2 fun e w' => ∃ y : SV, e = .returned (sv y) ∧ Rd w' y (mkR es 16) ∧ Below w2.heap.size w2 w') := HR2.out.own (mkR_z es).1 (mkR_z es).2
      clear hTOK hTP hRt hb HR2 HRI HPI HPS HW1
      simp only [sv] at HOW
      go_wp2_with fail
      go_at_call 9
      refine HOW.out.mono ?_
      rintro e w3 ⟨⟨ob, ol, oc⟩, rfl, hRo, hb⟩
      have HT3 : Hid (Rd w3 (tb, i, tc) TP) := HT2.out.below hb
      have HW3 : Hid (Below w.heap.size w w3) := HW2.out.trans (hb.mono HW2.out.size)
      have HOF : Hid (Calls Try.prog 8 #[sv (ob, ol, oc)] w3 fun e w' => ∃ g, e = .returned (.tuple #[.pointer (some ⟨g, 0, none⟩), .int .i64 0]) ∧ MM w' w3.heap.size w'.heap.size g (mkR es 16) ∧ Below w3.heap.size w3 w') := hRo.of (mkR_ok es)
      clear hRo hb HOW HT2 HW2
      simp only [sv] at HOF ⊢
      go_wp2_with fail
      go_at_call 8
      refine HOF.out.mono ?_
      rintro e w4 ⟨g, rfl, hM, hb⟩
      have HT4 : Hid (Rd w4 (tb, i, tc) TP) := HT3.out.below hb
      have HW4 : Hid (Below w.heap.size w w4) := HW3.out.trans (hb.mono HW3.out.size)
      have HM4 : Hid (MM w4 w3.heap.size w4.heap.size g (mkR es 16)) := hM
      have HOW : Hid (Calls Try.prog 9 #[sv (tb, i, tc)] w4 fun e w' => ∃ y : SV, e = .returned (sv y) ∧ Rd w' y TP ∧ Below w4.heap.size w4 w') := HT4.out.own (by have := HTL.out; omega) (fun p hp => by have := (HTO.out.each p hp).1; omega)
      clear hM hb HOF HT3
      simp only [sv] at HOW
      go_wp2_with fail
      go_at_call 9
      refine HOW.out.mono ?_
      rintro e w5 ⟨⟨vb, vl, vc⟩, rfl, hRo, hb⟩
      have HW5 : Hid (Below w.heap.size w w5) := HW4.out.trans (hb.mono HW4.out.size)
      have HM5 : Hid (MM w5 w3.heap.size w4.heap.size g (mkR es 16)) := HM4.out.below hb
      have HOF : Hid (Calls Try.prog 8 #[sv (vb, vl, vc)] w5 fun e w' => ∃ g, e = .returned (.tuple #[.pointer (some ⟨g, 0, none⟩), .int .i64 0]) ∧ MM w' w5.heap.size w'.heap.size g TP ∧ Below w5.heap.size w5 w') := hRo.of HTO.out
      clear hRo hb HOW HT4 HM4
      simp only [sv] at HOF ⊢
      go_wp2_with fail
      go_at_call 8
      refine HOF.out.mono ?_
      rintro e w6 ⟨gu, rfl, hM, hb⟩
      have HW6 : Hid (Below w.heap.size w w6) := HW5.out.trans (hb.mono HW5.out.size)
      have HM6 : Hid (MM w6 w3.heap.size w4.heap.size g (mkR es 16)) := HM5.out.below hb
      have HU6 : Hid (MM w6 w5.heap.size w6.heap.size gu TP) := hM
      clear hM hb HOF HM5 HW5
      go_wp2_with fail
      go_at_call 10
      refine (first_any _).mono ?_
      rintro e w7 ⟨rfl, hb⟩
      have HW7 : Hid (Below w.heap.size w w7) := HW6.out.trans (hb.mono HW6.out.size)
      have HM7 : Hid (MM w7 w3.heap.size w4.heap.size g (mkR es 16)) := HM6.out.below hb
      have HU7 : Hid (MM w7 w5.heap.size w6.heap.size gu TP) := HU6.out.below hb
      clear hb HW6 HM6 HU6
      obtain ⟨T, hT⟩ : ∃ T, pgT (pgN fr) = T := ⟨_, rfl⟩
      have HPG : Hid (∀ W, Calls Try.prog 11 #[.int .i64 fr] W fun e w' => e = .returned (.agg (tgv T)) ∧ Below W.heap.size W w') := fun W => by rw [← hT]; exact page_any fr W
      have HTZ : Hid (tz T) := by rw [← hT]; exact pg_tz _
      clear hT
      obtain ⟨Ta, Tp⟩ := T
      unfold tgv at HPG
      simp only at HPG
      go_wp2_with fail
      go_at_call 11
      refine (HPG.out _).mono ?_
      rintro e w8 ⟨rfl, hb⟩
      obtain ⟨W9, hW9⟩ : ∃ W9, W9 = w8.alloc (.cells #[.string Ta, .string Tp] 26) := ⟨_, rfl⟩
      obtain ⟨q, hq⟩ : ∃ q, q = w8.heap.size := ⟨_, rfl⟩
      have hb9 : Below w7.heap.size w7 W9 := by rw [hW9]; exact hb.trans ((bel1 _ _).mono hb.size)
      have HW9 : Hid (Below w.heap.size w W9) := HW7.out.trans (hb9.mono HW7.out.size)
      have HM9 : Hid (MM W9 w3.heap.size w4.heap.size g (mkR es 16)) := HM7.out.below hb9
      have HU9 : Hid (MM W9 w5.heap.size w6.heap.size gu TP) := HU7.out.below hb9
      have HX9 : Hid (W9.heap[q]? = some (.cells (tgv (Ta, Tp)) 26 (0, 0))) := by show _ = _; rw [hW9, hq, heap_al, if_pos rfl]; rfl
      have s0 : W9.cell? ⟨q, 0, none⟩ = some (.string Ta) := cell_blk HX9.out 0
      have s1 : W9.cell? ⟨q, 1, none⟩ = some (.string Tp) := cell_blk HX9.out 1
      obtain ⟨PL, hPL⟩ : ∃ PL, plan NM (Ta, Tp) 8 = PL := ⟨_, rfl⟩
      have HP8 : Hid (PL.length ≤ 8) := by rw [← hPL]; exact plan_len NM (Ta, Tp) 8
      obtain ⟨K, hK⟩ : ∃ K : Nat, K = (min (max most 0) (PL.length : Int)).toNat := ⟨_, rfl⟩
      obtain ⟨PK, hPK⟩ : ∃ PK, PL.take K = PK := ⟨_, rfl⟩
      have hpk : plan NM (Ta, Tp) most = PK := by rw [plan_cut, hPL, take_plan PL most HP8.out, ← hK, hPK]
      have HKL : Hid (K ≤ PL.length ∧ PK.length = K) := by rw [← hPK, List.length_take]; constructor <;> omega
      have HPK : Hid (PL.take K = PK) := hPK
      have hmx : ∀ W, (Builtin.max_ #[3, 3] 3 #[.int .i64 most, .int .i64 0]).run Try.prog W = .ok (.int .i64 (max most 0)) W := fun W => by
        by_cases h : most ≤ 0
        · have h2 : ¬ (0 : Int) < most := by omega
          rw [Int.max_eq_right h]
          by_cases h3 : most = 0
          · subst h3; simp [Builtin.max_, Builtin.max2, go_sem]
          · have h4 : most < 0 := by omega
            simp [Builtin.max_, Builtin.max2, go_sem, h, h2, h4]
        · have h2 : (0 : Int) < most := by omega
          have h4 : ¬ most < 0 := by omega
          rw [Int.max_eq_left (by omega)]
          simp [Builtin.max_, Builtin.max2, go_sem, h, h2, h4]
      obtain ⟨M0, hM0⟩ : ∃ M0, max most 0 = M0 := ⟨_, rfl⟩
      rw [hM0] at hmx hK
      have hmn : ∀ W, (Builtin.min_ #[3, 3] 3 #[.int .i64 M0, .int .i64 (PL.length : Int)]).run Try.prog W = .ok (.int .i64 (K : Int)) W := fun W => by
        by_cases h : M0 ≤ (PL.length : Int)
        · have h2 : ¬ (PL.length : Int) < M0 := by omega
          have h3 : (K : Int) = M0 := by omega
          rw [h3]
          simp [Builtin.min_, Builtin.min2, go_sem, h, h2]
        · have h2 : (PL.length : Int) < M0 := by omega
          have h3 : K = PL.length := by omega
          rw [h3]
          simp [Builtin.min_, Builtin.min2, go_sem, h, h2]
      have HPN : Hid (Calls Try.prog 12 #[.pointer (some ⟨g, 0, none⟩), .agg (tgv (Ta, Tp)), .int .i64 8] W9 fun e w' => PlPost PL W9 e w') := by have := HM9.out.plan (Ta, Tp) HTZ.out 8; rw [HNM.out, hPL] at this; exact this
      have HPM : Hid (∀ W, MM W w3.heap.size w4.heap.size g (mkR es 16) → Calls Try.prog 12 #[.pointer (some ⟨g, 0, none⟩), .agg #[.string Ta, .string Tp], .int .i64 most] W fun e w' => PlPost PK W e w') := fun W h => by have := h.plan (Ta, Tp) HTZ.out most; rw [HNM.out, hpk] at this; exact this
      have HP88 : Hid (∀ W, MM W w3.heap.size w4.heap.size g (mkR es 16) → Calls Try.prog 12 #[.pointer (some ⟨g, 0, none⟩), .agg #[.string Ta, .string Tp], .int .i64 8] W fun e w' => PlPost PL W e w') := fun W h => by have := h.plan (Ta, Tp) HTZ.out 8; rw [HNM.out, hPL] at this; exact this
      have HPU : Hid (∀ W, MM W w5.heap.size w6.heap.size gu TP → Calls Try.prog 12 #[.pointer (some ⟨gu, 0, none⟩), .agg #[.string Ta, .string Tp], .int .i64 most] W fun e w' => PlPost PK W e w') := fun W h => by have := h.plan (Ta, Tp) HTZ.out most; rw [HTN.out, hpk] at this; exact this
      clear hb hb9 HM7 HU7 HW7 HPG hPL hPK hpk hM0 hK
      unfold tgv at HPN
      simp only at HPN
      go_upto_region 14 with fail
      rw [← hW9, ← hq]
      clear hW9 hq
      go_wp2_with fail
      go_at_call 12
      refine HPN.out.mono ?_
      rintro e wa ⟨⟨lb, ll, lc⟩, rfl, hRl, hb, hnl⟩
      have HWa : Hid (Below w.heap.size w wa) := HW9.out.trans (hb.mono HW9.out.size)
      have HMa : Hid (MM wa w3.heap.size w4.heap.size g (mkR es 16)) := HM9.out.below hb
      have HUa : Hid (MM wa w5.heap.size w6.heap.size gu TP) := HU9.out.below hb
      have HXa : Hid (wa.heap[q]? = some (.cells (tgv (Ta, Tp)) 26 (0, 0))) := (hb.block _ (heap_lt HX9.out)).trans HX9.out
      have HLa : Hid (R ET wa (sv (lb, ll, lc)) PL) := hRl
      have t0 : wa.cell? ⟨q, 0, none⟩ = some (.string Ta) := cell_blk HXa.out 0
      have t1 : wa.cell? ⟨q, 1, none⟩ = some (.string Tp) := cell_blk HXa.out 1
      obtain ⟨b0, c0, e0, k3, k4⟩ := hRl.slice
      simp only [sv] at e0 HLa ⊢
      injection e0 with e1 e2 e3
      subst e1 e2 e3
      clear hRl hb hnl HPN s0 s1 HM9 HU9 HX9 HW9
      go_wp2_with fail
      go_at_call 12
      refine (HPM.out _ HMa.out).mono ?_
      rintro e wb ⟨⟨ab, al, ac⟩, rfl, hRa, hb, hna⟩
      have HWb : Hid (Below w.heap.size w wb) := HWa.out.trans (hb.mono HWa.out.size)
      have HMb : Hid (MM wb w3.heap.size w4.heap.size g (mkR es 16)) := HMa.out.below hb
      have HUb : Hid (MM wb w5.heap.size w6.heap.size gu TP) := HUa.out.below hb
      have HXb : Hid (wb.heap[q]? = some (.cells (tgv (Ta, Tp)) 26 (0, 0))) := (hb.block _ (heap_lt HXa.out)).trans HXa.out
      have HLb : Hid (R ET wb (.slice lb PL.length lc) PL) := HLa.out.below hb
      have HAb : Hid (R ET wb (sv (ab, al, ac)) PK) := hRa
      have HNE1 : Hid (∀ k, (sv (ab, al, ac)).ownBlock = some k → w.heap.size ≤ k ∧ w4.heap.size ≤ k ∧ k ≠ q ∧ (Value.slice lb PL.length lc).ownBlock ≠ some k ∧ k < wb.heap.size) := fun k hk => by
        have h1 := hna k hk
        have h2 := HWa.out.size
        have h3 := heap_lt HXa.out
        obtain ⟨_, _, h4, _⟩ := HMa.out
        have h5 := h4.lh
        exact ⟨by omega, by omega, by omega, fun e => by have := HLa.out.lt k e; omega, hRa.lt k hk⟩
      have u0 : wb.cell? ⟨q, 0, none⟩ = some (.string Ta) := cell_blk HXb.out 0
      have u1 : wb.cell? ⟨q, 1, none⟩ = some (.string Tp) := cell_blk HXb.out 1
      obtain ⟨b0, c0, e0, k5, k6⟩ := hRa.slice
      simp only [sv] at e0 HAb HNE1 ⊢
      injection e0 with e1 e2 e3
      subst e1 e2 e3
      clear hRa hb hna t0 t1 HMa HUa HXa HLa HWa
      go_wp2_with fail
      go_at_call 12
      refine (HPM.out _ HMb.out).mono ?_
      rintro e wc ⟨⟨bb, bl, bc⟩, rfl, hRb, hb, hnb⟩
      have HUc : Hid (MM wc w5.heap.size w6.heap.size gu TP) := HUb.out.below hb
      have HAc : Hid (R ET wc (.slice ab PK.length ac) PK) := HAb.out.below hb
      have HCc : Hid (Cu w q g w3.heap.size w4.heap.size (Ta, Tp) (lb, PL.length, lc) (bb, bl, bc) (ab, PK.length, ac) (mkR es 16) PL PK wc) := ⟨HWb.out.trans (hb.mono HWb.out.size), (hb.block _ (heap_lt HXb.out)).trans HXb.out, HMb.out.below hb, HLb.out.below hb, hRb, fun k hk => by
        have h := HNE1.out k hk
        exact ⟨h.1, h.2.1, h.2.2.1, h.2.2.2.1, fun e => by have := hnb k e; omega⟩⟩
      have v0 : wc.cell? ⟨q, 0, none⟩ = some (.string Ta) := cell_blk HCc.out.box 0
      have v1 : wc.cell? ⟨q, 1, none⟩ = some (.string Tp) := cell_blk HCc.out.box 1
      obtain ⟨b0, c0, e0, k7, k8⟩ := hRb.slice
      simp only [sv] at e0 ⊢
      injection e0 with e1 e2 e3
      subst e1 e2 e3
      clear hRb hb hnb u0 u1 HMb HUb HXb HLb HWb HAb HNE1
      go_wp2_with fail
      go_at_call 12
      refine (HPU.out _ HUc.out).mono ?_
      rintro e wd ⟨⟨cb, cl, cc⟩, rfl, hRc, hb, hnc⟩
      have HAd : Hid (R ET wd (.slice ab PK.length ac) PK) := HAc.out.below hb
      have HCd : Hid (Cu w q g w3.heap.size w4.heap.size (Ta, Tp) (lb, PL.length, lc) (bb, PK.length, bc) (ab, PK.length, ac) (mkR es 16) PL PK wd) := HCc.out.below hb
      have HDd : Hid (R ET wd (sv (cb, cl, cc)) PK) := hRc
      obtain ⟨b0, c0, e0, k9, ka⟩ := hRc.slice
      simp only [sv] at e0 HDd ⊢
      injection e0 with e1 e2 e3
      subst e1 e2 e3
      clear hRc hb hnc v0 v1 HUc HAc HCc
      have HSM : Hid (∀ (V : World) (zb : Option Addr) (zc : Nat), In ET V (.slice zb PK.length zc) PK → In ET V (.slice lb PL.length lc) PL → Calls Try.prog 13 #[.slice zb PK.length zc, .slice lb K lc] V fun e w' => e = .returned (.bool true) ∧ Below V.heap.size V w') := fun V zb zc h1 h2 => by
        have := same_any (zb, PK.length, zc) (lb, K, lc) PK (PL.take K) V h1 (h2.take okT K HKL.out.1)
        rw [HPK.out, decide_eq_true rfl] at this
        exact this
      have lK : (K : Int) ≤ (lc : Int) := by have := HKL.out.1; omega
      go_wp2_with fail
      go_at_call 13
      refine (HSM.out _ ab ac HAd.out.isIn HCd.out.l.isIn).mono ?_
      rintro e we ⟨rfl, hb⟩
      have HCe : Hid (Cu w q g w3.heap.size w4.heap.size (Ta, Tp) (lb, PL.length, lc) (bb, PK.length, bc) (ab, PK.length, ac) (mkR es 16) PL PK we) := HCd.out.below hb
      have HAe : Hid (R ET we (.slice ab PK.length ac) PK) := HAd.out.below hb
      have HDe : Hid (R ET we (.slice cb PK.length cc) PK) := HDd.out.below hb
      clear hb HAd HDd HCd
      go_wp2_with fail
      go_at_call 13
      refine (HSM.out _ bb bc HCe.out.b.isIn HCe.out.l.isIn).mono ?_
      rintro e wf ⟨rfl, hb⟩
      have HCf : Hid (Cu w q g w3.heap.size w4.heap.size (Ta, Tp) (lb, PL.length, lc) (bb, PK.length, bc) (ab, PK.length, ac) (mkR es 16) PL PK wf) := HCe.out.below hb
      have HAf : Hid (R ET wf (.slice ab PK.length ac) PK) := HAe.out.below hb
      have HDf : Hid (R ET wf (.slice cb PK.length cc) PK) := HDe.out.below hb
      clear hb HAe HDe HCe
      go_wp2_with fail
      go_at_call 13
      refine (HSM.out _ cb cc HDf.out.isIn HCf.out.l.isIn).mono ?_
      rintro e wg ⟨rfl, hb⟩
      have HCg : Hid (Cu w q g w3.heap.size w4.heap.size (Ta, Tp) (lb, PL.length, lc) (bb, PK.length, bc) (ab, PK.length, ac) (mkR es 16) PL PK wg) := HCf.out.below hb
      have HAg : Hid (R ET wg (.slice ab PK.length ac) PK) := HAf.out.below hb
      clear hb HAf HDf HCf
      obtain ⟨J, hJ⟩ : ∃ J, J = PK.length := ⟨_, rfl⟩
      have HJ : Hid (J = PK.length) := hJ
      rw [← hJ] at HCg HAg HSM k5 k7 ⊢
      clear hJ k9
      have hJ8 : J ≤ 8 := by have := HJ.out; have := HKL.out; have := HP8.out; omega
      go_wp2_with fail
      go_loopw [24] (fun iv wr => ∃ i : Nat, iv = .int .i64 (i : Int) ∧ i ≤ J ∧ Hid (R ET wr (.slice ab J ac) (wL PK i)) ∧ Hid (Cu w q g w3.heap.size w4.heap.size (Ta, Tp) (lb, PL.length, lc) (bb, J, bc) (ab, J, ac) (mkR es 16) PL PK wr)) (fun iv _ => J - (intOf iv).toNat)
      case atStart => exact ⟨0, rfl, by omega, HAg.out, HCg.out⟩
      case round =>
        obtain ⟨j, rfl, hj, hA, hC⟩ := hrel
        by_cases hlj : j < J
        · have l2 : (j : Int) < (J : Int) := by omega
          have hjl : j < (wL PK j).length := by rw [wL_len (by have := HJ.out; omega)]; have := HJ.out; omega
          obtain ⟨g', cap', e5, x1, x2, g2, x3, g3, g4, x4⟩ := hA.out.setc okT j 0 hjl (by decide)
          injection e5 with e5 e6 e7
          clear x1 x2 x4 e6 e7
          subst e5
          have HOWN : Hid ((sv (some ⟨g', 0, none⟩, J, ac)).ownBlock = some g') := x3
          obtain ⟨X, hX⟩ : ∃ X, (wL PK j)[j]'hjl = X := ⟨_, rfl⟩
          rw [hX] at g3
          have f0 : wr.cell? ⟨g', j * 2, none⟩ = some (.string X.1) := g3 0 _ rfl
          have f1 : wr.cell? ⟨g', j * 2 + 1, none⟩ = some (.string X.2) := g3 1 _ rfl
          have f2 := g4 (j * 2)
          have f3 := g4 (j * 2 + 1)
          have HRn : Hid (R ET (setT wr g' j wT) (.slice (some ⟨g', 0, none⟩) J ac) (wL PK (j + 1))) := by have := hA.out.setT j hjl wT; rw [wL_step (by have := HJ.out; omega)] at this; exact this
          have HCn : Hid (Cu w q g w3.heap.size w4.heap.size (Ta, Tp) (lb, PL.length, lc) (bb, J, bc) (some ⟨g', 0, none⟩, J, ac) (mkR es 16) PL PK (setT wr g' j wT)) := hC.out.ks (setT_ks _ _ _ _ _ HOWN.out)
          unfold setT wT at HRn HCn
          simp only at HRn HCn
          clear g2 g3 g4 hX hjl
          go_wp2_with fail
          go_roundw
          case rel => exact ⟨j + 1, by simp, by omega, HRn.out, HCn.out⟩
          case measure => simp [intOf] <;> omega
        · obtain rfl : j = J := by omega
          have l2 : ¬ (j : Int) < (j : Int) := by omega
          have hA' := hA.out
          rw [show wL PK j = List.replicate j wT from by rw [HJ.out]; exact wL_end PK] at hA'
          obtain ⟨gb, gc, Wh, hrun, hRg, hRa, hG⟩ := app_both (wr.alloc (.cells (tgv xT) 26)) (.slice ab j ac) (List.replicate j wT) (hA'.below (bel1 _ _)) wr.heap.size xT (by rw [heap_al, if_pos rfl]) (by simp; omega)
          simp only [List.length_replicate] at hrun hRg hG
          have HRUN : Hid ((Builtin.append_ #[27, 27] 27 #[.slice ab j ac, .slice (some ⟨wr.heap.size, 0, none⟩) 1 1]).run Try.prog (wr.alloc (.cells #[.string ⟨#[120]⟩, .string ⟨#[]⟩] 26)) = .ok (.slice gb (j + 1) gc) Wh) := hrun
          have HCh : Hid (Cu w q g w3.heap.size w4.heap.size (Ta, Tp) (lb, PL.length, lc) (bb, j, bc) (ab, j, ac) (mkR es 16) PL PK Wh) := (hC.out.below (bel1 _ (.cells (tgv xT) 26))).ks (Ks.of_gr hG)
          have HAh : Hid (R ET Wh (.slice ab j ac) (List.replicate j wT)) := hRa
          have HGh : Hid (R ET Wh (.slice gb (j + 1) gc) (List.replicate j wT ++ [xT])) := hRg
          clear hA' hrun hRg hRa hG hA hC HCg HAg
          obtain ⟨b0, c0, e0, kb, kc⟩ := HGh.out.slice
          injection e0 with e1 e2 e3
          rw [← e3] at kb kc
          simp only [List.length_append, List.length_replicate, List.length_singleton] at kb
          clear e1 e2 e3
          go_wp2_with (at_builtin; refine Lib.wpList_append_run _ rfl _ _ _ _ rfl _ _ rfl rfl _ _ HRUN.out ?_)
          clear HRUN
          go_loopw [26] (fun iv wr => ∃ i : Nat, iv = .int .i64 (i : Int) ∧ i ≤ j ∧ wr = Wh) (fun iv _ => j - (intOf iv).toNat)
          case atStart => exact ⟨0, rfl, by omega, rfl⟩
          case round =>
            obtain ⟨i2, rfl, hi2, rfl⟩ := hrel
            by_cases hl2 : i2 < j
            · have l3 : (i2 : Int) < (j : Int) := by omega
              have l4 : (i2 : Int) < ((j + 1 : Nat) : Int) := by omega
              have l5 : i2 < j + 1 := by omega
              obtain ⟨B1, o1, q1, e, hB1, hc1⟩ := HAh.out.isIn.tg i2 (by simpa using hl2)
              injection e with e1 e2 e3
              clear e2 e3
              subst e1
              obtain ⟨B2, o2, q2, e, hB2, hc2⟩ := HGh.out.isIn.tg i2 (by simp; omega)
              injection e with e1 e2 e3
              clear e2 e3
              subst e1
              obtain ⟨f0, _⟩ := hc1 _ (Below.refl _ _)
              obtain ⟨f1, _⟩ := hc2 _ (Below.refl _ _)
              rw [List.getElem_replicate] at f0
              rw [List.getElem_append_left (by simpa using hl2), List.getElem_replicate] at f1
              unfold wT at f0 f1
              simp only at f0 f1
              clear hc1 hc2
              go_wp2_with fail
              go_roundw
              case rel => exact ⟨i2 + 1, by simp, by omega, by first | trivial | rfl⟩
              case measure => simp [intOf] <;> omega
            · have l3 : ¬ (i2 : Int) < (j : Int) := by omega
              have HCy : Hid (∀ V, Below wr.heap.size wr V → V.cell? ⟨q, 0, none⟩ = some (.string Ta) ∧ V.cell? ⟨q, 1, none⟩ = some (.string Tp)) := fun V hV => ⟨cell_blk (HCh.out.below hV).box 0, cell_blk (HCh.out.below hV).box 1⟩
              go_wp2_with fail
              have hbW : Below wr.heap.size wr wr.drew := (Below.refl _ _).drew
              refine wp_region_held_drew (S := (fun V => V.cell? ⟨q, 0, none⟩ = some (.string Ta) ∧ V.cell? ⟨q, 1, none⟩ = some (.string Tp))) (by kernel_rfl) (HCy.out _ hbW) (fun hHeld => ?_)
              generalize hWg : World.drew _ = W at hbW hHeld ⊢
              clear hWg
              refine wpAnyH_take (i := 0) (oi := { dst := some 157, op := Op.move (Operand.tmp 22), type := 27, pos := "outright.go:158", after := #[], guard := none }) (v := ?vv1) rfl (by kernel_rfl) (by kernel_rfl) (by kernel_rfl) (fun _ _ _ h => h) (Or.inl ⟨by rfl, ?hy1⟩) (by assumption) ?_
              case hy1 => (intro w hSw; (try dsimp only at hSw); go_simp; all_goals with_reducible rfl)
              try simp only [Act.put, List.setIfInBounds_toArray, List.set_cons_zero, List.set_cons_succ]
              refine wpAnyH_take (i := 1) (oi := { dst := some 158, op := Op.move (Operand.tmp 19), type := 27, pos := "outright.go:158", after := #[], guard := none }) (v := ?vv2) rfl (by kernel_rfl) (by kernel_rfl) (by kernel_rfl) (fun _ _ _ h => h) (Or.inl ⟨by rfl, ?hy2⟩) (by assumption) ?_
              case hy2 => (intro w hSw; (try dsimp only at hSw); go_simp; all_goals with_reducible rfl)
              try simp only [Act.put, List.setIfInBounds_toArray, List.set_cons_zero, List.set_cons_succ]
              refine wpAnyH_take (i := 2) (oi := { dst := some 159, op := Op.move (Operand.tmp 20), type := 3, pos := "outright.go:158", after := #[], guard := none }) (v := ?vv3) rfl (by kernel_rfl) (by kernel_rfl) (by kernel_rfl) (fun _ _ _ h => h) (Or.inl ⟨by rfl, ?hy3⟩) (by assumption) ?_
              case hy3 => (intro w hSw; (try dsimp only at hSw); go_simp; all_goals with_reducible rfl)
              try simp only [Act.put, List.setIfInBounds_toArray, List.set_cons_zero, List.set_cons_succ]
              refine wpAnyH_take (i := 3) (oi := { dst := some 160, op := Op.slice 27 (Operand.tmp 158) none (some (Operand.tmp 159)) none, type := 27, pos := "outright.go:158", after := #[{ on := 1, ground := Ground.data }, { on := 2, ground := Ground.data }], guard := none }) (v := ?vv4) rfl (by kernel_rfl) (by kernel_rfl) (by kernel_rfl) (fun _ _ _ h => h) (Or.inl ⟨by rfl, ?hy4⟩) (by assumption) ?_
              case hy4 => (intro w hSw; (try dsimp only at hSw); go_simp; all_goals with_reducible rfl)
              try simp only [Act.put, List.setIfInBounds_toArray, List.set_cons_zero, List.set_cons_succ]
              refine wpAnyH_ready (rs := [4]) (by kernel_rfl) (by simp) ?_
              refine AllReadyH.cons (o := { dst := some 161, op := Op.call { callee := Callee.value (Operand.func 13), args := #[Operand.tmp 157, Operand.tmp 160], argTypes := #[27, 27] }, type := 4, pos := "outright.go:158", after := #[{ on := 0, ground := Ground.data }, { on := 3, ground := Ground.data }], guard := none }) rfl (fun K hK => ?_) AllReadyH.nil
              go_simp
              refine (HSM.out _ bb bc (HCh.out.below hbW).b.isIn (HCh.out.below hbW).l.isIn).mono ?_
              rintro e' Wx ⟨rfl, bX⟩
              have hbWx : Below wr.heap.size wr Wx := hbW.trans (bX.mono hbW.size)
              clear bX
              go_wp2_with fail
              refine hK.out _ _ (HCy.out _ hbWx) (fun hHeld => ?_)
              clear hK K
              try simp only [Act.put, List.setIfInBounds_toArray, List.set_cons_zero, List.set_cons_succ]
              refine wpAnyH_take (i := 5) (oi := { dst := some 162, op := Op.move (Operand.tmp 161), type := 4, pos := "outright.go:158", after := #[{ on := 4, ground := Ground.data }, { on := 4, ground := Ground.chain }], guard := none }) (v := ?vv5) rfl (by kernel_rfl) (by kernel_rfl) (by kernel_rfl) (fun _ _ _ h => h) (Or.inl ⟨by rfl, ?hy5⟩) (by assumption) ?_
              case hy5 => (intro w hSw; (try dsimp only at hSw); go_simp; all_goals with_reducible rfl)
              try simp only [Act.put, List.setIfInBounds_toArray, List.set_cons_zero, List.set_cons_succ]
              refine wpAnyH_take (i := 6) (oi := { dst := some 163, op := Op.move (Operand.tmp 14), type := 30, pos := "outright.go:158", after := #[{ on := 5, ground := Ground.guard }], guard := some (5, true) }) (v := ?vv6) rfl (by kernel_rfl) (by kernel_rfl) (by kernel_rfl) (fun _ _ _ h => h) (Or.inl ⟨by rfl, ?hy6⟩) (by assumption) ?_
              case hy6 => (intro w hSw; (try dsimp only at hSw); go_simp; all_goals with_reducible rfl)
              try simp only [Act.put, List.setIfInBounds_toArray, List.set_cons_zero, List.set_cons_succ]
              refine wpAnyH_take (i := 7) (oi := { dst := some 164, op := Op.load 26 (Operand.tmp 18), type := 26, pos := "outright.go:158", after := #[{ on := 5, ground := Ground.guard }], guard := some (5, true) }) (v := ?vv7) rfl (by kernel_rfl) (by kernel_rfl) (by kernel_rfl) (fun _ _ _ h => h) (Or.inl ⟨by rfl, ?hy7⟩) (by assumption) ?_
              case hy7 => (intro w hSw; (try dsimp only at hSw); go_simp; all_goals with_reducible rfl)
              try simp only [Act.put, List.setIfInBounds_toArray, List.set_cons_zero, List.set_cons_succ]
              refine wpAnyH_take (i := 8) (oi := { dst := some 165, op := Op.move (Operand.tmp 2), type := 3, pos := "outright.go:158", after := #[{ on := 5, ground := Ground.guard }], guard := some (5, true) }) (v := ?vv8) rfl (by kernel_rfl) (by kernel_rfl) (by kernel_rfl) (fun _ _ _ h => h) (Or.inl ⟨by rfl, ?hy8⟩) (by assumption) ?_
              case hy8 => (intro w hSw; (try dsimp only at hSw); go_simp; all_goals with_reducible rfl)
              try simp only [Act.put, List.setIfInBounds_toArray, List.set_cons_zero, List.set_cons_succ]
              refine wpAnyH_take (i := 10) (oi := { dst := some 167, op := Op.move (Operand.tmp 19), type := 27, pos := "outright.go:158", after := #[{ on := 5, ground := Ground.guard }], guard := some (5, true) }) (v := ?vv9) rfl (by kernel_rfl) (by kernel_rfl) (by kernel_rfl) (fun _ _ _ h => h) (Or.inl ⟨by rfl, ?hy9⟩) (by assumption) ?_
              case hy9 => (intro w hSw; (try dsimp only at hSw); go_simp; all_goals with_reducible rfl)
              try simp only [Act.put, List.setIfInBounds_toArray, List.set_cons_zero, List.set_cons_succ]
              refine wpAnyH_take (i := 11) (oi := { dst := some 168, op := Op.move (Operand.tmp 20), type := 3, pos := "outright.go:158", after := #[{ on := 5, ground := Ground.guard }], guard := some (5, true) }) (v := ?vv10) rfl (by kernel_rfl) (by kernel_rfl) (by kernel_rfl) (fun _ _ _ h => h) (Or.inl ⟨by rfl, ?hy10⟩) (by assumption) ?_
              case hy10 => (intro w hSw; (try dsimp only at hSw); go_simp; all_goals with_reducible rfl)
              try simp only [Act.put, List.setIfInBounds_toArray, List.set_cons_zero, List.set_cons_succ]
              refine wpAnyH_take (i := 12) (oi := { dst := some 169, op := Op.slice 27 (Operand.tmp 167) none (some (Operand.tmp 168)) none, type := 27, pos := "outright.go:158", after := #[{ on := 10, ground := Ground.data }, { on := 11, ground := Ground.data }, { on := 5, ground := Ground.guard }], guard := some (5, true) }) (v := ?vv11) rfl (by kernel_rfl) (by kernel_rfl) (by kernel_rfl) (fun _ _ _ h => h) (Or.inl ⟨by rfl, ?hy11⟩) (by assumption) ?_
              case hy11 => (intro w hSw; (try dsimp only at hSw); go_simp; all_goals with_reducible rfl)
              try simp only [Act.put, List.setIfInBounds_toArray, List.set_cons_zero, List.set_cons_succ]
              refine wpAnyH_ready (rs := [9]) (by kernel_rfl) (by simp) ?_
              refine AllReadyH.cons (o := { dst := some 166, op := Op.call { callee := Callee.value (Operand.func 12), args := #[Operand.tmp 163, Operand.tmp 164, Operand.tmp 165], argTypes := #[30, 26, 3] }, type := 27, pos := "outright.go:158", after := #[{ on := 6, ground := Ground.data }, { on := 7, ground := Ground.data }, { on := 8, ground := Ground.data }, { on := 5, ground := Ground.chain }, { on := 5, ground := Ground.guard }], guard := some (5, true) }) rfl (fun K hK => ?_) AllReadyH.nil
              go_simp
              refine (HPM.out _ (HCh.out.below hbWx).man).mono ?_
              rintro e' Wxx ⟨⟨db, dl, dc⟩, rfl, hRx, bX, hnx⟩
              have hbWxx : Below wr.heap.size wr Wxx := hbWx.trans (bX.mono hbWx.size)
              obtain ⟨b0, c0, e0, kx, ky⟩ := hRx.slice
              simp only [sv] at e0 hRx ⊢
              injection e0 with e1 e2 e3
              subst e1 e2 e3
              rw [← HJ.out] at hRx ⊢
              have HDB : Hid (R ET Wxx (.slice db j dc) PK) := hRx
              clear kx
              clear bX hRx hnx
              go_wp2_with fail
              refine hK.out _ _ (HCy.out _ hbWxx) (fun hHeld => ?_)
              clear hK K
              try simp only [Act.put, List.setIfInBounds_toArray, List.set_cons_zero, List.set_cons_succ]
              refine wpAnyH_ready (rs := [13]) (by kernel_rfl) (by simp) ?_
              refine AllReadyH.cons (o := { dst := some 170, op := Op.call { callee := Callee.value (Operand.func 13), args := #[Operand.tmp 166, Operand.tmp 169], argTypes := #[27, 27] }, type := 4, pos := "outright.go:158", after := #[{ on := 9, ground := Ground.data }, { on := 12, ground := Ground.data }, { on := 9, ground := Ground.chain }, { on := 5, ground := Ground.guard }], guard := some (5, true) }) rfl (fun K hK => ?_) AllReadyH.nil
              go_simp
              refine (HSM.out _ db dc (HDB.out).isIn (HCh.out.below hbWxx).l.isIn).mono ?_
              rintro e' Wxxx ⟨rfl, bX⟩
              have hbWxxx : Below wr.heap.size wr Wxxx := hbWxx.trans (bX.mono hbWxx.size)
              clear bX
              go_wp2_with fail
              refine hK.out _ _ (HCy.out _ hbWxxx) (fun hHeld => ?_)
              clear hK K
              try simp only [Act.put, List.setIfInBounds_toArray, List.set_cons_zero, List.set_cons_succ]
              refine wpAnyH_take (i := 14) (oi := { dst := some 171, op := Op.pick (Operand.tmp 162) (Operand.tmp 170) (Operand.const (Value.bool false)), type := 4, pos := "outright.go:158", after := #[{ on := 5, ground := Ground.data }, { on := 13, ground := Ground.data }], guard := none }) (v := ?vv12) rfl (by kernel_rfl) (by kernel_rfl) (by kernel_rfl) (fun _ _ _ h => h) (Or.inl ⟨by rfl, ?hy12⟩) (by assumption) ?_
              case hy12 => (intro w hSw; (try dsimp only at hSw); go_simp; all_goals with_reducible rfl)
              try simp only [Act.put, List.setIfInBounds_toArray, List.set_cons_zero, List.set_cons_succ]
              refine wpAnyH_take (i := 15) (oi := { dst := some 172, op := Op.move (Operand.tmp 171), type := 4, pos := "outright.go:158", after := #[{ on := 14, ground := Ground.data }, { on := 13, ground := Ground.chain }], guard := none }) (v := ?vv13) rfl (by kernel_rfl) (by kernel_rfl) (by kernel_rfl) (fun _ _ _ h => h) (Or.inl ⟨by rfl, ?hy13⟩) (by assumption) ?_
              case hy13 => (intro w hSw; (try dsimp only at hSw); go_simp; all_goals with_reducible rfl)
              try simp only [Act.put, List.setIfInBounds_toArray, List.set_cons_zero, List.set_cons_succ]
              refine wpAnyH_take (i := 16) (oi := { dst := some 173, op := Op.move (Operand.tmp 14), type := 30, pos := "outright.go:158", after := #[{ on := 15, ground := Ground.guard }], guard := some (15, true) }) (v := ?vv14) rfl (by kernel_rfl) (by kernel_rfl) (by kernel_rfl) (fun _ _ _ h => h) (Or.inl ⟨by rfl, ?hy14⟩) (by assumption) ?_
              case hy14 => (intro w hSw; (try dsimp only at hSw); go_simp; all_goals with_reducible rfl)
              try simp only [Act.put, List.setIfInBounds_toArray, List.set_cons_zero, List.set_cons_succ]
              refine wpAnyH_take (i := 17) (oi := { dst := some 174, op := Op.load 26 (Operand.tmp 18), type := 26, pos := "outright.go:158", after := #[{ on := 15, ground := Ground.guard }], guard := some (15, true) }) (v := ?vv15) rfl (by kernel_rfl) (by kernel_rfl) (by kernel_rfl) (fun _ _ _ h => h) (Or.inl ⟨by rfl, ?hy15⟩) (by assumption) ?_
              case hy15 => (intro w hSw; (try dsimp only at hSw); go_simp; all_goals with_reducible rfl)
              try simp only [Act.put, List.setIfInBounds_toArray, List.set_cons_zero, List.set_cons_succ]
              refine wpAnyH_take (i := 19) (oi := { dst := some 176, op := Op.move (Operand.tmp 19), type := 27, pos := "outright.go:158", after := #[{ on := 15, ground := Ground.guard }], guard := some (15, true) }) (v := ?vv16) rfl (by kernel_rfl) (by kernel_rfl) (by kernel_rfl) (fun _ _ _ h => h) (Or.inl ⟨by rfl, ?hy16⟩) (by assumption) ?_
              case hy16 => (intro w hSw; (try dsimp only at hSw); go_simp; all_goals with_reducible rfl)
              try simp only [Act.put, List.setIfInBounds_toArray, List.set_cons_zero, List.set_cons_succ]
              refine wpAnyH_ready (rs := [18]) (by kernel_rfl) (by simp) ?_
              refine AllReadyH.cons (o := { dst := some 175, op := Op.call { callee := Callee.value (Operand.func 12), args := #[Operand.tmp 173, Operand.tmp 174, Operand.const (Value.int IntKind.i64 8)], argTypes := #[30, 26, 3] }, type := 27, pos := "outright.go:158", after := #[{ on := 16, ground := Ground.data }, { on := 17, ground := Ground.data }, { on := 15, ground := Ground.chain }, { on := 15, ground := Ground.guard }], guard := some (15, true) }) rfl (fun K hK => ?_) AllReadyH.nil
              go_simp
              refine (HP88.out _ (HCh.out.below hbWxxx).man).mono ?_
              rintro e' Wxxxx ⟨⟨eb, el, ec⟩, rfl, hRx, bX, hnx⟩
              have hbWxxxx : Below wr.heap.size wr Wxxxx := hbWxxx.trans (bX.mono hbWxxx.size)
              obtain ⟨b0, c0, e0, kx, ky⟩ := hRx.slice
              simp only [sv] at e0 hRx ⊢
              injection e0 with e1 e2 e3
              subst e1 e2 e3
              have HEB : Hid (R ET Wxxxx (.slice eb PL.length ec) PL) := hRx
              clear bX hRx hnx
              go_wp2_with fail
              refine hK.out _ _ (HCy.out _ hbWxxxx) (fun hHeld => ?_)
              clear hK K
              try simp only [Act.put, List.setIfInBounds_toArray, List.set_cons_zero, List.set_cons_succ]
              refine wpAnyH_ready (rs := [20]) (by kernel_rfl) (by simp) ?_
              refine AllReadyH.cons (o := { dst := some 177, op := Op.call { callee := Callee.value (Operand.func 13), args := #[Operand.tmp 175, Operand.tmp 176], argTypes := #[27, 27] }, type := 4, pos := "outright.go:158", after := #[{ on := 18, ground := Ground.data }, { on := 19, ground := Ground.data }, { on := 18, ground := Ground.chain }, { on := 15, ground := Ground.guard }], guard := some (15, true) }) rfl (fun K hK => ?_) AllReadyH.nil
              have HS9 : Hid (Calls Try.prog 13 #[.slice eb PL.length ec, .slice lb PL.length lc] Wxxxx fun e w' => e = .returned (.bool true) ∧ Below Wxxxx.heap.size Wxxxx w') := by
                have := same_any (eb, PL.length, ec) (lb, PL.length, lc) PL PL Wxxxx HEB.out.isIn (HCh.out.below hbWxxxx).l.isIn
                rw [decide_eq_true rfl] at this
                exact this
              go_simp
              refine (HS9.out).mono ?_
              rintro e' Wxxxxx ⟨rfl, bX⟩
              have hbWxxxxx : Below wr.heap.size wr Wxxxxx := hbWxxxx.trans (bX.mono hbWxxxx.size)
              clear bX
              go_wp2_with fail
              refine hK.out _ _ (HCy.out _ hbWxxxxx) (fun hHeld => ?_)
              clear hK K
              try simp only [Act.put, List.setIfInBounds_toArray, List.set_cons_zero, List.set_cons_succ]
              refine wpAnyH_take (i := 21) (oi := { dst := some 178, op := Op.pick (Operand.tmp 172) (Operand.tmp 177) (Operand.const (Value.bool false)), type := 4, pos := "outright.go:158", after := #[{ on := 15, ground := Ground.data }, { on := 20, ground := Ground.data }], guard := none }) (v := ?vv17) rfl (by kernel_rfl) (by kernel_rfl) (by kernel_rfl) (fun _ _ _ h => h) (Or.inl ⟨by rfl, ?hy17⟩) (by assumption) ?_
              case hy17 => (intro w hSw; (try dsimp only at hSw); go_simp; all_goals with_reducible rfl)
              try simp only [Act.put, List.setIfInBounds_toArray, List.set_cons_zero, List.set_cons_succ]
              refine wpAnyH_take (i := 22) (oi := { dst := some 8, op := Op.assign (Operand.tmp 178), type := 4, pos := "outright.go:158", after := #[{ on := 21, ground := Ground.data }, { on := 20, ground := Ground.chain }, { on := 0, ground := Ground.phase }, { on := 1, ground := Ground.phase }, { on := 2, ground := Ground.phase }, { on := 3, ground := Ground.phase }, { on := 4, ground := Ground.phase }, { on := 5, ground := Ground.phase }, { on := 6, ground := Ground.phase }, { on := 7, ground := Ground.phase }, { on := 8, ground := Ground.phase }, { on := 9, ground := Ground.phase }, { on := 10, ground := Ground.phase }, { on := 11, ground := Ground.phase }, { on := 12, ground := Ground.phase }, { on := 13, ground := Ground.phase }, { on := 14, ground := Ground.phase }, { on := 15, ground := Ground.phase }, { on := 16, ground := Ground.phase }, { on := 17, ground := Ground.phase }, { on := 18, ground := Ground.phase }, { on := 19, ground := Ground.phase }, { on := 20, ground := Ground.phase }, { on := 21, ground := Ground.phase }], guard := none }) (v := ?vv18) rfl (by kernel_rfl) (by kernel_rfl) (by kernel_rfl) (fun _ _ _ h => h) (Or.inl ⟨by rfl, ?hy18⟩) (by assumption) ?_
              case hy18 => (intro w hSw; (try dsimp only at hSw); go_simp; all_goals with_reducible rfl)
              try simp only [Act.put, List.setIfInBounds_toArray, List.set_cons_zero, List.set_cons_succ]
              refine wpAnyH_done (by kernel_rfl) ?_ _
              have HFI : Hid (Below w.heap.size w Wxxxxx) := (HCh.out.below hbWxxxxx).bel
              go_wp2_with fail
              go_ret
              exact ⟨rfl, HFI.out⟩
end Go.Proofs.Ytldnibkgdpeocaa
