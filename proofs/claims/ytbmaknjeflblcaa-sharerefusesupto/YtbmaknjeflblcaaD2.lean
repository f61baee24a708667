/- ShareRefuses. -/
import Derived.Test.YtbmaknjeflblcaaKc
import Derived.Test.YtbmaknjeflblcaaS2
import Derived.Test.YtbmaknjeflblcaaB1
namespace Go.Proofs.Ytbmaknjeflblcaa
open Go.RowKit Go.Maps
set_option linter.unusedVariables false
set_option linter.unusedSimpArgs false

theorem tx_eq (s : ByteArray) : tx s.data.toList = .string s := by
  unfold tx
  simp
set_option maxRecDepth 100000 in
set_option maxHeartbeats 1000000 in
theorem shareRefuses_any (id : Int) (s : ByteArray) (bad : Int) (w : World) (hb0 : wf64 bad) (hz : s.size < 1099511627776) :
    Calls Try.prog 4 #[.int .i64 id, .string s, .int .i64 bad] w fun e w' => e = .returned (.bool true) ∧ Below w.heap.size w w' := by
  obtain ⟨x, hx, hx0, hx1⟩ := id_of id
  obtain ⟨y, hy, hy0, hy1⟩ := id_of bad
  have hid : wf64 (1 + x) := by unfold wf64; omega
  have hI : isId (1 + x) = true := isId_iff.2 ⟨by omega, by omega⟩
  obtain ⟨t, ht⟩ : ∃ t, s ++ ⟨#[116]⟩ = t := ⟨_, rfl⟩
  have hts : 1 ≤ t.size ∧ t.size ≤ 1099511627776 := by
    have : t.size = s.size + 1 := by rw [← ht]; simp [ByteArray.size_append]; rfl
    omega
  obtain ⟨hts1, hts2⟩ := hts
  -- what follows, of the second number
  have main : ∀ (b2 : Int) (w2 : World) (p : Nat), wf64 b2 → isId b2 = false → Sn w2 (fun k => k < w.heap.size) p St.new → True := fun _ _ _ _ _ _ => trivial
  clear main
  by_cases hbad : 0 < bad
  · obtain ⟨b2, hb2⟩ : ∃ b2 : Int, 2147483647 + y + 1 = b2 := ⟨_, rfl⟩
    have hbw : wf64 b2 := by unfold wf64; omega
    have hbi : isId b2 = false := by
      cases e : isId b2
      · rfl
      · have := isId_iff.1 e; omega
    clear hb0
    go_enter Try.func4, Try.ntmps4
    go_wp2_with fail
    refine (first_any w).mono ?_
    rintro e w1 ⟨rfl, hB1⟩
    go_wp2_with fail
    refine (new_n w1 (fun k => k < w.heap.size) (fun k h => Nat.lt_of_lt_of_le h hB1.size)).mono ?_
    rintro e w2 ⟨p, rfl, h2, hB2⟩
    have hK : Kn (fun k => k < w.heap.size) w w2 := (Kn.of_below hB1 fun _ h => h).trans (Kn.of_below hB2 fun k h => Nat.lt_of_lt_of_le h hB1.size)
    clear hB1 hB2
    have HN : Hid (∀ k, k < w.heap.size → (fun k => k < w.heap.size) k) := fun k h => h
    generalize (fun k => k < w.heap.size) = N at h2 hK HN
    go_wp2_with fail
    refine (put_n h2 b2 t true hbw (by rw [new_b]; simp; omega)).mono ?_
    rintro e w3 ⟨rfl, h3, hK3⟩
    rw [putE_arg hbi]
    rw [put_same (by rw [putE_arg hbi]; decide)] at h3
    replace hK := hK.trans hK3
    clear h2 hK3
    go_wp2_with fail
    refine (put_n h3 (1 + x) t true hid (by rw [new_b]; simp; omega)).mono ?_
    rintro e w4 ⟨rfl, h4, hK4⟩
    have h0 : St.new.putE (1 + x) = 0 := putE_ok hI new_ov
    rw [h0]
    obtain ⟨T, hT⟩ : ∃ T, St.new.put (1 + x) t.data.toList true = T := ⟨_, rfl⟩
    have tb : T.b (1 + x) = t.data.toList := by rw [← hT, put_b St.new_ok h0, if_pos rfl, new_b]; rfl
    have te : T.e (1 + x) = true := by rw [← hT, put_e St.new_ok h0, if_pos rfl]
    have tov : T.ov (1 + x) = true := by rw [← hT, put_ov St.new_ok h0, if_pos rfl]
    rw [hT] at h4
    have tis : T.is (1 + x) = true := by rw [h4.ok.is_eq, te]; unfold no; simp
    have tib : T.is b2 = false := is_not_id h4.ok hbi
    have tl : (T.b (1 + x)).length = t.size := by rw [tb]; simp
    have tne : (T.b (1 + x)).isEmpty = false := by
      cases e : (T.b (1 + x)).isEmpty
      · rfl
      · rw [List.isEmpty_iff] at e; rw [e] at tl; simp at tl; omega
    replace hK := hK.trans hK4
    clear h3 hK4 hT
    go_wp2_with fail
    refine (put_n h4 (1 + x) ⟨#[109, 111, 114, 101]⟩ true hid (by rw [tl]; show _ + 4 ≤ _; omega)).mono ?_
    rintro e w5 ⟨rfl, h5, hK5⟩
    rw [putE_state hI tov]
    rw [put_same (by rw [putE_state hI tov]; decide)] at h5
    replace hK := hK.trans hK5
    clear h4 hK5
    go_wp2_with fail
    refine (put_n h5 (1 + x) ⟨#[]⟩ false hid (by rw [tl]; show _ + 0 ≤ _; omega)).mono ?_
    rintro e w6 ⟨rfl, h6, hK6⟩
    rw [putE_state hI tov]
    rw [put_same (by rw [putE_state hI tov]; decide)] at h6
    replace hK := hK.trans hK6
    clear h5 hK6
    go_wp2_with fail
    refine (next_n h6 (1 + x) 1 1 0 hid).mono ?_
    rintro e w7 ⟨rfl, h7, hK7⟩
    have hE : T.nextE (1 + x) 1 1 0 = 1 := nextE_arg (by decide)
    have hE0 : T.nextE (1 + x) 1 1 0 ≠ 0 := by rw [hE]; decide
    rw [nextP_no hE0, nextL_no hE0, hE]
    rw [next_same hE0] at h7
    replace hK := hK.trans hK7
    clear h6 hK7 hE hE0
    go_wp2_with fail
    refine (next_n h7 (1 + x) 0 1 1 hid).mono ?_
    rintro e w8 ⟨rfl, h8, hK8⟩
    have hE : T.nextE (1 + x) 0 1 1 = 6 := nextE_full (by decide) tis (by unfold mg; rw [tne]; rfl)
    have hE0 : T.nextE (1 + x) 0 1 1 ≠ 0 := by rw [hE]; decide
    rw [nextP_no hE0, nextL_no hE0, hE]
    rw [next_same hE0] at h8
    replace hK := hK.trans hK8
    clear h7 hK8 hE hE0
    go_wp2_with fail
    refine (next_n h8 (1 + x) 1 0 1 hid).mono ?_
    rintro e w9 ⟨rfl, h9, hK9⟩
    have hE : T.nextE (1 + x) 1 0 1 = 6 := nextE_full (by decide) tis (by unfold mg; rw [tne]; rfl)
    have hE0 : T.nextE (1 + x) 1 0 1 ≠ 0 := by rw [hE]; decide
    rw [nextP_no hE0, nextL_no hE0, hE]
    rw [next_same hE0] at h9
    replace hK := hK.trans hK9
    clear h8 hK9 hE hE0
    go_wp2_with fail
    refine (next_n h9 (1 + x) (-1) 1 1 hid).mono ?_
    rintro e w10 ⟨rfl, h10, hK10⟩
    have hE : T.nextE (1 + x) (-1) 1 1 = 6 := nextE_full (by decide) tis (by unfold mg; rw [tne]; rfl)
    have hE0 : T.nextE (1 + x) (-1) 1 1 ≠ 0 := by rw [hE]; decide
    rw [nextP_no hE0, nextL_no hE0, hE]
    rw [next_same hE0] at h10
    replace hK := hK.trans hK10
    clear h9 hK10 hE hE0
    go_wp2_with fail
    refine (next_n h10 b2 1 1 1 hbw).mono ?_
    rintro e w11 ⟨rfl, h11, hK11⟩
    have hE : T.nextE b2 1 1 1 = 5 := nextE_none (by decide) tib
    have hE0 : T.nextE b2 1 1 1 ≠ 0 := by rw [hE]; decide
    rw [nextP_no hE0, nextL_no hE0, hE]
    rw [next_same hE0] at h11
    replace hK := hK.trans hK11
    clear h10 hK11 hE hE0
    go_wp2_with fail
    refine (next_n h11 b2 1 1 0 hbw).mono ?_
    rintro e w12 ⟨rfl, h12, hK12⟩
    have hE : T.nextE b2 1 1 0 = 1 := nextE_arg (by decide)
    have hE0 : T.nextE b2 1 1 0 ≠ 0 := by rw [hE]; decide
    rw [nextP_no hE0, nextL_no hE0, hE]
    rw [next_same hE0] at h12
    replace hK := hK.trans hK12
    clear h11 hK12 hE hE0
    go_wp2_with fail
    refine (waits_n h12 (1 + x) hid).mono ?_
    rintro e w13 ⟨rfl, hB13⟩
    have h13 := h12.below hB13
    replace hK := hK.trans (Kn.of_below hB13 h12.lt)
    rw [tl, te]
    clear h12 hB13
    go_wp2_with fail
    refine (next_n h13 (1 + x) 1099511627776 1099511627776 (t.size : Int) hid).mono ?_
    rintro e w14 ⟨rfl, h14, hK14⟩
    have hE : T.nextE (1 + x) 1099511627776 1099511627776 (t.size : Int) = 0 := nextE_ok (by omega) tis (by unfold mg; rw [tne]; rfl)
    have hN : T.nextN (1 + x) 1099511627776 1099511627776 (t.size : Int) = t.size := by unfold St.nextN rm; rw [tl]; omega
    have hP : tx (T.nextP (1 + x) 1099511627776 1099511627776 (t.size : Int)) = .string t := by
      rw [St.nextP, if_pos hE, hN, List.take_of_length_le (by rw [tl]; omega), tb]
      exact tx_eq t
    have hL : T.nextL (1 + x) 1099511627776 1099511627776 (t.size : Int) = true := by
      unfold St.nextL
      rw [hE, hN, te, tl]
      simp
    rw [hE, hP, hL]
    replace hK := hK.trans hK14
    have tib' := is_not_id h14.ok hbi
    clear h13 hK14 hE hN hP hL tb te tov tis tib tl tne
    go_wp2_with fail
    refine (drop_n h14 b2 hbw).mono ?_
    rintro e w15 ⟨rfl, h15, hK15⟩
    rw [tib']
    replace hK := hK.trans hK15
    clear h14 hK15 tib'
    go_wp2_with fail
    go_ret
    exact ⟨rfl, hK.below (HN.out)⟩
  · obtain ⟨b2, hb2⟩ : ∃ b2 : Int, bad = b2 := ⟨_, rfl⟩
    have hbw : wf64 b2 := by rw [← hb2]; exact hb0
    have hbi : isId b2 = false := by
      cases e : isId b2
      · rfl
      · have := isId_iff.1 e; omega
    subst hb2
    clear hy hy0 hb0
    go_enter Try.func4, Try.ntmps4
    go_wp2_with fail
    refine (first_any w).mono ?_
    rintro e w1 ⟨rfl, hB1⟩
    go_wp2_with fail
    refine (new_n w1 (fun k => k < w.heap.size) (fun k h => Nat.lt_of_lt_of_le h hB1.size)).mono ?_
    rintro e w2 ⟨p, rfl, h2, hB2⟩
    have hK : Kn (fun k => k < w.heap.size) w w2 := (Kn.of_below hB1 fun _ h => h).trans (Kn.of_below hB2 fun k h => Nat.lt_of_lt_of_le h hB1.size)
    clear hB1 hB2
    have HN : Hid (∀ k, k < w.heap.size → (fun k => k < w.heap.size) k) := fun k h => h
    generalize (fun k => k < w.heap.size) = N at h2 hK HN
    go_wp2_with fail
    refine (put_n h2 bad t true hbw (by rw [new_b]; simp; omega)).mono ?_
    rintro e w3 ⟨rfl, h3, hK3⟩
    rw [putE_arg hbi]
    rw [put_same (by rw [putE_arg hbi]; decide)] at h3
    replace hK := hK.trans hK3
    clear h2 hK3
    go_wp2_with fail
    refine (put_n h3 (1 + x) t true hid (by rw [new_b]; simp; omega)).mono ?_
    rintro e w4 ⟨rfl, h4, hK4⟩
    have h0 : St.new.putE (1 + x) = 0 := putE_ok hI new_ov
    rw [h0]
    obtain ⟨T, hT⟩ : ∃ T, St.new.put (1 + x) t.data.toList true = T := ⟨_, rfl⟩
    have tb : T.b (1 + x) = t.data.toList := by rw [← hT, put_b St.new_ok h0, if_pos rfl, new_b]; rfl
    have te : T.e (1 + x) = true := by rw [← hT, put_e St.new_ok h0, if_pos rfl]
    have tov : T.ov (1 + x) = true := by rw [← hT, put_ov St.new_ok h0, if_pos rfl]
    rw [hT] at h4
    have tis : T.is (1 + x) = true := by rw [h4.ok.is_eq, te]; unfold no; simp
    have tib : T.is bad = false := is_not_id h4.ok hbi
    have tl : (T.b (1 + x)).length = t.size := by rw [tb]; simp
    have tne : (T.b (1 + x)).isEmpty = false := by
      cases e : (T.b (1 + x)).isEmpty
      · rfl
      · rw [List.isEmpty_iff] at e; rw [e] at tl; simp at tl; omega
    replace hK := hK.trans hK4
    clear h3 hK4 hT
    go_wp2_with fail
    refine (put_n h4 (1 + x) ⟨#[109, 111, 114, 101]⟩ true hid (by rw [tl]; show _ + 4 ≤ _; omega)).mono ?_
    rintro e w5 ⟨rfl, h5, hK5⟩
    rw [putE_state hI tov]
    rw [put_same (by rw [putE_state hI tov]; decide)] at h5
    replace hK := hK.trans hK5
    clear h4 hK5
    go_wp2_with fail
    refine (put_n h5 (1 + x) ⟨#[]⟩ false hid (by rw [tl]; show _ + 0 ≤ _; omega)).mono ?_
    rintro e w6 ⟨rfl, h6, hK6⟩
    rw [putE_state hI tov]
    rw [put_same (by rw [putE_state hI tov]; decide)] at h6
    replace hK := hK.trans hK6
    clear h5 hK6
    go_wp2_with fail
    refine (next_n h6 (1 + x) 1 1 0 hid).mono ?_
    rintro e w7 ⟨rfl, h7, hK7⟩
    have hE : T.nextE (1 + x) 1 1 0 = 1 := nextE_arg (by decide)
    have hE0 : T.nextE (1 + x) 1 1 0 ≠ 0 := by rw [hE]; decide
    rw [nextP_no hE0, nextL_no hE0, hE]
    rw [next_same hE0] at h7
    replace hK := hK.trans hK7
    clear h6 hK7 hE hE0
    go_wp2_with fail
    refine (next_n h7 (1 + x) 0 1 1 hid).mono ?_
    rintro e w8 ⟨rfl, h8, hK8⟩
    have hE : T.nextE (1 + x) 0 1 1 = 6 := nextE_full (by decide) tis (by unfold mg; rw [tne]; rfl)
    have hE0 : T.nextE (1 + x) 0 1 1 ≠ 0 := by rw [hE]; decide
    rw [nextP_no hE0, nextL_no hE0, hE]
    rw [next_same hE0] at h8
    replace hK := hK.trans hK8
    clear h7 hK8 hE hE0
    go_wp2_with fail
    refine (next_n h8 (1 + x) 1 0 1 hid).mono ?_
    rintro e w9 ⟨rfl, h9, hK9⟩
    have hE : T.nextE (1 + x) 1 0 1 = 6 := nextE_full (by decide) tis (by unfold mg; rw [tne]; rfl)
    have hE0 : T.nextE (1 + x) 1 0 1 ≠ 0 := by rw [hE]; decide
    rw [nextP_no hE0, nextL_no hE0, hE]
    rw [next_same hE0] at h9
    replace hK := hK.trans hK9
    clear h8 hK9 hE hE0
    go_wp2_with fail
    refine (next_n h9 (1 + x) (-1) 1 1 hid).mono ?_
    rintro e w10 ⟨rfl, h10, hK10⟩
    have hE : T.nextE (1 + x) (-1) 1 1 = 6 := nextE_full (by decide) tis (by unfold mg; rw [tne]; rfl)
    have hE0 : T.nextE (1 + x) (-1) 1 1 ≠ 0 := by rw [hE]; decide
    rw [nextP_no hE0, nextL_no hE0, hE]
    rw [next_same hE0] at h10
    replace hK := hK.trans hK10
    clear h9 hK10 hE hE0
    go_wp2_with fail
    refine (next_n h10 bad 1 1 1 hbw).mono ?_
    rintro e w11 ⟨rfl, h11, hK11⟩
    have hE : T.nextE bad 1 1 1 = 5 := nextE_none (by decide) tib
    have hE0 : T.nextE bad 1 1 1 ≠ 0 := by rw [hE]; decide
    rw [nextP_no hE0, nextL_no hE0, hE]
    rw [next_same hE0] at h11
    replace hK := hK.trans hK11
    clear h10 hK11 hE hE0
    go_wp2_with fail
    refine (next_n h11 bad 1 1 0 hbw).mono ?_
    rintro e w12 ⟨rfl, h12, hK12⟩
    have hE : T.nextE bad 1 1 0 = 1 := nextE_arg (by decide)
    have hE0 : T.nextE bad 1 1 0 ≠ 0 := by rw [hE]; decide
    rw [nextP_no hE0, nextL_no hE0, hE]
    rw [next_same hE0] at h12
    replace hK := hK.trans hK12
    clear h11 hK12 hE hE0
    go_wp2_with fail
    refine (waits_n h12 (1 + x) hid).mono ?_
    rintro e w13 ⟨rfl, hB13⟩
    have h13 := h12.below hB13
    replace hK := hK.trans (Kn.of_below hB13 h12.lt)
    rw [tl, te]
    clear h12 hB13
    go_wp2_with fail
    refine (next_n h13 (1 + x) 1099511627776 1099511627776 (t.size : Int) hid).mono ?_
    rintro e w14 ⟨rfl, h14, hK14⟩
    have hE : T.nextE (1 + x) 1099511627776 1099511627776 (t.size : Int) = 0 := nextE_ok (by omega) tis (by unfold mg; rw [tne]; rfl)
    have hN : T.nextN (1 + x) 1099511627776 1099511627776 (t.size : Int) = t.size := by unfold St.nextN rm; rw [tl]; omega
    have hP : tx (T.nextP (1 + x) 1099511627776 1099511627776 (t.size : Int)) = .string t := by
      rw [St.nextP, if_pos hE, hN, List.take_of_length_le (by rw [tl]; omega), tb]
      exact tx_eq t
    have hL : T.nextL (1 + x) 1099511627776 1099511627776 (t.size : Int) = true := by
      unfold St.nextL
      rw [hE, hN, te, tl]
      simp
    rw [hE, hP, hL]
    replace hK := hK.trans hK14
    have tib' := is_not_id h14.ok hbi
    clear h13 hK14 hE hN hP hL tb te tov tis tib tl tne
    go_wp2_with fail
    refine (drop_n h14 bad hbw).mono ?_
    rintro e w15 ⟨rfl, h15, hK15⟩
    rw [tib']
    replace hK := hK.trans hK15
    clear h14 hK15 tib'
    go_wp2_with fail
    go_ret
    exact ⟨rfl, hK.below (HN.out)⟩
end Go.Proofs.Ytbmaknjeflblcaa
