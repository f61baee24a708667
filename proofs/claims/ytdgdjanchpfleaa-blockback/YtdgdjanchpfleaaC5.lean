/- BlockBack, walked. -/
import Derived.Test.YtdgdjanchpfleaaC4
import Derived.Deep.CutRange
namespace Go.Proofs.Ytdgdjanchpfleaa
open Go.RowKit
set_option linter.unusedVariables false
set_option linter.unusedSimpArgs false

/-- what Split hands BlockBack -/
theorem back_split (h : Fr) (H : Hd h) (ps : List (Int × Int)) (t : ByteArray) (n : Nat) (hn : 16384 ≤ n) (hn2 : n ≤ 65536) (hl : t.size ≤ 131072) (hlen : ps.length * 16 ≤ 140737488355328) :
    ∃ a k, a ≤ t.size ∧ Needs a n t.size k ∧ (∀ i, i ≤ k → ∃ P, Fi h t a n k i (spF h t a n k i) P) ∧ ∀ (x : SV) w, In EP w (sv x) ps →
      Calls Try.prog 15 #[.agg (fv h (sv x)), .string t, .int .i64 (n : Int)] w fun e w' => ∃ (g : Nat) (c : Nat) (y : SV), e = .returned (.tuple #[.slice (some ⟨g, 0, none⟩) (k + 1) c, .int .i64 0]) ∧ R EF w' (.slice (some ⟨g, 0, none⟩) (k + 1) c) (splL h y t a n k) ∧ R EP w' (sv y) ps ∧ Below w.heap.size w w' := by
  obtain ⟨T, hT, hT2⟩ := H.tk
  have hex : ∃ k, Needs (min (n - T) t.size) n t.size k := by
    have main : ∀ m, ∃ k, (k = 0 ∨ min (n - T) t.size + (k - 1) * n < t.size) ∧ (t.size ≤ min (n - T) t.size + k * n ∨ m ≤ k) := by
      intro m
      induction m with
      | zero => exact ⟨0, .inl rfl, .inr (Nat.le_refl _)⟩
      | succ m ih =>
        obtain ⟨k, h1, h2⟩ := ih
        by_cases h3 : t.size ≤ min (n - T) t.size + k * n
        · exact ⟨k, h1, .inl h3⟩
        · refine ⟨k + 1, .inr (by simp only [Nat.add_sub_cancel]; omega), .inr ?_⟩
          rcases h2 with h2 | h2
          · exact absurd h2 h3
          · omega
    obtain ⟨k, h1, h2⟩ := main t.size
    refine ⟨k, h1, ?_⟩
    rcases h2 with h2 | h2
    · exact h2
    · have : k ≤ k * n := Nat.le_mul_of_pos_right _ (by omega)
      omega
  obtain ⟨k, hk⟩ := hex
  refine ⟨min (n - T) t.size, k, Nat.min_le_right _ _, hk, fun i hi => fi_of H hT hT2 rfl hn hn2 hl hk i hi, fun x w hI => ?_⟩
  refine (split_ok h x ps t n w hI hlen H.ms hn hn2 hl T _ hT hT2 rfl).mono ?_
  rintro e w' ⟨v, y, k', rfl, hk', hS⟩
  obtain rfl : k' = k := by
    obtain ⟨a1, a2⟩ := hk
    obtain ⟨b1, b2⟩ := hk'
    apply Classical.byContradiction
    intro hne
    rcases Nat.lt_or_gt_of_ne hne with hlt | hlt
    · have := Nat.mul_le_mul_right n (show k' ≤ k - 1 by omega)
      rcases a1 with e | e
      · omega
      · omega
    · have := Nat.mul_le_mul_right n (show k ≤ k' - 1 by omega)
      rcases b1 with e | e
      · omega
      · omega
  obtain ⟨g, c, e1, _⟩ := hS.rf.setc okF 0 0 (by rw [splL_length]; omega) (by decide)
  rw [splL_length] at e1
  subst e1
  exact ⟨g, c, y, rfl, hS.rf, hS.rp, hS.bel⟩

set_option maxHeartbeats 80000000 in
set_option maxRecDepth 100000 in
theorem blockBack_any (f : Fr) (x : SV) (ps : List (Int × Int)) (t : ByteArray) (size : Int) (w : World) (hI : In EP w (sv x) ps) (hlen : ps.length * 16 ≤ 140737488355328) :
    Calls Try.prog 5 #[.agg (fv f (sv x)), .string t, .int .i64 size] w fun e w' => e = .returned (.bool true) ∧ Below w.heap.size w w' := by
  have H := made_hd f
  have hC1 : Hid (∀ W, Below w.heap.size w W → Calls Try.prog 8 #[.agg (fv f (sv x))] W fun e w' => ∃ yb yl yc, e = .returned (.agg (fv (madeF f) (.slice yb yl yc))) ∧ Hid (R EP w' (.slice yb yl yc) ps ∧ Below W.heap.size W w')) := fun W hb => by
    refine (made_any f x ps W (hI.below hb) hlen).mono ?_
    rintro e w' ⟨⟨yb, yl, yc⟩, rfl, q1, q2, q3⟩
    exact ⟨yb, yl, yc, rfl, q1, q3⟩
  obtain ⟨h, hh⟩ : ∃ h, madeF f = h := ⟨_, rfl⟩
  rw [hh] at H hC1
  clear hh
  have hC2 : Hid (∀ (y : SV) W, In EP W (sv y) ps → Calls Try.prog 11 #[.agg (fv h (sv y))] W fun e w' => ∃ yb yl yc, e = .returned (.agg (fv h (.slice yb yl yc))) ∧ Hid (R EP w' (.slice yb yl yc) ps ∧ Below W.heap.size W w')) := fun y W hy => by
    refine (own_any h y ps W hy hlen).mono ?_
    rintro e w' ⟨⟨yb, yl, yc⟩, rfl, q1, q2, q3⟩
    exact ⟨yb, yl, yc, rfl, q1, q3⟩
  have hand := and15 size
  obtain ⟨n, hn⟩ : ∃ n : Nat, (16384 : Int) + size % 32768 = (n : Int) := ⟨((16384 : Int) + size % 32768).toNat, by omega⟩
  have hn1 : 16384 ≤ n := by omega
  have hn2 : n ≤ 65536 := by omega
  have HN : Hid (0 ≤ size % 32768 ∧ size % 32768 < 32768) := ⟨by omega, by omega⟩
  have r1 : (0 : Int) ≤ size % 32768 := by omega
  have r2 : size % 32768 < 32768 := by omega
  have HH : Hid (Hd h) := H
  obtain ⟨xb, xl, xc⟩ := x
  have B0 : Hid (Below w.heap.size w (w.alloc (.cells (fv f (.slice xb xl xc)) 24))) := bel1 w _
  simp only [sv] at hC1 hC2 ⊢
  unfold fv at hC1 hC2 B0 ⊢
  clear H
  by_cases hbig : 131072 < t.size
  · have hbig' : (131072 : Int) < (t.size : Int) := by omega
    have hS : Hid (∀ (y : SV) W, Calls Try.prog 15 #[.agg (fv h (sv y)), .string t, .int .i64 (n : Int)] W fun e w' => e = .returned (.tuple #[.slice none 0 0, .int .i64 3]) ∧ Below W.heap.size W w') := fun y W => split_long h y t (n : Int) W ⟨HH.out.ms, by omega, by omega⟩ hbig
    simp only [sv] at hS
    unfold fv at hS
    clear hbig
    go_enter Try.func5, Try.ntmps5
    go_wp2_with fail
    go_at_call 8
    refine (hC1.out _ B0.out).mono ?_
    rintro e w1 ⟨yb, yl, yc, rfl, h1⟩
    have B1 : Hid (Below w.heap.size w w1) := B0.out.trans (h1.out.2.mono B0.out.size)
    go_wp2_with fail
    go_at_call 11
    refine (hC2.out (yb, yl, yc) _ (R.isIn (R.below h1.out.1 (bel1 w1 _)))).mono ?_
    rintro e w2 ⟨zb, zl, zc, rfl, h2⟩
    have B2 : Hid (Below w.heap.size w w2) := B1.out.trans (((bel1 w1 _).trans (h2.out.2.mono (by simp))).mono B1.out.size)
    go_wp2_with fail
    go_at_call 15
    refine (hS.out (zb, zl, zc) w2).mono ?_
    rintro e w3 ⟨rfl, hb⟩
    have B3 : Hid (Below w.heap.size w w3) := B2.out.trans (hb.mono B2.out.size)
    clear hb
    go_wp2_with fail
    go_at_call 10
    refine (first_any w3).mono ?_
    rintro e w4 ⟨rfl, hb⟩
    have B4 : Hid (Below w.heap.size w w4) := B3.out.trans (hb.mono B3.out.size)
    clear hb
    go_wp2_with fail
    go_ret
    exact ⟨rfl, B4.out⟩
  · have hbig' : ¬ ((131072 : Int) < (t.size : Int)) := by omega
    have hsz : t.size ≤ 131072 := by omega
    obtain ⟨a, k, ha, hk, hFi, hS⟩ := back_split h HH.out ps t n hn1 hn2 hsz hlen
    replace hS : Hid (∀ (x : SV) w, In EP w (sv x) ps → _) := hS
    replace hFi : Hid (∀ i, i ≤ k → _) := hFi
    have HK : Hid (Needs a n t.size k ∧ a ≤ t.size ∧ t.size ≤ 131072) := ⟨hk, ha, hsz⟩
    simp only [sv] at hS
    unfold fv at hS
    have hkb : k ≤ 131072 := by
      rcases hk.1 with e | e
      · omega
      · have := Nat.le_mul_of_pos_right (k - 1) (show 0 < n by omega)
        omega
    clear hbig hk ha
    go_enter Try.func5, Try.ntmps5
    go_wp2_with fail
    go_at_call 8
    refine (hC1.out _ B0.out).mono ?_
    rintro e w1 ⟨yb, yl, yc, rfl, h1⟩
    have B1 : Hid (Below w.heap.size w w1) := B0.out.trans (h1.out.2.mono B0.out.size)
    go_wp2_with fail
    go_at_call 11
    refine (hC2.out (yb, yl, yc) _ (R.isIn (R.below h1.out.1 (bel1 w1 _)))).mono ?_
    rintro e w2 ⟨zb, zl, zc, rfl, h2⟩
    have b2 : Below w1.heap.size w1 w2 := (bel1 w1 _).trans (h2.out.2.mono (by simp))
    have B2 : Hid (Below w.heap.size w w2) := B1.out.trans (b2.mono B1.out.size)
    have F2 : Hid (FB w2 w1.heap.size h (.slice yb yl yc)) := (h2.out.2.block _ (by simp)).trans (by rw [heap_al, if_pos rfl]; rfl)
    have Q2 : Hid (R EP w2 (.slice yb yl yc) ps) := R.below h1.out.1 b2
    clear b2
    go_wp2_with fail
    go_at_call 15
    refine (hS.out (zb, zl, zc) w2 (R.isIn h2.out.1)).mono ?_
    rintro e w3 ⟨g, c, ⟨qb, ql, qc⟩, rfl, rf3, rp3, hb⟩
    have B3 : Hid (Below w.heap.size w w3) := B2.out.trans (hb.mono B2.out.size)
    have F3 : Hid (FB w3 w1.heap.size h (.slice yb yl yc)) := FB.below F2.out hb
    have Q3 : Hid (R EP w3 (.slice yb yl yc) ps) := R.below Q2.out hb
    replace rf3 : Hid (R EF w3 (.slice (some ⟨g, 0, none⟩) (k + 1) c) (splL h (qb, ql, qc) t a n k)) := rf3
    replace rp3 : Hid (R EP w3 (sv (qb, ql, qc)) ps) := rp3
    have hc1 : k + 1 ≤ c ∧ c ≤ 9223372036854775807 := by
      obtain ⟨_, c', e, q1, q2⟩ := R.slice rf3.out
      injection e with _ _ e
      subst e
      rw [splL_length] at q1
      exact ⟨q1, q2⟩
    obtain ⟨hc1, hc2⟩ := hc1
    clear hb F2 Q2 B2
    go_wp2_with fail
    go_at_call 9
    refine (new_any w3).mono ?_
    rintro e w4 ⟨rfl, J4, hb⟩
    have L4 : w3.heap.size < w4.heap.size := J4.lt
    have K4 : Hid (Bk w w4 w1.heap.size w3.heap.size h (yb, yl, yc) ps (.slice (some ⟨g, 0, none⟩) (k + 1) c) (splL h (qb, ql, qc) t a n k) (qb, ql, qc) (.slice none 0 0) .idle) :=
      ⟨B3.out.trans (hb.mono B3.out.size), FB.below F3.out hb, R.below Q3.out hb, R.below rf3.out hb, R.below rp3.out hb, J4, B3.out.size, fun k hk => by simp [Value.ownBlock] at hk⟩
    clear hb J4
    go_wp2_with fail
    go_at_call 10
    refine (first_any w4).mono ?_
    rintro e w5 ⟨rfl, hb⟩
    have K5 : Hid _ := K4.out.below hb
    have HW1 : Hid (w.heap.size ≤ w1.heap.size) := B1.out.size
    clear hb K4 F3 Q3 rf3 rp3 h2 h1 B3 B1 B0 hC1 hC2 hS
    go_upto_region 9 with fail
    go_cut [12] from 18 (fun iv wx => iv = .int .i64 0 ∧ wx = w5)
    case first =>
      go_wp2_with fail
      go_meet
      case rel => exact ⟨rfl, rfl⟩
    obtain ⟨rfl, rfl⟩ := hcut
    go_wp2_with fail
    go_loopw [12] (fun iv wr => ∃ i : Nat, iv = .int .i64 (i : Int) ∧ i ≤ k + 1 ∧ Hid (Below w.heap.size w wr) ∧ Hid (i ≤ k → ∃ s st, Bk w wr w1.heap.size w3.heap.size h (yb, yl, yc) ps (.slice (some ⟨g, 0, none⟩) (k + 1) c) (splL h (qb, ql, qc) t a n k) (qb, ql, qc) s st ∧ At h ps t a n i s st)) (fun iv _ => k + 1 - (intOf iv).toNat)
    case atStart => exact ⟨0, rfl, by omega, K5.out.bel, fun _ => ⟨_, _, K5.out, .inl ⟨rfl, rfl, rfl⟩⟩⟩
    case round =>
      obtain ⟨i, rfl, hik, hbel, hinv⟩ := hrel
      clear K5
      by_cases hlt : i < k + 1
      · obtain ⟨s, st, hB, hat⟩ := hinv.out (by omega)
        obtain ⟨P, hF⟩ := hFi.out i (by omega)
        have hX := splL_get h (qb, ql, qc) t a n k i (by omega)
        have hP : Hid (∀ W, Below wr.heap.size wr W → Calls Try.prog 12 #[.pointer (some ⟨w3.heap.size, 0, none⟩), .agg (fv (spF h t a n k i) (sv (if i = 0 then (qb, ql, qc) else (none, 0, 0))))] W fun e w' => if i = k then PPost W s w3.heap.size .idle true (Hh h) ps t e w' else PPost W s w3.heap.size (.busy (Hh h) ps (t.data.toList.take (a + i * n))) false Fr.zero [] ⟨#[]⟩ e w') := fun W hb =>
          push_i HH.out hlen HK.out.2.2 HK.out.2.1 HK.out.1 i (by omega) hF W w3.heap.size s st (hB.j.below hb) hat (qb, ql, qc) (R.isIn (hB.rp.below hb))
        obtain ⟨X, hXX⟩ : ∃ X, spF h t a n k i = X := ⟨_, rfl⟩
        obtain ⟨⟨ub, ul, uc⟩, hu⟩ : ∃ u : SV, (if i = 0 then (qb, ql, qc) else (none, 0, 0) : SV) = u := ⟨_, rfl⟩
        rw [hXX] at hF hX hP
        rw [hu] at hX hP
        obtain ⟨g', c', e1, q1, q2, q3, q4, d, q5, q6⟩ := hB.rf.setc okF i 0 (by rw [splL_length]; omega) (by decide)
        clear q1 q2 q3 q4 q5 q6
        injection e1 with e1 e2 e3
        injection e1 with e1
        injection e1 with e1
        subst e1
        clear e2 e3
        have hget : (splL h (qb, ql, qc) t a n k)[i]'(by rw [splL_length]; omega) = (X, (ub, ul, uc)) := by
          rw [List.getElem?_eq_getElem (by rw [splL_length]; omega)] at hX
          exact Option.some.inj hX
        rw [hget] at d
        have d0 : wr.cell? ⟨g, i * 11, none⟩ = some (.int .i64 X.ty) := d 0 _ rfl
        have d1 : wr.cell? ⟨g, i * 11 + 1, none⟩ = some (.int .i64 X.fl) := d 1 _ rfl
        have d2 : wr.cell? ⟨g, i * 11 + 2, none⟩ = some (.int .i64 X.st) := d 2 _ rfl
        have d3 : wr.cell? ⟨g, i * 11 + 3, none⟩ = some (.string X.data) := d 3 _ rfl
        have d4 : wr.cell? ⟨g, i * 11 + 4, none⟩ = some (.int .i64 X.pad) := d 4 _ rfl
        have d5 : wr.cell? ⟨g, i * 11 + 5, none⟩ = some (.int .i64 X.dep) := d 5 _ rfl
        have d6 : wr.cell? ⟨g, i * 11 + 6, none⟩ = some (.bool X.excl) := d 6 _ rfl
        have d7 : wr.cell? ⟨g, i * 11 + 7, none⟩ = some (.int .i64 X.wt) := d 7 _ rfl
        have d8 : wr.cell? ⟨g, i * 11 + 8, none⟩ = some (.int .i64 X.code) := d 8 _ rfl
        have d9 : wr.cell? ⟨g, i * 11 + 9, none⟩ = some (.int .i64 X.last) := d 9 _ rfl
        have d10 : wr.cell? ⟨g, i * 11 + 10, none⟩ = some (.slice ub ul uc) := d 10 _ rfl
        have hB' : Hid (Bk w wr w1.heap.size w3.heap.size h (yb, yl, yc) ps (.slice (some ⟨g, 0, none⟩) (k + 1) c) (splL h (qb, ql, qc) t a n k) (qb, ql, qc) s st) := hB
        have HF : Hid (Fi h t a n k i X P) := hF
        have hpay : Hid (∀ W, Calls Try.prog 16 #[.agg (fv X (.slice ub ul uc))] W fun e w' => e = .returned (.int .i64 P) ∧ Below W.heap.size W w') := fun W => by
          have := payload_any X (.slice ub ul uc) W (by have := hF.sz; omega) hF.pad
          rw [hF.pay] at this
          exact this
        obtain ⟨m0, m1, m2, m3, m4, m5, m6, m7, m8, m9, m10⟩ := hB.fh.cells
        have lw : w1.heap.size < wr.heap.size := hB.fh.lt
        simp only [sv] at hP
        unfold fv at hP hpay
        clear d hget hX hB hF hXX hu hat hinv
        have hpay2 : Hid (∀ W, Below wr.heap.size wr W → FB W wr.heap.size X (.slice ub ul uc) → Calls Try.prog 16 #[.agg #[.int .i64 X.ty, .int .i64 X.fl, .int .i64 X.st, .string X.data, .int .i64 X.pad, .int .i64 X.dep, .bool X.excl, .int .i64 X.wt, .int .i64 X.code, .int .i64 X.last, .slice ub ul uc]] W fun e w' => e = .returned (.int .i64 P) ∧ Hid (Below wr.heap.size wr w' ∧ FB w' wr.heap.size X (.slice ub ul uc)) ∧ w'.cell? ⟨w1.heap.size, 2, none⟩ = some (.int .i64 h.st)) := fun W hb hf => by
          refine (hpay.out W).mono ?_
          rintro e w' ⟨rfl, hb'⟩
          have := hb.trans (hb'.mono hb.size)
          exact ⟨rfl, ⟨this, hf.below hb'⟩, (hB'.out.fh.below this).cell 2⟩
        have hal : Hid (Below wr.heap.size wr (wr.alloc (.cells (fv X (.slice ub ul uc)) 24)) ∧ FB (wr.alloc (.cells (fv X (.slice ub ul uc)) 24)) wr.heap.size X (.slice ub ul uc)) := ⟨bel1 wr _, by unfold FB; rw [heap_al, if_pos rfl]⟩
        unfold fv at hal
        go_upto_region 13 with fail
        go_cut [143] from 60 to 188 (fun c wx => c = .bool false ∧ Hid (Below wr.heap.size wr wx ∧ FB wx wr.heap.size X (.slice ub ul uc)))
        case first =>
          clear d0 d1 d2 d3 d4 d5 d6 d7 d8 d9 d10 m0 m1 m2 m3 m4 m5 m6 m7 m8 m9 m10 hpay hP
          clear hlen hn hn1 hn2 HN r1 r2 hI hsz hbig' L4 hc1 hc2 hFi HK HW1 hik hbel hand HH hB'
          go_wp2_with fail
          go_at_call 16
          refine (hpay2.out _ hal.out.1 hal.out.2).mono ?_
          rintro e wp ⟨rfl, hp1, m2⟩
          obtain ⟨c0, c1, c2, c3, c4, c5, c6, c7, c8, c9, c10⟩ := FB.cells hp1.out.2
          have f1 : decide ((n : Int) < P) = false := decide_eq_false (by have := HF.out.le; omega)
          have f2 : (bits .and .i64 X.fl 4 != 0) = (i == k) := by
            have := HF.out.fl
            rw [bne, this, Bool.not_not]
          rw [HF.out.st] at c2
          have hpay4 : Hid _ := hpay2.out
          rw [HF.out.st] at hpay4
          clear hal
          by_cases h0 : i = 0
          · by_cases hk0 : k = 0
            · subst h0
              subst hk0
              simp only [beq_self_eq_true] at f2
              have hz : ((0 : Nat) : Int) = 0 := rfl
              rw [hz]
              as_aux_lemma =>
                go_wp2_with fail
                go_meet
                case rel => exact ⟨rfl, hp1.out⟩
            · have hkp : 0 < k := by omega
              have g3 : ((i : Int) == (k : Int)) = false := beq_eq_false_iff_ne.2 (by omega)
              have g4 : (0 : Int) < (k : Int) := by omega
              have g6 : ((i : Int) == 0) = true := beq_iff_eq.2 (by omega)
              have g7 : ¬ ((0 : Int) < (i : Int)) := by omega
              have g8 : decide ((0 : Int) < (i : Int)) = false := decide_eq_false g7
              have g9 : ¬ (0 < i) := by omega
              rw [show (i == k) = false by simp; omega] at f2
              have g5 : P = (n : Int) := HF.out.full (by omega)
              subst g5
              replace h0 : Hid (i = 0) := h0
              clear hk0
              as_aux_lemma =>
                go_wp2_with fail
                go_at_call 16
                refine (hpay4.out _ hp1.out.1 hp1.out.2).mono ?_
                rintro e wq ⟨rfl, hp2, n2⟩
                clear c0 c1 c2 c3 c4 c5 c6 c7 c8 c9 c10
                obtain ⟨c0, c1, c2, c3, c4, c5, c6, c7, c8, c9, c10⟩ := FB.cells hp2.out.2
                clear m2 n2 hpay2 hpay4
                go_wp2_with fail
                go_meet
                case rel => exact ⟨rfl, hp2.out⟩
          · rw [HF.out.ty (by omega)] at c0
            rw [HF.out.ty (by omega)] at hpay4
            have g6 : ((X.data.size : Int) == 0) = false := by have := HF.out.ne (by omega); exact beq_eq_false_iff_ne.2 (by omega)
            have g6' : ¬ (X.data.size = 0) := HF.out.ne (by omega)
            by_cases hk0 : i = k
            · have hip : 0 < i := by omega
              have hpi : (0 : Int) < (i : Int) := by omega
              have g1 : ((i : Int) == 0) = false := beq_eq_false_iff_ne.2 (by omega)
              subst hk0
              rw [show (i == i) = true by simp] at f2
              as_aux_lemma =>
                go_wp2_with fail
                go_meet
                case rel => exact ⟨rfl, hp1.out⟩
            · have hip : 0 < i := by omega
              have hpi : (0 : Int) < (i : Int) := by omega
              have g1 : ((i : Int) == 0) = false := beq_eq_false_iff_ne.2 (by omega)
              have g3 : ((i : Int) == (k : Int)) = false := beq_eq_false_iff_ne.2 (by omega)
              have g4 : (i : Int) < (k : Int) := by omega
              have g4' : i < k := by omega
              have g7 : ¬ ((k : Int) ≤ (i : Int)) := by omega
              rw [show (i == k) = false by simp; omega] at f2
              have g5 : P = (n : Int) := HF.out.full (by omega)
              subst g5
              as_aux_lemma =>
                go_wp2_with fail
                go_at_call 16
                refine (hpay4.out _ hp1.out.1 hp1.out.2).mono ?_
                rintro e wq ⟨rfl, hp2, n2⟩
                clear c0 c1 c2 c3 c4 c5 c6 c7 c8 c9 c10
                obtain ⟨c0, c1, c2, c3, c4, c5, c6, c7, c8, c9, c10⟩ := FB.cells hp2.out.2
                clear m2 n2 hpay2 hpay4
                go_wp2_with fail
                go_meet
                case rel => exact ⟨rfl, hp2.out⟩
        case rest =>
          obtain ⟨rfl, hx⟩ := hcut
          clear d0 d1 d2 d3 d4 d5 d6 d7 d8 d9 d10 m0 m1 m2 m3 m4 m5 m6 m7 m8 m9 m10
          have K6 := hB'.out.below hx.out.1
          obtain ⟨c0, c1, c2, c3, c4, c5, c6, c7, c8, c9, c10⟩ := FB.cells hx.out.2
          replace K6 : Hid _ := K6
          go_wp2_with fail
          go_at_call 12
          refine (hP.out wc hx.out.1).mono ?_
          intro e w7 hpost
          clear c0 c1 c2 c3 c4 c5 c6 c7 c8 c9 c10
          by_cases hlast : i = k
          · rw [if_pos hlast] at hpost
            obtain ⟨⟨ob, ol, oc⟩, rfl, hpr⟩ := hpost
            obtain ⟨s7, K7⟩ := K6.out.push hpr
            have R7 : Hid (R EP w7 (.slice ob ol oc) ps) := hpr.rp
            replace K7 : Hid _ := K7
            clear hpr
            have hl1 : ((i : Int) == (k : Int)) = true := by simp [hlast]
            have hdat := HH.out.data
            simp only [Js.code, fv, Hh, sv]
            go_wp2_with fail
            go_at_call 14
            have b8 := bel2 w7 (.cells (fv (Hh h) (.slice ob ol oc)) 24) (.cells #[.int .i64 0, .int .i64 0] 32)
            have G8 : FB ((w7.alloc (.cells (fv (Hh h) (.slice ob ol oc)) 24)).alloc (.cells #[.int .i64 0, .int .i64 0] 32)) w7.heap.size (Hh h) (.slice ob ol oc) := by
              unfold FB
              rw [heap_al, if_neg (by simp), heap_al, if_pos rfl]
            refine (busy_any _ w3.heap.size s7 _ (K7.out.j.below b8)).mono ?_
            rintro e w8 ⟨rfl, hb⟩
            have b8' := b8.trans (hb.mono b8.size)
            have K8 := K7.out.below b8'
            have R8 : Hid (R EP w8 (.slice ob ol oc) ps) := R.below R7.out b8'
            have G8' := G8.below hb
            obtain ⟨c0, c1, c2, c3, c4, c5, c6, c7, c8, c9, c10⟩ := G8'.cells
            have c11 := G8'.frozen 1
            obtain ⟨m0, m1, m2, m3, m4, m5, m6, m7, m8, m9, m10⟩ := K8.fh.cells
            have m11 := K8.fh.frozen 1
            have l1 : w1.heap.size < w8.heap.size := K8.fh.lt
            have l2 : w7.heap.size < w8.heap.size := G8'.lt
            have l3 : w1.heap.size < w7.heap.size := K7.out.fh.lt
            have hd0 := (fl_of HH.out.f0 HH.out.f1).d0
            simp only [Hh] at c0 c1 c2 c3 c4 c5 c6 c7 c8 c9 c10
            rw [hdat] at m3
            simp only [sv] at m10
            have hsame : Hid (Calls Try.prog 13 #[.agg (fv { h with fl := bits .andNot .i64 h.fl 4, data := ⟨#[]⟩ } (.slice ob ol oc)), .agg (fv { h with fl := bits .andNot .i64 h.fl 4, data := ⟨#[]⟩ } (.slice yb yl yc))] ((w8.setCell ⟨w7.heap.size, 1, none⟩ (.int .i64 (bits .andNot .i64 h.fl 4))).setCell ⟨w1.heap.size, 1, none⟩ (.int .i64 (bits .andNot .i64 h.fl 4))) fun e w' => e = .returned (.bool true) ∧ Below w.heap.size w w') := by
              have hbs : Below w.heap.size w ((w8.setCell ⟨w7.heap.size, 1, none⟩ (.int .i64 (bits .andNot .i64 h.fl 4))).setCell ⟨w1.heap.size, 1, none⟩ (.int .i64 (bits .andNot .i64 h.fl 4))) := (K8.bel.setCell (p := ⟨w7.heap.size, 1, none⟩) (Nat.le_of_lt (Nat.lt_of_le_of_lt HW1.out l3)) _).setCell (p := ⟨w1.heap.size, 1, none⟩) HW1.out _
              have hst : ∀ (o : Value), R EP w8 o ps → In EP ((w8.setCell ⟨w7.heap.size, 1, none⟩ (.int .i64 (bits .andNot .i64 h.fl 4))).setCell ⟨w1.heap.size, 1, none⟩ (.int .i64 (bits .andNot .i64 h.fl 4))) o ps := fun o ho => by
                refine R.isIn (ho.stays fun q hq _ => ?_)
                rw [setCell_other _ _ _ _ _ (own_ne ho K8.fh (by decide) q hq), setCell_other _ _ _ _ _ (own_ne ho G8' (by decide) q hq)]
              refine (same_eq { h with fl := bits .andNot .i64 h.fl 4, data := ⟨#[]⟩ } _ (ob, ol, oc) (yb, yl, yc) ps (hst _ R8.out) (hst _ K8.rh)).mono ?_
              rintro e w' ⟨rfl, hb'⟩
              exact ⟨rfl, hbs.trans (hb'.mono hbs.size)⟩
            unfold fv at hsame
            replace K8 : Hid True := True.intro
            replace G8 : Hid True := True.intro
            replace G8' : Hid True := True.intro
            clear b8 b8' hb hdat
            simp only [busyB]
            go_wp2_with fail
            go_at_call 13
            refine hsame.out.mono ?_
            rintro e w9 ⟨rfl, hb9⟩
            replace hb9 : Hid (Below w.heap.size w w9) := hb9
            go_wp2_with fail
            go_roundw
            case rel => exact ⟨i + 1, by simp [hlast], by omega, hb9.out, fun hh => by omega⟩
            case measure => simp [intOf]; omega
          · rw [if_neg hlast] at hpost
            obtain ⟨⟨ob, ol, oc⟩, rfl, hpr⟩ := hpost
            obtain ⟨s7, K7⟩ := K6.out.push hpr
            replace K7 : Hid _ := K7
            clear hpr
            have hl1 : ((i : Int) == (k : Int)) = false := beq_eq_false_iff_ne.2 (by omega)
            simp only [Js.code, fv, Fr.zero, sv]
            go_wp2_with fail
            go_at_call 14
            have b8 := bel2 w7 (.cells #[.int .i64 0, .int .i64 0, .int .i64 0, .string ⟨#[]⟩, .int .i64 0, .int .i64 0, .bool false, .int .i64 0, .int .i64 0, .int .i64 0, .slice ob ol oc] 24) (.cells #[.int .i64 0, .int .i64 0] 32)
            refine (busy_any _ w3.heap.size s7 _ (K7.out.j.below b8)).mono ?_
            rintro e w8 ⟨rfl, hb⟩
            have K8 : Hid _ := K7.out.below (b8.trans (hb.mono b8.size))
            clear b8 hb
            simp only [busyB]
            go_wp2_with fail
            go_roundw
            case rel => exact ⟨i + 1, by simp, by omega, K8.out.bel, fun _ => ⟨_, _, K8.out, .inr ⟨by omega, by simp only [Nat.add_sub_cancel]⟩⟩⟩
            case measure => simp [intOf]; omega
      · obtain rfl : i = k + 1 := by omega
        have hge : ¬ (((k + 1 : Nat) : Int) < ((k : Int) + 1)) := by omega
        go_wp2_with fail
        go_ret
        exact ⟨rfl, hbel.out⟩
end Go.Proofs.Ytdgdjanchpfleaa
