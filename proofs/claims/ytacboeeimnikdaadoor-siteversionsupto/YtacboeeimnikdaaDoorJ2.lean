/- SiteVersions. -/
import Derived.Test.YtacboeeimnikdaaDoorJ4
namespace Go.Proofs.YtacboeeimnikdaaDoor
open Go.RowKit Go.Maps
open Go.Shelf
set_option linter.unusedVariables false
set_option linter.unusedSimpArgs false

def AkE (w wr : World) (v : Value) (n : Nat) : Prop := ∃ (ya : SV) (A : List Aq), v = sv ya ∧ Ak w wr ya A ∧ A.length ≤ n
def IsE (w wr : World) (v : Value) (F : Fm) (u : Int) (A : List Aq) (i : Nat) : Prop := ∃ (z : SV) (rs : List Rp), v = sv z ∧ Is w wr z rs F u A ∧ rs.length = i
def VsE (w wr : World) (lo g : Nat) (ps l : List PC) (n : Nat) (ya : SV) (A : List Aq) (v : Value) (k : Nat) : Prop := ∃ (yt : SV) (T : List Rr), v = sv yt ∧ Vs w wr lo g ps l n ya yt A T ∧ TD ps l A T ∧ T.length = k
theorem ask_one {w : World} (x : Aq) (hf : R EFd w (sv x.y) x.fs) : In ERq (w.alloc (.cells (rqv getS httpsS aTest x.p (sv x.y) e0S) 41)) (.slice (some ⟨w.heap.size, 0, none⟩) 1 1) [x] ∧ R EFd (w.alloc (.cells (rqv getS httpsS aTest x.p (sv x.y) e0S) 41)) (sv x.y) x.fs :=
  ⟨in_one (E := ERq) _ _ x (rqv getS httpsS aTest x.p (sv x.y) e0S) 41 (0, 0) (by rw [heap_al, if_pos rfl]) rfl, hf.below (bel1 _ _)⟩
set_option maxHeartbeats 32000000 in
set_option maxRecDepth 100000 in
theorem siteVersions_any (x0 x1 x2 : SV) (pg ps : List PC) (ss : List ByteArray) (w : World) (hI0 : In EPg w (sv x0) pg) (hC0 : ChIn w pg) (hI1 : In EPg w (sv x1) ps) (hC1 : ChIn w ps) (hI2 : In ES w (sv x2) ss) (ht : Tab w) (hz1 : ps.length ≤ 1048576) (hz2 : ss.length ≤ 1048576) :
    Calls Tryd.prog 5 #[sv x0, sv x1, sv x2] w fun e w' => e = .returned (.bool true) ∧ Below w.heap.size w w' := by
  have HT : Hid (Tab w) := ht
  have CH : Hid (Calls Tryd.prog 8 #[] w fun e w' => e = .returned (.bool true) ∧ Below w.heap.size w w') := head_any w ht
  have CB : Hid (∀ V, Below w.heap.size w V → Calls Tryd.prog 17 #[sv x0] V fun e w' => BuP V e w') := fun V hV => built_any x0 pg V (hI0.below hV) (hC0.below hV) (ht.below hV)
  have HI1 : Hid (In EPg w (sv x1) ps) := hI1
  have HC1 : Hid (ChIn w ps) := hC1
  have HI2 : Hid (In ES w (sv x2) ss) := hI2
  have HZ1 : Hid (ps.length ≤ 1048576) := hz1
  have HZ2 : Hid (ss.length ≤ 1048576) := hz2
  obtain ⟨b1, c1, e1, m1, m2⟩ := hI1.slice
  obtain ⟨b2, c2, e2, m3, m4⟩ := hI2.slice
  obtain ⟨x0b, x0l, x0c⟩ := x0
  obtain ⟨x1b, x1l, x1c⟩ := x1
  obtain ⟨x2b, x2l, x2c⟩ := x2
  simp only [sv] at e1 e2 CB HI1 HI2 ⊢
  injection e1 with f1 f2 f3
  injection e2 with g1 g2 g3
  subst f1 f2 f3 g1 g2 g3
  clear hI0 hC0 hI1 hC1 hI2 ht hz1 hz2 m1 m2 m3 m4
  go_enter Tryd.func5, Tryd.ntmps5
  go_wp2_with fail
  go_at_call 8
  refine CH.out.mono ?_
  rintro e w1 ⟨rfl, hb1⟩
  have HB1 : Hid (Below w.heap.size w w1) := hb1
  clear hb1 CH
  go_wp2_with fail
  go_at_call 17
  refine (CB.out w1 HB1.out).mono ?_
  rintro e w2 ⟨W, ⟨lb, ll, lc⟩, l, g, rfl, hBt, hbW, hgW, hS⟩
  have HS : Hid (Sx w2 W.heap.size g l.length 1 (Fk l) (l.map tgP)) := hS
  have HLR : Hid (R EPg w2 (sv (lb, ll, lc)) l ∧ (∀ x ∈ l, x.1.p.size ≤ 4) ∧ (l.map tgP).Nodup ∧ l.length ≤ 20) := ⟨hBt.row.below hbW, fun x hx => (hBt.ok x hx).2.2, hBt.nd, hBt.le⟩
  have HB2 : Hid (Below w.heap.size w w2) := HB1.out.trans ((hBt.bel.trans (hbW.mono hBt.bel.size)).mono HB1.out.size)
  have HLO : Hid (w.heap.size ≤ W.heap.size ∧ W.heap.size ≤ w2.heap.size) := ⟨Nat.le_trans HB1.out.size hBt.bel.size, hbW.size⟩
  obtain ⟨lo, hlo⟩ : ∃ lo, lo = W.heap.size := ⟨_, rfl⟩
  rw [← hlo] at HS HLO
  obtain ⟨bq, cq, eq, k1, k2⟩ := HLR.out.1.slice
  simp only [sv] at eq
  injection eq with eq1 eq2 eq3
  obtain ⟨nl, hnl⟩ : ∃ nl, nl = l.length := ⟨_, rfl⟩
  rw [← hnl] at eq2 k1
  have HNL : Hid (nl = l.length) := hnl
  replace eq2 := eq2.symm
  subst eq2
  clear hBt hbW hgW hS CB HB1 hlo eq1 eq3 hnl
  simp only [sv]
  go_wp2_with fail
  go_loopw [10, 11] (fun av iv wr => ∃ i : Nat, iv = .int .i64 (i : Int) ∧ i ≤ ss.length ∧ Hid (AkE w2 wr av i)) (fun _ iv _ => ss.length - (intOf iv).toNat)
  case atStart => exact ⟨0, rfl, by omega, (none, 0, 0), [], rfl, Ak.start w2, by simp⟩
  case round =>
    obtain ⟨i, rfl, hi, ⟨ya, A, rfl, hA', hAl⟩⟩ := hrel
    have hA : Hid (Ak w2 wr ya A) := hA'
    have HAl : Hid (A.length ≤ i) := hAl
    clear hA' hAl
    by_cases hlt : i < ss.length
    · have l1 : (i : Int) < (ss.length : Int) := by omega
      have hi9 : i ≤ 1048576 := by have := HZ2.out; omega
      obtain ⟨Bk, off, cap, e, hBk, hc⟩ := HI2.out.get okS i hlt
      injection e with e1 e2 e3
      clear e2 e3
      subst e1
      obtain ⟨S, hS⟩ : ∃ S, ss[i] = S := ⟨_, rfl⟩
      have c0 := ((HB2.out.trans (hA.out.bel.mono HB2.out.size)).cell hBk).trans (hc 0 (.string S) (by rw [hS]; rfl))
      simp [ES] at c0
      have CW : Hid (Calls Tryd.prog 18 #[.string S] wr fun e w' => e = .returned (.string (wdS S)) ∧ Below wr.heap.size wr w') := word_any S wr
      have HPP : Hid ((⟨#[47]⟩ : ByteArray) ++ wdS S = rtP S ∧ (rtP S).size ≤ 4) := ⟨rfl, rtP_size S⟩
      have hsd0 : (wdS S).size ≤ 3 := wd_size S
      obtain ⟨D, hD⟩ : ∃ D, wdS S = D := ⟨_, rfl⟩
      obtain ⟨P, hP⟩ : ∃ P, rtP S = P := ⟨_, rfl⟩
      rw [hD] at CW HPP hsd0
      rw [hP] at HPP
      have hsd : ¬ (9223372036854775807 < 1 + D.size) := by omega
      obtain ⟨yb, yl, yc⟩ := ya
      simp only [sv]
      clear hc hBk hS hD hP hsd0
      go_wp2_with fail
      go_at_call 18
      refine CW.out.mono ?_
      rintro e w3 ⟨rfl, hb3⟩
      obtain ⟨W4, hW4⟩ : ∃ W4, W4 = w3.alloc (.cells #[.string ⟨#[97, 99, 99, 101, 112, 116]⟩, .string ⟨#[118, 49]⟩, .bool false] 44) := ⟨_, rfl⟩
      have hB4 : Below wr.heap.size wr W4 := by rw [hW4]; exact hb3.trans ((bel1 _ _).mono hb3.size)
      have hR4 : R EFd W4 (sv (some ⟨w3.heap.size, 0, none⟩, 1, 1)) [⟨acc, ⟨#[118, 49]⟩, false⟩] := R.one okFd _ (by rw [hW4, heap_al, if_pos rfl]; rfl) rfl
      have CG : Hid (Calls Tryd.prog 12 #[.string (⟨#[47]⟩ ++ D), .slice (some ⟨w3.heap.size, 0, none⟩) 1 1] W4 fun e w' => e = .returned (.agg (rqv getS httpsS aTest P (.slice (some ⟨w3.heap.size, 0, none⟩) 1 1) e0S)) ∧ Below W4.heap.size W4 w') := by
        rw [HPP.out.1]
        exact get_any P (some ⟨w3.heap.size, 0, none⟩, 1, 1) W4
      have HB4 : Hid (Below wr.heap.size wr W4) := hB4
      have HR4 : Hid (R EFd W4 (sv (some ⟨w3.heap.size, 0, none⟩, 1, 1)) [⟨acc, ⟨#[118, 49]⟩, false⟩]) := hR4
      clear hb3 hB4 hR4 CW c0
      go_wp2_with fail
      rw [← hW4]
      clear hW4
      go_at_call 12
      refine CG.out.mono ?_
      rintro e w5 ⟨rfl, hb5⟩
      have hA5 : Ak w2 w5 (yb, yl, yc) A := hA.out.below (HB4.out.trans (hb5.mono HB4.out.size))
      obtain ⟨o1, o2⟩ := ask_one (w := w5) ⟨P, (some ⟨w3.heap.size, 0, none⟩, 1, 1), [⟨acc, ⟨#[118, 49]⟩, false⟩]⟩ (HR4.out.below hb5)
      obtain ⟨bx, mx, cx, w9, hrun, hA9⟩ := (hA5.below (bel1 _ _)).app ⟨P, (some ⟨w3.heap.size, 0, none⟩, 1, 1), [⟨acc, ⟨#[118, 49]⟩, false⟩]⟩ _ o1 ⟨o2, HPP.out.2⟩ (by have := HAl.out; have := HZ2.out; omega)
      have HRUN : Hid ((Builtin.append_ #[53, 53] 53 #[.slice yb yl yc, .slice (some ⟨w5.heap.size, 0, none⟩) 1 1]).run Tryd.prog (w5.alloc (.cells #[.string getS, .string httpsS, .string aTest, .string P, .slice (some ⟨w3.heap.size, 0, none⟩) 1 1, .string e0S] 41)) = .ok (.slice bx mx cx) w9) := hrun
      have HA9 : Hid (AkE w2 w9 (.slice bx mx cx) (i + 1)) := ⟨(bx, mx, cx), _, rfl, hA9, by have := HAl.out; simp; omega⟩
      clear hrun hA9 o1 o2 hA5 hb5 CG
      unfold rqv
      go_wp2_with (at_builtin; refine Lib.wpList_append_run _ rfl _ _ _ _ rfl _ _ rfl rfl _ _ HRUN.out ?_)
      go_roundw
      case rel => exact ⟨i + 1, by simp, by omega, HA9.out⟩
      case measure => simp [intOf]; omega
    · have l1 : ¬ (i : Int) < (ss.length : Int) := by omega
      have HAZ : Hid (A.length ≤ 1048576) := by have := HAl.out; have := HZ2.out; show _ ≤ _; omega
      clear hlt
      have HA0 : Hid (Ak w2 wr ya A) := hA
      clear hA HAl
      go_wp2_with fail
      obtain ⟨wA, hwA⟩ : ∃ wA, wA = wr := ⟨_, rfl⟩
      have HA1 : Hid (AkE w2 wr (sv ya) (A.length + 0)) := ⟨ya, A, rfl, HA0.out, by omega⟩
      obtain ⟨a0, ha0⟩ : ∃ a0, a0 = A.length := ⟨_, rfl⟩
      rw [← ha0] at HA1 HAZ
      clear HA0 hwA ha0
      go_loopw [10, 12] (fun av iv wr => ∃ i : Nat, iv = .int .i64 (i : Int) ∧ i ≤ nl ∧ Hid (AkE w2 wr av (a0 + i))) (fun _ iv _ => nl - (intOf iv).toNat)
      case atStart => exact ⟨0, rfl, by omega, HA1.out⟩
      case round =>
        clear HA1
        obtain ⟨i, rfl, hi, ⟨ya, A, rfl, hA', hAl⟩⟩ := hrel
        have hA : Hid (Ak w2 wr ya A) := hA'
        have HAl : Hid (A.length ≤ a0 + i) := hAl
        clear hA' hAl
        have HLw : Hid (R EPg wr (sv (lb, nl, lc)) l) := HLR.out.1.below hA.out.bel
        by_cases hlt : i < nl
        · have l2 : (i : Int) < (nl : Int) := by omega
          have hi9 : i ≤ 1048576 := by have := HLR.out.2.2.2; have := HNL.out; omega
          have hil : i < l.length := by have := HNL.out; omega
          obtain ⟨Bk, off, cap, e, hBk, hc⟩ := HLw.out.isIn.get okPg i hil
          simp only [sv] at e
          injection e with e1 e2 e3
          clear e2 e3
          subst e1
          obtain ⟨P, hP⟩ : ∃ P, l[i].1.p = P := ⟨_, rfl⟩
          have c1 := hc 1 (.string P) (by rw [← hP]; rfl)
          simp [EPg] at c1
          have HPZ : Hid (P.size ≤ 4) := by rw [← hP]; exact HLR.out.2.1 _ (List.getElem_mem _)
          have CG : Hid (Calls Tryd.prog 12 #[.string P, .slice none 0 0] wr fun e w' => e = .returned (.agg (rqv getS httpsS aTest P (.slice none 0 0) e0S)) ∧ Below wr.heap.size wr w') := get_any P (none, 0, 0) wr
          obtain ⟨yb, yl, yc⟩ := ya
          simp only [sv]
          clear hc hBk hP hil
          go_wp2_with fail
          go_at_call 12
          refine CG.out.mono ?_
          rintro e w5 ⟨rfl, hb5⟩
          have hA5 : Ak w2 w5 (yb, yl, yc) A := hA.out.below hb5
          obtain ⟨o1, o2⟩ := ask_one (w := w5) ⟨P, (none, 0, 0), []⟩ (R.nil _ _)
          obtain ⟨bx, mx, cx, w9, hrun, hA9⟩ := (hA5.below (bel1 _ _)).app ⟨P, (none, 0, 0), []⟩ _ o1 ⟨o2, HPZ.out⟩ (by have := HAl.out; have := HAZ.out; have := HLR.out.2.2.2; have := HNL.out; omega)
          have HRUN : Hid ((Builtin.append_ #[53, 53] 53 #[.slice yb yl yc, .slice (some ⟨w5.heap.size, 0, none⟩) 1 1]).run Tryd.prog (w5.alloc (.cells #[.string getS, .string httpsS, .string aTest, .string P, .slice none 0 0, .string e0S] 41)) = .ok (.slice bx mx cx) w9) := hrun
          have HA9 : Hid (AkE w2 w9 (.slice bx mx cx) (a0 + (i + 1))) := ⟨(bx, mx, cx), _, rfl, hA9, by have := HAl.out; simp; omega⟩
          clear hrun hA9 o1 o2 hA5 hb5 CG c1
          unfold rqv
          go_wp2_with (at_builtin; refine Lib.wpList_append_run _ rfl _ _ _ _ rfl _ _ rfl rfl _ _ HRUN.out ?_)
          go_roundw
          case rel => exact ⟨i + 1, by simp, by omega, HA9.out⟩
          case measure => simp [intOf]; omega
        · have l2 : ¬ (i : Int) < (nl : Int) := by omega
          have HA2 : Hid (A.length ≤ 2097152) := by have := HAl.out; have := HAZ.out; have := HLR.out.2.2.2; have := HNL.out; show _ ≤ _; omega
          have HV0 : Hid (Vs w wr lo g ps l 0 ya (none, 0, 0) A []) := ⟨HB2.out.trans (hA.out.bel.mono HB2.out.size), HS.out.below hA.out.bel, ⟨hA.out.row, hA.out.fs⟩, ⟨R.nil _ _, fun k hk => by simp [sv, Value.ownBlock] at hk⟩, fun t ht => by simp at ht, ⟨HLO.out.1, Nat.le_trans HLO.out.2 hA.out.bel.size⟩⟩
          have HLQ : Hid ((l.map tgP).Nodup ∧ l.length ≤ 20) := HLR.out.2.2
          obtain ⟨bq, cq, eq, k3, k4⟩ := hA.out.row.slice
          obtain ⟨yb, yl, yc⟩ := ya
          simp only [sv] at eq ⊢
          injection eq with eq1 eq2 eq3
          obtain ⟨na, hna⟩ : ∃ na, na = A.length := ⟨_, rfl⟩
          rw [← hna] at eq2
          have HNA : Hid (na = A.length) := hna
          replace eq2 := eq2.symm
          subst eq2
          clear hlt HAl HAZ hA HLw HS HLR HLO HB2 hna eq1 eq3 k3 k4
          go_wp2_with fail
          have HVE : Hid (VsE w wr lo g ps l 0 (yb, na, yc) A (.slice none 0 0) 0) := ⟨(none, 0, 0), [], rfl, HV0.out, fun m h => absurd h (by simp), rfl⟩
          clear HV0
          go_loopw [13, 14, 15, 16, 17, 18, 19, 20, 21, 22, 23] (fun tv nv _ _ _ _ _ _ _ _ _ wr => ∃ n : Nat, nv = .int .i64 (n : Int) ∧ n ≤ ps.length + 1 ∧ Hid (VsE w wr lo g ps l (min n ps.length) (yb, na, yc) A tv n)) (fun _ nv _ _ _ _ _ _ _ _ _ _ => ps.length + 1 - (intOf nv).toNat)
          case atStart => exact ⟨0, rfl, by omega, by rw [Nat.zero_min]; exact HVE.out⟩
          case round =>
            clear HVE
            obtain ⟨n, rfl, hn, ⟨⟨tb, tl, tc⟩, T, rfl, hV', hTD, hTl⟩⟩ := hrel
            simp only [sv]
            by_cases hlt : n ≤ ps.length
            · have l3 : (n : Int) ≤ (ps.length : Int) := by omega
              rw [Nat.min_eq_left hlt] at hV'
              have hV : Hid (Vs w wr lo g ps l n (yb, na, yc) (tb, tl, tc) A T) := hV'
              have HTD : Hid (TD ps l A T ∧ T.length = n) := ⟨hTD, hTl⟩
              clear hV' hTD hTl
              have hn9 : n ≤ 1048577 := by have := HZ1.out; omega
              have CV : Hid (Calls Tryd.prog 15 #[.pointer (some ⟨g, 0, none⟩)] wr fun e w' => e = .returned (.int .i64 ((n : Int) + 1)) ∧ w' = wr) := hV.out.sx.version
              go_wp2_with fail
              go_at_call 15
              refine CV.out.mono ?_
              rintro e w3 ⟨rfl, hw3⟩
              replace hw3 := hw3.symm
              subst hw3
              clear CV
              obtain ⟨wn, hwn⟩ : ∃ wn, wn = wr := ⟨_, rfl⟩
              subst hwn
              go_wp2_with fail
              have HI0 : Hid (IsE wn wn (.slice none 0 0) (FN (Fk l) ps n) ((n : Int) + 1) A 0) := ⟨(none, 0, 0), [], rfl, Is.start _ _ _ _, rfl⟩
              go_loopw [16, 17, 18, 19] (fun zv iv _ _ wr => ∃ i : Nat, iv = .int .i64 (i : Int) ∧ i ≤ na ∧ Hid (IsE wn wr zv (FN (Fk l) ps n) ((n : Int) + 1) A i)) (fun _ iv _ _ _ => na - (intOf iv).toNat)
              case atStart => exact ⟨0, rfl, by omega, HI0.out⟩
              case round =>
                clear HI0
                obtain ⟨i, rfl, hi, ⟨⟨zb, zl, zc⟩, rs, rfl, hI', hIl⟩⟩ := hrel
                have hI : Hid (Is wn wr (zb, zl, zc) rs (FN (Fk l) ps n) ((n : Int) + 1) A) := hI'
                have HIl : Hid (rs.length = i) := hIl
                clear hI' hIl
                simp only [sv]
                have hVr : Hid (Vs w wr lo g ps l n (yb, na, yc) (tb, tl, tc) A T) := hV.out.below hI.out.bel
                by_cases hlt4 : i < na
                · have l4 : (i : Int) < (na : Int) := by omega
                  have hi9 : i ≤ 2097152 := by have := HA2.out; have := HNA.out; omega
                  have hiA : i < A.length := by have := HNA.out; omega
                  obtain ⟨B, off, cap, e, hB, hc⟩ := hVr.out.ask.1.isIn.get okRq i hiA
                  simp only [sv] at e
                  injection e with e1 e2 e3
                  clear e2 e3
                  subst e1
                  have hask := hVr.out.ask.2 A[i] (List.getElem_mem _)
                  obtain ⟨x, hx⟩ : ∃ x, A[i] = x := ⟨_, rfl⟩
                  rw [hx] at hc hask
                  have HX : Hid (∀ h : rs.length < A.length, A[rs.length] = x) := fun h => by have e := HIl.out; subst e; exact hx
                  have CS := hVr.out.serve HT.out x hask.1 hask.2 ((n : Int) + 1) ⟨by omega, by omega⟩
                  obtain ⟨P, ⟨fb, fl, fc⟩, fs⟩ := x
                  have c0 := hc 0 (.string getS) rfl
                  have c1 := hc 1 (.string httpsS) rfl
                  have c2 := hc 2 (.string aTest) rfl
                  have c3 := hc 3 (.string P) rfl
                  have c4 := hc 4 (.slice fb fl fc) rfl
                  have c5 := hc 5 (.string e0S) rfl
                  simp only [ERq, Nat.add_zero] at c0 c1 c2 c3 c4 c5
                  unfold rqv at CS
                  simp only [sv] at CS
                  have HCS : Hid (Calls Tryd.prog 11 #[.pointer (some ⟨g, 0, none⟩), .int .i64 ((n : Int) + 1), .agg #[.string getS, .string httpsS, .string aTest, .string P, .slice fb fl fc, .string e0S]] wr fun e w' => Below wr.heap.size wr w' ∧ ∃ r : Rp, e = .returned (.tuple #[.agg (rsv r.n (sv r.y) r.b), .int .i64 0]) ∧ R EFd w' (sv r.y) r.l ∧ RpIs r (FN (Fk l) ps n) ((n : Int) + 1) ⟨P, (fb, fl, fc), fs⟩) := CS
                  clear CS hc hx hask hB hiA
                  go_wp2_with fail
                  go_at_call 11
                  refine HCS.out.mono ?_
                  rintro e w5 ⟨hb5, ⟨rn, ⟨rb, rl, rc⟩, rbd, rfs⟩, rfl, hR5, hIs⟩
                  simp only at hR5
                  unfold rsv
                  simp only [sv]
                  have hI5 := hI.out.below hb5
                  have hIn : In ERs ((w5.alloc (.cells #[.int .i64 rn, .slice rb rl rc, .string rbd] 37)).alloc (.cells #[.int .i64 rn, .slice rb rl rc, .string rbd] 37)) (.slice (some ⟨w5.heap.size + 1, 0, none⟩) 1 1) [⟨rn, (rb, rl, rc), rbd, rfs⟩] := in_one (E := ERs) _ _ (⟨rn, (rb, rl, rc), rbd, rfs⟩ : Rp) #[.int .i64 rn, .slice rb rl rc, .string rbd] 37 (0, 0) (fresh2 _ _ _) rfl
                  obtain ⟨bx, mx, cx, w9, hrun, hA9⟩ := (hI5.below (bel2 _ _ _)).app ⟨rn, (rb, rl, rc), rbd, rfs⟩ _ hIn (hR5.below (bel2 _ _ _)) (fun h2 => by rw [HX.out h2]; exact hIs) (by have := HIl.out; omega)
                  have HRUN : Hid ((Builtin.append_ #[56, 56] 56 #[.slice zb zl zc, .slice (some ⟨w5.heap.size + 1, 0, none⟩) 1 1]).run Tryd.prog ((w5.alloc (.cells #[.int .i64 rn, .slice rb rl rc, .string rbd] 37)).alloc (.cells #[.int .i64 rn, .slice rb rl rc, .string rbd] 37)) = .ok (.slice bx mx cx) w9) := hrun
                  have HA9 : Hid (IsE wn w9 (.slice bx mx cx) (FN (Fk l) ps n) ((n : Int) + 1) A (i + 1)) := ⟨(bx, mx, cx), _, rfl, hA9, by have := HIl.out; simp; omega⟩
                  clear hrun hA9 hIn hI5 hR5 hIs hb5 HCS c0 c1 c2 c3 c4 c5
                  go_wp2_with (at_builtin; refine Lib.wpList_append_run _ rfl _ _ _ _ rfl _ _ rfl rfl _ _ HRUN.out ?_)
                  go_roundw
                  case rel => exact ⟨i + 1, by simp, by omega, HA9.out⟩
                  case measure => simp [intOf]; omega
                · have l4 : ¬ (i : Int) < (na : Int) := by omega
                  have HIE : Hid (rs.length = A.length) := by have := HIl.out; have := HNA.out; show _ = _; omega
                  have hIn : In ERR (wr.alloc (.cells #[.slice zb zl zc] 56)) (.slice (some ⟨wr.heap.size, 0, none⟩) 1 1) [((zb, zl, zc), rs)] := in_one (E := ERR) _ _ (((zb, zl, zc), rs) : Rr) #[.slice zb zl zc] 56 (0, 0) (by rw [heap_al, if_pos rfl]) rfl
                  obtain ⟨bx, mx, cx, w9, hrun, hA9⟩ := (hVr.out.below (bel1 _ _)).app (zb, zl, zc) rs ⟨hI.out.row.below (bel1 _ _), fun r hr => (hI.out.fs r hr).below (bel1 _ _)⟩ _ hIn (by have := HTD.out.2; omega)
                  have HRUN : Hid ((Builtin.append_ #[55, 55] 55 #[.slice tb tl tc, .slice (some ⟨wr.heap.size, 0, none⟩) 1 1]).run Tryd.prog (wr.alloc (.cells #[.slice zb zl zc] 56)) = .ok (.slice bx mx cx) w9) := hrun
                  have HT9 : Hid (TD ps l A (T ++ [((zb, zl, zc), rs)]) ∧ (T ++ [((zb, zl, zc), rs)]).length = n + 1) := ⟨HTD.out.1.snoc _ _ HIE.out (by rw [HTD.out.2]; exact hI.out.is), by have := HTD.out.2; simp; omega⟩
                  obtain ⟨T9, hT9⟩ : ∃ T9, T9 = T ++ [((zb, zl, zc), rs)] := ⟨_, rfl⟩
                  rw [← hT9] at HT9 hA9
                  have HV9 : Hid (Vs w w9 lo g ps l n (yb, na, yc) (bx, mx, cx) A T9) := hA9
                  clear hrun hA9 hIn hT9 hI hVr hV HTD HIl HIE hlt4
                  by_cases hlt5 : n < ps.length
                  · have l5 : (n : Int) < (ps.length : Int) := by omega
                    obtain ⟨Bk, poff, pcap, e, hc⟩ := HI1.out.pg n hlt5
                    injection e with e1 e2 e3
                    clear e2 e3
                    subst e1
                    obtain ⟨c0, c1, c2, c3, c4⟩ := hc w9 HV9.out.bel
                    have hCin := (HC1.out ps[n] (List.getElem_mem _)).below HV9.out.bel
                    have CR := right_any ps[n].1 ps[n].2 w9 hCin (HT.out.below HV9.out.bel)
                    have PUT : Hid (∀ W y T', Vs w W lo g ps l n (yb, na, yc) y A T' → ∀ u, R ECh W (sv u) (rtL ps[n].1.n ps[n].2) → Calls Tryd.prog 14 #[.pointer (some ⟨g, 0, none⟩), .agg (pgv ⟨aTest, rtP ps[n].1.p, 200, rtV (rtK ps[n].1.n), u⟩)] W fun e w' => e = .returned (.int .i64 0) ∧ Kt W w' ∧ W.heap.size ≤ w'.heap.size ∧ Vs w w' lo g ps l (n + 1) (yb, na, yc) y A T') := fun W y T' hW u hu => hW.put hlt5 HLQ.out HZ1.out u hu
                    have HAS : Hid (∀ W y T', Vs w W lo g ps l (n + 1) (yb, na, yc) y A T' → Calls Tryd.prog 16 #[.pointer (some ⟨g, 0, none⟩), .int .i64 ((n : Int) + 1 + 1), .string aTest, .string (rtP ps[n].1.p)] W fun e w' => e = .returned (.bool true) ∧ Below W.heap.size W w') := fun W y T' hW => Vs.has hlt5 hW
                    have HPZ : Hid ((rtP ps[n].1.p).size ≤ 4) := rtP_size _
                    unfold RtP at CR
                    obtain ⟨P, hP⟩ : ∃ P, rtP ps[n].1.p = P := ⟨_, rfl⟩
                    obtain ⟨V, hVe⟩ : ∃ V, rtV (rtK ps[n].1.n) = V := ⟨_, rfl⟩
                    obtain ⟨CL, hCL⟩ : ∃ CL, rtL ps[n].1.n ps[n].2 = CL := ⟨_, rfl⟩
                    rw [hP, hVe, hCL] at CR PUT
                    rw [hP] at HAS HPZ
                    obtain ⟨z, hz⟩ : ∃ z, ps[n] = z := ⟨_, rfl⟩
                    rw [hz] at c0 c1 c2 c3 c4 CR
                    obtain ⟨⟨za, zp, zn, zv, zb', zl', zc'⟩, zch⟩ := z
                    unfold pgv at CR PUT
                    simp only [sv] at c0 c1 c2 c3 c4 CR PUT
                    have HCR : Hid (Calls Tryd.prog 19 #[.agg #[.string za, .string zp, .int .i64 zn, .string zv, .slice zb' zl' zc']] w9 fun e w' => ∃ y : SV, e = .returned (.agg #[.string aTest, .string P, .int .i64 200, .string V, sv y]) ∧ Below w9.heap.size w9 w' ∧ R ECh w' (sv y) CL ∧ ∀ k, (sv y).ownBlock = some k → w9.heap.size ≤ k) := CR
                    clear CR hc hCin hP hVe hCL hz hlt5
                    go_wp2_with (at_builtin; refine Lib.wpList_append_run _ rfl _ _ _ _ rfl _ _ rfl rfl _ _ HRUN.out ?_)
                    go_at_call 19
                    refine HCR.out.mono ?_
                    rintro e w10 ⟨⟨ub, ul, uc⟩, rfl, hb10, hR10, hn10⟩
                    simp only [sv]
                    obtain ⟨W11, hW11⟩ : ∃ W11, W11 = w10.alloc (.cells #[.string aTest, .string P, .int .i64 200, .string V, .slice ub ul uc] 26) := ⟨_, rfl⟩
                    obtain ⟨q, hq⟩ : ∃ q, q = w10.heap.size := ⟨_, rfl⟩
                    have HQ : Hid (W11.heap[q]? = some (.cells #[.string aTest, .string P, .int .i64 200, .string V, .slice ub ul uc] 26 (0, 0))) := by show _ = _; rw [hW11, hq, heap_al, if_pos rfl]
                    have HV11 : Hid (Vs w W11 lo g ps l n (yb, na, yc) (bx, mx, cx) A T9) := by rw [hW11]; exact (HV9.out.below hb10).below (bel1 _ _)
                    have HR11 : Hid (R ECh W11 (sv (ub, ul, uc)) CL) := by rw [hW11]; exact hR10.below (bel1 _ _)
                    clear hb10 hR10 hn10 HCR c0 c1 c2 c3 c4 HRUN HV9
                    go_upto_region 33 with fail
                    rw [← hW11, ← hq]
                    clear hW11 hq
                    have q1 := cell_blk HQ.out 1
                    simp at q1
                    have CG : Hid (∀ X, Calls Tryd.prog 12 #[.string P, .slice none 0 0] X fun e w' => e = .returned (.agg (rqv getS httpsS aTest P (.slice none 0 0) e0S)) ∧ Below X.heap.size X w') := fun X => get_any P (none, 0, 0) X
                    go_wp2_with fail
                    go_at_call 12
                    refine (CG.out _).mono ?_
                    rintro e w12 ⟨rfl, hb12⟩
                    have HV12 : Hid (Vs w w12 lo g ps l n (yb, na, yc) (bx, mx, cx) A T9) := HV11.out.below hb12
                    have HQ12 : Hid (w12.heap[q]? = some (.cells #[.string aTest, .string P, .int .i64 200, .string V, .slice ub ul uc] 26 (0, 0))) := (hb12.block _ (heap_lt HQ.out)).trans HQ.out
                    have HR12 : Hid (R ECh w12 (sv (ub, ul, uc)) CL) := HR11.out.below hb12
                    have HCS : Hid (Calls Tryd.prog 11 #[.pointer (some ⟨g, 0, none⟩), .int .i64 ((n : Int) + 1), .agg (rqv getS httpsS aTest P (.slice none 0 0) e0S)] w12 fun e w' => Below w12.heap.size w12 w' ∧ ∃ r : Rp, e = .returned (.tuple #[.agg (rsv r.n (sv r.y) r.b), .int .i64 0]) ∧ R EFd w' (sv r.y) r.l ∧ RpIs r (FN (Fk l) ps n) ((n : Int) + 1) ⟨P, (none, 0, 0), []⟩) := HV12.out.serve HT.out ⟨P, (none, 0, 0), []⟩ (R.nil _ _) HPZ.out ((n : Int) + 1) ⟨by omega, by omega⟩
                    clear hb12 HV11 HQ HR11 q1
                    unfold rqv at HCS ⊢
                    go_wp2_with fail
                    go_at_call 11
                    refine HCS.out.mono ?_
                    rintro e w13 ⟨hb13, ⟨rn, ⟨rb, rl, rc⟩, rbd, rfs⟩, rfl, hR13, hIs1⟩
                    simp only at hR13
                    unfold rsv
                    simp only [sv]
                    obtain ⟨W14, hW14⟩ : ∃ W14, W14 = w13.alloc (.cells #[.int .i64 rn, .slice rb rl rc, .string rbd] 37) := ⟨_, rfl⟩
                    obtain ⟨n14, hn14⟩ : ∃ n14, n14 = w13.heap.size := ⟨_, rfl⟩
                    have hb14 : Below w12.heap.size w12 W14 := by rw [hW14]; exact hb13.trans ((bel1 _ _).mono hb13.size)
                    have HF14 : Hid (W14.heap[n14]? = some (.cells #[.int .i64 rn, .slice rb rl rc, .string rbd] 37 (0, 0))) := by show _ = _; rw [hW14, hn14, heap_al, if_pos rfl]
                    have HV14 : Hid (Vs w W14 lo g ps l n (yb, na, yc) (bx, mx, cx) A T9) := HV12.out.below hb14
                    have HQ14 : Hid (W14.heap[q]? = some (.cells #[.string aTest, .string P, .int .i64 200, .string V, .slice ub ul uc] 26 (0, 0))) := (hb14.block _ (heap_lt HQ12.out)).trans HQ12.out
                    have HR14 : Hid (R ECh W14 (sv (ub, ul, uc)) CL) := HR12.out.below hb14
                    have HE14 : Hid (R EFd W14 (sv (rb, rl, rc)) rfs) := by rw [hW14]; exact hR13.below (bel1 _ _)
                    have HIs1 : Hid (RpIs ⟨rn, (rb, rl, rc), rbd, rfs⟩ (FN (Fk l) ps n) ((n : Int) + 1) ⟨P, (none, 0, 0), []⟩) := hIs1
                    clear hb13 hb14 hR13 hIs1 HCS HV12 HQ12 HR12
                    go_upto_region 34 with fail
                    rw [← hW14, ← hn14]
                    clear hW14 hn14
                    have q0 := cell_blk HQ14.out 0
                    have q1 := cell_blk HQ14.out 1
                    have q2 := cell_blk HQ14.out 2
                    have q3 := cell_blk HQ14.out 3
                    have q4 := cell_blk HQ14.out 4
                    simp at q0 q1 q2 q3 q4
                    have CP : Hid (Calls Tryd.prog 14 #[.pointer (some ⟨g, 0, none⟩), .agg #[.string aTest, .string P, .int .i64 200, .string V, .slice ub ul uc]] W14 fun e w' => e = .returned (.int .i64 0) ∧ Kt W14 w' ∧ W14.heap.size ≤ w'.heap.size ∧ Vs w w' lo g ps l (n + 1) (yb, na, yc) (bx, mx, cx) A T9) := PUT.out W14 (bx, mx, cx) T9 HV14.out (ub, ul, uc) HR14.out
                    go_wp2_with fail
                    go_at_call 14
                    refine CP.out.mono ?_
                    rintro e w15 ⟨rfl, hkt, hsz, hV15⟩
                    have HV15 : Hid (Vs w w15 lo g ps l (n + 1) (yb, na, yc) (bx, mx, cx) A T9) := hV15
                    have HQ15 : Hid (w15.heap[q]? = some (.cells #[.string aTest, .string P, .int .i64 200, .string V, .slice ub ul uc] 26 (0, 0))) := (hkt q _ _ HQ14.out (by decide) (by decide)).trans HQ14.out
                    have HF15 : Hid (w15.heap[n14]? = some (.cells #[.int .i64 rn, .slice rb rl rc, .string rbd] 37 (0, 0))) := (hkt n14 _ _ HF14.out (by decide) (by decide)).trans HF14.out
                    have HE15 : Hid (R EFd w15 (sv (rb, rl, rc)) rfs) := HE14.out.kt hkt (by simp [EFd]) (by simp [EFd])
                    have CHA : Hid (Calls Tryd.prog 16 #[.pointer (some ⟨g, 0, none⟩), .int .i64 ((n : Int) + 1 + 1), .string aTest, .string P] w15 fun e w' => e = .returned (.bool true) ∧ Below w15.heap.size w15 w') := HAS.out w15 _ T9 HV15.out
                    clear hkt hsz hV15 CP PUT HV14 HQ14 HF14 HE14 HR14 q0 q1 q2 q3 q4 HAS
                    have q1 := cell_blk HQ15.out 1
                    simp at q1
                    unfold aTest at CHA
                    go_wp2_with fail
                    go_at_call 16
                    refine CHA.out.mono ?_
                    rintro e w16 ⟨rfl, hb16⟩
                    have HV16 : Hid (Vs w w16 lo g ps l (n + 1) (yb, na, yc) (bx, mx, cx) A T9) := HV15.out.below hb16
                    have HQ16 : Hid (w16.heap[q]? = some (.cells #[.string aTest, .string P, .int .i64 200, .string V, .slice ub ul uc] 26 (0, 0))) := (hb16.block _ (heap_lt HQ15.out)).trans HQ15.out
                    have HF16 : Hid (w16.heap[n14]? = some (.cells #[.int .i64 rn, .slice rb rl rc, .string rbd] 37 (0, 0))) := (hb16.block _ (heap_lt HF15.out)).trans HF15.out
                    have HE16 : Hid (R EFd w16 (sv (rb, rl, rc)) rfs) := HE15.out.below hb16
                    clear hb16 CHA HV15 HQ15 HF15 HE15 q1
                    have q1 := cell_blk HQ16.out 1
                    simp at q1
                    go_wp2_with fail
                    go_at_call 12
                    refine (CG.out _).mono ?_
                    rintro e w17 ⟨rfl, hb17⟩
                    have HV17 : Hid (Vs w w17 lo g ps l (n + 1) (yb, na, yc) (bx, mx, cx) A T9) := HV16.out.below hb17
                    have HF17 : Hid (w17.heap[n14]? = some (.cells #[.int .i64 rn, .slice rb rl rc, .string rbd] 37 (0, 0))) := (hb17.block _ (heap_lt HF16.out)).trans HF16.out
                    have HE17 : Hid (R EFd w17 (sv (rb, rl, rc)) rfs) := HE16.out.below hb17
                    have HCS : Hid (Calls Tryd.prog 11 #[.pointer (some ⟨g, 0, none⟩), .int .i64 ((n : Int) + 1), .agg (rqv getS httpsS aTest P (.slice none 0 0) e0S)] w17 fun e w' => Below w17.heap.size w17 w' ∧ ∃ r : Rp, e = .returned (.tuple #[.agg (rsv r.n (sv r.y) r.b), .int .i64 0]) ∧ R EFd w' (sv r.y) r.l ∧ RpIs r (FN (Fk l) ps (n + 1)) ((n : Int) + 1) ⟨P, (none, 0, 0), []⟩) := HV17.out.serve HT.out ⟨P, (none, 0, 0), []⟩ (R.nil _ _) HPZ.out ((n : Int) + 1) ⟨by omega, by omega⟩
                    clear hb17 HV16 HQ16 HF16 HE16 q1 CG
                    unfold rqv at HCS ⊢
                    go_wp2_with fail
                    go_at_call 11
                    refine HCS.out.mono ?_
                    rintro e w18 ⟨hb18, ⟨sn, ⟨sb', sl', sc'⟩, sbd, sfs⟩, rfl, hR18, hIs2⟩
                    obtain ⟨t1, t2, t3⟩ := HIs1.out.same hIs2 (FN_at (Fk l) ps n (n + 1) (by omega) _).symm
                    simp only at t1 t2 t3 hR18
                    subst t1 t2 t3
                    unfold rsv
                    simp only [sv]
                    obtain ⟨W19, hW19⟩ : ∃ W19, W19 = w18.alloc (.cells #[.int .i64 rn, .slice sb' sl' sc', .string rbd] 37) := ⟨_, rfl⟩
                    obtain ⟨n19, hn19⟩ : ∃ n19, n19 = w18.heap.size := ⟨_, rfl⟩
                    have hb19 : Below w17.heap.size w17 W19 := by rw [hW19]; exact hb18.trans ((bel1 _ _).mono hb18.size)
                    have hF19 : W19.heap[n19]? = some (.cells #[.int .i64 rn, .slice sb' sl' sc', .string rbd] 37 (0, 0)) := by rw [hW19, hn19, heap_al, if_pos rfl]
                    have hF17 := (hb19.block _ (heap_lt HF17.out)).trans HF17.out
                    have HV19 : Hid (Vs w W19 lo g ps l (n + 1) (yb, na, yc) (bx, mx, cx) A T9) := HV17.out.below hb19
                    have CSM : Hid (Calls Tryd.prog 20 #[.agg #[.int .i64 rn, .slice rb rl rc, .string rbd], .agg #[.int .i64 rn, .slice sb' sl' sc', .string rbd]] W19 fun e w' => e = .returned (.bool true) ∧ Below W19.heap.size W19 w') := same_eq rn rbd (rb, rl, rc) (sb', sl', sc') rfs W19 (HE17.out.below hb19).isIn (by rw [hW19]; exact (hR18.below (bel1 _ _)).isIn)
                    have a0 := cell_blk hF17 0
                    have a1 := cell_blk hF17 1
                    have a2 := cell_blk hF17 2
                    have b0 := cell_blk hF19 0
                    have b1 := cell_blk hF19 1
                    have b2 := cell_blk hF19 2
                    simp at a0 a1 a2 b0 b1 b2
                    clear hb18 hR18 hIs2 HCS hb19 hF19 hF17 HV17 HF17 HE17 HIs1
                    go_upto_region 37 with fail
                    rw [← hW19, ← hn19]
                    clear hW19 hn19
                    go_wp2_with fail
                    go_at_call 20
                    refine CSM.out.mono ?_
                    rintro e w20 ⟨rfl, hb20⟩
                    have HE : Hid (VsE w w20 lo g ps l (min (n + 1) ps.length) (yb, na, yc) A (.slice bx mx cx) (n + 1)) := by
                      rw [Nat.min_eq_left (by omega)]
                      exact ⟨(bx, mx, cx), T9, rfl, HV19.out.below hb20, HT9.out⟩
                    clear hb20 CSM a0 a1 a2 b0 b1 b2
                    go_wp2_with fail
                    go_roundw
                    case rel => exact ⟨n + 1, by simp, by omega, HE.out⟩
                    case measure => simp [intOf]; omega
                  · have l5 : ¬ (n : Int) < (ps.length : Int) := by omega
                    have HE : Hid (VsE w w9 lo g ps l (min (n + 1) ps.length) (yb, na, yc) A (.slice bx mx cx) (n + 1)) := by
                      rw [Nat.min_eq_right (by omega)]
                      have : n = ps.length := by omega
                      exact ⟨(bx, mx, cx), T9, rfl, by rw [← this]; exact HV9.out, HT9.out⟩
                    clear hlt5
                    go_wp2_with (at_builtin; refine Lib.wpList_append_run _ rfl _ _ _ _ rfl _ _ rfl rfl _ _ HRUN.out ?_)
                    go_roundw
                    case rel => exact ⟨n + 1, by simp, by omega, HE.out⟩
                    case measure => simp [intOf]; omega
            · have l3 : ¬ (n : Int) ≤ (ps.length : Int) := by omega
              rw [Nat.min_eq_right (by omega)] at hV'
              have hV : Hid (Vs w wr lo g ps l ps.length (yb, na, yc) (tb, tl, tc) A T) := hV'
              have HTD : Hid (TD ps l A T ∧ T.length = ps.length + 1) := ⟨hTD, by omega⟩
              clear hV' hTD hTl hlt
              have HVE : Hid (Vs w wr lo g ps l ps.length (yb, na, yc) (tb, tl, tc) A T) := hV
              clear hV
              go_wp2_with fail
              go_loopw [24, 25, 26, 27] (fun nv _ _ _ wr => ∃ n : Nat, nv = .int .i64 (n : Int) ∧ n ≤ ps.length + 1 ∧ Hid (Vs w wr lo g ps l ps.length (yb, na, yc) (tb, tl, tc) A T)) (fun nv _ _ _ _ => ps.length + 1 - (intOf nv).toNat)
              case atStart => exact ⟨0, rfl, by omega, HVE.out⟩
              case round =>
                clear HVE hn l3
                obtain ⟨n, rfl, hn, hV⟩ := hrel
                have hn9 : n ≤ 1048577 := by have := HZ1.out; omega
                by_cases hlt : n ≤ ps.length
                · have l3 : (n : Int) ≤ (ps.length : Int) := by omega
                  have HN : Hid (n ≤ ps.length) := hlt
                  obtain ⟨wn, hwn⟩ : ∃ wn, wn = wr := ⟨_, rfl⟩
                  subst hwn
                  go_wp2_with fail
                  go_loopw [25, 26, 27] (fun iv _ _ wr => ∃ i : Nat, iv = .int .i64 (i : Int) ∧ i ≤ na ∧ Hid (Vs w wr lo g ps l ps.length (yb, na, yc) (tb, tl, tc) A T)) (fun iv _ _ _ => na - (intOf iv).toNat)
                  case atStart => exact ⟨0, rfl, by omega, hV.out⟩
                  case round =>
                    clear hV
                    obtain ⟨i, rfl, hi, hV⟩ := hrel
                    by_cases hlt6 : i < na
                    · have l6 : (i : Int) < (na : Int) := by omega
                      have hi9 : i ≤ 2097152 := by have := HA2.out; have := HNA.out; omega
                      have hiA : i < A.length := by have := HNA.out; omega
                      obtain ⟨Ba, aoff, cap, e, hBa, hc⟩ := hV.out.ask.1.isIn.get okRq i hiA
                      simp only [sv] at e
                      injection e with e1 e2 e3
                      clear e2 e3
                      subst e1
                      have hask := hV.out.ask.2 A[i] (List.getElem_mem _)
                      obtain ⟨B, off, Bz, zoff, zl, zc, rr, etb, etl, hizl, hIsT, hTold⟩ := hV.out.told' HTD.out.1 n i (by rw [HTD.out.2]; omega) hiA
                      subst etb
                      have HTN : Hid (∀ m, m < T.length → ∃ (Bz zoff zl zc : Nat) (r : Rp), i < zl ∧ RpIs r (FN (Fk l) ps m) ((m : Int) + 1) A[i] ∧ ∀ V, Below wr.heap.size wr V → V.cell? ⟨B, off + m, none⟩ = some (.slice (some ⟨Bz, zoff, none⟩) zl zc) ∧ V.cell? ⟨Bz, zoff + i * 3, none⟩ = some (.int .i64 r.n) ∧ V.cell? ⟨Bz, zoff + i * 3 + 1, none⟩ = some (sv r.y) ∧ V.cell? ⟨Bz, zoff + i * 3 + 2, none⟩ = some (.string r.b) ∧ In EFd V (sv r.y) r.l) := fun m hm => by
                        obtain ⟨B', off', Bz, zoff, zl, zc, r, e1, _, q1, q2, q3⟩ := hV.out.told' HTD.out.1 m i hm hiA
                        injection e1 with e1
                        injection e1 with e1 e2
                        subst e1 e2
                        exact ⟨Bz, zoff, zl, zc, r, q1, q2, q3⟩
                      have htl : Hid (tl = ps.length + 1) := by show _ = _; rw [etl]; exact HTD.out.2
                      obtain ⟨x, hx⟩ : ∃ x, A[i] = x := ⟨_, rfl⟩
                      rw [hx] at hc hask hIsT HTN
                      have CS := hV.out.serve HT.out x hask.1 hask.2 ((n : Int) + 1) ⟨by omega, by omega⟩
                      obtain ⟨P, ⟨fb, fl, fc⟩, fs⟩ := x
                      have c0 := hc 0 (.string getS) rfl
                      have c1 := hc 1 (.string httpsS) rfl
                      have c2 := hc 2 (.string aTest) rfl
                      have c3 := hc 3 (.string P) rfl
                      have c4 := hc 4 (.slice fb fl fc) rfl
                      have c5 := hc 5 (.string e0S) rfl
                      simp only [ERq, Nat.add_zero] at c0 c1 c2 c3 c4 c5
                      have HC3 : Hid (∀ V, Below wr.heap.size wr V → V.cell? ⟨Ba, aoff + i * 6 + 3, none⟩ = some (.string P)) := fun V hV' => (hV'.cell (p := ⟨Ba, aoff + i * 6 + 3, none⟩) hBa).trans c3
                      unfold rqv at CS
                      simp only [sv] at CS
                      have HCS : Hid (Calls Tryd.prog 11 #[.pointer (some ⟨g, 0, none⟩), .int .i64 ((n : Int) + 1), .agg #[.string getS, .string httpsS, .string aTest, .string P, .slice fb fl fc, .string e0S]] wr fun e w' => Below wr.heap.size wr w' ∧ ∃ r : Rp, e = .returned (.tuple #[.agg (rsv r.n (sv r.y) r.b), .int .i64 0]) ∧ R EFd w' (sv r.y) r.l ∧ RpIs r (FN (Fk l) ps ps.length) ((n : Int) + 1) ⟨P, (fb, fl, fc), fs⟩) := CS
                      have HIsT : Hid (RpIs rr (FN (Fk l) ps n) ((n : Int) + 1) ⟨P, (fb, fl, fc), fs⟩) := hIsT
                      have HTO : Hid (∀ V, Below wr.heap.size wr V → V.cell? ⟨B, off + n, none⟩ = some (.slice (some ⟨Bz, zoff, none⟩) zl zc) ∧ V.cell? ⟨Bz, zoff + i * 3, none⟩ = some (.int .i64 rr.n) ∧ V.cell? ⟨Bz, zoff + i * 3 + 1, none⟩ = some (sv rr.y) ∧ V.cell? ⟨Bz, zoff + i * 3 + 2, none⟩ = some (.string rr.b) ∧ In EFd V (sv rr.y) rr.l) := hTold
                      have hzl : (i : Int) < (zl : Int) := by omega
                      clear CS hc hx hask hBa hiA hIsT hTold etl hizl
                      go_wp2_with fail
                      go_at_call 11
                      refine HCS.out.mono ?_
                      rintro e w5 ⟨hb5, ⟨rn, ⟨rb, rl, rc⟩, rbd, rfs⟩, rfl, hR5, hIs⟩
                      have HISR : Hid (RpIs ⟨rn, (rb, rl, rc), rbd, rfs⟩ (FN (Fk l) ps ps.length) ((n : Int) + 1) ⟨P, (fb, fl, fc), fs⟩) := hIs
                      obtain ⟨t1, t2, t3⟩ := hIs.same HIsT.out (FN_at (Fk l) ps n ps.length HN.out _)
                      obtain ⟨zn', ⟨sb, sl, sc⟩, zbd, zfs⟩ := rr
                      simp only at t1 t2 t3 hR5
                      subst t1 t2 t3
                      unfold rsv
                      simp only [sv] at HTO ⊢
                      obtain ⟨W6, hW6⟩ : ∃ W6, W6 = w5.alloc (.cells #[.int .i64 rn, .slice rb rl rc, .string rbd] 37) := ⟨_, rfl⟩
                      obtain ⟨n6, hn6⟩ : ∃ n6, n6 = w5.heap.size := ⟨_, rfl⟩
                      have hb6 : Below wr.heap.size wr W6 := by rw [hW6]; exact hb5.trans ((bel1 _ _).mono hb5.size)
                      have HB6 : Hid (Below wr.heap.size wr W6) := hb6
                      have HF6 : Hid (W6.heap[n6]? = some (.cells #[.int .i64 rn, .slice rb rl rc, .string rbd] 37 (0, 0))) := by show _ = _; rw [hW6, hn6, heap_al, if_pos rfl]
                      have HV6 : Hid (Vs w W6 lo g ps l ps.length (some ⟨Ba, aoff, none⟩, na, yc) (some ⟨B, off, none⟩, tl, tc) A T) := hV.out.below hb6
                      have HE6 : Hid (R EFd W6 (sv (rb, rl, rc)) rfs) := by rw [hW6]; exact hR5.below (bel1 _ _)
                      have HSM : Hid (∀ V, Below W6.heap.size W6 V → Calls Tryd.prog 20 #[.agg #[.int .i64 rn, .slice rb rl rc, .string rbd], .agg #[.int .i64 rn, .slice sb sl sc, .string rbd]] V fun e w' => e = .returned (.bool true) ∧ Below V.heap.size V w') := fun V hV' => same_eq rn rbd (rb, rl, rc) (sb, sl, sc) rfs V (HE6.out.below hV').isIn (HTO.out V (HB6.out.trans (hV'.mono HB6.out.size))).2.2.2.2
                      have hCell : Hid (∀ V, Below W6.heap.size W6 V → V.cell? ⟨n6, 0, none⟩ = some (.int .i64 rn) ∧ V.cell? ⟨n6, 1, none⟩ = some (.slice rb rl rc) ∧ V.cell? ⟨n6, 2, none⟩ = some (.string rbd) ∧ V.cell? ⟨B, off + n, none⟩ = some (.slice (some ⟨Bz, zoff, none⟩) zl zc) ∧ V.cell? ⟨Bz, zoff + i * 3, none⟩ = some (.int .i64 rn) ∧ V.cell? ⟨Bz, zoff + i * 3 + 1, none⟩ = some (.slice sb sl sc) ∧ V.cell? ⟨Bz, zoff + i * 3 + 2, none⟩ = some (.string rbd)) := fun V hV' => by
                        have hf := (hV'.block _ (heap_lt HF6.out)).trans HF6.out
                        have ho := HTO.out V (HB6.out.trans (hV'.mono HB6.out.size))
                        exact ⟨cell_blk hf 0, cell_blk hf 1, cell_blk hf 2, ho.1, ho.2.1, ho.2.2.1, ho.2.2.2.1⟩
                      have hnt : (n : Int) < (tl : Int) := by have := htl.out; have := HN.out; omega
                      clear hb5 hb6 hR5 hIs HCS c0 c1 c2 c3 c4 c5 hV
                      go_upto_region 46 with fail
                      rw [← hW6, ← hn6]
                      clear hW6 hn6
                      have hbW : Below W6.heap.size W6 W6.drew := (Below.refl _ _).drew
                      refine wp_region_held_drew (S := (fun V => V.cell? ⟨n6, 0, none⟩ = some (.int .i64 rn) ∧ V.cell? ⟨n6, 1, none⟩ = some (.slice rb rl rc) ∧ V.cell? ⟨n6, 2, none⟩ = some (.string rbd) ∧ V.cell? ⟨B, off + n, none⟩ = some (.slice (some ⟨Bz, zoff, none⟩) zl zc) ∧ V.cell? ⟨Bz, zoff + i * 3, none⟩ = some (.int .i64 rn) ∧ V.cell? ⟨Bz, zoff + i * 3 + 1, none⟩ = some (.slice sb sl sc) ∧ V.cell? ⟨Bz, zoff + i * 3 + 2, none⟩ = some (.string rbd))) (by kernel_rfl) (hCell.out _ hbW) (fun hHeld => ?_)
                      generalize hWg : World.drew _ = W at hbW hHeld ⊢
                      clear hWg
                      refine wpAnyH_take (i := 0) (oi := { dst := some 184, op := Op.move (Operand.tmp 27), type := 31, pos := "outright.go:130", after := #[], guard := none }) (v := ?vv53) rfl (by kernel_rfl) (by kernel_rfl) (by kernel_rfl) (fun _ _ _ h => h) (Or.inl ⟨by rfl, ?hy53⟩) (by assumption) ?_
                      case hy53 => (intro w hSw; (try dsimp only at hSw); go_simp; all_goals with_reducible rfl)
                      try simp only [Act.put, List.setIfInBounds_toArray, List.set_cons_zero, List.set_cons_succ]
                      refine wpAnyH_take (i := 1) (oi := { dst := some 185, op := Op.binOp BinOp.neq 31 (Operand.tmp 184) (Operand.const (Value.int IntKind.i64 0)) 31, type := 4, pos := "outright.go:130", after := #[{ on := 0, ground := Ground.data }], guard := none }) (v := ?vv54) rfl (by kernel_rfl) (by kernel_rfl) (by kernel_rfl) (fun _ _ _ h => h) (Or.inl ⟨by rfl, ?hy54⟩) (by assumption) ?_
                      case hy54 => (intro w hSw; (try dsimp only at hSw); go_simp; all_goals with_reducible rfl)
                      try simp only [Act.put, List.setIfInBounds_toArray, List.set_cons_zero, List.set_cons_succ]
                      refine wpAnyH_take (i := 2) (oi := { dst := some 186, op := Op.move (Operand.tmp 185), type := 4, pos := "outright.go:130", after := #[{ on := 1, ground := Ground.data }], guard := none }) (v := ?vv55) rfl (by kernel_rfl) (by kernel_rfl) (by kernel_rfl) (fun _ _ _ h => h) (Or.inl ⟨by rfl, ?hy55⟩) (by assumption) ?_
                      case hy55 => (intro w hSw; (try dsimp only at hSw); go_simp; all_goals with_reducible rfl)
                      try simp only [Act.put, List.setIfInBounds_toArray, List.set_cons_zero, List.set_cons_succ]
                      refine wpAnyH_take (i := 3) (oi := { dst := some 187, op := Op.load 37 (Operand.tmp 26), type := 37, pos := "outright.go:130", after := #[{ on := 2, ground := Ground.guard }], guard := some (2, false) }) (v := ?vv56) rfl (by kernel_rfl) (by kernel_rfl) (by kernel_rfl) (fun _ _ _ h => h) (Or.inl ⟨by rfl, ?hy56⟩) (by assumption) ?_
                      case hy56 => (intro w hSw; (try dsimp only at hSw); go_simp; all_goals with_reducible rfl)
                      try simp only [Act.put, List.setIfInBounds_toArray, List.set_cons_zero, List.set_cons_succ]
                      refine wpAnyH_take (i := 4) (oi := { dst := some 188, op := Op.move (Operand.tmp 13), type := 55, pos := "outright.go:130", after := #[{ on := 2, ground := Ground.guard }], guard := some (2, false) }) (v := ?vv57) rfl (by kernel_rfl) (by kernel_rfl) (by kernel_rfl) (fun _ _ _ h => h) (Or.inl ⟨by rfl, ?hy57⟩) (by assumption) ?_
                      case hy57 => (intro w hSw; (try dsimp only at hSw); go_simp; all_goals with_reducible rfl)
                      try simp only [Act.put, List.setIfInBounds_toArray, List.set_cons_zero, List.set_cons_succ]
                      refine wpAnyH_take (i := 5) (oi := { dst := some 189, op := Op.move (Operand.tmp 24), type := 3, pos := "outright.go:130", after := #[{ on := 2, ground := Ground.guard }], guard := some (2, false) }) (v := ?vv58) rfl (by kernel_rfl) (by kernel_rfl) (by kernel_rfl) (fun _ _ _ h => h) (Or.inl ⟨by rfl, ?hy58⟩) (by assumption) ?_
                      case hy58 => (intro w hSw; (try dsimp only at hSw); go_simp; all_goals with_reducible rfl)
                      try simp only [Act.put, List.setIfInBounds_toArray, List.set_cons_zero, List.set_cons_succ]
                      refine wpAnyH_take (i := 6) (oi := { dst := some 190, op := Op.indexAddr 55 (Operand.tmp 188) (Operand.tmp 189), type := 0, pos := "outright.go:130", after := #[{ on := 4, ground := Ground.data }, { on := 5, ground := Ground.data }, { on := 2, ground := Ground.guard }], guard := some (2, false) }) (v := ?vv59) rfl (by kernel_rfl) (by kernel_rfl) (by kernel_rfl) (fun _ _ _ h => h) (Or.inl ⟨by rfl, ?hy59⟩) (by assumption) ?_
                      case hy59 => (intro w hSw; (try dsimp only at hSw); go_simp; all_goals with_reducible rfl)
                      try simp only [Act.put, List.setIfInBounds_toArray, List.set_cons_zero, List.set_cons_succ]
                      refine wpAnyH_take (i := 7) (oi := { dst := some 191, op := Op.load 56 (Operand.tmp 190), type := 56, pos := "outright.go:130", after := #[{ on := 6, ground := Ground.data }, { on := 2, ground := Ground.guard }], guard := some (2, false) }) (v := ?vv60) rfl (by kernel_rfl) (by kernel_rfl) (by kernel_rfl) (fun _ _ _ h => h) (Or.inl ⟨by rfl, ?hy60⟩) (by assumption) ?_
                      case hy60 => (intro w hSw; (try dsimp only at hSw); go_simp; all_goals with_reducible rfl)
                      try simp only [Act.put, List.setIfInBounds_toArray, List.set_cons_zero, List.set_cons_succ]
                      refine wpAnyH_take (i := 8) (oi := { dst := some 192, op := Op.move (Operand.tmp 25), type := 3, pos := "outright.go:130", after := #[{ on := 2, ground := Ground.guard }], guard := some (2, false) }) (v := ?vv61) rfl (by kernel_rfl) (by kernel_rfl) (by kernel_rfl) (fun _ _ _ h => h) (Or.inl ⟨by rfl, ?hy61⟩) (by assumption) ?_
                      case hy61 => (intro w hSw; (try dsimp only at hSw); go_simp; all_goals with_reducible rfl)
                      try simp only [Act.put, List.setIfInBounds_toArray, List.set_cons_zero, List.set_cons_succ]
                      refine wpAnyH_take (i := 9) (oi := { dst := some 193, op := Op.indexAddr 56 (Operand.tmp 191) (Operand.tmp 192), type := 0, pos := "outright.go:130", after := #[{ on := 7, ground := Ground.data }, { on := 8, ground := Ground.data }, { on := 2, ground := Ground.guard }], guard := some (2, false) }) (v := ?vv62) rfl (by kernel_rfl) (by kernel_rfl) (by kernel_rfl) (fun _ _ _ h => h) (Or.inl ⟨by rfl, ?hy62⟩) (by assumption) ?_
                      case hy62 => (intro w hSw; (try dsimp only at hSw); go_simp; all_goals with_reducible rfl)
                      try simp only [Act.put, List.setIfInBounds_toArray, List.set_cons_zero, List.set_cons_succ]
                      refine wpAnyH_take (i := 10) (oi := { dst := some 194, op := Op.load 37 (Operand.tmp 193), type := 37, pos := "outright.go:130", after := #[{ on := 9, ground := Ground.data }, { on := 2, ground := Ground.guard }], guard := some (2, false) }) (v := ?vv63) rfl (by kernel_rfl) (by kernel_rfl) (by kernel_rfl) (fun _ _ _ h => h) (Or.inl ⟨by rfl, ?hy63⟩) (by assumption) ?_
                      case hy63 => (intro w hSw; (try dsimp only at hSw); go_simp; all_goals with_reducible rfl)
                      try simp only [Act.put, List.setIfInBounds_toArray, List.set_cons_zero, List.set_cons_succ]
                      refine wpAnyH_ready (rs := [11]) (by kernel_rfl) (by simp) ?_
                      refine AllReadyH.cons (o := { dst := some 195, op := Op.call { callee := Callee.value (Operand.func 20), args := #[Operand.tmp 187, Operand.tmp 194], argTypes := #[37, 37] }, type := 4, pos := "outright.go:130", after := #[{ on := 3, ground := Ground.data }, { on := 10, ground := Ground.data }, { on := 2, ground := Ground.chain }, { on := 2, ground := Ground.guard }], guard := some (2, false) }) rfl (fun K hK => ?_) AllReadyH.nil
                      go_simp
                      refine (HSM.out _ hbW).mono ?_
                      rintro e' Wx ⟨rfl, bX⟩
                      have hbWx : Below W6.heap.size W6 Wx := hbW.trans (bX.mono hbW.size)
                      clear bX
                      go_wp2_with fail
                      refine hK.out _ _ (hCell.out _ hbWx) (fun hHeld => ?_)
                      clear hK K
                      try simp only [Act.put, List.setIfInBounds_toArray, List.set_cons_zero, List.set_cons_succ]
                      refine wpAnyH_take (i := 12) (oi := { dst := some 196, op := Op.unOp UnOp.not 4 (Operand.tmp 195), type := 4, pos := "outright.go:130", after := #[{ on := 11, ground := Ground.data }, { on := 2, ground := Ground.guard }], guard := some (2, false) }) (v := ?vv64) rfl (by kernel_rfl) (by kernel_rfl) (by kernel_rfl) (fun _ _ _ h => h) (Or.inl ⟨by rfl, ?hy64⟩) (by assumption) ?_
                      case hy64 => (intro w hSw; (try dsimp only at hSw); go_simp; all_goals with_reducible rfl)
                      try simp only [Act.put, List.setIfInBounds_toArray, List.set_cons_zero, List.set_cons_succ]
                      refine wpAnyH_take (i := 13) (oi := { dst := some 197, op := Op.pick (Operand.tmp 186) (Operand.const (Value.bool true)) (Operand.tmp 196), type := 4, pos := "outright.go:130", after := #[{ on := 2, ground := Ground.data }, { on := 12, ground := Ground.data }], guard := none }) (v := ?vv65) rfl (by kernel_rfl) (by kernel_rfl) (by kernel_rfl) (fun _ _ _ h => h) (Or.inl ⟨by rfl, ?hy65⟩) (by assumption) ?_
                      case hy65 => (intro w hSw; (try dsimp only at hSw); go_simp; all_goals with_reducible rfl)
                      try simp only [Act.put, List.setIfInBounds_toArray, List.set_cons_zero, List.set_cons_succ]
                      refine wpAnyH_done (by kernel_rfl) ?_ _
                      go_upto_region 48 with fail
                      clear hCell HSM hnt hzl HTO
                      by_cases hn0 : n = 0
                      · subst hn0
                        have hbW : Below W6.heap.size W6 Wx.drew := hbWx.drew
                        refine wp_region_held_drew (S := (fun V => True)) (by kernel_rfl) (trivial) (fun hHeld => ?_)
                        generalize hWg : World.drew _ = W at hbW hHeld ⊢
                        clear hWg
                        refine wpAnyH_take (i := 0) (oi := { dst := some 198, op := Op.move (Operand.tmp 24), type := 3, pos := "outright.go:133", after := #[], guard := none }) (v := ?vv1) rfl (by kernel_rfl) (by kernel_rfl) (by kernel_rfl) (fun _ _ _ h => h) (Or.inl ⟨by rfl, ?hy1⟩) (by assumption) ?_
                        case hy1 => (intro w hSw; (try dsimp only at hSw); go_simp; all_goals with_reducible rfl)
                        try simp only [Act.put, List.setIfInBounds_toArray, List.set_cons_zero, List.set_cons_succ]
                        refine wpAnyH_take (i := 1) (oi := { dst := some 199, op := Op.binOp BinOp.gtr 3 (Operand.tmp 198) (Operand.const (Value.int IntKind.i64 0)) 3, type := 4, pos := "outright.go:133", after := #[{ on := 0, ground := Ground.data }], guard := none }) (v := ?vv2) rfl (by kernel_rfl) (by kernel_rfl) (by kernel_rfl) (fun _ _ _ h => h) (Or.inl ⟨by rfl, ?hy2⟩) (by assumption) ?_
                        case hy2 => (intro w hSw; (try dsimp only at hSw); go_simp; all_goals with_reducible rfl)
                        try simp only [Act.put, List.setIfInBounds_toArray, List.set_cons_zero, List.set_cons_succ]
                        refine wpAnyH_take (i := 2) (oi := { dst := some 200, op := Op.move (Operand.tmp 199), type := 4, pos := "outright.go:133", after := #[{ on := 1, ground := Ground.data }], guard := none }) (v := ?vv3) rfl (by kernel_rfl) (by kernel_rfl) (by kernel_rfl) (fun _ _ _ h => h) (Or.inl ⟨by rfl, ?hy3⟩) (by assumption) ?_
                        case hy3 => (intro w hSw; (try dsimp only at hSw); go_simp; all_goals with_reducible rfl)
                        try simp only [Act.put, List.setIfInBounds_toArray, List.set_cons_zero, List.set_cons_succ]
                        refine wpAnyH_take (i := 3) (oi := { dst := some 201, op := Op.move (Operand.tmp 10), type := 53, pos := "outright.go:133", after := #[{ on := 2, ground := Ground.guard }], guard := some (2, true) }) (v := undef) rfl (by kernel_rfl) (by kernel_rfl) (by kernel_rfl) (fun _ _ _ h => h) (Or.inr ⟨by rfl, rfl⟩) (by assumption) ?_
                        try simp only [Act.put, List.setIfInBounds_toArray, List.set_cons_zero, List.set_cons_succ]
                        refine wpAnyH_take (i := 4) (oi := { dst := some 202, op := Op.move (Operand.tmp 25), type := 3, pos := "outright.go:133", after := #[{ on := 2, ground := Ground.guard }], guard := some (2, true) }) (v := undef) rfl (by kernel_rfl) (by kernel_rfl) (by kernel_rfl) (fun _ _ _ h => h) (Or.inr ⟨by rfl, rfl⟩) (by assumption) ?_
                        try simp only [Act.put, List.setIfInBounds_toArray, List.set_cons_zero, List.set_cons_succ]
                        refine wpAnyH_take (i := 5) (oi := { dst := some 203, op := Op.indexAddr 53 (Operand.tmp 201) (Operand.tmp 202), type := 0, pos := "outright.go:133", after := #[{ on := 3, ground := Ground.data }, { on := 4, ground := Ground.data }, { on := 2, ground := Ground.guard }], guard := some (2, true) }) (v := undef) rfl (by kernel_rfl) (by kernel_rfl) (by kernel_rfl) (fun _ _ _ h => h) (Or.inr ⟨by rfl, rfl⟩) (by assumption) ?_
                        try simp only [Act.put, List.setIfInBounds_toArray, List.set_cons_zero, List.set_cons_succ]
                        refine wpAnyH_take (i := 6) (oi := { dst := some 204, op := Op.fieldAddr 41 (Operand.tmp 203) 3, type := 0, pos := "outright.go:133", after := #[{ on := 5, ground := Ground.data }, { on := 2, ground := Ground.guard }], guard := some (2, true) }) (v := undef) rfl (by kernel_rfl) (by kernel_rfl) (by kernel_rfl) (fun _ _ _ h => h) (Or.inr ⟨by rfl, rfl⟩) (by assumption) ?_
                        try simp only [Act.put, List.setIfInBounds_toArray, List.set_cons_zero, List.set_cons_succ]
                        refine wpAnyH_take (i := 7) (oi := { dst := some 205, op := Op.load 9 (Operand.tmp 204), type := 9, pos := "outright.go:133", after := #[{ on := 6, ground := Ground.data }, { on := 2, ground := Ground.guard }], guard := some (2, true) }) (v := undef) rfl (by kernel_rfl) (by kernel_rfl) (by kernel_rfl) (fun _ _ _ h => h) (Or.inr ⟨by rfl, rfl⟩) (by assumption) ?_
                        try simp only [Act.put, List.setIfInBounds_toArray, List.set_cons_zero, List.set_cons_succ]
                        refine wpAnyH_take (i := 8) (oi := { dst := some 206, op := Op.move (Operand.tmp 1), type := 34, pos := "outright.go:133", after := #[{ on := 2, ground := Ground.guard }], guard := some (2, true) }) (v := undef) rfl (by kernel_rfl) (by kernel_rfl) (by kernel_rfl) (fun _ _ _ h => h) (Or.inr ⟨by rfl, rfl⟩) (by assumption) ?_
                        try simp only [Act.put, List.setIfInBounds_toArray, List.set_cons_zero, List.set_cons_succ]
                        refine wpAnyH_take (i := 9) (oi := { dst := some 207, op := Op.move (Operand.tmp 24), type := 3, pos := "outright.go:133", after := #[{ on := 2, ground := Ground.guard }], guard := some (2, true) }) (v := undef) rfl (by kernel_rfl) (by kernel_rfl) (by kernel_rfl) (fun _ _ _ h => h) (Or.inr ⟨by rfl, rfl⟩) (by assumption) ?_
                        try simp only [Act.put, List.setIfInBounds_toArray, List.set_cons_zero, List.set_cons_succ]
                        refine wpAnyH_take (i := 10) (oi := { dst := some 208, op := Op.binOp BinOp.sub 3 (Operand.tmp 207) (Operand.const (Value.int IntKind.i64 1)) 3, type := 3, pos := "outright.go:133", after := #[{ on := 9, ground := Ground.data }, { on := 2, ground := Ground.guard }], guard := some (2, true) }) (v := undef) rfl (by kernel_rfl) (by kernel_rfl) (by kernel_rfl) (fun _ _ _ h => h) (Or.inr ⟨by rfl, rfl⟩) (by assumption) ?_
                        try simp only [Act.put, List.setIfInBounds_toArray, List.set_cons_zero, List.set_cons_succ]
                        refine wpAnyH_take (i := 11) (oi := { dst := some 209, op := Op.indexAddr 34 (Operand.tmp 206) (Operand.tmp 208), type := 0, pos := "outright.go:133", after := #[{ on := 8, ground := Ground.data }, { on := 10, ground := Ground.data }, { on := 2, ground := Ground.guard }], guard := some (2, true) }) (v := undef) rfl (by kernel_rfl) (by kernel_rfl) (by kernel_rfl) (fun _ _ _ h => h) (Or.inr ⟨by rfl, rfl⟩) (by assumption) ?_
                        try simp only [Act.put, List.setIfInBounds_toArray, List.set_cons_zero, List.set_cons_succ]
                        refine wpAnyH_take (i := 12) (oi := { dst := some 210, op := Op.load 26 (Operand.tmp 209), type := 26, pos := "outright.go:133", after := #[{ on := 11, ground := Ground.data }, { on := 2, ground := Ground.guard }], guard := some (2, true) }) (v := undef) rfl (by kernel_rfl) (by kernel_rfl) (by kernel_rfl) (fun _ _ _ h => h) (Or.inr ⟨by rfl, rfl⟩) (by assumption) ?_
                        try simp only [Act.put, List.setIfInBounds_toArray, List.set_cons_zero, List.set_cons_succ]
                        refine wpAnyH_take (i := 13) (oi := { dst := some 211, op := Op.call { callee := Callee.value (Operand.func 19), args := #[Operand.tmp 210], argTypes := #[26] }, type := 26, pos := "outright.go:133", after := #[{ on := 12, ground := Ground.data }, { on := 2, ground := Ground.chain }, { on := 2, ground := Ground.guard }], guard := some (2, true) }) (v := undef) rfl (by kernel_rfl) (by kernel_rfl) (by kernel_rfl) (fun _ _ _ h => h) (Or.inr ⟨by rfl, rfl⟩) (by assumption) ?_
                        try simp only [Act.put, List.setIfInBounds_toArray, List.set_cons_zero, List.set_cons_succ]
                        refine wpAnyH_take (i := 14) (oi := { dst := some 212, op := Op.field 26 (Operand.tmp 211) 1, type := 9, pos := "outright.go:133", after := #[{ on := 13, ground := Ground.data }, { on := 2, ground := Ground.guard }], guard := some (2, true) }) (v := undef) rfl (by kernel_rfl) (by kernel_rfl) (by kernel_rfl) (fun _ _ _ h => h) (Or.inr ⟨by rfl, rfl⟩) (by assumption) ?_
                        try simp only [Act.put, List.setIfInBounds_toArray, List.set_cons_zero, List.set_cons_succ]
                        refine wpAnyH_take (i := 15) (oi := { dst := some 213, op := Op.binOp BinOp.neq 9 (Operand.tmp 205) (Operand.tmp 212) 9, type := 4, pos := "outright.go:133", after := #[{ on := 7, ground := Ground.data }, { on := 14, ground := Ground.data }, { on := 2, ground := Ground.guard }], guard := some (2, true) }) (v := undef) rfl (by kernel_rfl) (by kernel_rfl) (by kernel_rfl) (fun _ _ _ h => h) (Or.inr ⟨by rfl, rfl⟩) (by assumption) ?_
                        try simp only [Act.put, List.setIfInBounds_toArray, List.set_cons_zero, List.set_cons_succ]
                        refine wpAnyH_take (i := 16) (oi := { dst := some 214, op := Op.pick (Operand.tmp 200) (Operand.tmp 213) (Operand.const (Value.bool false)), type := 4, pos := "outright.go:133", after := #[{ on := 2, ground := Ground.data }, { on := 15, ground := Ground.data }], guard := none }) (v := ?vv4) rfl (by kernel_rfl) (by kernel_rfl) (by kernel_rfl) (fun _ _ _ h => h) (Or.inl ⟨by rfl, ?hy4⟩) (by assumption) ?_
                        case hy4 => (intro w hSw; (try dsimp only at hSw); go_simp; all_goals with_reducible rfl)
                        try simp only [Act.put, List.setIfInBounds_toArray, List.set_cons_zero, List.set_cons_succ]
                        refine wpAnyH_take (i := 17) (oi := { dst := some 215, op := Op.move (Operand.tmp 214), type := 4, pos := "outright.go:133", after := #[{ on := 16, ground := Ground.data }, { on := 13, ground := Ground.chain }], guard := none }) (v := ?vv5) rfl (by kernel_rfl) (by kernel_rfl) (by kernel_rfl) (fun _ _ _ h => h) (Or.inl ⟨by rfl, ?hy5⟩) (by assumption) ?_
                        case hy5 => (intro w hSw; (try dsimp only at hSw); go_simp; all_goals with_reducible rfl)
                        try simp only [Act.put, List.setIfInBounds_toArray, List.set_cons_zero, List.set_cons_succ]
                        refine wpAnyH_take (i := 18) (oi := { dst := some 216, op := Op.load 37 (Operand.tmp 26), type := 37, pos := "outright.go:133", after := #[{ on := 17, ground := Ground.guard }], guard := some (17, true) }) (v := undef) rfl (by kernel_rfl) (by kernel_rfl) (by kernel_rfl) (fun _ _ _ h => h) (Or.inr ⟨by rfl, rfl⟩) (by assumption) ?_
                        try simp only [Act.put, List.setIfInBounds_toArray, List.set_cons_zero, List.set_cons_succ]
                        refine wpAnyH_take (i := 19) (oi := { dst := some 217, op := Op.move (Operand.tmp 13), type := 55, pos := "outright.go:133", after := #[{ on := 17, ground := Ground.guard }], guard := some (17, true) }) (v := undef) rfl (by kernel_rfl) (by kernel_rfl) (by kernel_rfl) (fun _ _ _ h => h) (Or.inr ⟨by rfl, rfl⟩) (by assumption) ?_
                        try simp only [Act.put, List.setIfInBounds_toArray, List.set_cons_zero, List.set_cons_succ]
                        refine wpAnyH_take (i := 20) (oi := { dst := some 218, op := Op.move (Operand.tmp 24), type := 3, pos := "outright.go:133", after := #[{ on := 17, ground := Ground.guard }], guard := some (17, true) }) (v := undef) rfl (by kernel_rfl) (by kernel_rfl) (by kernel_rfl) (fun _ _ _ h => h) (Or.inr ⟨by rfl, rfl⟩) (by assumption) ?_
                        try simp only [Act.put, List.setIfInBounds_toArray, List.set_cons_zero, List.set_cons_succ]
                        refine wpAnyH_take (i := 21) (oi := { dst := some 219, op := Op.binOp BinOp.sub 3 (Operand.tmp 218) (Operand.const (Value.int IntKind.i64 1)) 3, type := 3, pos := "outright.go:133", after := #[{ on := 20, ground := Ground.data }, { on := 17, ground := Ground.guard }], guard := some (17, true) }) (v := undef) rfl (by kernel_rfl) (by kernel_rfl) (by kernel_rfl) (fun _ _ _ h => h) (Or.inr ⟨by rfl, rfl⟩) (by assumption) ?_
                        try simp only [Act.put, List.setIfInBounds_toArray, List.set_cons_zero, List.set_cons_succ]
                        refine wpAnyH_take (i := 22) (oi := { dst := some 220, op := Op.indexAddr 55 (Operand.tmp 217) (Operand.tmp 219), type := 0, pos := "outright.go:133", after := #[{ on := 19, ground := Ground.data }, { on := 21, ground := Ground.data }, { on := 17, ground := Ground.guard }], guard := some (17, true) }) (v := undef) rfl (by kernel_rfl) (by kernel_rfl) (by kernel_rfl) (fun _ _ _ h => h) (Or.inr ⟨by rfl, rfl⟩) (by assumption) ?_
                        try simp only [Act.put, List.setIfInBounds_toArray, List.set_cons_zero, List.set_cons_succ]
                        refine wpAnyH_take (i := 23) (oi := { dst := some 221, op := Op.load 56 (Operand.tmp 220), type := 56, pos := "outright.go:133", after := #[{ on := 22, ground := Ground.data }, { on := 17, ground := Ground.guard }], guard := some (17, true) }) (v := undef) rfl (by kernel_rfl) (by kernel_rfl) (by kernel_rfl) (fun _ _ _ h => h) (Or.inr ⟨by rfl, rfl⟩) (by assumption) ?_
                        try simp only [Act.put, List.setIfInBounds_toArray, List.set_cons_zero, List.set_cons_succ]
                        refine wpAnyH_take (i := 24) (oi := { dst := some 222, op := Op.move (Operand.tmp 25), type := 3, pos := "outright.go:133", after := #[{ on := 17, ground := Ground.guard }], guard := some (17, true) }) (v := undef) rfl (by kernel_rfl) (by kernel_rfl) (by kernel_rfl) (fun _ _ _ h => h) (Or.inr ⟨by rfl, rfl⟩) (by assumption) ?_
                        try simp only [Act.put, List.setIfInBounds_toArray, List.set_cons_zero, List.set_cons_succ]
                        refine wpAnyH_take (i := 25) (oi := { dst := some 223, op := Op.indexAddr 56 (Operand.tmp 221) (Operand.tmp 222), type := 0, pos := "outright.go:133", after := #[{ on := 23, ground := Ground.data }, { on := 24, ground := Ground.data }, { on := 17, ground := Ground.guard }], guard := some (17, true) }) (v := undef) rfl (by kernel_rfl) (by kernel_rfl) (by kernel_rfl) (fun _ _ _ h => h) (Or.inr ⟨by rfl, rfl⟩) (by assumption) ?_
                        try simp only [Act.put, List.setIfInBounds_toArray, List.set_cons_zero, List.set_cons_succ]
                        refine wpAnyH_take (i := 26) (oi := { dst := some 224, op := Op.load 37 (Operand.tmp 223), type := 37, pos := "outright.go:133", after := #[{ on := 25, ground := Ground.data }, { on := 17, ground := Ground.guard }], guard := some (17, true) }) (v := undef) rfl (by kernel_rfl) (by kernel_rfl) (by kernel_rfl) (fun _ _ _ h => h) (Or.inr ⟨by rfl, rfl⟩) (by assumption) ?_
                        try simp only [Act.put, List.setIfInBounds_toArray, List.set_cons_zero, List.set_cons_succ]
                        refine wpAnyH_take (i := 27) (oi := { dst := some 225, op := Op.call { callee := Callee.value (Operand.func 20), args := #[Operand.tmp 216, Operand.tmp 224], argTypes := #[37, 37] }, type := 4, pos := "outright.go:133", after := #[{ on := 18, ground := Ground.data }, { on := 26, ground := Ground.data }, { on := 17, ground := Ground.chain }, { on := 17, ground := Ground.guard }], guard := some (17, true) }) (v := undef) rfl (by kernel_rfl) (by kernel_rfl) (by kernel_rfl) (fun _ _ _ h => h) (Or.inr ⟨by rfl, rfl⟩) (by assumption) ?_
                        try simp only [Act.put, List.setIfInBounds_toArray, List.set_cons_zero, List.set_cons_succ]
                        refine wpAnyH_take (i := 28) (oi := { dst := some 226, op := Op.unOp UnOp.not 4 (Operand.tmp 225), type := 4, pos := "outright.go:133", after := #[{ on := 27, ground := Ground.data }, { on := 17, ground := Ground.guard }], guard := some (17, true) }) (v := undef) rfl (by kernel_rfl) (by kernel_rfl) (by kernel_rfl) (fun _ _ _ h => h) (Or.inr ⟨by rfl, rfl⟩) (by assumption) ?_
                        try simp only [Act.put, List.setIfInBounds_toArray, List.set_cons_zero, List.set_cons_succ]
                        refine wpAnyH_take (i := 29) (oi := { dst := some 227, op := Op.pick (Operand.tmp 215) (Operand.tmp 226) (Operand.const (Value.bool false)), type := 4, pos := "outright.go:133", after := #[{ on := 17, ground := Ground.data }, { on := 28, ground := Ground.data }], guard := none }) (v := ?vv6) rfl (by kernel_rfl) (by kernel_rfl) (by kernel_rfl) (fun _ _ _ h => h) (Or.inl ⟨by rfl, ?hy6⟩) (by assumption) ?_
                        case hy6 => (intro w hSw; (try dsimp only at hSw); go_simp; all_goals with_reducible rfl)
                        try simp only [Act.put, List.setIfInBounds_toArray, List.set_cons_zero, List.set_cons_succ]
                        refine wpAnyH_done (by kernel_rfl) ?_ _
                        go_wp2_with fail
                        go_roundw
                        case rel => exact ⟨i + 1, by simp, by omega, HV6.out.below hbW⟩
                        case measure => simp [intOf]; omega
                      · obtain ⟨m, hnm⟩ : ∃ m, n = m + 1 := ⟨n - 1, by omega⟩
                        have HNM : Hid (n = m + 1) := hnm
                        have hm1 : (0 : Int) < (n : Int) := by omega
                        have hm3 : 0 < n := by omega
                        have hm2 : (n : Int) - 1 = (m : Int) := by omega
                        have hwm : IntKind.i64.wrap (m : Int) = (m : Int) := by rw [IntKind.wrap_i64]; omega
                        have hmp : m < ps.length := by have := HN.out; omega
                        have hmp' : (m : Int) < (ps.length : Int) := by omega
                        clear hnm hn0
                        obtain ⟨Bk, poff, pcap, e, hc⟩ := HI1.out.pg m hmp
                        injection e with e1 e2 e3
                        clear e2 e3
                        subst e1
                        have hBW6 : Below w.heap.size w W6 := HV6.out.bel
                        have HRTX : ∀ V, Below W6.heap.size W6 V → Calls Tryd.prog 19 #[.agg (pgv ps[m].1)] V fun e w' => RtP ps[m].1 ps[m].2 V e w' := fun V hV' => right_any ps[m].1 ps[m].2 V ((HC1.out ps[m] (List.getElem_mem _)).below (hBW6.trans (hV'.mono hBW6.size))) (HT.out.below (hBW6.trans (hV'.mono hBW6.size)))
                        unfold RtP at HRTX
                        have HCP : ∀ V, Below W6.heap.size W6 V → _ := fun V hV' => hc V (hBW6.trans (hV'.mono hBW6.size))
                        obtain ⟨PP, hPP⟩ : ∃ PP, rtP ps[m].1.p = PP := ⟨_, rfl⟩
                        obtain ⟨VV, hVV⟩ : ∃ VV, rtV (rtK ps[m].1.n) = VV := ⟨_, rfl⟩
                        obtain ⟨CL, hCL⟩ : ∃ CL, rtL ps[m].1.n ps[m].2 = CL := ⟨_, rfl⟩
                        rw [hPP, hVV, hCL] at HRTX
                        have HPT : Hid (ptT ps[m] = (aTest, PP)) := by show _ = _; unfold ptT; rw [hPP]
                        obtain ⟨z, hz⟩ : ∃ z, ps[m] = z := ⟨_, rfl⟩
                        simp only [hz] at HCP HRTX
                        obtain ⟨⟨za, zp, zn, zv, yb1, yl1, yc1⟩, zch⟩ := z
                        unfold pgv at HRTX
                        simp only [sv] at HCP HRTX
                        have HRT : Hid (∀ V, Below W6.heap.size W6 V → Calls Tryd.prog 19 #[.agg #[.string za, .string zp, .int .i64 zn, .string zv, .slice yb1 yl1 yc1]] V fun e w' => ∃ y : SV, e = .returned (.agg #[.string aTest, .string PP, .int .i64 200, .string VV, sv y]) ∧ Below V.heap.size V w' ∧ R ECh w' (sv y) CL ∧ ∀ k, (sv y).ownBlock = some k → V.heap.size ≤ k) := HRTX
                        have HPG : Hid (∀ V, Below W6.heap.size W6 V → V.cell? ⟨Bk, poff + m * 5, none⟩ = some (.string za) ∧ V.cell? ⟨Bk, poff + m * 5 + 1, none⟩ = some (.string zp) ∧ V.cell? ⟨Bk, poff + m * 5 + 2, none⟩ = some (.int .i64 zn) ∧ V.cell? ⟨Bk, poff + m * 5 + 3, none⟩ = some (.string zv) ∧ V.cell? ⟨Bk, poff + m * 5 + 4, none⟩ = some (.slice yb1 yl1 yc1)) := HCP
                        clear HRTX HCP hPP hVV hCL hc hBW6 hz
                        cases hpp : (P.toList == PP.toList)
                        · obtain ⟨Bz', zoff', zl', zc', r2, hz1, hz2, hz3⟩ := HTN.out m (by rw [HTD.out.2]; have := HNM.out; omega)
                          obtain ⟨t1, t2, t3⟩ := HISR.out.same hz2 (by
                            rw [FN_at (Fk l) ps n ps.length HN.out]
                            have e := HNM.out
                            rw [e]
                            refine FN_other (Fk l) ps m hmp _ (fun e => ?_) (FN_ver l ps m _)
                            rw [HPT.out] at e
                            have := congrArg Prod.snd e
                            simp only at this
                            rw [this] at hpp
                            simp at hpp)
                          obtain ⟨zn2, ⟨sb2, sl2, sc2⟩, zbd2, zfs2⟩ := r2
                          simp only at t1 t2 t3
                          subst t1 t2 t3
                          simp only [sv] at hz3
                          have HSM : Hid (∀ V, Below W6.heap.size W6 V → Calls Tryd.prog 20 #[.agg #[.int .i64 rn, .slice rb rl rc, .string rbd], .agg #[.int .i64 rn, .slice sb2 sl2 sc2, .string rbd]] V fun e w' => e = .returned (.bool true) ∧ Below V.heap.size V w') := fun V hV' => same_eq rn rbd (rb, rl, rc) (sb2, sl2, sc2) rfs V (HE6.out.below hV').isIn (hz3 V (HB6.out.trans (hV'.mono HB6.out.size))).2.2.2.2
                          have hCell : Hid (∀ V, Below W6.heap.size W6 V → V.cell? ⟨n6, 0, none⟩ = some (.int .i64 rn) ∧ V.cell? ⟨n6, 1, none⟩ = some (.slice rb rl rc) ∧ V.cell? ⟨n6, 2, none⟩ = some (.string rbd) ∧ V.cell? ⟨B, off + m, none⟩ = some (.slice (some ⟨Bz', zoff', none⟩) zl' zc') ∧ V.cell? ⟨Bz', zoff' + i * 3, none⟩ = some (.int .i64 rn) ∧ V.cell? ⟨Bz', zoff' + i * 3 + 1, none⟩ = some (.slice sb2 sl2 sc2) ∧ V.cell? ⟨Bz', zoff' + i * 3 + 2, none⟩ = some (.string rbd) ∧ V.cell? ⟨Ba, aoff + i * 6 + 3, none⟩ = some (.string P) ∧ V.cell? ⟨Bk, poff + m * 5, none⟩ = some (.string za) ∧ V.cell? ⟨Bk, poff + m * 5 + 1, none⟩ = some (.string zp) ∧ V.cell? ⟨Bk, poff + m * 5 + 2, none⟩ = some (.int .i64 zn) ∧ V.cell? ⟨Bk, poff + m * 5 + 3, none⟩ = some (.string zv) ∧ V.cell? ⟨Bk, poff + m * 5 + 4, none⟩ = some (.slice yb1 yl1 yc1)) := fun V hV' => by
                            have hf := (hV'.block _ (heap_lt HF6.out)).trans HF6.out
                            have ho := hz3 V (HB6.out.trans (hV'.mono HB6.out.size))
                            exact ⟨cell_blk hf 0, cell_blk hf 1, cell_blk hf 2, ho.1, ho.2.1, ho.2.2.1, ho.2.2.2.1, HC3.out V (HB6.out.trans (hV'.mono HB6.out.size)), HPG.out V hV'⟩
                          have hzl : (i : Int) < (zl' : Int) := by omega
                          have hnt : (m : Int) < (tl : Int) := by have := htl.out; have := HNM.out; omega
                          clear hz1 hz2 hz3
                          have hbW : Below W6.heap.size W6 Wx.drew := hbWx.drew
                          refine wp_region_held_drew (S := (fun V => V.cell? ⟨n6, 0, none⟩ = some (.int .i64 rn) ∧ V.cell? ⟨n6, 1, none⟩ = some (.slice rb rl rc) ∧ V.cell? ⟨n6, 2, none⟩ = some (.string rbd) ∧ V.cell? ⟨B, off + m, none⟩ = some (.slice (some ⟨Bz', zoff', none⟩) zl' zc') ∧ V.cell? ⟨Bz', zoff' + i * 3, none⟩ = some (.int .i64 rn) ∧ V.cell? ⟨Bz', zoff' + i * 3 + 1, none⟩ = some (.slice sb2 sl2 sc2) ∧ V.cell? ⟨Bz', zoff' + i * 3 + 2, none⟩ = some (.string rbd) ∧ V.cell? ⟨Ba, aoff + i * 6 + 3, none⟩ = some (.string P) ∧ V.cell? ⟨Bk, poff + m * 5, none⟩ = some (.string za) ∧ V.cell? ⟨Bk, poff + m * 5 + 1, none⟩ = some (.string zp) ∧ V.cell? ⟨Bk, poff + m * 5 + 2, none⟩ = some (.int .i64 zn) ∧ V.cell? ⟨Bk, poff + m * 5 + 3, none⟩ = some (.string zv) ∧ V.cell? ⟨Bk, poff + m * 5 + 4, none⟩ = some (.slice yb1 yl1 yc1))) (by kernel_rfl) (hCell.out _ hbW) (fun hHeld => ?_)
                          generalize hWg : World.drew _ = W at hbW hHeld ⊢
                          clear hWg
                          refine wpAnyH_take (i := 0) (oi := { dst := some 198, op := Op.move (Operand.tmp 24), type := 3, pos := "outright.go:133", after := #[], guard := none }) (v := ?vv25) rfl (by kernel_rfl) (by kernel_rfl) (by kernel_rfl) (fun _ _ _ h => h) (Or.inl ⟨by rfl, ?hy25⟩) (by assumption) ?_
                          case hy25 => (intro w hSw; (try dsimp only at hSw); go_simp; all_goals with_reducible rfl)
                          try simp only [Act.put, List.setIfInBounds_toArray, List.set_cons_zero, List.set_cons_succ]
                          refine wpAnyH_take (i := 1) (oi := { dst := some 199, op := Op.binOp BinOp.gtr 3 (Operand.tmp 198) (Operand.const (Value.int IntKind.i64 0)) 3, type := 4, pos := "outright.go:133", after := #[{ on := 0, ground := Ground.data }], guard := none }) (v := ?vv26) rfl (by kernel_rfl) (by kernel_rfl) (by kernel_rfl) (fun _ _ _ h => h) (Or.inl ⟨by rfl, ?hy26⟩) (by assumption) ?_
                          case hy26 => (intro w hSw; (try dsimp only at hSw); go_simp; all_goals with_reducible rfl)
                          try simp only [Act.put, List.setIfInBounds_toArray, List.set_cons_zero, List.set_cons_succ]
                          refine wpAnyH_take (i := 2) (oi := { dst := some 200, op := Op.move (Operand.tmp 199), type := 4, pos := "outright.go:133", after := #[{ on := 1, ground := Ground.data }], guard := none }) (v := ?vv27) rfl (by kernel_rfl) (by kernel_rfl) (by kernel_rfl) (fun _ _ _ h => h) (Or.inl ⟨by rfl, ?hy27⟩) (by assumption) ?_
                          case hy27 => (intro w hSw; (try dsimp only at hSw); go_simp; all_goals with_reducible rfl)
                          try simp only [Act.put, List.setIfInBounds_toArray, List.set_cons_zero, List.set_cons_succ]
                          refine wpAnyH_take (i := 3) (oi := { dst := some 201, op := Op.move (Operand.tmp 10), type := 53, pos := "outright.go:133", after := #[{ on := 2, ground := Ground.guard }], guard := some (2, true) }) (v := ?vv28) rfl (by kernel_rfl) (by kernel_rfl) (by kernel_rfl) (fun _ _ _ h => h) (Or.inl ⟨by rfl, ?hy28⟩) (by assumption) ?_
                          case hy28 => (intro w hSw; (try dsimp only at hSw); go_simp; all_goals with_reducible rfl)
                          try simp only [Act.put, List.setIfInBounds_toArray, List.set_cons_zero, List.set_cons_succ]
                          refine wpAnyH_take (i := 4) (oi := { dst := some 202, op := Op.move (Operand.tmp 25), type := 3, pos := "outright.go:133", after := #[{ on := 2, ground := Ground.guard }], guard := some (2, true) }) (v := ?vv29) rfl (by kernel_rfl) (by kernel_rfl) (by kernel_rfl) (fun _ _ _ h => h) (Or.inl ⟨by rfl, ?hy29⟩) (by assumption) ?_
                          case hy29 => (intro w hSw; (try dsimp only at hSw); go_simp; all_goals with_reducible rfl)
                          try simp only [Act.put, List.setIfInBounds_toArray, List.set_cons_zero, List.set_cons_succ]
                          refine wpAnyH_take (i := 5) (oi := { dst := some 203, op := Op.indexAddr 53 (Operand.tmp 201) (Operand.tmp 202), type := 0, pos := "outright.go:133", after := #[{ on := 3, ground := Ground.data }, { on := 4, ground := Ground.data }, { on := 2, ground := Ground.guard }], guard := some (2, true) }) (v := ?vv30) rfl (by kernel_rfl) (by kernel_rfl) (by kernel_rfl) (fun _ _ _ h => h) (Or.inl ⟨by rfl, ?hy30⟩) (by assumption) ?_
                          case hy30 => (intro w hSw; (try dsimp only at hSw); go_simp; all_goals with_reducible rfl)
                          try simp only [Act.put, List.setIfInBounds_toArray, List.set_cons_zero, List.set_cons_succ]
                          refine wpAnyH_take (i := 6) (oi := { dst := some 204, op := Op.fieldAddr 41 (Operand.tmp 203) 3, type := 0, pos := "outright.go:133", after := #[{ on := 5, ground := Ground.data }, { on := 2, ground := Ground.guard }], guard := some (2, true) }) (v := ?vv31) rfl (by kernel_rfl) (by kernel_rfl) (by kernel_rfl) (fun _ _ _ h => h) (Or.inl ⟨by rfl, ?hy31⟩) (by assumption) ?_
                          case hy31 => (intro w hSw; (try dsimp only at hSw); go_simp; all_goals with_reducible rfl)
                          try simp only [Act.put, List.setIfInBounds_toArray, List.set_cons_zero, List.set_cons_succ]
                          refine wpAnyH_take (i := 7) (oi := { dst := some 205, op := Op.load 9 (Operand.tmp 204), type := 9, pos := "outright.go:133", after := #[{ on := 6, ground := Ground.data }, { on := 2, ground := Ground.guard }], guard := some (2, true) }) (v := ?vv32) rfl (by kernel_rfl) (by kernel_rfl) (by kernel_rfl) (fun _ _ _ h => h) (Or.inl ⟨by rfl, ?hy32⟩) (by assumption) ?_
                          case hy32 => (intro w hSw; (try dsimp only at hSw); go_simp; all_goals with_reducible rfl)
                          try simp only [Act.put, List.setIfInBounds_toArray, List.set_cons_zero, List.set_cons_succ]
                          refine wpAnyH_take (i := 8) (oi := { dst := some 206, op := Op.move (Operand.tmp 1), type := 34, pos := "outright.go:133", after := #[{ on := 2, ground := Ground.guard }], guard := some (2, true) }) (v := ?vv33) rfl (by kernel_rfl) (by kernel_rfl) (by kernel_rfl) (fun _ _ _ h => h) (Or.inl ⟨by rfl, ?hy33⟩) (by assumption) ?_
                          case hy33 => (intro w hSw; (try dsimp only at hSw); go_simp; all_goals with_reducible rfl)
                          try simp only [Act.put, List.setIfInBounds_toArray, List.set_cons_zero, List.set_cons_succ]
                          refine wpAnyH_take (i := 9) (oi := { dst := some 207, op := Op.move (Operand.tmp 24), type := 3, pos := "outright.go:133", after := #[{ on := 2, ground := Ground.guard }], guard := some (2, true) }) (v := ?vv34) rfl (by kernel_rfl) (by kernel_rfl) (by kernel_rfl) (fun _ _ _ h => h) (Or.inl ⟨by rfl, ?hy34⟩) (by assumption) ?_
                          case hy34 => (intro w hSw; (try dsimp only at hSw); go_simp; all_goals with_reducible rfl)
                          try simp only [Act.put, List.setIfInBounds_toArray, List.set_cons_zero, List.set_cons_succ]
                          refine wpAnyH_take (i := 10) (oi := { dst := some 208, op := Op.binOp BinOp.sub 3 (Operand.tmp 207) (Operand.const (Value.int IntKind.i64 1)) 3, type := 3, pos := "outright.go:133", after := #[{ on := 9, ground := Ground.data }, { on := 2, ground := Ground.guard }], guard := some (2, true) }) (v := ?vv35) rfl (by kernel_rfl) (by kernel_rfl) (by kernel_rfl) (fun _ _ _ h => h) (Or.inl ⟨by rfl, ?hy35⟩) (by assumption) ?_
                          case hy35 => (intro w hSw; (try dsimp only at hSw); go_simp; all_goals with_reducible rfl)
                          try simp only [Act.put, List.setIfInBounds_toArray, List.set_cons_zero, List.set_cons_succ]
                          refine wpAnyH_take (i := 11) (oi := { dst := some 209, op := Op.indexAddr 34 (Operand.tmp 206) (Operand.tmp 208), type := 0, pos := "outright.go:133", after := #[{ on := 8, ground := Ground.data }, { on := 10, ground := Ground.data }, { on := 2, ground := Ground.guard }], guard := some (2, true) }) (v := ?vv36) rfl (by kernel_rfl) (by kernel_rfl) (by kernel_rfl) (fun _ _ _ h => h) (Or.inl ⟨by rfl, ?hy36⟩) (by assumption) ?_
                          case hy36 => (intro w hSw; (try dsimp only at hSw); go_simp; all_goals with_reducible rfl)
                          try simp only [Act.put, List.setIfInBounds_toArray, List.set_cons_zero, List.set_cons_succ]
                          refine wpAnyH_take (i := 12) (oi := { dst := some 210, op := Op.load 26 (Operand.tmp 209), type := 26, pos := "outright.go:133", after := #[{ on := 11, ground := Ground.data }, { on := 2, ground := Ground.guard }], guard := some (2, true) }) (v := ?vv37) rfl (by kernel_rfl) (by kernel_rfl) (by kernel_rfl) (fun _ _ _ h => h) (Or.inl ⟨by rfl, ?hy37⟩) (by assumption) ?_
                          case hy37 => (intro w hSw; (try dsimp only at hSw); go_simp; all_goals with_reducible rfl)
                          try simp only [Act.put, List.setIfInBounds_toArray, List.set_cons_zero, List.set_cons_succ]
                          refine wpAnyH_ready (rs := [13]) (by kernel_rfl) (by simp) ?_
                          refine AllReadyH.cons (o := { dst := some 211, op := Op.call { callee := Callee.value (Operand.func 19), args := #[Operand.tmp 210], argTypes := #[26] }, type := 26, pos := "outright.go:133", after := #[{ on := 12, ground := Ground.data }, { on := 2, ground := Ground.chain }, { on := 2, ground := Ground.guard }], guard := some (2, true) }) rfl (fun K hK => ?_) AllReadyH.nil
                          go_simp
                          refine (HRT.out _ hbW).mono ?_
                          rintro e' Wx ⟨⟨ub, ul, uc⟩, rfl, bX, hq1, hq2⟩
                          have hbWx : Below W6.heap.size W6 Wx := hbW.trans (bX.mono hbW.size)
                          clear bX hq1 hq2
                          simp only [sv]
                          go_wp2_with fail
                          refine hK.out _ _ (hCell.out _ hbWx) (fun hHeld => ?_)
                          clear hK K
                          have hfl := fun w => field26 aTest PP VV 200 ub ul uc w
                          try simp only [Act.put, List.setIfInBounds_toArray, List.set_cons_zero, List.set_cons_succ]
                          refine wpAnyH_take (i := 14) (oi := { dst := some 212, op := Op.field 26 (Operand.tmp 211) 1, type := 9, pos := "outright.go:133", after := #[{ on := 13, ground := Ground.data }, { on := 2, ground := Ground.guard }], guard := some (2, true) }) (v := ?vv38) rfl (by kernel_rfl) (by kernel_rfl) (by kernel_rfl) (fun _ _ _ h => h) (Or.inl ⟨by rfl, ?hy38⟩) (by assumption) ?_
                          case hy38 => (intro w hSw; (try dsimp only at hSw); go_simp; all_goals with_reducible rfl)
                          try simp only [Act.put, List.setIfInBounds_toArray, List.set_cons_zero, List.set_cons_succ]
                          refine wpAnyH_take (i := 15) (oi := { dst := some 213, op := Op.binOp BinOp.neq 9 (Operand.tmp 205) (Operand.tmp 212) 9, type := 4, pos := "outright.go:133", after := #[{ on := 7, ground := Ground.data }, { on := 14, ground := Ground.data }, { on := 2, ground := Ground.guard }], guard := some (2, true) }) (v := ?vv39) rfl (by kernel_rfl) (by kernel_rfl) (by kernel_rfl) (fun _ _ _ h => h) (Or.inl ⟨by rfl, ?hy39⟩) (by assumption) ?_
                          case hy39 => (intro w hSw; (try dsimp only at hSw); go_simp; all_goals with_reducible rfl)
                          try simp only [Act.put, List.setIfInBounds_toArray, List.set_cons_zero, List.set_cons_succ]
                          refine wpAnyH_take (i := 16) (oi := { dst := some 214, op := Op.pick (Operand.tmp 200) (Operand.tmp 213) (Operand.const (Value.bool false)), type := 4, pos := "outright.go:133", after := #[{ on := 2, ground := Ground.data }, { on := 15, ground := Ground.data }], guard := none }) (v := ?vv40) rfl (by kernel_rfl) (by kernel_rfl) (by kernel_rfl) (fun _ _ _ h => h) (Or.inl ⟨by rfl, ?hy40⟩) (by assumption) ?_
                          case hy40 => (intro w hSw; (try dsimp only at hSw); go_simp; all_goals with_reducible rfl)
                          try simp only [Act.put, List.setIfInBounds_toArray, List.set_cons_zero, List.set_cons_succ]
                          refine wpAnyH_take (i := 17) (oi := { dst := some 215, op := Op.move (Operand.tmp 214), type := 4, pos := "outright.go:133", after := #[{ on := 16, ground := Ground.data }, { on := 13, ground := Ground.chain }], guard := none }) (v := ?vv41) rfl (by kernel_rfl) (by kernel_rfl) (by kernel_rfl) (fun _ _ _ h => h) (Or.inl ⟨by rfl, ?hy41⟩) (by assumption) ?_
                          case hy41 => (intro w hSw; (try dsimp only at hSw); go_simp; all_goals with_reducible rfl)
                          try simp only [Act.put, List.setIfInBounds_toArray, List.set_cons_zero, List.set_cons_succ]
                          refine wpAnyH_take (i := 18) (oi := { dst := some 216, op := Op.load 37 (Operand.tmp 26), type := 37, pos := "outright.go:133", after := #[{ on := 17, ground := Ground.guard }], guard := some (17, true) }) (v := ?vv42) rfl (by kernel_rfl) (by kernel_rfl) (by kernel_rfl) (fun _ _ _ h => h) (Or.inl ⟨by rfl, ?hy42⟩) (by assumption) ?_
                          case hy42 => (intro w hSw; (try dsimp only at hSw); go_simp; all_goals with_reducible rfl)
                          try simp only [Act.put, List.setIfInBounds_toArray, List.set_cons_zero, List.set_cons_succ]
                          refine wpAnyH_take (i := 19) (oi := { dst := some 217, op := Op.move (Operand.tmp 13), type := 55, pos := "outright.go:133", after := #[{ on := 17, ground := Ground.guard }], guard := some (17, true) }) (v := ?vv43) rfl (by kernel_rfl) (by kernel_rfl) (by kernel_rfl) (fun _ _ _ h => h) (Or.inl ⟨by rfl, ?hy43⟩) (by assumption) ?_
                          case hy43 => (intro w hSw; (try dsimp only at hSw); go_simp; all_goals with_reducible rfl)
                          try simp only [Act.put, List.setIfInBounds_toArray, List.set_cons_zero, List.set_cons_succ]
                          refine wpAnyH_take (i := 20) (oi := { dst := some 218, op := Op.move (Operand.tmp 24), type := 3, pos := "outright.go:133", after := #[{ on := 17, ground := Ground.guard }], guard := some (17, true) }) (v := ?vv44) rfl (by kernel_rfl) (by kernel_rfl) (by kernel_rfl) (fun _ _ _ h => h) (Or.inl ⟨by rfl, ?hy44⟩) (by assumption) ?_
                          case hy44 => (intro w hSw; (try dsimp only at hSw); go_simp; all_goals with_reducible rfl)
                          try simp only [Act.put, List.setIfInBounds_toArray, List.set_cons_zero, List.set_cons_succ]
                          refine wpAnyH_take (i := 21) (oi := { dst := some 219, op := Op.binOp BinOp.sub 3 (Operand.tmp 218) (Operand.const (Value.int IntKind.i64 1)) 3, type := 3, pos := "outright.go:133", after := #[{ on := 20, ground := Ground.data }, { on := 17, ground := Ground.guard }], guard := some (17, true) }) (v := ?vv45) rfl (by kernel_rfl) (by kernel_rfl) (by kernel_rfl) (fun _ _ _ h => h) (Or.inl ⟨by rfl, ?hy45⟩) (by assumption) ?_
                          case hy45 => (intro w hSw; (try dsimp only at hSw); go_simp; all_goals with_reducible rfl)
                          try simp only [Act.put, List.setIfInBounds_toArray, List.set_cons_zero, List.set_cons_succ]
                          refine wpAnyH_take (i := 22) (oi := { dst := some 220, op := Op.indexAddr 55 (Operand.tmp 217) (Operand.tmp 219), type := 0, pos := "outright.go:133", after := #[{ on := 19, ground := Ground.data }, { on := 21, ground := Ground.data }, { on := 17, ground := Ground.guard }], guard := some (17, true) }) (v := ?vv46) rfl (by kernel_rfl) (by kernel_rfl) (by kernel_rfl) (fun _ _ _ h => h) (Or.inl ⟨by rfl, ?hy46⟩) (by assumption) ?_
                          case hy46 => (intro w hSw; (try dsimp only at hSw); go_simp; all_goals with_reducible rfl)
                          try simp only [Act.put, List.setIfInBounds_toArray, List.set_cons_zero, List.set_cons_succ]
                          refine wpAnyH_take (i := 23) (oi := { dst := some 221, op := Op.load 56 (Operand.tmp 220), type := 56, pos := "outright.go:133", after := #[{ on := 22, ground := Ground.data }, { on := 17, ground := Ground.guard }], guard := some (17, true) }) (v := ?vv47) rfl (by kernel_rfl) (by kernel_rfl) (by kernel_rfl) (fun _ _ _ h => h) (Or.inl ⟨by rfl, ?hy47⟩) (by assumption) ?_
                          case hy47 => (intro w hSw; (try dsimp only at hSw); go_simp; all_goals with_reducible rfl)
                          try simp only [Act.put, List.setIfInBounds_toArray, List.set_cons_zero, List.set_cons_succ]
                          refine wpAnyH_take (i := 24) (oi := { dst := some 222, op := Op.move (Operand.tmp 25), type := 3, pos := "outright.go:133", after := #[{ on := 17, ground := Ground.guard }], guard := some (17, true) }) (v := ?vv48) rfl (by kernel_rfl) (by kernel_rfl) (by kernel_rfl) (fun _ _ _ h => h) (Or.inl ⟨by rfl, ?hy48⟩) (by assumption) ?_
                          case hy48 => (intro w hSw; (try dsimp only at hSw); go_simp; all_goals with_reducible rfl)
                          try simp only [Act.put, List.setIfInBounds_toArray, List.set_cons_zero, List.set_cons_succ]
                          refine wpAnyH_take (i := 25) (oi := { dst := some 223, op := Op.indexAddr 56 (Operand.tmp 221) (Operand.tmp 222), type := 0, pos := "outright.go:133", after := #[{ on := 23, ground := Ground.data }, { on := 24, ground := Ground.data }, { on := 17, ground := Ground.guard }], guard := some (17, true) }) (v := ?vv49) rfl (by kernel_rfl) (by kernel_rfl) (by kernel_rfl) (fun _ _ _ h => h) (Or.inl ⟨by rfl, ?hy49⟩) (by assumption) ?_
                          case hy49 => (intro w hSw; (try dsimp only at hSw); go_simp; all_goals with_reducible rfl)
                          try simp only [Act.put, List.setIfInBounds_toArray, List.set_cons_zero, List.set_cons_succ]
                          refine wpAnyH_take (i := 26) (oi := { dst := some 224, op := Op.load 37 (Operand.tmp 223), type := 37, pos := "outright.go:133", after := #[{ on := 25, ground := Ground.data }, { on := 17, ground := Ground.guard }], guard := some (17, true) }) (v := ?vv50) rfl (by kernel_rfl) (by kernel_rfl) (by kernel_rfl) (fun _ _ _ h => h) (Or.inl ⟨by rfl, ?hy50⟩) (by assumption) ?_
                          case hy50 => (intro w hSw; (try dsimp only at hSw); go_simp; all_goals with_reducible rfl)
                          try simp only [Act.put, List.setIfInBounds_toArray, List.set_cons_zero, List.set_cons_succ]
                          refine wpAnyH_ready (rs := [27]) (by kernel_rfl) (by simp) ?_
                          refine AllReadyH.cons (o := { dst := some 225, op := Op.call { callee := Callee.value (Operand.func 20), args := #[Operand.tmp 216, Operand.tmp 224], argTypes := #[37, 37] }, type := 4, pos := "outright.go:133", after := #[{ on := 18, ground := Ground.data }, { on := 26, ground := Ground.data }, { on := 17, ground := Ground.chain }, { on := 17, ground := Ground.guard }], guard := some (17, true) }) rfl (fun K hK => ?_) AllReadyH.nil
                          go_simp
                          refine (HSM.out _ hbWx).mono ?_
                          rintro e' Wxx ⟨rfl, bX⟩
                          have hbWxx : Below W6.heap.size W6 Wxx := hbWx.trans (bX.mono hbWx.size)
                          clear bX
                          go_wp2_with fail
                          refine hK.out _ _ (hCell.out _ hbWxx) (fun hHeld => ?_)
                          clear hK K
                          try simp only [Act.put, List.setIfInBounds_toArray, List.set_cons_zero, List.set_cons_succ]
                          refine wpAnyH_take (i := 28) (oi := { dst := some 226, op := Op.unOp UnOp.not 4 (Operand.tmp 225), type := 4, pos := "outright.go:133", after := #[{ on := 27, ground := Ground.data }, { on := 17, ground := Ground.guard }], guard := some (17, true) }) (v := ?vv51) rfl (by kernel_rfl) (by kernel_rfl) (by kernel_rfl) (fun _ _ _ h => h) (Or.inl ⟨by rfl, ?hy51⟩) (by assumption) ?_
                          case hy51 => (intro w hSw; (try dsimp only at hSw); go_simp; all_goals with_reducible rfl)
                          try simp only [Act.put, List.setIfInBounds_toArray, List.set_cons_zero, List.set_cons_succ]
                          refine wpAnyH_take (i := 29) (oi := { dst := some 227, op := Op.pick (Operand.tmp 215) (Operand.tmp 226) (Operand.const (Value.bool false)), type := 4, pos := "outright.go:133", after := #[{ on := 17, ground := Ground.data }, { on := 28, ground := Ground.data }], guard := none }) (v := ?vv52) rfl (by kernel_rfl) (by kernel_rfl) (by kernel_rfl) (fun _ _ _ h => h) (Or.inl ⟨by rfl, ?hy52⟩) (by assumption) ?_
                          case hy52 => (intro w hSw; (try dsimp only at hSw); go_simp; all_goals with_reducible rfl)
                          try simp only [Act.put, List.setIfInBounds_toArray, List.set_cons_zero, List.set_cons_succ]
                          refine wpAnyH_done (by kernel_rfl) ?_ _
                          clear hfl hwm hm2 hm1 hm3 hmp hmp' hpp HRT HPG HPT hHeld hCell
                          clear hzl hnt HSM
                          go_wp2_with fail
                          go_roundw
                          case rel => exact ⟨i + 1, by simp, by omega, HV6.out.below hbWxx⟩
                          case measure => simp [intOf]; omega
                        · have hCell : Hid (∀ V, Below W6.heap.size W6 V → V.cell? ⟨Ba, aoff + i * 6 + 3, none⟩ = some (.string P) ∧ V.cell? ⟨Bk, poff + m * 5, none⟩ = some (.string za) ∧ V.cell? ⟨Bk, poff + m * 5 + 1, none⟩ = some (.string zp) ∧ V.cell? ⟨Bk, poff + m * 5 + 2, none⟩ = some (.int .i64 zn) ∧ V.cell? ⟨Bk, poff + m * 5 + 3, none⟩ = some (.string zv) ∧ V.cell? ⟨Bk, poff + m * 5 + 4, none⟩ = some (.slice yb1 yl1 yc1)) := fun V hV' => ⟨HC3.out V (HB6.out.trans (hV'.mono HB6.out.size)), HPG.out V hV'⟩
                          have hbW : Below W6.heap.size W6 Wx.drew := hbWx.drew
                          refine wp_region_held_drew (S := (fun V => V.cell? ⟨Ba, aoff + i * 6 + 3, none⟩ = some (.string P) ∧ V.cell? ⟨Bk, poff + m * 5, none⟩ = some (.string za) ∧ V.cell? ⟨Bk, poff + m * 5 + 1, none⟩ = some (.string zp) ∧ V.cell? ⟨Bk, poff + m * 5 + 2, none⟩ = some (.int .i64 zn) ∧ V.cell? ⟨Bk, poff + m * 5 + 3, none⟩ = some (.string zv) ∧ V.cell? ⟨Bk, poff + m * 5 + 4, none⟩ = some (.slice yb1 yl1 yc1))) (by kernel_rfl) (hCell.out _ hbW) (fun hHeld => ?_)
                          generalize hWg : World.drew _ = W at hbW hHeld ⊢
                          clear hWg
                          refine wpAnyH_take (i := 0) (oi := { dst := some 198, op := Op.move (Operand.tmp 24), type := 3, pos := "outright.go:133", after := #[], guard := none }) (v := ?vv7) rfl (by kernel_rfl) (by kernel_rfl) (by kernel_rfl) (fun _ _ _ h => h) (Or.inl ⟨by rfl, ?hy7⟩) (by assumption) ?_
                          case hy7 => (intro w hSw; (try dsimp only at hSw); go_simp; all_goals with_reducible rfl)
                          try simp only [Act.put, List.setIfInBounds_toArray, List.set_cons_zero, List.set_cons_succ]
                          refine wpAnyH_take (i := 1) (oi := { dst := some 199, op := Op.binOp BinOp.gtr 3 (Operand.tmp 198) (Operand.const (Value.int IntKind.i64 0)) 3, type := 4, pos := "outright.go:133", after := #[{ on := 0, ground := Ground.data }], guard := none }) (v := ?vv8) rfl (by kernel_rfl) (by kernel_rfl) (by kernel_rfl) (fun _ _ _ h => h) (Or.inl ⟨by rfl, ?hy8⟩) (by assumption) ?_
                          case hy8 => (intro w hSw; (try dsimp only at hSw); go_simp; all_goals with_reducible rfl)
                          try simp only [Act.put, List.setIfInBounds_toArray, List.set_cons_zero, List.set_cons_succ]
                          refine wpAnyH_take (i := 2) (oi := { dst := some 200, op := Op.move (Operand.tmp 199), type := 4, pos := "outright.go:133", after := #[{ on := 1, ground := Ground.data }], guard := none }) (v := ?vv9) rfl (by kernel_rfl) (by kernel_rfl) (by kernel_rfl) (fun _ _ _ h => h) (Or.inl ⟨by rfl, ?hy9⟩) (by assumption) ?_
                          case hy9 => (intro w hSw; (try dsimp only at hSw); go_simp; all_goals with_reducible rfl)
                          try simp only [Act.put, List.setIfInBounds_toArray, List.set_cons_zero, List.set_cons_succ]
                          refine wpAnyH_take (i := 3) (oi := { dst := some 201, op := Op.move (Operand.tmp 10), type := 53, pos := "outright.go:133", after := #[{ on := 2, ground := Ground.guard }], guard := some (2, true) }) (v := ?vv10) rfl (by kernel_rfl) (by kernel_rfl) (by kernel_rfl) (fun _ _ _ h => h) (Or.inl ⟨by rfl, ?hy10⟩) (by assumption) ?_
                          case hy10 => (intro w hSw; (try dsimp only at hSw); go_simp; all_goals with_reducible rfl)
                          try simp only [Act.put, List.setIfInBounds_toArray, List.set_cons_zero, List.set_cons_succ]
                          refine wpAnyH_take (i := 4) (oi := { dst := some 202, op := Op.move (Operand.tmp 25), type := 3, pos := "outright.go:133", after := #[{ on := 2, ground := Ground.guard }], guard := some (2, true) }) (v := ?vv11) rfl (by kernel_rfl) (by kernel_rfl) (by kernel_rfl) (fun _ _ _ h => h) (Or.inl ⟨by rfl, ?hy11⟩) (by assumption) ?_
                          case hy11 => (intro w hSw; (try dsimp only at hSw); go_simp; all_goals with_reducible rfl)
                          try simp only [Act.put, List.setIfInBounds_toArray, List.set_cons_zero, List.set_cons_succ]
                          refine wpAnyH_take (i := 5) (oi := { dst := some 203, op := Op.indexAddr 53 (Operand.tmp 201) (Operand.tmp 202), type := 0, pos := "outright.go:133", after := #[{ on := 3, ground := Ground.data }, { on := 4, ground := Ground.data }, { on := 2, ground := Ground.guard }], guard := some (2, true) }) (v := ?vv12) rfl (by kernel_rfl) (by kernel_rfl) (by kernel_rfl) (fun _ _ _ h => h) (Or.inl ⟨by rfl, ?hy12⟩) (by assumption) ?_
                          case hy12 => (intro w hSw; (try dsimp only at hSw); go_simp; all_goals with_reducible rfl)
                          try simp only [Act.put, List.setIfInBounds_toArray, List.set_cons_zero, List.set_cons_succ]
                          refine wpAnyH_take (i := 6) (oi := { dst := some 204, op := Op.fieldAddr 41 (Operand.tmp 203) 3, type := 0, pos := "outright.go:133", after := #[{ on := 5, ground := Ground.data }, { on := 2, ground := Ground.guard }], guard := some (2, true) }) (v := ?vv13) rfl (by kernel_rfl) (by kernel_rfl) (by kernel_rfl) (fun _ _ _ h => h) (Or.inl ⟨by rfl, ?hy13⟩) (by assumption) ?_
                          case hy13 => (intro w hSw; (try dsimp only at hSw); go_simp; all_goals with_reducible rfl)
                          try simp only [Act.put, List.setIfInBounds_toArray, List.set_cons_zero, List.set_cons_succ]
                          refine wpAnyH_take (i := 7) (oi := { dst := some 205, op := Op.load 9 (Operand.tmp 204), type := 9, pos := "outright.go:133", after := #[{ on := 6, ground := Ground.data }, { on := 2, ground := Ground.guard }], guard := some (2, true) }) (v := ?vv14) rfl (by kernel_rfl) (by kernel_rfl) (by kernel_rfl) (fun _ _ _ h => h) (Or.inl ⟨by rfl, ?hy14⟩) (by assumption) ?_
                          case hy14 => (intro w hSw; (try dsimp only at hSw); go_simp; all_goals with_reducible rfl)
                          try simp only [Act.put, List.setIfInBounds_toArray, List.set_cons_zero, List.set_cons_succ]
                          refine wpAnyH_take (i := 8) (oi := { dst := some 206, op := Op.move (Operand.tmp 1), type := 34, pos := "outright.go:133", after := #[{ on := 2, ground := Ground.guard }], guard := some (2, true) }) (v := ?vv15) rfl (by kernel_rfl) (by kernel_rfl) (by kernel_rfl) (fun _ _ _ h => h) (Or.inl ⟨by rfl, ?hy15⟩) (by assumption) ?_
                          case hy15 => (intro w hSw; (try dsimp only at hSw); go_simp; all_goals with_reducible rfl)
                          try simp only [Act.put, List.setIfInBounds_toArray, List.set_cons_zero, List.set_cons_succ]
                          refine wpAnyH_take (i := 9) (oi := { dst := some 207, op := Op.move (Operand.tmp 24), type := 3, pos := "outright.go:133", after := #[{ on := 2, ground := Ground.guard }], guard := some (2, true) }) (v := ?vv16) rfl (by kernel_rfl) (by kernel_rfl) (by kernel_rfl) (fun _ _ _ h => h) (Or.inl ⟨by rfl, ?hy16⟩) (by assumption) ?_
                          case hy16 => (intro w hSw; (try dsimp only at hSw); go_simp; all_goals with_reducible rfl)
                          try simp only [Act.put, List.setIfInBounds_toArray, List.set_cons_zero, List.set_cons_succ]
                          refine wpAnyH_take (i := 10) (oi := { dst := some 208, op := Op.binOp BinOp.sub 3 (Operand.tmp 207) (Operand.const (Value.int IntKind.i64 1)) 3, type := 3, pos := "outright.go:133", after := #[{ on := 9, ground := Ground.data }, { on := 2, ground := Ground.guard }], guard := some (2, true) }) (v := ?vv17) rfl (by kernel_rfl) (by kernel_rfl) (by kernel_rfl) (fun _ _ _ h => h) (Or.inl ⟨by rfl, ?hy17⟩) (by assumption) ?_
                          case hy17 => (intro w hSw; (try dsimp only at hSw); go_simp; all_goals with_reducible rfl)
                          try simp only [Act.put, List.setIfInBounds_toArray, List.set_cons_zero, List.set_cons_succ]
                          refine wpAnyH_take (i := 11) (oi := { dst := some 209, op := Op.indexAddr 34 (Operand.tmp 206) (Operand.tmp 208), type := 0, pos := "outright.go:133", after := #[{ on := 8, ground := Ground.data }, { on := 10, ground := Ground.data }, { on := 2, ground := Ground.guard }], guard := some (2, true) }) (v := ?vv18) rfl (by kernel_rfl) (by kernel_rfl) (by kernel_rfl) (fun _ _ _ h => h) (Or.inl ⟨by rfl, ?hy18⟩) (by assumption) ?_
                          case hy18 => (intro w hSw; (try dsimp only at hSw); go_simp; all_goals with_reducible rfl)
                          try simp only [Act.put, List.setIfInBounds_toArray, List.set_cons_zero, List.set_cons_succ]
                          refine wpAnyH_take (i := 12) (oi := { dst := some 210, op := Op.load 26 (Operand.tmp 209), type := 26, pos := "outright.go:133", after := #[{ on := 11, ground := Ground.data }, { on := 2, ground := Ground.guard }], guard := some (2, true) }) (v := ?vv19) rfl (by kernel_rfl) (by kernel_rfl) (by kernel_rfl) (fun _ _ _ h => h) (Or.inl ⟨by rfl, ?hy19⟩) (by assumption) ?_
                          case hy19 => (intro w hSw; (try dsimp only at hSw); go_simp; all_goals with_reducible rfl)
                          try simp only [Act.put, List.setIfInBounds_toArray, List.set_cons_zero, List.set_cons_succ]
                          refine wpAnyH_ready (rs := [13]) (by kernel_rfl) (by simp) ?_
                          refine AllReadyH.cons (o := { dst := some 211, op := Op.call { callee := Callee.value (Operand.func 19), args := #[Operand.tmp 210], argTypes := #[26] }, type := 26, pos := "outright.go:133", after := #[{ on := 12, ground := Ground.data }, { on := 2, ground := Ground.chain }, { on := 2, ground := Ground.guard }], guard := some (2, true) }) rfl (fun K hK => ?_) AllReadyH.nil
                          go_simp
                          refine (HRT.out _ hbW).mono ?_
                          rintro e' Wx ⟨⟨ub, ul, uc⟩, rfl, bX, hq1, hq2⟩
                          have hbWx : Below W6.heap.size W6 Wx := hbW.trans (bX.mono hbW.size)
                          clear bX hq1 hq2
                          simp only [sv]
                          go_wp2_with fail
                          refine hK.out _ _ (hCell.out _ hbWx) (fun hHeld => ?_)
                          clear hK K
                          have hfl := fun w => field26 aTest PP VV 200 ub ul uc w
                          try simp only [Act.put, List.setIfInBounds_toArray, List.set_cons_zero, List.set_cons_succ]
                          refine wpAnyH_take (i := 14) (oi := { dst := some 212, op := Op.field 26 (Operand.tmp 211) 1, type := 9, pos := "outright.go:133", after := #[{ on := 13, ground := Ground.data }, { on := 2, ground := Ground.guard }], guard := some (2, true) }) (v := ?vv20) rfl (by kernel_rfl) (by kernel_rfl) (by kernel_rfl) (fun _ _ _ h => h) (Or.inl ⟨by rfl, ?hy20⟩) (by assumption) ?_
                          case hy20 => (intro w hSw; (try dsimp only at hSw); go_simp; all_goals with_reducible rfl)
                          try simp only [Act.put, List.setIfInBounds_toArray, List.set_cons_zero, List.set_cons_succ]
                          refine wpAnyH_take (i := 15) (oi := { dst := some 213, op := Op.binOp BinOp.neq 9 (Operand.tmp 205) (Operand.tmp 212) 9, type := 4, pos := "outright.go:133", after := #[{ on := 7, ground := Ground.data }, { on := 14, ground := Ground.data }, { on := 2, ground := Ground.guard }], guard := some (2, true) }) (v := ?vv21) rfl (by kernel_rfl) (by kernel_rfl) (by kernel_rfl) (fun _ _ _ h => h) (Or.inl ⟨by rfl, ?hy21⟩) (by assumption) ?_
                          case hy21 => (intro w hSw; (try dsimp only at hSw); go_simp; all_goals with_reducible rfl)
                          try simp only [Act.put, List.setIfInBounds_toArray, List.set_cons_zero, List.set_cons_succ]
                          refine wpAnyH_take (i := 16) (oi := { dst := some 214, op := Op.pick (Operand.tmp 200) (Operand.tmp 213) (Operand.const (Value.bool false)), type := 4, pos := "outright.go:133", after := #[{ on := 2, ground := Ground.data }, { on := 15, ground := Ground.data }], guard := none }) (v := ?vv22) rfl (by kernel_rfl) (by kernel_rfl) (by kernel_rfl) (fun _ _ _ h => h) (Or.inl ⟨by rfl, ?hy22⟩) (by assumption) ?_
                          case hy22 => (intro w hSw; (try dsimp only at hSw); go_simp; all_goals with_reducible rfl)
                          try simp only [Act.put, List.setIfInBounds_toArray, List.set_cons_zero, List.set_cons_succ]
                          refine wpAnyH_take (i := 17) (oi := { dst := some 215, op := Op.move (Operand.tmp 214), type := 4, pos := "outright.go:133", after := #[{ on := 16, ground := Ground.data }, { on := 13, ground := Ground.chain }], guard := none }) (v := ?vv23) rfl (by kernel_rfl) (by kernel_rfl) (by kernel_rfl) (fun _ _ _ h => h) (Or.inl ⟨by rfl, ?hy23⟩) (by assumption) ?_
                          case hy23 => (intro w hSw; (try dsimp only at hSw); go_simp; all_goals with_reducible rfl)
                          try simp only [Act.put, List.setIfInBounds_toArray, List.set_cons_zero, List.set_cons_succ]
                          refine wpAnyH_take (i := 18) (oi := { dst := some 216, op := Op.load 37 (Operand.tmp 26), type := 37, pos := "outright.go:133", after := #[{ on := 17, ground := Ground.guard }], guard := some (17, true) }) (v := undef) rfl (by kernel_rfl) (by kernel_rfl) (by kernel_rfl) (fun _ _ _ h => h) (Or.inr ⟨by rfl, rfl⟩) (by assumption) ?_
                          try simp only [Act.put, List.setIfInBounds_toArray, List.set_cons_zero, List.set_cons_succ]
                          refine wpAnyH_take (i := 19) (oi := { dst := some 217, op := Op.move (Operand.tmp 13), type := 55, pos := "outright.go:133", after := #[{ on := 17, ground := Ground.guard }], guard := some (17, true) }) (v := undef) rfl (by kernel_rfl) (by kernel_rfl) (by kernel_rfl) (fun _ _ _ h => h) (Or.inr ⟨by rfl, rfl⟩) (by assumption) ?_
                          try simp only [Act.put, List.setIfInBounds_toArray, List.set_cons_zero, List.set_cons_succ]
                          refine wpAnyH_take (i := 20) (oi := { dst := some 218, op := Op.move (Operand.tmp 24), type := 3, pos := "outright.go:133", after := #[{ on := 17, ground := Ground.guard }], guard := some (17, true) }) (v := undef) rfl (by kernel_rfl) (by kernel_rfl) (by kernel_rfl) (fun _ _ _ h => h) (Or.inr ⟨by rfl, rfl⟩) (by assumption) ?_
                          try simp only [Act.put, List.setIfInBounds_toArray, List.set_cons_zero, List.set_cons_succ]
                          refine wpAnyH_take (i := 21) (oi := { dst := some 219, op := Op.binOp BinOp.sub 3 (Operand.tmp 218) (Operand.const (Value.int IntKind.i64 1)) 3, type := 3, pos := "outright.go:133", after := #[{ on := 20, ground := Ground.data }, { on := 17, ground := Ground.guard }], guard := some (17, true) }) (v := undef) rfl (by kernel_rfl) (by kernel_rfl) (by kernel_rfl) (fun _ _ _ h => h) (Or.inr ⟨by rfl, rfl⟩) (by assumption) ?_
                          try simp only [Act.put, List.setIfInBounds_toArray, List.set_cons_zero, List.set_cons_succ]
                          refine wpAnyH_take (i := 22) (oi := { dst := some 220, op := Op.indexAddr 55 (Operand.tmp 217) (Operand.tmp 219), type := 0, pos := "outright.go:133", after := #[{ on := 19, ground := Ground.data }, { on := 21, ground := Ground.data }, { on := 17, ground := Ground.guard }], guard := some (17, true) }) (v := undef) rfl (by kernel_rfl) (by kernel_rfl) (by kernel_rfl) (fun _ _ _ h => h) (Or.inr ⟨by rfl, rfl⟩) (by assumption) ?_
                          try simp only [Act.put, List.setIfInBounds_toArray, List.set_cons_zero, List.set_cons_succ]
                          refine wpAnyH_take (i := 23) (oi := { dst := some 221, op := Op.load 56 (Operand.tmp 220), type := 56, pos := "outright.go:133", after := #[{ on := 22, ground := Ground.data }, { on := 17, ground := Ground.guard }], guard := some (17, true) }) (v := undef) rfl (by kernel_rfl) (by kernel_rfl) (by kernel_rfl) (fun _ _ _ h => h) (Or.inr ⟨by rfl, rfl⟩) (by assumption) ?_
                          try simp only [Act.put, List.setIfInBounds_toArray, List.set_cons_zero, List.set_cons_succ]
                          refine wpAnyH_take (i := 24) (oi := { dst := some 222, op := Op.move (Operand.tmp 25), type := 3, pos := "outright.go:133", after := #[{ on := 17, ground := Ground.guard }], guard := some (17, true) }) (v := undef) rfl (by kernel_rfl) (by kernel_rfl) (by kernel_rfl) (fun _ _ _ h => h) (Or.inr ⟨by rfl, rfl⟩) (by assumption) ?_
                          try simp only [Act.put, List.setIfInBounds_toArray, List.set_cons_zero, List.set_cons_succ]
                          refine wpAnyH_take (i := 25) (oi := { dst := some 223, op := Op.indexAddr 56 (Operand.tmp 221) (Operand.tmp 222), type := 0, pos := "outright.go:133", after := #[{ on := 23, ground := Ground.data }, { on := 24, ground := Ground.data }, { on := 17, ground := Ground.guard }], guard := some (17, true) }) (v := undef) rfl (by kernel_rfl) (by kernel_rfl) (by kernel_rfl) (fun _ _ _ h => h) (Or.inr ⟨by rfl, rfl⟩) (by assumption) ?_
                          try simp only [Act.put, List.setIfInBounds_toArray, List.set_cons_zero, List.set_cons_succ]
                          refine wpAnyH_take (i := 26) (oi := { dst := some 224, op := Op.load 37 (Operand.tmp 223), type := 37, pos := "outright.go:133", after := #[{ on := 25, ground := Ground.data }, { on := 17, ground := Ground.guard }], guard := some (17, true) }) (v := undef) rfl (by kernel_rfl) (by kernel_rfl) (by kernel_rfl) (fun _ _ _ h => h) (Or.inr ⟨by rfl, rfl⟩) (by assumption) ?_
                          try simp only [Act.put, List.setIfInBounds_toArray, List.set_cons_zero, List.set_cons_succ]
                          refine wpAnyH_take (i := 27) (oi := { dst := some 225, op := Op.call { callee := Callee.value (Operand.func 20), args := #[Operand.tmp 216, Operand.tmp 224], argTypes := #[37, 37] }, type := 4, pos := "outright.go:133", after := #[{ on := 18, ground := Ground.data }, { on := 26, ground := Ground.data }, { on := 17, ground := Ground.chain }, { on := 17, ground := Ground.guard }], guard := some (17, true) }) (v := undef) rfl (by kernel_rfl) (by kernel_rfl) (by kernel_rfl) (fun _ _ _ h => h) (Or.inr ⟨by rfl, rfl⟩) (by assumption) ?_
                          try simp only [Act.put, List.setIfInBounds_toArray, List.set_cons_zero, List.set_cons_succ]
                          refine wpAnyH_take (i := 28) (oi := { dst := some 226, op := Op.unOp UnOp.not 4 (Operand.tmp 225), type := 4, pos := "outright.go:133", after := #[{ on := 27, ground := Ground.data }, { on := 17, ground := Ground.guard }], guard := some (17, true) }) (v := undef) rfl (by kernel_rfl) (by kernel_rfl) (by kernel_rfl) (fun _ _ _ h => h) (Or.inr ⟨by rfl, rfl⟩) (by assumption) ?_
                          try simp only [Act.put, List.setIfInBounds_toArray, List.set_cons_zero, List.set_cons_succ]
                          refine wpAnyH_take (i := 29) (oi := { dst := some 227, op := Op.pick (Operand.tmp 215) (Operand.tmp 226) (Operand.const (Value.bool false)), type := 4, pos := "outright.go:133", after := #[{ on := 17, ground := Ground.data }, { on := 28, ground := Ground.data }], guard := none }) (v := ?vv24) rfl (by kernel_rfl) (by kernel_rfl) (by kernel_rfl) (fun _ _ _ h => h) (Or.inl ⟨by rfl, ?hy24⟩) (by assumption) ?_
                          case hy24 => (intro w hSw; (try dsimp only at hSw); go_simp; all_goals with_reducible rfl)
                          try simp only [Act.put, List.setIfInBounds_toArray, List.set_cons_zero, List.set_cons_succ]
                          refine wpAnyH_done (by kernel_rfl) ?_ _
                          clear hfl hwm hm2 hm1 hm3 hmp hmp' hpp HRT HPG HPT hHeld hCell
                          go_wp2_with fail
                          go_roundw
                          case rel => exact ⟨i + 1, by simp, by omega, HV6.out.below hbWx⟩
                          case measure => simp [intOf]; omega
                    · have l6 : ¬ (i : Int) < (na : Int) := by omega
                      clear hlt6
                      go_wp2_with fail
                      go_roundw
                      case rel => exact ⟨n + 1, by simp, by have := HN.out; omega, hV.out⟩
                      case measure => have := HN.out; simp [intOf]; omega
                · have l3 : ¬ (n : Int) ≤ (ps.length : Int) := by omega
                  go_wp2_with fail
                  go_ret
                  exact ⟨rfl, hV.out.bel⟩
end Go.Proofs.YtacboeeimnikdaaDoor
