/- readHead, readLength. -/
import Derived.Test.YtnbaojdildelmaaDoorN2
import Derived.Test.YtnbaojdildelmaaDoorN3
namespace Go.Proofs.YtnbaojdildelmaaDoor
open Go.RowKit
set_option linter.unusedVariables false
set_option linter.unusedSimpArgs false
/-- the status that a response's list tells -/
def stOf (l : List Fd) : Int := match vals l 1 resNames with | some [s] => numL s.data.toList | _ => 0
def hdE (l : List Fd) : Int := if rsE l ≠ 0 then rsE l else if stOf l < 200 then 131 else 0
def JustG (g : Nat) (k : Nat) : Prop := k = g
theorem MgB.res {w : World} {g : Nat} {x : Mg} (h : MgB w g x) (n : Int) (b : Option Addr) (m c : Nat) : MgB (((w.setCell ⟨g, 7, none⟩ (.int .i64 n)).setCell ⟨g, 8, none⟩ (.slice b m c)).setCell ⟨g, 9, none⟩ (.string ⟨#[]⟩)) g { x with n := n, ry := (b, m, c) } := by
  unfold MgB at *
  rw [setCell_block _ _ _ _ _ _ _ (setCell_block _ _ _ _ _ _ _ (setCell_block _ _ _ _ _ _ _ h))]
  rfl
theorem Ks.res (w : World) (g : Nat) (u v x : Value) : Ks (JustG g) w (((w.setCell ⟨g, 7, none⟩ u).setCell ⟨g, 8, none⟩ v).setCell ⟨g, 9, none⟩ x) :=
  ((Ks.setCell (JustG g) w g 7 u rfl).trans (Ks.setCell (JustG g) _ g 8 v rfl) (fun _ _ h => h) (fun _ _ h => h)).trans (Ks.setCell (JustG g) _ g 9 x rfl) (fun _ _ h => h) (fun _ _ h => h)
def RhPost (g : Nat) (x : Mg) (l : List Fd) (w : World) (e : Ending) (w' : World) : Prop := ∃ (n : Int) (y : SV), e = .returned (.int .i64 (hdE l)) ∧ MgB w' g { x with n := n, ry := y } ∧ Ks (JustG g) w w' ∧ (rsE l = 0 → n = stOf l ∧ R EFd w' (sv y) (l.drop 1) ∧ ∀ k, (sv y).ownBlock = some k → w.heap.size ≤ k)
set_option maxHeartbeats 8000000 in
set_option maxRecDepth 100000 in
theorem readHead_res (g : Nat) (x : Mg) (s : SV) (l : List Fd) (w : World) (h : MgB w g x) (hrq : x.rq = false) (hI : In EFd w (sv s) l) (hz : ∀ f ∈ l, f.n.size ≤ 140737488355328) :
    Calls Tryd.prog 21 #[.pointer (some ⟨g, 0, none⟩), sv s] w fun e w' => RhPost g x l w e w' := by
  have hc := h.cells
  have c0 := hc.c0
  have lt := hc.lt
  have HB : Hid (MgB w g x) := h
  rw [hrq] at c0
  have hRs : Hid (Calls Tryd.prog 28 #[sv s] w fun e w' => RsPost l w e w') := readResponse_any s l w hI hz
  obtain ⟨sb, sn, sc⟩ := s
  simp only [sv] at hRs ⊢
  obtain ⟨E, hE⟩ : ∃ E, rsE l = E := ⟨_, rfl⟩
  have HE : Hid (rsE l = E) := hE
  clear h hI hz hc hE hrq
  by_cases h0 : E = 0
  · subst h0
    go_enter Tryd.func21, Tryd.ntmps21
    go_wp2_with fail
    go_at_call 28
    refine Calls.mono hRs.out ?_
    rintro e w1 ⟨n, ⟨yb, yn, yc⟩, rfl, bX, k1, k2⟩
    rw [HE.out] at k1 k2 ⊢
    obtain ⟨⟨u, v1, v2, v3⟩, v4, v5⟩ := k1 rfl
    have hst : stOf l = n := by unfold stOf; rw [v1]; exact v3.symm
    have hb1 := HB.out.below bX
    have hc1 := hb1.cells
    have f7 := hc1.fz 7
    have f8 := hc1.fz 8
    have f9 := hc1.fz 9
    have l1 := hc1.lt
    have d7 := hc1.c7
    have d8 := hc1.c8
    have d9 := hc1.c9
    have HQ : Hid (MgB (((w1.setCell ⟨g, 7, none⟩ (.int .i64 n)).setCell ⟨g, 8, none⟩ (.slice yb yn yc)).setCell ⟨g, 9, none⟩ (.string ⟨#[]⟩)) g { x with n := n, ry := (yb, yn, yc) } ∧ Ks (JustG g) w (((w1.setCell ⟨g, 7, none⟩ (.int .i64 n)).setCell ⟨g, 8, none⟩ (.slice yb yn yc)).setCell ⟨g, 9, none⟩ (.string ⟨#[]⟩)) ∧ R EFd (((w1.setCell ⟨g, 7, none⟩ (.int .i64 n)).setCell ⟨g, 8, none⟩ (.slice yb yn yc)).setCell ⟨g, 9, none⟩ (.string ⟨#[]⟩)) (.slice yb yn yc) (l.drop 1) ∧ ∀ k, (Value.slice yb yn yc).ownBlock = some k → w.heap.size ≤ k) := by
      have kk := Ks.res w1 g (.int .i64 n) (.slice yb yn yc) (.string ⟨#[]⟩)
      refine ⟨hb1.res n yb yn yc, (Ks.of_below bX).trans kk (fun _ _ h => h) (fun _ _ h => h), R.stays v4 fun k hk hl => kk.block k hl ?_, v5⟩
      intro e
      exact row_ne_mg v4 hb1 (by decide) hk e
    have hb2 := HQ.out.1.cells
    have e7 := hb2.c7
    have l2 := hb2.lt
    have HH : Hid (stOf l = n) := hst
    simp only at e7
    simp only [rsv, sv]
    clear hb1 hc1 hb2 k1 k2 v1 v2 v3 v4 v5 hst bX hRs
    by_cases h2 : n < 200
    · have HD : Hid (hdE l = 131) := by show _ = _; unfold hdE; rw [HE.out, if_neg (by simp), HH.out, if_pos h2]
      go_wp2_with fail
      go_ret
      exact ⟨n, (yb, yn, yc), by rw [HD.out]; first | rfl | simp, HQ.out.1, HQ.out.2.1, fun _ => ⟨HH.out.symm, HQ.out.2.2⟩⟩
    · have HD : Hid (hdE l = 0) := by show _ = _; unfold hdE; rw [HE.out, if_neg (by simp), HH.out, if_neg h2]
      go_wp2_with fail
      go_ret
      exact ⟨n, (yb, yn, yc), by rw [HD.out]; first | rfl | simp, HQ.out.1, HQ.out.2.1, fun _ => ⟨HH.out.symm, HQ.out.2.2⟩⟩
  · have q1 : (E == 0) = false := by simp; exact h0
    have HN : Hid (E ≠ 0) := h0
    clear h0
    go_enter Tryd.func21, Tryd.ntmps21
    go_wp2_with fail
    go_at_call 28
    refine Calls.mono hRs.out ?_
    rintro e w1 ⟨n, ⟨yb, yn, yc⟩, rfl, bX, k1, k2⟩
    rw [HE.out] at k1 k2 ⊢
    have hb1 := HB.out.below bX
    have hc1 := hb1.cells
    have f7 := hc1.fz 7
    have f8 := hc1.fz 8
    have f9 := hc1.fz 9
    have l1 := hc1.lt
    have d7 := hc1.c7
    have d8 := hc1.c8
    have d9 := hc1.c9
    have HQ : Hid (MgB (((w1.setCell ⟨g, 7, none⟩ (.int .i64 n)).setCell ⟨g, 8, none⟩ (.slice yb yn yc)).setCell ⟨g, 9, none⟩ (.string ⟨#[]⟩)) g { x with n := n, ry := (yb, yn, yc) } ∧ Ks (JustG g) w (((w1.setCell ⟨g, 7, none⟩ (.int .i64 n)).setCell ⟨g, 8, none⟩ (.slice yb yn yc)).setCell ⟨g, 9, none⟩ (.string ⟨#[]⟩))) := by
      have kk := Ks.res w1 g (.int .i64 n) (.slice yb yn yc) (.string ⟨#[]⟩)
      exact ⟨hb1.res n yb yn yc, (Ks.of_below bX).trans kk (fun _ _ h => h) (fun _ _ h => h)⟩
    simp only [rsv, sv]
    clear hb1 hc1 k1 k2 bX hRs
    have HD : Hid (hdE l = E) := by show _ = _; unfold hdE; rw [HE.out, if_pos HN.out]
    go_wp2_with fail
    go_ret
    exact ⟨n, (yb, yn, yc), by rw [HD.out]; first | rfl | simp, HQ.out.1, HQ.out.2, fun h => absurd (HE.out.symm.trans h) HN.out⟩
/-- what the declared lengths tell -/
def rlE (vs : List ByteArray) : Int := match vs with | [] => 0 | [v] => if (nbO v).isSome = true then 0 else 140 | _ => 140
def rlX (x : Mg) (vs : List ByteArray) : Mg := match vs with | [v] => (match nbO v with | some u => { x with fx := true, ln := (u : Int) } | none => x) | _ => x
def clS : ByteArray := ⟨#[99, 111, 110, 116, 101, 110, 116, 45, 108, 101, 110, 103, 116, 104]⟩
theorem Ks.fix (w : World) (g : Nat) (u v : Value) : Ks (JustG g) w ((w.setCell ⟨g, 12, none⟩ u).setCell ⟨g, 13, none⟩ v) :=
  (Ks.setCell (JustG g) w g 12 u rfl).trans (Ks.setCell (JustG g) _ g 13 v rfl) (fun _ _ h => h) (fun _ _ h => h)
theorem In.str {w : World} {v : Value} {l : List ByteArray} (h : In ES w v l) (k : Nat) (hk : k < l.length) : ∃ B off cap, v = .slice (some ⟨B, off, none⟩) l.length cap ∧ ∀ W, Below w.heap.size w W → W.cell? ⟨B, off + k, none⟩ = some (.string l[k]) := by
  obtain ⟨B, off, cap, e, hB, d⟩ := h.get okS k hk
  refine ⟨B, off, cap, e, fun W hb => ?_⟩
  have := (hb.cell hB).trans (d 0 _ rfl)
  simpa [ES] using this
set_option maxHeartbeats 8000000 in
set_option maxRecDepth 100000 in
theorem readLength_any (g : Nat) (x : Mg) (s : SV) (l : List Fd) (w : World) (h : MgB w g x) (hI : In EFd w (sv s) l) (hlen : l.length * 40 ≤ 140737488355328) (hz : ∀ v ∈ vsL l clS, v.size ≤ 140737488355328) (he : Er w) :
    Calls Tryd.prog 22 #[.pointer (some ⟨g, 0, none⟩), sv s] w fun e w' => e = .returned (.int .i64 (rlE (vsL l clS))) ∧ MgB w' g (rlX x (vsL l clS)) ∧ Ks (JustG g) w w' := by
  have HB : Hid (MgB w g x) := h
  have hV : Hid (Calls Tryd.prog 29 #[sv s, .string clS] w fun e w' => VsPost (vsL l clS) w e w') := values_any s l clS w hI hlen
  have HER : Hid (Er w) := he
  obtain ⟨sb, sn, sc⟩ := s
  obtain ⟨vs, hvs⟩ : ∃ vs, vsL l clS = vs := ⟨_, rfl⟩
  have hvl : vs.length ≤ 4398046511104 := by rw [← hvs]; have := vsL_le l clS; omega
  rw [hvs] at hV hz ⊢
  have HZ : Hid (∀ v ∈ vs, v.size ≤ 140737488355328) := hz
  simp only [sv, clS] at hV ⊢
  clear h hI hlen hz he hvs
  match vs, hvl, hV, HZ with
  | [], hvl, hV, HZ =>
    go_enter Tryd.func22, Tryd.ntmps22
    go_wp2_with fail
    go_at_call 29
    refine Calls.mono hV.out ?_
    rintro e w1 ⟨⟨vb, vn, vc⟩, rfl, bX, rX, oX⟩
    obtain ⟨q1, q2, q3⟩ := slice_lenB (show R ES w1 (.slice vb vn vc) [] from rX)
    have q1' : vn = 0 := q1
    clear q1
    subst q1'
    have HQ : Hid (MgB w1 g x ∧ Ks (JustG g) w w1) := ⟨HB.out.below bX, Ks.of_below bX⟩
    clear rX oX bX q2 q3 hV HZ hvl
    simp only [sv]
    go_wp2_with fail
    go_ret
    exact ⟨by first | rfl | simp, HQ.out⟩
  | v :: r, hvl, hV, HZ =>
    go_enter Tryd.func22, Tryd.ntmps22
    go_wp2_with fail
    go_at_call 29
    refine Calls.mono hV.out ?_
    rintro e w1 ⟨⟨vb, vn, vc⟩, rfl, bX, rX, oX⟩
    obtain ⟨q1, q2, q3⟩ := slice_lenB (show R ES w1 (.slice vb vn vc) (v :: r) from rX)
    obtain ⟨B1, o1, c1, e, c0⟩ := In.str (R.isIn (show R ES w1 (.slice vb vn vc) (v :: r) from rX)) 0 (by simp)
    injection e with e1 e2 e3
    subst e1 e2 e3
    have x0 := c0 w1 (Below.refl _ _)
    simp only [Nat.add_zero, List.getElem_cons_zero] at x0
    have ER1 := HER.out.below bX
    have hnum : Hid (Calls Tryd.prog 30 #[.string v] w1 fun e w' => e = .returned (nbV (nbO v)) ∧ Below w1.heap.size w1 w') := number_any v w1 (HZ.out v (by simp)) ER1
    have HQ : Hid (MgB w1 g x ∧ Ks (JustG g) w w1) := ⟨HB.out.below bX, Ks.of_below bX⟩
    obtain ⟨m, hm⟩ : ∃ m, (v :: r).length = m := ⟨_, rfl⟩
    have HM : Hid (r.length + 1 = m) := by rw [← hm]; rfl
    rw [hm] at q2 ⊢
    have hm0 : ((m : Int) == 0) = false := by have := HM.out; simp; omega
    have hm1 : 0 < m := by have := HM.out; omega
    have hm2 : (0 : Int) < (m : Int) := by omega
    clear rX oX bX q1 hV c0 ER1 hm hvl
    simp only [sv]
    go_wp2_with fail
    go_at_call 30
    refine Calls.mono hnum.out ?_
    rintro e w2 ⟨rfl, bX⟩
    have HQ2 : Hid (MgB w2 g x ∧ Ks (JustG g) w w2) := ⟨HQ.out.1.below bX, HQ.out.2.trans (Ks.of_below bX) (fun _ _ h => h) (fun _ _ h => h)⟩
    clear bX HQ hnum x0
    cases r with
    | cons v2 r2 =>
      have hm3 : (m : Int) > 1 := by have := HM.out; simp at this; omega
      clear HM
      simp only [nbV]
      go_wp2_with fail
      go_ret
      exact ⟨by first | rfl | simp, HQ2.out⟩
    | nil =>
      have hm4 : 1 = m := HM.out
      subst hm4
      clear HM
      cases hn : nbO v with
      | none =>
        have HN : Hid (rlE [v] = 140 ∧ rlX x [v] = x) := by show _ ∧ _; unfold rlE rlX; dsimp only; rw [hn]; exact ⟨rfl, rfl⟩
        clear hn
        simp only [nbV, Option.isSome_none, Option.getD_none]
        go_wp2_with fail
        go_ret
        exact ⟨by rw [HN.out.1]; first | rfl | simp, by rw [HN.out.2]; exact HQ2.out.1, HQ2.out.2⟩
      | some u =>
        have HN : Hid (rlE [v] = 0 ∧ rlX x [v] = { x with fx := true, ln := (u : Int) }) := by show _ ∧ _; unfold rlE rlX; dsimp only; rw [hn]; exact ⟨rfl, rfl⟩
        have hc2 := HQ2.out.1.cells
        have l2 := hc2.lt
        have f12 := hc2.fz 12
        have f13 := hc2.fz 13
        have d12 := hc2.c12
        have d13 := hc2.c13
        have HQ3 : Hid (MgB ((w2.setCell ⟨g, 12, none⟩ (.bool true)).setCell ⟨g, 13, none⟩ (.int .i64 (u : Int))) g { x with fx := true, ln := (u : Int) } ∧ Ks (JustG g) w ((w2.setCell ⟨g, 12, none⟩ (.bool true)).setCell ⟨g, 13, none⟩ (.int .i64 (u : Int)))) := ⟨HQ2.out.1.fix u, HQ2.out.2.trans (Ks.fix w2 g _ _) (fun _ _ h => h) (fun _ _ h => h)⟩
        clear hn hc2 HQ2
        simp only [nbV, Option.isSome_some, Option.getD_some]
        go_wp2_with fail
        go_ret
        exact ⟨by rw [HN.out.1]; first | rfl | simp, by rw [HN.out.2]; exact HQ3.out.1, HQ3.out.2⟩
end Go.Proofs.YtnbaojdildelmaaDoor
