/- New. -/
import Derived.Test.YtnbaojdildelmaaDoorN4
namespace Go.Proofs.YtnbaojdildelmaaDoor
open Go.RowKit
set_option linter.unusedVariables false
set_option linter.unusedSimpArgs false
def mg0 (rq : Bool) : Mg := ⟨rq, ⟨#[]⟩, ⟨#[]⟩, ⟨#[]⟩, ⟨#[]⟩, (none, 0, 0), 0, (none, 0, 0), 0, (none, 0, 0), false, 0⟩
/-- what New answers of a response's list -/
def nwE (l : List Fd) : Int := if hdE l ≠ 0 then hdE l else rlE (vsL l clS)
def NwX (meth : ByteArray) (l : List Fd) (y : SV) : Mg := if bdB false (stOf l) meth = true then { rlX { mg0 false with n := stOf l, ry := y } (vsL l clS) with fx := true, ln := 0 } else rlX { mg0 false with n := stOf l, ry := y } (vsL l clS)
def NwPost (meth : ByteArray) (l : List Fd) (w : World) (e : Ending) (w' : World) : Prop :=
  Below w.heap.size w w' ∧ (nwE l = 0 → ∃ (g : Nat) (y : SV), e = .returned (.tuple #[.pointer (some ⟨g, 0, none⟩), .int .i64 0]) ∧ w.heap.size ≤ g ∧ Msg w' g (NwX meth l y) [] (l.drop 1) [] ∧ ∀ k, (sv y).ownBlock = some k → w.heap.size ≤ k) ∧ (nwE l ≠ 0 → e = .returned (.tuple #[.pointer none, .int .i64 (nwE l)]))
theorem rlX_keeps (x : Mg) (vs : List ByteArray) : (rlX x vs).rq = x.rq ∧ (rlX x vs).n = x.n ∧ (rlX x vs).bs = x.bs ∧ (rlX x vs).ry = x.ry ∧ (rlX x vs).qy = x.qy ∧ (rlX x vs).st = x.st := by
  unfold rlX
  split
  · split <;> exact ⟨rfl, rfl, rfl, rfl, rfl, rfl⟩
  · exact ⟨rfl, rfl, rfl, rfl, rfl, rfl⟩
theorem NwX_keeps (meth : ByteArray) (l : List Fd) (y : SV) : (NwX meth l y).rq = false ∧ (NwX meth l y).n = stOf l ∧ (NwX meth l y).bs = (none, 0, 0) ∧ (NwX meth l y).ry = y ∧ (NwX meth l y).qy = (none, 0, 0) ∧ (NwX meth l y).st = 0 := by
  unfold NwX
  obtain ⟨h1, h2, h3, h4, h5, h6⟩ := rlX_keeps { mg0 false with n := stOf l, ry := y } (vsL l clS)
  split
  · exact ⟨h1, h2, h3, h4, h5, h6⟩
  · exact ⟨h1, h2, h3, h4, h5, h6⟩
theorem justG_below {w w' : World} {g B : Nat} (k : Ks (JustG g) w w') (hB : B ≤ w.heap.size) (hg : B ≤ g) : Below B w w' := k.below hB fun i hi e => by have : i = g := e; omega
set_option maxHeartbeats 8000000 in
set_option maxRecDepth 100000 in
theorem new_res (meth : ByteArray) (s : SV) (l : List Fd) (w : World) (hI : In EFd w (sv s) l) (hlen : l.length * 40 ≤ 140737488355328) (hz : ∀ f ∈ l, f.n.size ≤ 140737488355328) (hzv : ∀ v ∈ vsL l clS, v.size ≤ 140737488355328) (he : Er w) :
    Calls Tryd.prog 10 #[.bool false, .string meth, sv s] w fun e w' => NwPost meth l w e w' := by
  obtain ⟨w1, hw1⟩ : ∃ x, w.alloc (.cells (mgv (mg0 false)) 53) = x := ⟨_, rfl⟩
  have b1 : Below w.heap.size w w1 := by rw [← hw1]; exact bel1 w _
  have m1 : MgB w1 w.heap.size (mg0 false) := by rw [← hw1]; unfold MgB; rw [heap_al, if_pos rfl]
  have HW1 : Hid (w.alloc (.cells #[.bool false, .string ⟨#[]⟩, .string ⟨#[]⟩, .string ⟨#[]⟩, .string ⟨#[]⟩, .slice none 0 0, .string ⟨#[]⟩, .int .i64 0, .slice none 0 0, .string ⟨#[]⟩, .int .i64 0, .slice none 0 0, .bool false, .int .i64 0] 53) = w1) := hw1
  have HB1 : Hid (Below w.heap.size w w1 ∧ MgB w1 w.heap.size (mg0 false)) := ⟨b1, m1⟩
  have hrh : Hid (Calls Tryd.prog 21 #[.pointer (some ⟨w.heap.size, 0, none⟩), sv s] w1 fun e w' => RhPost w.heap.size (mg0 false) l w1 e w') := readHead_res w.heap.size (mg0 false) s l w1 m1 rfl (hI.below b1) hz
  have hrl : Hid (∀ (x : Mg) W, MgB W w.heap.size x → Below w.heap.size w W → Calls Tryd.prog 22 #[.pointer (some ⟨w.heap.size, 0, none⟩), sv s] W fun e w' => e = .returned (.int .i64 (rlE (vsL l clS))) ∧ MgB w' w.heap.size (rlX x (vsL l clS)) ∧ Ks (JustG w.heap.size) W w') := fun x W hm hb => readLength_any w.heap.size x s l W hm (hI.below hb) hlen hzv (he.below hb)
  obtain ⟨sb, sn, sc⟩ := s
  simp only [sv] at hrh hrl ⊢
  clear hI hlen hz hzv he b1 m1 hw1
  obtain ⟨E, hE⟩ : ∃ E, hdE l = E := ⟨_, rfl⟩
  have HE : Hid (hdE l = E) := hE
  obtain ⟨F, hF⟩ : ∃ F, rlE (vsL l clS) = F := ⟨_, rfl⟩
  have HF : Hid (rlE (vsL l clS) = F) := hF
  rw [hF] at hrl
  clear hE hF
  by_cases h0 : E = 0
  · subst h0
    by_cases h1 : F = 0
    · subst h1
      have HZ : Hid (nwE l = 0) := by show _ = _; unfold nwE; rw [HE.out, if_neg (by simp)]; exact HF.out
      go_enter Tryd.func10, Tryd.ntmps10
      go_wp2_with fail
      go_at_call 21
      rw [HW1.out]
      refine Calls.mono hrh.out ?_
      rintro e w2 ⟨n, y, k0, k1, k2, k3⟩
      rw [HE.out] at k0
      subst k0
      have hr0 : rsE l = 0 := by
        apply Classical.byContradiction
        intro h
        have h5 := HE.out
        unfold hdE at h5
        rw [if_pos h] at h5
        exact h h5
      obtain ⟨k4, k5, k6⟩ := k3 hr0
      have B2 : Below w.heap.size w w2 := HB1.out.1.trans (justG_below k2 HB1.out.1.size (Nat.le_refl _))
      have hrl2 : Hid _ := hrl.out _ w2 k1 B2
      have H2 : Hid (n = stOf l ∧ R EFd w2 (sv y) (l.drop 1) ∧ (∀ k, (sv y).ownBlock = some k → w1.heap.size ≤ k) ∧ Below w.heap.size w w2) := ⟨k4, k5, k6, B2⟩
      clear k1 k2 k3 k4 k5 k6 B2 hrl hrh HW1 hr0
      go_wp2_with fail
      go_at_call 22
      refine Calls.mono hrl2.out ?_
      rintro e w3 ⟨rfl, m1, m2⟩
      have hrw : R EFd w3 (sv y) (l.drop 1) := R.stays H2.out.2.1 fun k hk hl => m2.block k hl fun e => by
        have h7 := H2.out.2.2.1 k hk
        have h8 : k = w.heap.size := e
        have h9 := heap_lt HB1.out.2
        omega
      have B3 : Below w.heap.size w w3 := H2.out.2.2.2.trans (justG_below m2 H2.out.2.2.2.size (Nat.le_refl _))
      have hbd := bodiless_any w.heap.size _ meth w3 m1
      obtain ⟨q1, q2, q3, q4, q5, q6⟩ := rlX_keeps { mg0 false with n := n, ry := y } (vsL l clS)
      rw [q1, q2] at hbd
      have HQ : Hid (MgB w3 w.heap.size (rlX { mg0 false with n := stOf l, ry := y } (vsL l clS)) ∧ R EFd w3 (sv y) (l.drop 1) ∧ Below w.heap.size w w3 ∧ ∀ k, (sv y).ownBlock = some k → w.heap.size ≤ k) := ⟨by rw [← H2.out.1]; exact m1, hrw, B3, fun k hk => Nat.le_trans HB1.out.1.size (H2.out.2.2.1 k hk)⟩
      obtain ⟨bd, hb⟩ : ∃ b, bdB false (stOf l) meth = b := ⟨_, rfl⟩
      have hbd' : Hid (Calls Tryd.prog 23 #[.pointer (some ⟨w.heap.size, 0, none⟩), .string meth] w3 fun e w' => e = .returned (.bool bd) ∧ w' = w3) := by
        rw [← hb, ← H2.out.1]
        exact hbd
      have HBD : Hid (bdB false (stOf l) meth = bd) := hb
      clear m1 m2 hrw B3 hbd q1 q2 q3 q4 q5 q6 hb hrl2 H2
      go_wp2_with fail
      go_at_call 23
      refine Calls.mono hbd'.out ?_
      rintro e w4 ⟨rfl, rfl⟩
      clear hbd'
      cases bd with
      | true =>
        have hc := HQ.out.1.cells
        have f12 := hc.fz 12
        have f13 := hc.fz 13
        have d12 := hc.c12
        have d13 := hc.c13
        have l4 := hc.lt
        obtain ⟨q1, q2, q3, q4, q5, q6⟩ := rlX_keeps { mg0 false with n := stOf l, ry := y } (vsL l clS)
        have HR : Hid (Below w.heap.size w ((w4.setCell ⟨w.heap.size, 12, none⟩ (.bool true)).setCell ⟨w.heap.size, 13, none⟩ (.int .i64 0)) ∧ Msg ((w4.setCell ⟨w.heap.size, 12, none⟩ (.bool true)).setCell ⟨w.heap.size, 13, none⟩ (.int .i64 0)) w.heap.size (NwX meth l y) [] (l.drop 1) []) := by
          have kk := Ks.fix w4 w.heap.size (.bool true) (.int .i64 0)
          have e : NwX meth l y = { rlX { mg0 false with n := stOf l, ry := y } (vsL l clS) with fx := true, ln := 0 } := by unfold NwX; rw [HBD.out, if_pos rfl]
          refine ⟨HQ.out.2.2.1.trans (justG_below kk HQ.out.2.2.1.size (Nat.le_refl _)), by rw [e]; exact HQ.out.1.fix 0, ?_, ?_, ?_⟩
          · rw [e]; show R EB _ (sv (rlX _ _).bs) []; rw [q3]; exact R.nil EB _
          · rw [e]; show R EFd _ (sv (rlX _ _).ry) _; rw [q4]
            exact R.stays HQ.out.2.1 fun k hk hl => kk.block k hl fun e => row_ne_mg HQ.out.2.1 HQ.out.1 (by decide) hk e
          · rw [e]; show R EFd _ (sv (rlX _ _).qy) []; rw [q5]; exact R.nil EFd _
        have HY : Hid (∀ k, (sv y).ownBlock = some k → w.heap.size ≤ k) := HQ.out.2.2.2
        clear hc q1 q2 q3 q4 q5 q6 HQ
        go_wp2_with fail
        go_ret2
        exact ⟨HR.out.1, fun _ => ⟨w.heap.size, y, by first | rfl | simp, Nat.le_refl _, HR.out.2, HY.out⟩, fun h => absurd HZ.out h⟩
      | false =>
        obtain ⟨q1, q2, q3, q4, q5, q6⟩ := rlX_keeps { mg0 false with n := stOf l, ry := y } (vsL l clS)
        have HR : Hid (Below w.heap.size w w4 ∧ Msg w4 w.heap.size (NwX meth l y) [] (l.drop 1) []) := by
          have e : NwX meth l y = rlX { mg0 false with n := stOf l, ry := y } (vsL l clS) := by unfold NwX; rw [HBD.out, if_neg (by simp)]
          refine ⟨HQ.out.2.2.1, by rw [e]; exact HQ.out.1, ?_, ?_, ?_⟩
          · rw [e, q3]; exact R.nil EB _
          · rw [e, q4]; exact HQ.out.2.1
          · rw [e, q5]; exact R.nil EFd _
        have HY : Hid (∀ k, (sv y).ownBlock = some k → w.heap.size ≤ k) := HQ.out.2.2.2
        clear q1 q2 q3 q4 q5 q6 HQ
        go_wp2_with fail
        go_ret2
        exact ⟨HR.out.1, fun _ => ⟨w.heap.size, y, by first | rfl | simp, Nat.le_refl _, HR.out.2, HY.out⟩, fun h => absurd HZ.out h⟩
    · have q1 : (F == 0) = false := by simp; exact h1
      have q2 : (F != 0) = true := by rw [bne, q1]; rfl
      have HZ : Hid (nwE l = F ∧ nwE l ≠ 0) := by
        have : nwE l = F := by unfold nwE; rw [HE.out, if_neg (by simp)]; exact HF.out
        exact ⟨this, by rw [this]; exact h1⟩
      clear h1
      go_enter Tryd.func10, Tryd.ntmps10
      go_wp2_with fail
      go_at_call 21
      rw [HW1.out]
      refine Calls.mono hrh.out ?_
      rintro e w2 ⟨n, y, k0, k1, k2, k3⟩
      rw [HE.out] at k0
      subst k0
      have B2 : Below w.heap.size w w2 := HB1.out.1.trans (justG_below k2 HB1.out.1.size (Nat.le_refl _))
      have hrl2 : Hid _ := hrl.out _ w2 k1 B2
      have H2 : Hid (Below w.heap.size w w2) := B2
      clear k1 k2 k3 B2 hrl hrh HW1
      go_wp2_with fail
      go_at_call 22
      refine Calls.mono hrl2.out ?_
      rintro e w3 ⟨rfl, m1, m2⟩
      have B3 : Hid (Below w.heap.size w w3) := H2.out.trans (justG_below m2 H2.out.size (Nat.le_refl _))
      clear m1 m2 hrl2 H2
      go_wp2_with fail
      go_ret2
      exact ⟨B3.out, fun h => absurd h HZ.out.2, fun _ => by rw [HZ.out.1]; first | rfl | simp⟩
  · have q1 : (E == 0) = false := by simp; exact h0
    have q2 : (E != 0) = true := by rw [bne, q1]; rfl
    have HZ : Hid (nwE l = E ∧ nwE l ≠ 0) := by
      have : nwE l = E := by unfold nwE; rw [HE.out, if_pos h0]
      exact ⟨this, by rw [this]; exact h0⟩
    clear h0
    go_enter Tryd.func10, Tryd.ntmps10
    go_wp2_with fail
    go_at_call 21
    rw [HW1.out]
    refine Calls.mono hrh.out ?_
    rintro e w2 ⟨n, y, k0, k1, k2, k3⟩
    rw [HE.out] at k0
    subst k0
    have B2 : Hid (Below w.heap.size w w2) := HB1.out.1.trans (justG_below k2 HB1.out.1.size (Nat.le_refl _))
    clear k1 k2 k3 hrl hrh HW1
    go_wp2_with fail
    go_ret2
    exact ⟨B2.out, fun h => absurd h HZ.out.2, fun _ => by rw [HZ.out.1]; first | rfl | simp⟩
end Go.Proofs.YtnbaojdildelmaaDoor
