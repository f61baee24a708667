/- head. -/
import Derived.Test.YtnbaojdildelmaaDoorN7
namespace Go.Proofs.YtnbaojdildelmaaDoor
open Go.RowKit
set_option linter.unusedVariables false
set_option linter.unusedSimpArgs false
theorem ow_below {w0 W W' : World} {g : Nat} {x : Mg} (k : Ks (Ow g x) W W') (hB : Below w0.heap.size w0 W) (hg : w0.heap.size ≤ g) (hb : ∀ k, (sv x.bs).ownBlock = some k → w0.heap.size ≤ k) : Below w0.heap.size w0 W' :=
  hB.trans (k.below hB.size fun i hi h => by
    rcases h with e | e
    · omega
    · have := hb i e
      omega)
/-- a message made since w0 -/
structure Mw (w0 W : World) (g : Nat) (x : Mg) (body : List UInt8) (fl ql : List Fd) : Prop where
  ms : Msg W g x body fl ql
  og : w0.heap.size ≤ g
  ob : ∀ k, (sv x.bs).ownBlock = some k → w0.heap.size ≤ k
  lb : body.length ≤ 65536
theorem Mw.below {w0 W W' : World} {g : Nat} {x : Mg} {body : List UInt8} {fl ql : List Fd} (h : Mw w0 W g x body fl ql) (hb : Below W.heap.size W W') : Mw w0 W' g x body fl ql := ⟨h.ms.below hb, h.og, h.ob, h.lb⟩
theorem Mw.other {w0 W W' : World} {g g1 : Nat} {x x1 : Mg} {body b1 : List UInt8} {fl ql fl1 ql1 : List Fd} (h : Mw w0 W g x body fl ql) (h1 : Mw w0 W g1 x1 b1 fl1 ql1) (k : Ks (Ow g1 x1) W W') (hg : g ≠ g1) (hb : ∀ k, (sv x.bs).ownBlock = some k → (sv x1.bs).ownBlock ≠ some k) : Mw w0 W' g x body fl ql := ⟨h.ms.other h1.ms k hg hb, h.og, h.ob, h.lb⟩
def DsPost (w0 : World) (g : Nat) (x : Mg) (fl ql : List Fd) (E S : Int) (B : List UInt8) (W : World) (e : Ending) (W' : World) : Prop :=
  ∃ bs' : SV, e = .returned (.int .i64 E) ∧ Mw w0 W' g { x with st := S, bs := bs' } B fl ql ∧ Below w0.heap.size w0 W' ∧ Ks (Ow g x) W W' ∧ ∀ k, (sv bs').ownBlock = some k → (sv x.bs).ownBlock = some k ∨ W.heap.size ≤ k
theorem Mw.ds {w0 W W' : World} {g : Nat} {x : Mg} {body : List UInt8} {fl ql : List Fd} {t : ByteArray} {en : Bool} {E S : Int} {B : List UInt8} {e : Ending} (h : Mw w0 W g x body fl ql) (hB : Below w0.heap.size w0 W) (hE : dtE x.st x.fx x.ln body.length t.size en = E) (hS : dtS x.st x.fx x.ln body.length t.size en = S) (hb : dtB x.st x.fx x.ln body t en = B) (hd : DmPost g x body fl ql t en W e W') : DsPost w0 g x fl ql E S B W e W' := by
  obtain ⟨bs', k1, k2, k3, k4⟩ := hd
  refine ⟨bs', by rw [k1, hE], ⟨?_, h.og, fun k hk => ?_, ?_⟩, ow_below k3 hB h.og h.ob, k3, k4⟩
  · unfold dtX at k2
    rw [hS, hb] at k2
    exact k2
  · rcases k4 k hk with e | e
    · exact h.ob k e
    · exact Nat.le_trans hB.size e
  · rw [← hb]; exact dtB_len _ _ _ _ _ _ h.lb
theorem data_step {w0 W : World} {g : Nat} {x : Mg} {body : List UInt8} {fl ql : List Fd} (t : ByteArray) (en : Bool) {E S : Int} {B : List UInt8} (h : Mw w0 W g x body fl ql) (hB : Below w0.heap.size w0 W) (ht : t.size ≤ 140737488355328) (hE : dtE x.st x.fx x.ln body.length t.size en = E) (hS : dtS x.st x.fx x.ln body.length t.size en = S) (hb : dtB x.st x.fx x.ln body t en = B) :
    Calls Tryd.prog 14 #[.pointer (some ⟨g, 0, none⟩), .string t, .bool en] W fun e W' => DsPost w0 g x fl ql E S B W e W' := (data_msg g x body fl ql t en W h.ms h.lb ht).mono fun e w' hd => h.ds hB hE hS hb hd
theorem end_step {w0 W : World} {g : Nat} {x : Mg} {body : List UInt8} {fl ql : List Fd} {E S : Int} {B : List UInt8} (h : Mw w0 W g x body fl ql) (hB : Below w0.heap.size w0 W) (hE : dtE x.st x.fx x.ln body.length 0 true = E) (hS : dtS x.st x.fx x.ln body.length 0 true = S) (hb : dtB x.st x.fx x.ln body ⟨#[]⟩ true = B) :
    Calls Tryd.prog 15 #[.pointer (some ⟨g, 0, none⟩)] W fun e W' => DsPost w0 g x fl ql E S B W e W' := (end_msg g x body fl ql W h.ms h.lb).mono fun e w' hd => h.ds (t := ⟨#[]⟩) (en := true) hB hE hS hb hd
/-- a response that is right -/
def NsPost (w0 : World) (meth : ByteArray) (l : List Fd) (W : World) (e : Ending) (W' : World) : Prop :=
  ∃ (g : Nat) (y : SV), e = .returned (.tuple #[.pointer (some ⟨g, 0, none⟩), .int .i64 0]) ∧ Mw w0 W' g (NwX meth l y) [] (l.drop 1) [] ∧ Below W.heap.size W W' ∧ W.heap.size ≤ g
theorem new_step {w0 W : World} (meth : ByteArray) (s : SV) (l : List Fd) (hI : In EFd W (sv s) l) (hlen : l.length * 40 ≤ 140737488355328) (hz : ∀ f ∈ l, f.n.size ≤ 140737488355328) (hzv : ∀ v ∈ vsL l clS, v.size ≤ 140737488355328) (he : Er W) (h0 : nwE l = 0) (hw : w0.heap.size ≤ W.heap.size) :
    Calls Tryd.prog 10 #[.bool false, .string meth, sv s] W fun e W' => NsPost w0 meth l W e W' := (new_res meth s l W hI hlen hz hzv he).mono fun e w' ⟨k1, k2, _⟩ => by
  obtain ⟨g, y, k3, k4, k5, k6⟩ := k2 h0
  refine ⟨g, y, k3, ⟨k5, Nat.le_trans hw k4, fun k hk => ?_, Nat.zero_le _⟩, k1, k4⟩
  rw [(NwX_keeps meth l y).2.2.1] at hk
  simp [sv, Value.ownBlock] at hk
def hdL : List Fd := [⟨⟨#[58, 109, 101, 116, 104, 111, 100]⟩, ⟨#[71, 69, 84]⟩, false⟩, ⟨⟨#[58, 115, 99, 104, 101, 109, 101]⟩, ⟨#[104, 116, 116, 112]⟩, false⟩, ⟨⟨#[58, 97, 117, 116, 104, 111, 114, 105, 116, 121]⟩, ⟨#[97]⟩, false⟩, ⟨⟨#[58, 112, 97, 116, 104]⟩, ⟨#[47]⟩, false⟩]
theorem rq_hd : rqE hdL = 0 := by decide +kernel
theorem nw_hd : nwE (rpL ⟨#[50, 48, 48]⟩ ⟨#[53]⟩) = 0 := by decide +kernel
set_option maxHeartbeats 20000000 in
set_option maxRecDepth 100000 in
theorem head_any (w : World) (he : Er w) : Calls Tryd.prog 7 #[] w fun e w' => OvPost w e w' := by
  obtain ⟨wA, hwA⟩ : ∃ x, w.alloc (.cells #[.string ⟨#[58, 109, 101, 116, 104, 111, 100]⟩, .string ⟨#[71, 69, 84]⟩, .bool false, .string ⟨#[58, 115, 99, 104, 101, 109, 101]⟩, .string ⟨#[104, 116, 116, 112]⟩, .bool false, .string ⟨#[58, 97, 117, 116, 104, 111, 114, 105, 116, 121]⟩, .string ⟨#[97]⟩, .bool false, .string ⟨#[58, 112, 97, 116, 104]⟩, .string ⟨#[47]⟩, .bool false] 28) = x := ⟨_, rfl⟩
  have bA : Below w.heap.size w wA := by rw [← hwA]; exact bel1 w _
  have iA : In EFd wA (.slice (some ⟨w.heap.size, 0, none⟩) 4 4) hdL := by
    rw [← hwA]
    exact R.isIn (R.whole okFd hdL (by simp [hdL]) (by rw [heap_al, if_pos rfl]; rfl) rfl)
  have HA : Hid (w.alloc (.cells #[.string ⟨#[58, 109, 101, 116, 104, 111, 100]⟩, .string ⟨#[71, 69, 84]⟩, .bool false, .string ⟨#[58, 115, 99, 104, 101, 109, 101]⟩, .string ⟨#[104, 116, 116, 112]⟩, .bool false, .string ⟨#[58, 97, 117, 116, 104, 111, 114, 105, 116, 121]⟩, .string ⟨#[97]⟩, .bool false, .string ⟨#[58, 112, 97, 116, 104]⟩, .string ⟨#[47]⟩, .bool false] 28) = wA) := hwA
  have HER : Hid (Er w) := he
  have BA : Hid (Below w.heap.size w wA) := bA
  have hn1 : Hid (Calls Tryd.prog 10 #[.bool true, .string ⟨#[]⟩, .slice (some ⟨w.heap.size, 0, none⟩) 4 4] wA fun e w' => NqPost hdL wA e w') := new_req ⟨#[]⟩ (some ⟨w.heap.size, 0, none⟩, 4, 4) hdL wA iA (by simp [hdL]) (by decide +kernel) rq_hd (by decide +kernel) (he.below bA)
  clear hwA bA iA he
  go_enter Tryd.func7, Tryd.ntmps7
  go_wp2_with fail
  go_at_call 10
  rw [HA.out]
  refine Calls.mono hn1.out ?_
  rintro e wB ⟨g1, m, s, a, p, y, rfl, bX, o1, M1, hv⟩
  have hp : p = ⟨#[47]⟩ := by
    have h : vals hdL 4 reqNames = some [⟨#[71, 69, 84]⟩, ⟨#[104, 116, 116, 112]⟩, ⟨#[97]⟩, ⟨#[47]⟩] := by decide +kernel
    rw [h] at hv
    simp only [Option.some.injEq, List.cons.injEq, and_true] at hv
    exact hv.2.2.2.symm
  subst hp
  obtain ⟨x1, hx1⟩ : ∃ x, { mg0 true with m := m, s := s, a := a, p := ⟨#[47]⟩, qy := y } = x := ⟨_, rfl⟩
  rw [hx1] at M1
  have X1 : Hid (x1.rq = true ∧ x1.p = ⟨#[47]⟩ ∧ x1.st = 0 ∧ x1.fx = false ∧ x1.ln = 0 ∧ x1.bs = (none, 0, 0)) := by rw [← hx1]; exact ⟨rfl, rfl, rfl, rfl, rfl, rfl⟩
  have W1 : Hid (Mw w wB g1 x1 [] [] []) := ⟨M1, Nat.le_trans BA.out.size o1, fun k hk => by rw [X1.out.2.2.2.2.2] at hk; simp [sv, Value.ownBlock] at hk, Nat.zero_le _⟩
  have BB : Hid (Below w.heap.size w wB) := BA.out.trans (bX.mono BA.out.size)
  clear hx1 bX o1 M1 hv hn1 HA BA m s a y
  go_wp2_with fail
  go_at_call 8
  refine (reply_any ⟨#[50, 48, 48]⟩ ⟨#[53]⟩ wB).mono ?_
  rintro e wC ⟨⟨rb, rn, rc⟩, rfl, bX, rX, oX⟩
  have BC : Hid (Below w.heap.size w wC) := BB.out.trans (bX.mono BB.out.size)
  have W1C : Hid (Mw w wC g1 x1 [] [] []) := W1.out.below bX
  have hn2 : Hid (Calls Tryd.prog 10 #[.bool false, .string ⟨#[71, 69, 84]⟩, .slice rb rn rc] wC fun e w' => NsPost w ⟨#[71, 69, 84]⟩ (rpL ⟨#[50, 48, 48]⟩ ⟨#[53]⟩) wC e w') := new_step ⟨#[71, 69, 84]⟩ (rb, rn, rc) _ (R.isIn rX) (by decide +kernel) (by decide +kernel) (by decide +kernel) (HER.out.below BC.out) nw_hd BC.out.size
  clear bX rX oX W1 BB
  simp only [sv]
  go_wp2_with fail
  go_at_call 10
  refine Calls.mono hn2.out ?_
  rintro e wD ⟨g2, y2, rfl, W2, bX, o2⟩
  have hne : g2 ≠ g1 := fun e => by
    have := heap_lt W1C.out.ms.bx
    omega
  obtain ⟨x2, hx2⟩ : ∃ x, NwX ⟨#[71, 69, 84]⟩ (rpL ⟨#[50, 48, 48]⟩ ⟨#[53]⟩) y2 = x := ⟨_, rfl⟩
  rw [hx2] at W2
  have X2 : Hid (x2.rq = false ∧ x2.n = 200 ∧ x2.st = 0 ∧ x2.fx = true ∧ x2.ln = 5 ∧ x2.bs = (none, 0, 0)) := by rw [← hx2]; exact ⟨by kernel_rfl, by kernel_rfl, by kernel_rfl, by kernel_rfl, by kernel_rfl, by kernel_rfl⟩
  have BD : Hid (Below w.heap.size w wD) := BC.out.trans (bX.mono BC.out.size)
  have W1D : Hid (Mw w wD g1 x1 [] [] []) := W1C.out.below bX
  have W2D : Hid (Mw w wD g2 x2 [] (([] : List Fd) ++ (rpL ⟨#[50, 48, 48]⟩ ⟨#[53]⟩).drop 1) []) := W2
  have HNE : Hid (g2 ≠ g1) := hne
  have hw1 : Hid (Calls Tryd.prog 16 #[.pointer (some ⟨g1, 0, none⟩)] wD fun e w' => e = .returned (.bool false) ∧ w' = wD) := by
    have := whole_any g1 x1 wD W1D.out.ms.bx
    rw [X1.out.2.2.1] at this
    exact this
  clear hx2 bX o2 W2 hn2 W1C BC hne
  go_wp2_with fail
  go_at_call 16
  refine Calls.mono hw1.out ?_
  rintro e w' ⟨rfl, rfl⟩
  have he1 : Hid (Calls Tryd.prog 15 #[.pointer (some ⟨g1, 0, none⟩)] w' fun e W' => DsPost w g1 x1 [] [] 0 1 [] w' e W') := end_step W1D.out BD.out (by rw [X1.out.2.2.1, X1.out.2.2.2.1, X1.out.2.2.2.2.1]; decide) (by rw [X1.out.2.2.1, X1.out.2.2.2.1, X1.out.2.2.2.2.1]; decide) (by rw [X1.out.2.2.1, X1.out.2.2.2.1, X1.out.2.2.2.2.1]; decide +kernel)
  clear hw1
  go_wp2_with fail
  go_at_call 15
  refine Calls.mono he1.out ?_
  rintro e wE ⟨bs1, rfl, W1', bE, kE, _⟩
  have W2E : Hid (Mw w wE g2 x2 [] (([] : List Fd) ++ (rpL ⟨#[50, 48, 48]⟩ ⟨#[53]⟩).drop 1) []) := W2D.out.other W1D.out kE HNE.out (fun k hk => by rw [X2.out.2.2.2.2.2] at hk; simp [sv, Value.ownBlock] at hk)
  obtain ⟨z1, hz1⟩ : ∃ x, { x1 with st := 1, bs := bs1 } = x := ⟨_, rfl⟩
  rw [hz1] at W1'
  have Z1 : Hid (z1.rq = true ∧ z1.p = ⟨#[47]⟩ ∧ z1.st = 1) := by rw [← hz1]; exact ⟨X1.out.1, X1.out.2.1, rfl⟩
  have W1E : Hid (Mw w wE g1 z1 [] [] []) := W1'
  have BE : Hid (Below w.heap.size w wE) := bE
  have hw2 : Hid (Calls Tryd.prog 16 #[.pointer (some ⟨g1, 0, none⟩)] wE fun e w' => e = .returned (.bool true) ∧ w' = wE) := by
    have := whole_any g1 z1 wE W1E.out.ms.bx
    rw [Z1.out.2.2] at this
    exact this
  clear hz1 W1' bE kE he1 W1D W2D BD
  go_wp2_with fail
  go_at_call 16
  refine Calls.mono hw2.out ?_
  rintro e w' ⟨rfl, rfl⟩
  have hr1 : Hid (Calls Tryd.prog 12 #[.pointer (some ⟨g1, 0, none⟩)] w' fun e W' => QPost z1 [] [] w' e W') := request_any g1 z1 [] [] [] w' W1E.out.ms Z1.out.1 (by simp)
  clear hw2
  go_wp2_with fail
  go_at_call 12
  refine Calls.mono hr1.out ?_
  rintro e wF ⟨⟨qb, qn, qc⟩, rfl, bX, _, _⟩
  have W1F : Hid (Mw w wF g1 z1 [] [] []) := W1E.out.below bX
  have W2F : Hid (Mw w wF g2 x2 [] (([] : List Fd) ++ (rpL ⟨#[50, 48, 48]⟩ ⟨#[53]⟩).drop 1) []) := W2E.out.below bX
  have BF : Hid (Below w.heap.size w wF) := BE.out.trans (bX.mono BE.out.size)
  have hd1 : Hid (Calls Tryd.prog 14 #[.pointer (some ⟨g1, 0, none⟩), .string ⟨#[]⟩, .bool false] wF fun e w' => e = .returned (.int .i64 8) ∧ w' = wF) := data_over g1 z1 _ _ wF W1F.out.ms.bx (by rw [Z1.out.2.2]; decide)
  rw [Z1.out.2.1]
  have hfl := field37_3 z1.m z1.s z1.a ⟨#[47]⟩ (.slice qb qn qc) (bt []) wF
  simp only [rqv, sv]
  clear bX W1E W2E BE hr1
  go_wp2_with fail
  go_at_call 14
  refine Calls.mono hd1.out ?_
  rintro e w' ⟨rfl, rfl⟩
  have hd2 : Hid (Calls Tryd.prog 14 #[.pointer (some ⟨g2, 0, none⟩), .string ⟨#[97, 98, 99]⟩, .bool false] w' fun e W' => DsPost w g2 x2 (([] : List Fd) ++ (rpL ⟨#[50, 48, 48]⟩ ⟨#[53]⟩).drop 1) [] 0 0 [97, 98, 99] w' e W') := data_step ⟨#[97, 98, 99]⟩ false W2F.out BF.out (by decide) (by rw [X2.out.2.2.1, X2.out.2.2.2.1, X2.out.2.2.2.2.1]; decide +kernel) (by rw [X2.out.2.2.1, X2.out.2.2.2.1, X2.out.2.2.2.2.1]; decide +kernel) (by rw [X2.out.2.2.1, X2.out.2.2.2.1, X2.out.2.2.2.2.1]; decide +kernel)
  clear hd1 hfl W1F
  go_wp2_with fail
  go_at_call 14
  refine Calls.mono hd2.out ?_
  rintro e wG ⟨bs2, rfl, W2', bG, _, _⟩
  obtain ⟨z2, hz2⟩ : ∃ x, { x2 with st := 0, bs := bs2 } = x := ⟨_, rfl⟩
  rw [hz2] at W2'
  have Z2 : Hid (z2.rq = false ∧ z2.n = 200 ∧ z2.st = 0 ∧ z2.fx = true ∧ z2.ln = 5) := by rw [← hz2]; exact ⟨X2.out.1, X2.out.2.1, rfl, X2.out.2.2.2.1, X2.out.2.2.2.2.1⟩
  have W2G : Hid (Mw w wG g2 z2 [97, 98, 99] (([] : List Fd) ++ (rpL ⟨#[50, 48, 48]⟩ ⟨#[53]⟩).drop 1) []) := W2'
  have BG : Hid (Below w.heap.size w wG) := bG
  have hw3 : Hid (Calls Tryd.prog 16 #[.pointer (some ⟨g2, 0, none⟩)] wG fun e w' => e = .returned (.bool false) ∧ w' = wG) := by
    have := whole_any g2 z2 wG W2G.out.ms.bx
    rw [Z2.out.2.2.1] at this
    exact this
  clear hz2 W2' bG hd2 W2F BF
  go_wp2_with fail
  go_at_call 16
  refine Calls.mono hw3.out ?_
  rintro e w' ⟨rfl, rfl⟩
  have hd3 : Hid (Calls Tryd.prog 14 #[.pointer (some ⟨g2, 0, none⟩), .string ⟨#[100, 101]⟩, .bool true] w' fun e W' => DsPost w g2 z2 (([] : List Fd) ++ (rpL ⟨#[50, 48, 48]⟩ ⟨#[53]⟩).drop 1) [] 0 1 [97, 98, 99, 100, 101] w' e W') := data_step ⟨#[100, 101]⟩ true W2G.out BG.out (by decide) (by rw [Z2.out.2.2.1, Z2.out.2.2.2.1, Z2.out.2.2.2.2]; decide +kernel) (by rw [Z2.out.2.2.1, Z2.out.2.2.2.1, Z2.out.2.2.2.2]; decide +kernel) (by rw [Z2.out.2.2.1, Z2.out.2.2.2.1, Z2.out.2.2.2.2]; decide +kernel)
  clear hw3
  go_wp2_with fail
  go_at_call 14
  refine Calls.mono hd3.out ?_
  rintro e wH ⟨bs3, rfl, W2', bH, _, _⟩
  obtain ⟨z3, hz3⟩ : ∃ x, { z2 with st := 1, bs := bs3 } = x := ⟨_, rfl⟩
  rw [hz3] at W2'
  have Z3 : Hid (z3.rq = false ∧ z3.n = 200 ∧ z3.st = 1) := by rw [← hz3]; exact ⟨Z2.out.1, Z2.out.2.1, rfl⟩
  have W2H : Hid (Mw w wH g2 z3 [97, 98, 99, 100, 101] (([] : List Fd) ++ (rpL ⟨#[50, 48, 48]⟩ ⟨#[53]⟩).drop 1) []) := W2'
  have BH : Hid (Below w.heap.size w wH) := bH
  have hw4 : Hid (Calls Tryd.prog 16 #[.pointer (some ⟨g2, 0, none⟩)] wH fun e w' => e = .returned (.bool true) ∧ w' = wH) := by
    have := whole_any g2 z3 wH W2H.out.ms.bx
    rw [Z3.out.2.2] at this
    exact this
  clear hz3 W2' bH hd3 W2G BG
  go_wp2_with fail
  go_at_call 16
  refine Calls.mono hw4.out ?_
  rintro e w' ⟨rfl, rfl⟩
  have hr2 : Hid (∀ W, Mw w W g2 z3 [97, 98, 99, 100, 101] (([] : List Fd) ++ (rpL ⟨#[50, 48, 48]⟩ ⟨#[53]⟩).drop 1) [] → Calls Tryd.prog 11 #[.pointer (some ⟨g2, 0, none⟩)] W fun e W' => SPost z3 [97, 98, 99, 100, 101] (([] : List Fd) ++ (rpL ⟨#[50, 48, 48]⟩ ⟨#[53]⟩).drop 1) W e W') := fun W h => response_any g2 z3 _ _ [] W h.ms Z3.out.1 (by decide +kernel)
  clear hw4
  have hr3 : Hid _ := hr2.out _ W2H.out
  go_wp2_with fail
  go_at_call 11
  refine Calls.mono hr3.out ?_
  rintro e wI ⟨⟨qb, qn, qc⟩, rfl, bX, _, _⟩
  have W2I : Hid (Mw w wI g2 z3 [97, 98, 99, 100, 101] (([] : List Fd) ++ (rpL ⟨#[50, 48, 48]⟩ ⟨#[53]⟩).drop 1) []) := W2H.out.below bX
  have BI : Hid (Below w.heap.size w wI) := BH.out.trans (bX.mono BH.out.size)
  have hr4 : Hid _ := hr2.out _ W2I.out
  have hfl := field34_2 z3.n (.slice qb qn qc) ⟨#[97, 98, 99, 100, 101]⟩ wI
  simp only [rsv, sv]
  rw [show bt [97, 98, 99, 100, 101] = ⟨#[97, 98, 99, 100, 101]⟩ from rfl]
  clear bX W2H BH hr3
  go_wp2_with fail
  go_at_call 11
  refine Calls.mono hr4.out ?_
  rintro e wJ ⟨⟨pb, pn, pc⟩, rfl, bX, _, _⟩
  have BJ : Hid (Below w.heap.size w wJ) := BI.out.trans (bX.mono BI.out.size)
  rw [Z3.out.2.1]
  have hfl2 := field34_0 200 (.slice pb pn pc) (bt [97, 98, 99, 100, 101]) wJ
  simp only [rsv, sv]
  clear bX W2I BI hr4 hr2 hfl
  go_wp2_with fail
  go_ret
  exact ⟨by first | rfl | simp, BJ.out⟩
end Go.Proofs.YtnbaojdildelmaaDoor
