/- A request's New; reply; Data of a whole message; over. -/
import Derived.Test.YtnbaojdildelmaaDoorN6
import Derived.Test.YtnbaojdildelmaaDoorW1
namespace Go.Proofs.YtnbaojdildelmaaDoor
open Go.RowKit
set_option linter.unusedVariables false
set_option linter.unusedSimpArgs false
theorem MgB.req {w1 : World} {g : Nat} {x : Mg} (h : MgB w1 g x) (m s a p : ByteArray) (yb : Option Addr) (yn yc : Nat) : MgB ((((((w1.setCell ⟨g, 1, none⟩ (.string m)).setCell ⟨g, 2, none⟩ (.string s)).setCell ⟨g, 3, none⟩ (.string a)).setCell ⟨g, 4, none⟩ (.string p)).setCell ⟨g, 5, none⟩ (.slice yb yn yc)).setCell ⟨g, 6, none⟩ (.string ⟨#[]⟩)) g { x with m := m, s := s, a := a, p := p, qy := (yb, yn, yc) } := by
  unfold MgB at *
  rw [setCell_block _ _ _ _ _ _ _ (setCell_block _ _ _ _ _ _ _ (setCell_block _ _ _ _ _ _ _ (setCell_block _ _ _ _ _ _ _ (setCell_block _ _ _ _ _ _ _ (setCell_block _ _ _ _ _ _ _ h)))))]
  rfl
theorem Ks.one {g : Nat} {w w' : World} (h : Ks (JustG g) w w') (o : Nat) (v : Value) : Ks (JustG g) w (w'.setCell ⟨g, o, none⟩ v) := h.trans (Ks.setCell (JustG g) w' g o v rfl) (fun _ _ h => h) (fun _ _ h => h)
def RqhPost (g : Nat) (x : Mg) (l : List Fd) (w : World) (e : Ending) (w' : World) : Prop := ∃ (m s a p : ByteArray) (y : SV), e = .returned (.int .i64 0) ∧ MgB w' g { x with m := m, s := s, a := a, p := p, qy := y } ∧ Ks (JustG g) w w' ∧ vals l 4 reqNames = some [m, s, a, p] ∧ R EFd w' (sv y) (l.drop 4) ∧ ∀ k, (sv y).ownBlock = some k → w.heap.size ≤ k
set_option maxHeartbeats 8000000 in
set_option maxRecDepth 100000 in
theorem readHead_req (g : Nat) (x : Mg) (s : SV) (l : List Fd) (w : World) (h : MgB w g x) (hrq : x.rq = true) (hI : In EFd w (sv s) l) (hz : ∀ f ∈ l, f.n.size ≤ 140737488355328) (h0 : rqE l = 0) :
    Calls Tryd.prog 21 #[.pointer (some ⟨g, 0, none⟩), sv s] w fun e w' => RqhPost g x l w e w' := by
  have hc := h.cells
  have c0 := hc.c0
  have lt := hc.lt
  have HB : Hid (MgB w g x) := h
  rw [hrq] at c0
  have hRs : Hid (Calls Tryd.prog 27 #[sv s] w fun e w' => RqPost l w e w') := readRequest_any s l w hI hz
  have HE : Hid (rqE l = 0) := h0
  obtain ⟨sb, sn, sc⟩ := s
  simp only [sv] at hRs ⊢
  clear h hI hz hc hrq h0
  go_enter Tryd.func21, Tryd.ntmps21
  go_wp2_with fail
  go_at_call 27
  refine Calls.mono hRs.out ?_
  rintro e w1 ⟨m, s, a, p, ⟨yb, yn, yc⟩, rfl, bX, k1, k2⟩
  rw [HE.out]
  obtain ⟨v1, v2, v4, v5⟩ := k1 HE.out
  have hb1 := HB.out.below bX
  have hb1' := hb1
  unfold MgB at hb1'
  have f1 := frozen_blk hb1' 1
  have f2 := frozen_blk hb1' 2
  have f3 := frozen_blk hb1' 3
  have f4 := frozen_blk hb1' 4
  have f5 := frozen_blk hb1' 5
  have f6 := frozen_blk hb1' 6
  have d1 := cell_blk hb1' 1
  have d2 := cell_blk hb1' 2
  have d3 := cell_blk hb1' 3
  have d4 := cell_blk hb1' 4
  have d5 := cell_blk hb1' 5
  have d6 := cell_blk hb1' 6
  have l1 := heap_lt hb1'
  simp only [mgv, List.getElem?_toArray, List.getElem?_cons_succ, List.getElem?_cons_zero] at d1 d2 d3 d4 d5 d6
  have HQ : Hid (MgB ((((((w1.setCell ⟨g, 1, none⟩ (.string m)).setCell ⟨g, 2, none⟩ (.string s)).setCell ⟨g, 3, none⟩ (.string a)).setCell ⟨g, 4, none⟩ (.string p)).setCell ⟨g, 5, none⟩ (.slice yb yn yc)).setCell ⟨g, 6, none⟩ (.string ⟨#[]⟩)) g { x with m := m, s := s, a := a, p := p, qy := (yb, yn, yc) } ∧ Ks (JustG g) w ((((((w1.setCell ⟨g, 1, none⟩ (.string m)).setCell ⟨g, 2, none⟩ (.string s)).setCell ⟨g, 3, none⟩ (.string a)).setCell ⟨g, 4, none⟩ (.string p)).setCell ⟨g, 5, none⟩ (.slice yb yn yc)).setCell ⟨g, 6, none⟩ (.string ⟨#[]⟩)) ∧ vals l 4 reqNames = some [m, s, a, p] ∧ R EFd ((((((w1.setCell ⟨g, 1, none⟩ (.string m)).setCell ⟨g, 2, none⟩ (.string s)).setCell ⟨g, 3, none⟩ (.string a)).setCell ⟨g, 4, none⟩ (.string p)).setCell ⟨g, 5, none⟩ (.slice yb yn yc)).setCell ⟨g, 6, none⟩ (.string ⟨#[]⟩)) (.slice yb yn yc) (l.drop 4) ∧ ∀ k, (Value.slice yb yn yc).ownBlock = some k → w.heap.size ≤ k) := by
    have kk : Ks (JustG g) w1 ((((((w1.setCell ⟨g, 1, none⟩ (.string m)).setCell ⟨g, 2, none⟩ (.string s)).setCell ⟨g, 3, none⟩ (.string a)).setCell ⟨g, 4, none⟩ (.string p)).setCell ⟨g, 5, none⟩ (.slice yb yn yc)).setCell ⟨g, 6, none⟩ (.string ⟨#[]⟩)) := ((((((Ks.refl (JustG g) w1).one 1 _).one 2 _).one 3 _).one 4 _).one 5 _).one 6 _
    refine ⟨hb1.req m s a p yb yn yc, (Ks.of_below bX).trans kk (fun _ _ h => h) (fun _ _ h => h), v1, R.stays v4 fun k hk hl => kk.block k hl ?_, v5⟩
    intro e
    exact row_ne_mg v4 hb1 (by decide) hk e
  simp only [rqv, sv]
  clear hb1 hb1' k1 k2 v1 v2 v4 v5 bX hRs
  go_wp2_with fail
  go_ret
  exact ⟨m, s, a, p, (yb, yn, yc), by first | rfl | simp, HQ.out⟩
def NqPost (l : List Fd) (w : World) (e : Ending) (w' : World) : Prop :=
  ∃ (g : Nat) (m s a p : ByteArray) (y : SV), e = .returned (.tuple #[.pointer (some ⟨g, 0, none⟩), .int .i64 0]) ∧ Below w.heap.size w w' ∧ w.heap.size ≤ g ∧ Msg w' g { mg0 true with m := m, s := s, a := a, p := p, qy := y } [] [] (l.drop 4) ∧ vals l 4 reqNames = some [m, s, a, p]
set_option maxHeartbeats 8000000 in
set_option maxRecDepth 100000 in
theorem new_req (meth : ByteArray) (s : SV) (l : List Fd) (w : World) (hI : In EFd w (sv s) l) (hlen : l.length * 40 ≤ 140737488355328) (hz : ∀ f ∈ l, f.n.size ≤ 140737488355328) (h0 : rqE l = 0) (hv : vsL l clS = []) (he : Er w) :
    Calls Tryd.prog 10 #[.bool true, .string meth, sv s] w fun e w' => NqPost l w e w' := by
  obtain ⟨w1, hw1⟩ : ∃ x, w.alloc (.cells (mgv (mg0 true)) 53) = x := ⟨_, rfl⟩
  have b1 : Below w.heap.size w w1 := by rw [← hw1]; exact bel1 w _
  have m1 : MgB w1 w.heap.size (mg0 true) := by rw [← hw1]; unfold MgB; rw [heap_al, if_pos rfl]
  have HW1 : Hid (w.alloc (.cells #[.bool true, .string ⟨#[]⟩, .string ⟨#[]⟩, .string ⟨#[]⟩, .string ⟨#[]⟩, .slice none 0 0, .string ⟨#[]⟩, .int .i64 0, .slice none 0 0, .string ⟨#[]⟩, .int .i64 0, .slice none 0 0, .bool false, .int .i64 0] 53) = w1) := hw1
  have HB1 : Hid (Below w.heap.size w w1 ∧ MgB w1 w.heap.size (mg0 true)) := ⟨b1, m1⟩
  have hrh : Hid (Calls Tryd.prog 21 #[.pointer (some ⟨w.heap.size, 0, none⟩), sv s] w1 fun e w' => RqhPost w.heap.size (mg0 true) l w1 e w') := readHead_req w.heap.size (mg0 true) s l w1 m1 rfl (hI.below b1) hz h0
  have hrl : Hid (∀ (x : Mg) W, MgB W w.heap.size x → Below w.heap.size w W → Calls Tryd.prog 22 #[.pointer (some ⟨w.heap.size, 0, none⟩), sv s] W fun e w' => e = .returned (.int .i64 0) ∧ MgB w' w.heap.size x ∧ Ks (JustG w.heap.size) W w') := fun x W hm hb => by
    have := readLength_any w.heap.size x s l W hm (hI.below hb) hlen (by rw [hv]; simp) (he.below hb)
    rw [hv] at this
    exact this
  obtain ⟨sb, sn, sc⟩ := s
  simp only [sv] at hrh hrl ⊢
  clear hI hlen hz he b1 m1 hw1 hv h0
  go_enter Tryd.func10, Tryd.ntmps10
  go_wp2_with fail
  go_at_call 21
  rw [HW1.out]
  refine Calls.mono hrh.out ?_
  rintro e w2 ⟨m, s, a, p, y, rfl, k1, k2, k3, k4, k5⟩
  have B2 : Below w.heap.size w w2 := HB1.out.1.trans (justG_below k2 HB1.out.1.size (Nat.le_refl _))
  have hrl2 : Hid _ := hrl.out _ w2 k1 B2
  have H2 : Hid (vals l 4 reqNames = some [m, s, a, p] ∧ R EFd w2 (sv y) (l.drop 4) ∧ (∀ k, (sv y).ownBlock = some k → w1.heap.size ≤ k) ∧ Below w.heap.size w w2) := ⟨k3, k4, k5, B2⟩
  clear k1 k2 k3 k4 k5 B2 hrl hrh HW1
  go_wp2_with fail
  go_at_call 22
  refine Calls.mono hrl2.out ?_
  rintro e w3 ⟨rfl, m1, m2⟩
  have hrw : R EFd w3 (sv y) (l.drop 4) := R.stays H2.out.2.1 fun k hk hl => m2.block k hl fun e => by
    have h7 := H2.out.2.2.1 k hk
    have h8 : k = w.heap.size := e
    have h9 := heap_lt HB1.out.2
    omega
  have B3 : Below w.heap.size w w3 := H2.out.2.2.2.trans (justG_below m2 H2.out.2.2.2.size (Nat.le_refl _))
  have hbd : Hid (Calls Tryd.prog 23 #[.pointer (some ⟨w.heap.size, 0, none⟩), .string meth] w3 fun e w' => e = .returned (.bool false) ∧ w' = w3) := bodiless_any w.heap.size _ meth w3 m1
  have HR : Hid (Below w.heap.size w w3 ∧ w.heap.size ≤ w.heap.size ∧ Msg w3 w.heap.size { mg0 true with m := m, s := s, a := a, p := p, qy := y } [] [] (l.drop 4) ∧ vals l 4 reqNames = some [m, s, a, p]) := ⟨B3, Nat.le_refl _, ⟨m1, R.nil EB _, R.nil EFd _, hrw⟩, H2.out.1⟩
  clear m1 m2 hrw B3 hrl2 H2
  go_wp2_with fail
  go_at_call 23
  refine Calls.mono hbd.out ?_
  rintro e w4 ⟨rfl, rfl⟩
  clear hbd
  go_wp2_with fail
  go_ret2
  exact ⟨w.heap.size, m, s, a, p, y, by first | rfl | simp, HR.out⟩
/-- Data in the message's own words -/
def dtX (x : Mg) (bs : SV) (b t : Nat) (en : Bool) : Mg := { x with st := dtS x.st x.fx x.ln b t en, bs := bs }
def DmPost (g : Nat) (x : Mg) (body : List UInt8) (fl ql : List Fd) (t : ByteArray) (en : Bool) (w : World) (e : Ending) (w' : World) : Prop :=
  ∃ bs' : SV, e = .returned (.int .i64 (dtE x.st x.fx x.ln body.length t.size en)) ∧ Msg w' g (dtX x bs' body.length t.size en) (dtB x.st x.fx x.ln body t en) fl ql ∧ Ks (Ow g x) w w' ∧ ∀ k, (sv bs').ownBlock = some k → (sv x.bs).ownBlock = some k ∨ w.heap.size ≤ k
theorem Msg.dt {w w' : World} {g : Nat} {x : Mg} {body : List UInt8} {fl ql : List Fd} {t : ByteArray} {en : Bool} {e : Ending} (h : Msg w g x body fl ql) (hd : DtPost g x body t en w e w') : DmPost g x body fl ql t en w e w' := by
  obtain ⟨bs', k1, k2, k3, k4, k5⟩ := hd
  refine ⟨bs', k1, ⟨k2, k3, R.stays h.rf fun k hk hl => k4.block k hl ?_, R.stays h.qf fun k hk hl => k4.block k hl ?_⟩, k4, k5⟩
  · rintro (e | e)
    · exact row_ne_mg h.rf h.bx (by decide) hk e
    · exact fd_ne_b h.rf h.rb hk e
  · rintro (e | e)
    · exact row_ne_mg h.qf h.bx (by decide) hk e
    · exact fd_ne_b h.qf h.rb hk e
theorem data_msg (g : Nat) (x : Mg) (body : List UInt8) (fl ql : List Fd) (t : ByteArray) (en : Bool) (w : World) (h : Msg w g x body fl ql) (hb : body.length ≤ 65536) (ht : t.size ≤ 140737488355328) :
    Calls Tryd.prog 14 #[.pointer (some ⟨g, 0, none⟩), .string t, .bool en] w fun e w' => DmPost g x body fl ql t en w e w' := (data_any g x body t en w h.bx h.rb hb ht).mono fun e w' hd => h.dt hd
theorem end_msg (g : Nat) (x : Mg) (body : List UInt8) (fl ql : List Fd) (w : World) (h : Msg w g x body fl ql) (hb : body.length ≤ 65536) :
    Calls Tryd.prog 15 #[.pointer (some ⟨g, 0, none⟩)] w fun e w' => DmPost g x body fl ql ⟨#[]⟩ true w e w' := (end_any g x body w h.bx h.rb hb).mono fun e w' hd => h.dt hd
theorem rfE_nn {fx : Bool} {ln : Int} {b t : Nat} {en : Bool} (h : rfE fx ln ((b : Int) + (t : Int)) en = 0) : b + t ≤ 65536 := by
  have := rfE_zero h
  omega
theorem dtB_len (st : Int) (fx : Bool) (ln : Int) (body : List UInt8) (t : ByteArray) (en : Bool) (hb : body.length ≤ 65536) : (dtB st fx ln body t en).length ≤ 65536 := by
  unfold dtB
  split
  · exact hb
  · split
    · exact hb
    · rename_i h1 h2
      have h3 : rfE fx ln ((body.length : Int) + (t.size : Int)) en = 0 := by
        apply Classical.byContradiction
        exact h2
      have := rfE_nn h3
      rw [List.length_append, ← Lib.size_eq]
      exact this
set_option maxHeartbeats 4000000 in
set_option maxRecDepth 100000 in
/-- a message that is over answers ErrState -/
theorem data_over (g : Nat) (x : Mg) (t : ByteArray) (en : Bool) (w : World) (h : MgB w g x) (hst : x.st ≠ 0) : Calls Tryd.prog 14 #[.pointer (some ⟨g, 0, none⟩), .string t, .bool en] w fun e w' => e = .returned (.int .i64 8) ∧ w' = w := by
  have hc := h.cells
  have c10 := hc.c10
  have lt := hc.lt
  obtain ⟨st, hs⟩ : ∃ b, x.st = b := ⟨_, rfl⟩
  rw [hs] at c10 hst
  have q1 : (st == 0) = false := by simp; exact hst
  have q2 : (st != 0) = true := by rw [bne, q1]; rfl
  clear h hc hs hst
  go_enter Tryd.func14, Tryd.ntmps14
  go_wp2_with fail
  go_ret
  exact ⟨by first | rfl | simp, rfl⟩
set_option maxHeartbeats 4000000 in
set_option maxRecDepth 100000 in
theorem end_over (g : Nat) (x : Mg) (w : World) (h : MgB w g x) (hst : x.st ≠ 0) : Calls Tryd.prog 15 #[.pointer (some ⟨g, 0, none⟩)] w fun e w' => e = .returned (.int .i64 8) ∧ w' = w := by
  have hd : Hid (Calls Tryd.prog 14 #[.pointer (some ⟨g, 0, none⟩), .string ⟨#[]⟩, .bool true] w fun e w' => e = .returned (.int .i64 8) ∧ w' = w) := data_over g x ⟨#[]⟩ true w h hst
  clear h hst
  go_enter Tryd.func15, Tryd.ntmps15
  go_wp2_with fail
  go_at_call 14
  refine Calls.mono hd.out ?_
  rintro e w2 ⟨rfl, rfl⟩
  go_wp2_with fail
  go_ret
  exact ⟨by first | rfl | simp, rfl⟩
theorem field34_2 (n : Int) (y : Value) (b : ByteArray) (W : World) : Sem.run Tryd.prog (Instr.field 34 (.agg #[.int .i64 n, y, .string b]) 2) W = .ok (.string b) W := by kernel_rfl
theorem field34_0 (n : Int) (y : Value) (b : ByteArray) (W : World) : Sem.run Tryd.prog (Instr.field 34 (.agg #[.int .i64 n, y, .string b]) 0) W = .ok (.int .i64 n) W := by kernel_rfl
theorem field37_3 (m s a p : ByteArray) (y : Value) (b : ByteArray) (W : World) : Sem.run Tryd.prog (Instr.field 37 (.agg #[.string m, .string s, .string a, .string p, y, .string b]) 3) W = .ok (.string p) W := by kernel_rfl
def OvPost (w : World) (e : Ending) (w' : World) : Prop := e = .returned (.bool true) ∧ Below w.heap.size w w'
set_option maxHeartbeats 8000000 in
set_option maxRecDepth 100000 in
/-- whole with its body -/
theorem over_whole (g : Nat) (x : Mg) (body : List UInt8) (fl ql : List Fd) (w : World) (h : Msg w g x body fl ql) (hst : x.st = 1) (hrq : x.rq = false) (hlen : fl.length * 40 ≤ 140737488355328) :
    Calls Tryd.prog 17 #[.pointer (some ⟨g, 0, none⟩), .bool true, .string (bt body)] w fun e w' => OvPost w e w' := by
  have hn : x.st ≠ 0 := by rw [hst]; decide
  have hW : Hid (Calls Tryd.prog 16 #[.pointer (some ⟨g, 0, none⟩)] w fun e w' => e = .returned (.bool true) ∧ w' = w) := by
    have := whole_any g x w h.bx
    rw [hst] at this
    exact this
  have hD1 : Hid (Calls Tryd.prog 14 #[.pointer (some ⟨g, 0, none⟩), .string ⟨#[120]⟩, .bool false] w fun e w' => e = .returned (.int .i64 8) ∧ w' = w) := data_over g x _ _ w h.bx hn
  have hD2 : Hid (Calls Tryd.prog 14 #[.pointer (some ⟨g, 0, none⟩), .string ⟨#[]⟩, .bool true] w fun e w' => e = .returned (.int .i64 8) ∧ w' = w) := data_over g x _ _ w h.bx hn
  have hE : Hid (Calls Tryd.prog 15 #[.pointer (some ⟨g, 0, none⟩)] w fun e w' => e = .returned (.int .i64 8) ∧ w' = w) := end_over g x w h.bx hn
  have hR : Hid (Calls Tryd.prog 11 #[.pointer (some ⟨g, 0, none⟩)] w fun e w' => SPost x body fl w e w') := response_any g x body fl ql w h hrq hlen
  have q1 := str_eq (rfl : bt body = bt body)
  clear h hst hrq hlen hn
  obtain ⟨B, hB⟩ : ∃ B, bt body = B := ⟨_, rfl⟩
  have HB : Hid (bt body = B) := hB
  rw [hB] at q1 ⊢
  clear hB
  go_enter Tryd.func17, Tryd.ntmps17
  go_wp2_with fail
  go_at_call 16
  refine Calls.mono hW.out ?_
  rintro e w2 ⟨rfl, rfl⟩
  go_wp2_with fail
  go_at_call 14
  refine Calls.mono hD1.out ?_
  rintro e w3 ⟨rfl, rfl⟩
  go_wp2_with fail
  go_at_call 14
  refine Calls.mono hD2.out ?_
  rintro e w4 ⟨rfl, rfl⟩
  go_wp2_with fail
  go_at_call 15
  refine Calls.mono hE.out ?_
  rintro e w5 ⟨rfl, rfl⟩
  go_wp2_with fail
  go_at_call 16
  refine Calls.mono hW.out ?_
  rintro e w6 ⟨rfl, rfl⟩
  go_wp2_with fail
  go_at_call 11
  refine Calls.mono hR.out ?_
  rintro e w7 ⟨⟨yb, yn, yc⟩, rfl, bX, _, _⟩
  rw [HB.out]
  have BX : Hid _ := bX
  clear bX
  simp only [rsv, sv]
  have hfl := field34_2 x.n (.slice yb yn yc) B w7
  go_wp2_with fail
  go_ret
  exact ⟨by first | rfl | simp, BX.out⟩
set_option maxHeartbeats 8000000 in
set_option maxRecDepth 100000 in
/-- broken -/
theorem over_broken (g : Nat) (x : Mg) (b : ByteArray) (w : World) (h : MgB w g x) (hst : x.st = 2) :
    Calls Tryd.prog 17 #[.pointer (some ⟨g, 0, none⟩), .bool false, .string b] w fun e w' => OvPost w e w' := by
  have hn : x.st ≠ 0 := by rw [hst]; decide
  have hW : Hid (Calls Tryd.prog 16 #[.pointer (some ⟨g, 0, none⟩)] w fun e w' => e = .returned (.bool false) ∧ w' = w) := by
    have := whole_any g x w h
    rw [hst] at this
    exact this
  have hD1 : Hid (Calls Tryd.prog 14 #[.pointer (some ⟨g, 0, none⟩), .string ⟨#[120]⟩, .bool false] w fun e w' => e = .returned (.int .i64 8) ∧ w' = w) := data_over g x _ _ w h hn
  have hD2 : Hid (Calls Tryd.prog 14 #[.pointer (some ⟨g, 0, none⟩), .string ⟨#[]⟩, .bool true] w fun e w' => e = .returned (.int .i64 8) ∧ w' = w) := data_over g x _ _ w h hn
  have hE : Hid (Calls Tryd.prog 15 #[.pointer (some ⟨g, 0, none⟩)] w fun e w' => e = .returned (.int .i64 8) ∧ w' = w) := end_over g x w h hn
  clear h hst hn
  go_enter Tryd.func17, Tryd.ntmps17
  go_wp2_with fail
  go_at_call 16
  refine Calls.mono hW.out ?_
  rintro e w2 ⟨rfl, rfl⟩
  go_wp2_with fail
  go_at_call 14
  refine Calls.mono hD1.out ?_
  rintro e w3 ⟨rfl, rfl⟩
  go_wp2_with fail
  go_at_call 14
  refine Calls.mono hD2.out ?_
  rintro e w4 ⟨rfl, rfl⟩
  go_wp2_with fail
  go_at_call 15
  refine Calls.mono hE.out ?_
  rintro e w5 ⟨rfl, rfl⟩
  go_wp2_with fail
  go_at_call 16
  refine Calls.mono hW.out ?_
  rintro e w6 ⟨rfl, rfl⟩
  go_wp2_with fail
  go_ret
  exact ⟨by first | rfl | simp, Below.refl _ _⟩
set_option maxHeartbeats 8000000 in
set_option maxRecDepth 100000 in
theorem reply_any (st ln : ByteArray) (w : World) : Calls Tryd.prog 8 #[.string st, .string ln] w fun e w' => ClPost (rpL st ln) w e w' := by
  have h1 : R EFd (w.alloc (.cells #[.string statS, .string st, .bool false] 28)) (.slice (some ⟨w.heap.size, 0, none⟩) 1 1) [⟨statS, st, false⟩] := R.whole okFd [⟨statS, st, false⟩] (by simp) (by rw [heap_al, if_pos rfl]; rfl) rfl
  have ho : ∀ k, (Value.slice (some ⟨w.heap.size, 0, none⟩) 1 1).ownBlock = some k → w.heap.size ≤ k := fun k hk => by
    have : w.heap.size = k := by simpa [Value.ownBlock] using hk
    omega
  by_cases hl : ln = ⟨#[]⟩
  · subst hl
    have HP : Hid (Below w.heap.size w (w.alloc (.cells #[.string statS, .string st, .bool false] 28)) ∧ R EFd (w.alloc (.cells #[.string statS, .string st, .bool false] 28)) (.slice (some ⟨w.heap.size, 0, none⟩) 1 1) (rpL st ⟨#[]⟩) ∧ ∀ k, (Value.slice (some ⟨w.heap.size, 0, none⟩) 1 1).ownBlock = some k → w.heap.size ≤ k) := ⟨bel1 w _, by unfold rpL; rw [if_pos rfl]; exact h1, ho⟩
    clear h1 ho
    unfold statS at HP
    go_enter Tryd.func8, Tryd.ntmps8
    go_wp2_with fail
    go_ret
    exact ⟨(some ⟨w.heap.size, 0, none⟩, 1, 1), by first | rfl | simp, HP.out⟩
  · have s0e : ln.toList.isEmpty = false := by
      rw [ByteArray.toList_eq]
      cases hx : ln.data.toList with
      | nil => exact absurd (ba_eq (by rw [hx])) hl
      | cons a r => rfl
    have s0 : (ln.toList == (⟨#[]⟩ : ByteArray).toList) = false := str_ne hl
    have s0' : (ln.toList != (⟨#[]⟩ : ByteArray).toList) = true := by rw [bne, s0]; rfl
    have b1 := bel1 w (.cells #[.string statS, .string st, .bool false] 28)
    obtain ⟨w1, hw1⟩ : ∃ x, w.alloc (.cells #[.string statS, .string st, .bool false] 28) = x := ⟨_, rfl⟩
    have HW1 : Hid (w.alloc (.cells #[.string statS, .string st, .bool false] 28) = w1) := hw1
    rw [hw1] at h1 b1
    have b2 := bel1 w1 (.cells #[.string clS, .string ln, .bool false] 28)
    obtain ⟨b, c, w2, a1, a2, a3⟩ := app okFd (w1.alloc (.cells #[.string clS, .string ln, .bool false] 28)) _ _ (R.below h1 b2) (.slice (some ⟨w1.heap.size, 0, none⟩) 1 1) [⟨clS, ln, false⟩] (in_one (x := (⟨clS, ln, false⟩ : Fd)) _ _ #[.string clS, .string ln, .bool false] 28 (0, 0) (by rw [heap_al, if_pos rfl]) rfl) (by simp only [EFd, List.length_singleton]; omega)
    simp only [List.length_singleton] at a1 a2 a3
    have HP : Hid (Below w.heap.size w w2 ∧ R EFd w2 (.slice b (1 + 1) c) (rpL st ln) ∧ ∀ k, (Value.slice b (1 + 1) c).ownBlock = some k → w.heap.size ≤ k) := by
      refine ⟨b1.trans (Below.trans (b2.mono b1.size) (a3.belowB (Nat.le_trans b1.size b2.size) ho)), by unfold rpL; rw [if_neg hl]; exact a2, fun k hk => ?_⟩
      rcases a3.own k hk with e | e
      · exact ho k e
      · exact Nat.le_trans (Nat.le_trans b1.size b2.size) e
    have hsz : Hid (w1.heap.size = w.heap.size + 1) := by rw [← hw1]; exact size_al _ _
    replace a1 : Hid _ := a1
    simp only [EFd, clS] at a1
    simp only [statS] at HW1
    clear h1 ho b1 b2 a2 a3 hw1 hl
    go_enter Tryd.func8, Tryd.ntmps8
    go_upto_region 2 with fail
    rw [HW1.out]
    clear HW1
    go_wp2_with (at_builtin; refine Lib.wpList_append_run _ rfl _ _ _ _ rfl _ _ rfl rfl _ _ a1.out ?_)
    go_ret
    exact ⟨(b, 1 + 1, c), by first | rfl | simp, HP.out⟩
end Go.Proofs.YtnbaojdildelmaaDoor
