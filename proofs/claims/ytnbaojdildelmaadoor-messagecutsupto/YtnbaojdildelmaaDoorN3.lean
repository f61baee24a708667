/- refusal, Data, End, Whole, isBodiless. -/
import Derived.Test.YtnbaojdildelmaaDoorN1
import Derived.Test.YtnbaojdildelmaaDoorV1
namespace Go.Proofs.YtnbaojdildelmaaDoor
open Go.RowKit
set_option linter.unusedVariables false
set_option linter.unusedSimpArgs false
theorem slice_len {α : Type} {E : El α} {w : World} {b : Option Addr} {n c : Nat} {l : List α} (h : In E w (.slice b n c) l) : n = l.length ∧ l.length ≤ c ∧ c ≤ 9223372036854775807 := by
  obtain ⟨_, _, e, q1, q2⟩ := h.slice
  injection e with _ e1 e2
  subst e2
  exact ⟨e1, q1, q2⟩
theorem slice_lenB {α : Type} {E : El α} {w : World} {b : Option Addr} {n c : Nat} {l : List α} (h : R E w (.slice b n c) l) : n = l.length ∧ l.length ≤ c ∧ c ≤ 9223372036854775807 := slice_len h.isIn
/-- what is wrong with a body of that size -/
def rfE (fx : Bool) (ln : Int) (size : Int) (en : Bool) : Int := if size > 65536 then 3 else if fx = true ∧ (size > ln ∨ en = true ∧ size < ln) then 140 else 0
theorem rfE_cases (fx : Bool) (ln size : Int) (en : Bool) : rfE fx ln size en = 0 ∨ rfE fx ln size en = 3 ∨ rfE fx ln size en = 140 := by
  unfold rfE
  split
  · exact .inr (.inl rfl)
  · split
    · exact .inr (.inr rfl)
    · exact .inl rfl
theorem rfE_zero {fx : Bool} {ln size : Int} {en : Bool} (h : rfE fx ln size en = 0) : size ≤ 65536 := by
  apply Classical.byContradiction
  intro hn
  unfold rfE at h
  rw [if_pos (by omega)] at h
  cases h
set_option maxHeartbeats 4000000 in
set_option maxRecDepth 100000 in
theorem refusal_any (g : Nat) (x : Mg) (size : Int) (en : Bool) (w : World) (h : MgB w g x) :
    Calls Tryd.prog 26 #[.pointer (some ⟨g, 0, none⟩), .int .i64 size, .bool en] w fun e w' => e = .returned (.int .i64 (rfE x.fx x.ln size en)) ∧ w' = w := by
  have hc := h.cells
  have c12 := hc.c12
  have c13 := hc.c13
  have lt := hc.lt
  clear h hc
  obtain ⟨fx, hfx⟩ : ∃ b, x.fx = b := ⟨_, rfl⟩
  obtain ⟨ln, hln⟩ : ∃ b, x.ln = b := ⟨_, rfl⟩
  rw [hfx] at c12 ⊢
  rw [hln] at c13 ⊢
  clear hfx hln
  by_cases h1 : size > 65536
  · have HR : Hid (rfE fx ln size en = 3) := if_pos h1
    rw [HR.out]
    clear HR
    go_enter Tryd.func26, Tryd.ntmps26
    go_wp2_with fail
    go_ret
    exact ⟨by first | rfl | simp, rfl⟩
  · cases fx with
    | false =>
      have HR : Hid (rfE false ln size en = 0) := by unfold rfE; show _ = _; rw [if_neg h1, if_neg (by simp)]
      rw [HR.out]
      clear HR
      go_enter Tryd.func26, Tryd.ntmps26
      go_wp2_with fail
      go_ret
      exact ⟨by first | rfl | simp, rfl⟩
    | true =>
      by_cases h2 : size > ln
      · have HR : Hid (rfE true ln size en = 140) := by unfold rfE; show _ = _; rw [if_neg h1, if_pos ⟨rfl, .inl h2⟩]
        rw [HR.out]
        clear HR
        go_enter Tryd.func26, Tryd.ntmps26
        go_wp2_with fail
        go_ret
        exact ⟨by first | rfl | simp, rfl⟩
      · cases en with
        | false =>
          have HR : Hid (rfE true ln size false = 0) := by unfold rfE; show _ = _; rw [if_neg h1, if_neg (by simp; omega)]
          rw [HR.out]
          clear HR
          go_enter Tryd.func26, Tryd.ntmps26
          go_wp2_with fail
          go_ret
          exact ⟨by first | rfl | simp, rfl⟩
        | true =>
          by_cases h3 : size < ln
          · have HR : Hid (rfE true ln size true = 140) := by unfold rfE; show _ = _; rw [if_neg h1, if_pos ⟨rfl, .inr ⟨rfl, h3⟩⟩]
            rw [HR.out]
            clear HR
            go_enter Tryd.func26, Tryd.ntmps26
            go_wp2_with fail
            go_ret
            exact ⟨by first | rfl | simp, rfl⟩
          · have HR : Hid (rfE true ln size true = 0) := by unfold rfE; show _ = _; rw [if_neg h1, if_neg (by simp; omega)]
            rw [HR.out]
            clear HR
            go_enter Tryd.func26, Tryd.ntmps26
            go_wp2_with fail
            go_ret
            exact ⟨by first | rfl | simp, rfl⟩
set_option maxHeartbeats 4000000 in
set_option maxRecDepth 100000 in
theorem whole_any (g : Nat) (x : Mg) (w : World) (h : MgB w g x) : Calls Tryd.prog 16 #[.pointer (some ⟨g, 0, none⟩)] w fun e w' => e = .returned (.bool (decide (x.st = 1))) ∧ w' = w := by
  have hc := h.cells
  have c10 := hc.c10
  have lt := hc.lt
  clear h hc
  obtain ⟨st, hst⟩ : ∃ b, x.st = b := ⟨_, rfl⟩
  rw [hst] at c10 ⊢
  clear hst
  by_cases h1 : st = 1
  · subst h1
    go_enter Tryd.func16, Tryd.ntmps16
    go_wp2_with fail
    go_ret
    exact ⟨by first | rfl | simp, rfl⟩
  · have q1 : (st == 1) = false := by simp; exact h1
    rw [decide_eq_false h1]
    go_enter Tryd.func16, Tryd.ntmps16
    go_wp2_with fail
    go_ret
    exact ⟨by first | rfl | simp, rfl⟩
/-- what Data answers, and what the message is behind it -/
def dtE (st : Int) (fx : Bool) (ln : Int) (b t : Nat) (en : Bool) : Int := if st ≠ 0 then 8 else rfE fx ln ((b : Int) + (t : Int)) en
def dtS (st : Int) (fx : Bool) (ln : Int) (b t : Nat) (en : Bool) : Int := if st ≠ 0 then st else if rfE fx ln ((b : Int) + (t : Int)) en ≠ 0 then 2 else if en = true then 1 else 0
def dtB (st : Int) (fx : Bool) (ln : Int) (body : List UInt8) (t : ByteArray) (en : Bool) : List UInt8 := if st ≠ 0 then body else if rfE fx ln ((body.length : Int) + (t.size : Int)) en ≠ 0 then body else body ++ t.data.toList
def DtPost (g : Nat) (x : Mg) (body : List UInt8) (t : ByteArray) (en : Bool) (w : World) (e : Ending) (w' : World) : Prop :=
  ∃ bs' : SV, e = .returned (.int .i64 (dtE x.st x.fx x.ln body.length t.size en)) ∧ MgB w' g { x with st := dtS x.st x.fx x.ln body.length t.size en, bs := bs' } ∧ R EB w' (sv bs') (dtB x.st x.fx x.ln body t en) ∧ Ks (Ow g x) w w' ∧ ∀ k, (sv bs').ownBlock = some k → (sv x.bs).ownBlock = some k ∨ w.heap.size ≤ k
set_option maxHeartbeats 8000000 in
set_option maxRecDepth 100000 in
theorem data_any (g : Nat) (x : Mg) (body : List UInt8) (t : ByteArray) (en : Bool) (w : World) (h : MgB w g x) (hr : R EB w (sv x.bs) body) (hb : body.length ≤ 65536) (ht : t.size ≤ 140737488355328) :
    Calls Tryd.prog 14 #[.pointer (some ⟨g, 0, none⟩), .string t, .bool en] w fun e w' => DtPost g x body t en w e w' := by
  have hc := h.cells
  have c10 := hc.c10
  have c11 := hc.c11
  have lt := hc.lt
  have fz10 := hc.fz 10
  have fz11 := hc.fz 11
  have HB : Hid (MgB w g x) := h
  have HR : Hid (R EB w (sv x.bs) body) := hr
  obtain ⟨⟨bb, bn, bc⟩, hbs⟩ : ∃ b, x.bs = b := ⟨_, rfl⟩
  obtain ⟨st, hst⟩ : ∃ b, x.st = b := ⟨_, rfl⟩
  obtain ⟨e1, _, e3⟩ := slice_lenB (show R EB w (.slice bb bn bc) body from by rw [hbs] at hr; exact hr)
  have EN : Hid (bn = body.length) := e1
  have HX : Hid (x.bs = (bb, bn, bc) ∧ x.st = st) := ⟨hbs, hst⟩
  have hbn : bn ≤ 65536 := by omega
  have hbc : bn ≤ bc := by omega
  rw [hbs] at c11
  rw [hst] at c10
  simp only at c11
  clear hbs hst h hr hc e1 e3
  by_cases h1 : st = 0
  · subst h1
    have hrf : Hid (Calls Tryd.prog 26 #[.pointer (some ⟨g, 0, none⟩), .int .i64 ((bn : Int) + (t.size : Int)), .bool en] w fun e w' => e = .returned (.int .i64 (rfE x.fx x.ln ((bn : Int) + (t.size : Int)) en)) ∧ w' = w) := refusal_any g x _ en w HB.out
    have HP : Hid (∀ e w', (∃ bs' : SV, e = .returned (.int .i64 (rfE x.fx x.ln ((bn : Int) + (t.size : Int)) en)) ∧ MgB w' g { x with st := (if rfE x.fx x.ln ((bn : Int) + (t.size : Int)) en ≠ 0 then 2 else if en = true then 1 else 0), bs := bs' } ∧ R EB w' (sv bs') (if rfE x.fx x.ln ((bn : Int) + (t.size : Int)) en ≠ 0 then body else body ++ t.data.toList) ∧ Ks (Ow g x) w w' ∧ ∀ k, (sv bs').ownBlock = some k → (sv x.bs).ownBlock = some k ∨ w.heap.size ≤ k) → DtPost g x body t en w e w') := fun e w' ⟨bs', k1, k2, k3, k4⟩ => by
      refine ⟨bs', ?_, ?_, ?_, k4⟩
      · rw [k1, dtE, HX.out.2, if_neg (by simp), EN.out]
      · unfold dtS
        rw [HX.out.2, if_neg (by simp), ← EN.out]
        exact k2
      · unfold dtB
        rw [HX.out.2, if_neg (by simp), ← EN.out]
        exact k3
    rcases rfE_cases x.fx x.ln ((bn : Int) + (t.size : Int)) en with hz | hz | hz
    · rw [hz] at hrf HP
      simp only [ne_eq, not_true_eq_false, if_false] at HP
      obtain ⟨b2, c2, w1, a1, a2, a3⟩ := app_str w (sv x.bs) body HR.out t (by have := rfE_zero hz; have := EN.out; omega)
      rw [← EN.out] at a1 a2 a3
      have hg : g ≠ 0 ∨ True := .inr trivial
      have hb1 : MgB w1 g x := (a3.block g lt (fun e => row_ne_mg HR.out HB.out (by decide) e rfl)).trans HB.out
      have hc1 := hb1.cells
      have d11 := hc1.c11
      have f11 := hc1.fz 11
      have l1 := hc1.lt
      rw [HX.out.1] at a1 d11
      simp only [sv] at a1 d11
      have hng : ∀ k, (Value.slice b2 (bn + t.size) c2).ownBlock = some k → k ≠ g := fun k hk => row_ne_mg a2 hb1 (by decide) hk
      have HQ : Hid (∀ en', MgB (w1.setCell ⟨g, 11, none⟩ (.slice b2 (bn + t.size) c2)) g { x with bs := (b2, bn + t.size, c2) } ∧ MgB ((w1.setCell ⟨g, 11, none⟩ (.slice b2 (bn + t.size) c2)).setCell ⟨g, 10, none⟩ (.int .i64 en')) g { x with st := en', bs := (b2, bn + t.size, c2) } ∧ R EB (w1.setCell ⟨g, 11, none⟩ (.slice b2 (bn + t.size) c2)) (.slice b2 (bn + t.size) c2) (body ++ t.data.toList) ∧ R EB ((w1.setCell ⟨g, 11, none⟩ (.slice b2 (bn + t.size) c2)).setCell ⟨g, 10, none⟩ (.int .i64 en')) (.slice b2 (bn + t.size) c2) (body ++ t.data.toList) ∧ Ks (Ow g x) w (w1.setCell ⟨g, 11, none⟩ (.slice b2 (bn + t.size) c2)) ∧ Ks (Ow g x) w ((w1.setCell ⟨g, 11, none⟩ (.slice b2 (bn + t.size) c2)).setCell ⟨g, 10, none⟩ (.int .i64 en')) ∧ ∀ k, (Value.slice b2 (bn + t.size) c2).ownBlock = some k → (sv x.bs).ownBlock = some k ∨ w.heap.size ≤ k) := fun en' => by
        have k0 : Ks (Ow g x) w w1 := (Ks.of_gr a3).mono fun i _ hi => .inr hi
        have k1 : Ks (Ow g x) w (w1.setCell ⟨g, 11, none⟩ (.slice b2 (bn + t.size) c2)) := k0.trans (Ks.setCell (Ow g x) w1 g 11 _ (.inl rfl)) (fun _ _ h => h) (fun _ _ h => h)
        have k2 := k1.trans (Ks.setCell (Ow g x) (w1.setCell ⟨g, 11, none⟩ (.slice b2 (bn + t.size) c2)) g 10 (.int .i64 en') (.inl rfl)) (fun _ _ h => h) (fun _ _ h => h)
        have r1 : R EB (w1.setCell ⟨g, 11, none⟩ (.slice b2 (bn + t.size) c2)) (.slice b2 (bn + t.size) c2) (body ++ t.data.toList) := R.stays a2 fun k hk _ => setCell_other _ _ _ _ _ (hng k hk)
        exact ⟨hb1.bs _ _ _, (hb1.bs _ _ _).st en', r1, R.stays r1 fun k hk _ => setCell_other _ _ _ _ _ (hng k hk), k1, k2, a3.own⟩
      have hb2 := (HQ.out 0).1.cells
      have d10 := hb2.c10
      have f10 := hb2.fz 10
      have l2 := hb2.lt
      simp only [HX.out.2] at d10
      replace a1 : Hid _ := a1
      clear a2 a3 hb1 hc1 hng hb2 hg hz
      cases en with
      | false =>
        clear d10 f10 l2
        go_enter Tryd.func14, Tryd.ntmps14
        go_wp2_with fail
        go_at_call 26
        refine Calls.mono hrf.out ?_
        rintro e w2 ⟨rfl, rfl⟩
        go_wp2_with (at_builtin; refine Lib.wpList_append_run _ rfl _ _ _ _ rfl _ _ rfl rfl _ _ a1.out ?_)
        go_ret
        exact HP.out _ _ ⟨(b2, bn + t.size, c2), by first | rfl | simp, by have := (HQ.out 0).1; simp only [Bool.false_eq_true, if_false]; rw [← HX.out.2]; exact this, (HQ.out 0).2.2.1, (HQ.out 0).2.2.2.2.1, (HQ.out 0).2.2.2.2.2.2⟩
      | true =>
        go_enter Tryd.func14, Tryd.ntmps14
        go_wp2_with fail
        go_at_call 26
        refine Calls.mono hrf.out ?_
        rintro e w2 ⟨rfl, rfl⟩
        go_wp2_with (at_builtin; refine Lib.wpList_append_run _ rfl _ _ _ _ rfl _ _ rfl rfl _ _ a1.out ?_)
        go_ret
        exact HP.out _ _ ⟨(b2, bn + t.size, c2), by first | rfl | simp, (HQ.out 1).2.1, (HQ.out 1).2.2.2.1, (HQ.out 1).2.2.2.2.2.1, (HQ.out 1).2.2.2.2.2.2⟩
    · rw [hz] at hrf HP
      have HQ : Hid (MgB (w.setCell ⟨g, 10, none⟩ (.int .i64 2)) g { x with st := 2, bs := x.bs } ∧ R EB (w.setCell ⟨g, 10, none⟩ (.int .i64 2)) (sv x.bs) body ∧ Ks (Ow g x) w (w.setCell ⟨g, 10, none⟩ (.int .i64 2))) := ⟨HB.out.st 2, R.stays HR.out fun k hk _ => setCell_other _ _ _ _ _ (row_ne_mg HR.out HB.out (by decide) hk), Ks.setCell _ _ _ _ _ (.inl rfl)⟩
      clear hz
      go_enter Tryd.func14, Tryd.ntmps14
      go_wp2_with fail
      go_at_call 26
      refine Calls.mono hrf.out ?_
      rintro e w2 ⟨rfl, rfl⟩
      go_wp2_with fail
      go_ret
      exact HP.out _ _ ⟨x.bs, by first | rfl | simp, HQ.out.1, HQ.out.2.1, HQ.out.2.2, fun k hk => .inl hk⟩
    · rw [hz] at hrf HP
      have HQ : Hid (MgB (w.setCell ⟨g, 10, none⟩ (.int .i64 2)) g { x with st := 2, bs := x.bs } ∧ R EB (w.setCell ⟨g, 10, none⟩ (.int .i64 2)) (sv x.bs) body ∧ Ks (Ow g x) w (w.setCell ⟨g, 10, none⟩ (.int .i64 2))) := ⟨HB.out.st 2, R.stays HR.out fun k hk _ => setCell_other _ _ _ _ _ (row_ne_mg HR.out HB.out (by decide) hk), Ks.setCell _ _ _ _ _ (.inl rfl)⟩
      clear hz
      go_enter Tryd.func14, Tryd.ntmps14
      go_wp2_with fail
      go_at_call 26
      refine Calls.mono hrf.out ?_
      rintro e w2 ⟨rfl, rfl⟩
      go_wp2_with fail
      go_ret
      exact HP.out _ _ ⟨x.bs, by first | rfl | simp, HQ.out.1, HQ.out.2.1, HQ.out.2.2, fun k hk => .inl hk⟩
  · have q1 : (st == 0) = false := by simp; exact h1
    have q2 : (st != 0) = true := by rw [bne, q1]; rfl
    have HP : Hid (DtPost g x body t en w (.returned (.int .i64 8)) w) := by
      refine ⟨x.bs, ?_, ?_, ?_, Ks.refl _ _, fun k hk => .inl hk⟩
      · rw [dtE, HX.out.2, if_pos h1]
      · unfold dtS
        rw [HX.out.2, if_pos h1, ← HX.out.2]
        exact HB.out
      · unfold dtB
        rw [HX.out.2, if_pos h1]
        exact HR.out
    clear c11 fz10 fz11
    go_enter Tryd.func14, Tryd.ntmps14
    go_wp2_with fail
    go_ret
    exact HP.out
set_option maxHeartbeats 4000000 in
set_option maxRecDepth 100000 in
theorem end_any (g : Nat) (x : Mg) (body : List UInt8) (w : World) (h : MgB w g x) (hr : R EB w (sv x.bs) body) (hb : body.length ≤ 65536) :
    Calls Tryd.prog 15 #[.pointer (some ⟨g, 0, none⟩)] w fun e w' => DtPost g x body ⟨#[]⟩ true w e w' := by
  have hd : Hid (Calls Tryd.prog 14 #[.pointer (some ⟨g, 0, none⟩), .string ⟨#[]⟩, .bool true] w fun e w' => DtPost g x body ⟨#[]⟩ true w e w') := data_any g x body ⟨#[]⟩ true w h hr hb (Nat.zero_le _)
  clear h hr hb
  go_enter Tryd.func15, Tryd.ntmps15
  go_wp2_with fail
  go_at_call 14
  refine Calls.mono hd.out ?_
  rintro e w2 ⟨bs', rfl, k1⟩
  have HK : Hid _ := k1
  clear k1
  go_wp2_with fail
  go_ret
  exact ⟨bs', by first | rfl | simp, HK.out⟩
/-- has a response to that method no body -/
def bdB (rq : Bool) (n : Int) (meth : ByteArray) : Bool := !rq && (decide (meth = ⟨#[72, 69, 65, 68]⟩) || decide (n = 204) || decide (n = 304))
set_option maxHeartbeats 4000000 in
set_option maxRecDepth 100000 in
theorem bodiless_any (g : Nat) (x : Mg) (meth : ByteArray) (w : World) (h : MgB w g x) : Calls Tryd.prog 23 #[.pointer (some ⟨g, 0, none⟩), .string meth] w fun e w' => e = .returned (.bool (bdB x.rq x.n meth)) ∧ w' = w := by
  have hc := h.cells
  have c0 := hc.c0
  have c7 := hc.c7
  have lt := hc.lt
  clear h hc
  obtain ⟨rq, hrq⟩ : ∃ b, x.rq = b := ⟨_, rfl⟩
  obtain ⟨n, hn⟩ : ∃ b, x.n = b := ⟨_, rfl⟩
  rw [hrq] at c0 ⊢
  rw [hn] at c7 ⊢
  clear hrq hn
  cases rq with
  | true =>
    have HB : Hid (bdB true n meth = false) := rfl
    rw [HB.out]
    clear HB
    go_enter Tryd.func23, Tryd.ntmps23
    go_wp2_with fail
    go_ret
    exact ⟨by first | rfl | simp, rfl⟩
  | false =>
    by_cases h1 : meth = ⟨#[72, 69, 65, 68]⟩
    · subst h1
      have HB : Hid (bdB false n ⟨#[72, 69, 65, 68]⟩ = true) := by show _ = _; unfold bdB; simp
      rw [HB.out]
      clear HB
      go_enter Tryd.func23, Tryd.ntmps23
      go_wp2_with fail
      go_ret
      exact ⟨by first | rfl | simp, rfl⟩
    · have s1 : (meth.toList == (⟨#[72, 69, 65, 68]⟩ : ByteArray).toList) = false := str_ne h1
      have s2 : (meth.toList == [72, 69, 65, 68]) = false := by rw [ByteArray.toList_eq] at s1 ⊢; rw [ByteArray.toList_eq] at s1; exact s1
      by_cases h2 : n = 204
      · subst h2
        have HB : Hid (bdB false 204 meth = true) := by show _ = _; unfold bdB; simp
        rw [HB.out]
        clear HB h1
        go_enter Tryd.func23, Tryd.ntmps23
        go_wp2_with fail
        go_ret
        exact ⟨by first | rfl | simp, rfl⟩
      · by_cases h3 : n = 304
        · subst h3
          have HB : Hid (bdB false 304 meth = true) := by show _ = _; unfold bdB; simp
          rw [HB.out]
          clear HB h1
          go_enter Tryd.func23, Tryd.ntmps23
          go_wp2_with fail
          go_ret
          exact ⟨by first | rfl | simp, rfl⟩
        · have HB : Hid (bdB false n meth = false) := by show _ = _; unfold bdB; simp [h1, h2, h3]
          have q2 : (n == 204) = false := by simp; exact h2
          have q3 : (n == 304) = false := by simp; exact h3
          rw [HB.out]
          clear HB h1
          go_enter Tryd.func23, Tryd.ntmps23
          go_wp2_with fail
          go_ret
          exact ⟨by first | rfl | simp, rfl⟩
end Go.Proofs.YtnbaojdildelmaaDoor
