/- Push. -/
import Derived.Test.YtdgdjanchpfleaaA6
namespace Go.Proofs.Ytdgdjanchpfleaa
open Go.RowKit
set_option linter.unusedVariables false
set_option linter.unusedSimpArgs false

/-- Block g holds a fault. -/
def TB (w : World) (g : Nat) (c : Int) : Prop := w.heap[g]? = some (.cells #[.int .i64 c, .int .i64 0] 32 (0, 0))
/-- the fault's code -/
def Js.code (st : Js) : Int :=
  match st.v with
  | .inr (.inr c) => c
  | _ => 0
/-- Within Push: the frame, the answers so far, the joiner. -/
structure Pu (w : World) (s0 : Value) (wr : World) (b : Nat) (s : Value) (st : Js) (f : Fr) (q : Value) (g : Fr) (y : SV) (qs : List (Int × Int)) : Prop where
  j : Jn wr b s st
  b1 : FB wr w.heap.size f q
  b2 : FB wr (w.heap.size + 1) g (sv y)
  b3 : TB wr (w.heap.size + 1 + 1) 0
  rp : R EP wr (sv y) qs
  ks : Ks (fun k => k = b ∨ s0.ownBlock = some k) w wr
  own : ∀ k, s.ownBlock = some k → s0.ownBlock = some k ∨ w.heap.size ≤ k
  lt : b < w.heap.size
  old : ∀ k, s0.ownBlock = some k → k < w.heap.size

theorem Pu.start {w : World} {b : Nat} {s : Value} {st : Js} (f : Fr) (q : Value) (hj : Jn w b s st) :
    Pu w s (((w.alloc (.cells (fv f q) 24)).alloc (.cells (fv Fr.zero (.slice none 0 0)) 24)).alloc (.cells #[.int .i64 0, .int .i64 0] 32)) b s st f q Fr.zero (none, 0, 0) [] := by
  have hb := bel3 w (.cells (fv f q) 24) (.cells (fv Fr.zero (.slice none 0 0)) 24) (.cells #[.int .i64 0, .int .i64 0] 32)
  refine ⟨hj.below hb, ?_, ?_, ?_, R.nil _ _, Ks.of_below hb, fun k hk => .inl hk, hj.lt, fun k hk => ?_⟩
  · unfold FB
    rw [heap_al, if_neg (by rw [size_al, size_al]; omega), heap_al, if_neg (by rw [size_al]; omega), heap_al, if_pos rfl]
  · unfold FB
    rw [heap_al, if_neg (by rw [size_al, size_al]; omega), heap_al, if_pos (by rw [size_al])]
    rfl
  · unfold TB
    rw [heap_al, if_pos (by rw [size_al, size_al])]
  · obtain ⟨c, hc⟩ := hj.sty k hk
    exact heap_lt hc
theorem Pu.below {w : World} {s0 : Value} {wr w' : World} {b : Nat} {s : Value} {st : Js} {f : Fr} {q : Value} {g : Fr} {y : SV} {qs : List (Int × Int)} (h : Pu w s0 wr b s st f q g y qs) (hb : Below wr.heap.size wr w') : Pu w s0 w' b s st f q g y qs :=
  ⟨h.j.below hb, h.b1.below hb, h.b2.below hb, (hb.block _ (heap_lt h.b3)).trans h.b3, h.rp.below hb, h.ks.trans (Ks.of_below (A := fun _ => False) hb) (fun _ _ h => h) (fun _ _ h => h.elim), h.own, h.lt, h.old⟩
theorem Pu.size {w : World} {s0 : Value} {wr : World} {b : Nat} {s : Value} {st : Js} {f : Fr} {q : Value} {g : Fr} {y : SV} {qs : List (Int × Int)} (h : Pu w s0 wr b s st f q g y qs) : w.heap.size + 1 + 1 < wr.heap.size := heap_lt h.b3
/-- the joiner turned by a call that keeps all but its own -/
theorem Pu.turn {w : World} {s0 : Value} {wr w' : World} {b : Nat} {s s' : Value} {st st' : Js} {f : Fr} {q : Value} {g : Fr} {y : SV} {qs : List (Int × Int)} (h : Pu w s0 wr b s st f q g y qs) (hk : Ks (fun k => k = b ∨ s.ownBlock = some k) wr w') (hj : Jn w' b s' st')
    (ho : ∀ k, s'.ownBlock = some k → s.ownBlock = some k ∨ wr.heap.size ≤ k) : Pu w s0 w' b s' st' f q g y qs := by
  have nb : ∀ k c t, wr.heap[k]? = some (.cells c t (0, 0)) → t ≠ 51 → t ≠ 5 → ¬ (k = b ∨ s.ownBlock = some k) := fun k c t hc h1 h2 e => by
    rcases e with rfl | e
    · obtain ⟨c', hc'⟩ := h.j.bty
      rw [hc] at hc'
      injection hc' with hc'
      injection hc' with _ e2
      exact h1 e2
    · obtain ⟨c', hc'⟩ := h.j.sty k e
      rw [hc] at hc'
      injection hc' with hc'
      injection hc' with _ e2
      exact h2 e2
  refine ⟨hj, (hk.block _ h.b1.lt (nb _ _ _ h.b1 (by decide) (by decide))).trans h.b1, (hk.block _ h.b2.lt (nb _ _ _ h.b2 (by decide) (by decide))).trans h.b2, (hk.block _ (heap_lt h.b3) (nb _ _ _ h.b3 (by decide) (by decide))).trans h.b3, h.rp.stays fun k hk' hlt => ?_, h.ks.trans hk (fun _ _ h => h) (fun k hk' e => ?_), fun k hk' => ?_, h.lt, h.old⟩
  · obtain ⟨c, hc⟩ := h.rp.ty k hk'
    exact hk.block k hlt (nb _ _ _ hc (by decide) (by decide))
  · rcases e with e | e
    · exact .inl e
    · rcases h.own k e with h1 | h1
      · exact .inr h1
      · omega
  · rcases ho k hk' with h1 | h1
    · exact h.own k h1
    · exact .inr (Nat.le_trans h.ks.size h1)

theorem Jn.cells3 {w : World} {b : Nat} {s : Value} {st : Js} (h : Jn w b s st) : w.cell? ⟨b, 11, none⟩ = some s ∧ w.cell? ⟨b, 12, none⟩ = some (.int .i64 st.code) ∧ w.cell? ⟨b, 13, none⟩ = some (.int .i64 0) := by
  obtain ⟨_ | ⟨f, ps, l⟩ | c⟩ := st
  · obtain ⟨h1, rfl⟩ := h; exact ⟨h1.cell 11, h1.cell 12, h1.cell 13⟩
  · obtain ⟨x, h1, _⟩ := h; exact ⟨h1.cell 11, h1.cell 12, h1.cell 13⟩
  · obtain ⟨h1, rfl, _⟩ := h; exact ⟨h1.cell 11, h1.cell 12, h1.cell 13⟩

/-- the answer's head set -/
theorem Pu.head {w : World} {s0 : Value} {wr : World} {b : Nat} {s : Value} {st : Js} {f : Fr} {q : Value} {g g' : Fr} {y y' : SV} {qs qs' : List (Int × Int)} (h : Pu w s0 wr b s st f q g y qs) (hr : R EP wr (sv y') qs') : Pu w s0 (sets wr (w.heap.size + 1) (fsets g' (sv y'))) b s st f q g' y' qs' := by
  have a1 := FB.sets h.b2 g' (sv y')
  have ho : ∀ k, k ≠ w.heap.size + 1 → (sets wr (w.heap.size + 1) (fsets g' (sv y'))).heap[k]? = wr.heap[k]? := fun k h1 => sets_other _ _ h1 _ _
  have hB := sets_below (w.heap.size + 1) w.heap.size (by omega) (fsets g' (sv y')) wr
  generalize sets wr (w.heap.size + 1) (fsets g' (sv y')) = X at *
  have ne : ∀ k c t, wr.heap[k]? = some (.cells c t (0, 0)) → t ≠ 24 → k ≠ w.heap.size + 1 := fun k c t hc h1 => by
    rintro rfl
    have := h.b2
    unfold FB at this
    rw [hc] at this
    injection this with this
    injection this with _ e2
    exact h1 e2
  refine ⟨h.j.stays fun k hk hh => ho k ?_, (ho _ (by omega)).trans h.b1, a1, (ho _ (by omega)).trans h.b3, hr.stays fun k hk _ => ?_, h.ks.trans (Ks.mk hB.os hB.tape hB.output hB.size (A := fun k => w.heap.size ≤ k) fun k _ hk => hB.block k (by omega)) (fun _ _ h => h) (fun k hk e => by omega), h.own, h.lt, h.old⟩
  · rcases hh with rfl | e | ⟨c, hc⟩
    · have := h.lt
      omega
    · obtain ⟨c, hc⟩ := h.j.sty k e
      exact ne _ _ _ hc (by decide)
    · exact ne _ _ _ hc (by decide)
  · obtain ⟨c, hc⟩ := hr.ty k hk
    exact ho k (ne _ _ _ hc (by decide))

/-- what Push leaves and tells -/
structure PuR (w : World) (s0 : Value) (w' : World) (b : Nat) (st : Js) (y : SV) (qs : List (Int × Int)) : Prop where
  ex : ∃ s', Jn w' b s' st ∧ (∀ k, s'.ownBlock = some k → s0.ownBlock = some k ∨ w.heap.size ≤ k)
  rp : R EP w' (sv y) qs
  ks : Ks (fun k => k = b ∨ s0.ownBlock = some k) w w'
def PPost (w : World) (s0 : Value) (b : Nat) (st : Js) (ok : Bool) (g : Fr) (qs : List (Int × Int)) (t : ByteArray) (e : Ending) (w' : World) : Prop :=
  ∃ y : SV, e = .returned (.tuple #[.bool ok, .agg (fv g (sv y)), .string t, .agg #[.int .i64 st.code, .int .i64 0]]) ∧ PuR w s0 w' b st y qs

/-- Push's last statement -/
theorem Pu.fin {w : World} {s0 : Value} {wr : World} {b : Nat} {s : Value} {st : Js} {f : Fr} {q : Value} {g : Fr} {y : SV} {qs : List (Int × Int)} (h : Pu w s0 wr b s st f q g y qs) (X : World) (hX : X = (sets (sets wr (w.heap.size + 1) (fsets g (sv y))) (w.heap.size + 1 + 1) [(0, .int .i64 st.code), (1, .int .i64 0)]).drew) :
    FB X (w.heap.size + 1) g (sv y) ∧ TB X (w.heap.size + 1 + 1) st.code ∧ PuR w s0 X b st y qs := by
  have a1 := FB.sets h.b2 g (sv y)
  have b3' : TB (sets wr (w.heap.size + 1) (fsets g (sv y))) (w.heap.size + 1 + 1) 0 := (sets_other _ _ (by omega) _ _).trans h.b3
  have a2 : FB X (w.heap.size + 1) g (sv y) := by
    unfold FB
    rw [hX, heap_dr, sets_other _ _ (by omega)]
    exact a1
  have a3 : TB X (w.heap.size + 1 + 1) st.code := by
    unfold TB
    rw [hX, heap_dr, sets_block _ _ _ _ _ _ b3']
    simp only [List.foldl_cons, List.foldl_nil, List.setIfInBounds_toArray, List.set_cons_zero, List.set_cons_succ]
  have ho : ∀ k, k ≠ w.heap.size + 1 → k ≠ w.heap.size + 1 + 1 → X.heap[k]? = wr.heap[k]? := fun k h1 h2 => by
    rw [hX, heap_dr, sets_other _ _ h2, sets_other _ _ h1]
  have hB : Below w.heap.size wr X := by
    rw [hX]
    exact ((sets_below (w.heap.size + 1) w.heap.size (by omega) _ _).trans (sets_below (w.heap.size + 1 + 1) w.heap.size (by omega) _ _)).drew
  have ne : ∀ k c t, wr.heap[k]? = some (.cells c t (0, 0)) → t ≠ 24 → t ≠ 32 → k ≠ w.heap.size + 1 ∧ k ≠ w.heap.size + 1 + 1 := fun k c t hc h1 h2 => by
    constructor
    · rintro rfl
      have := h.b2
      unfold FB at this
      rw [hc] at this
      injection this with this
      injection this with _ e2
      exact h1 e2
    · rintro rfl
      have := h.b3
      unfold TB at this
      rw [hc] at this
      injection this with this
      injection this with _ e2
      exact h2 e2
  clear hX a1 b3'
  refine ⟨a2, a3, ⟨s, h.j.stays fun k hk hh => ?_, h.own⟩, h.rp.stays fun k hk _ => ?_, h.ks.trans (Ks.mk hB.os hB.tape hB.output hB.size (A := fun k => w.heap.size ≤ k) fun k _ hk => hB.block k (by omega)) (fun _ _ h => h) (fun k hk e => by omega)⟩
  · rcases hh with rfl | e | ⟨c, hc⟩
    · have := h.lt
      exact ho _ (by omega) (by omega)
    · obtain ⟨c, hc⟩ := h.j.sty k e
      obtain ⟨n1, n2⟩ := ne _ _ _ hc (by decide) (by decide)
      exact ho k n1 n2
    · obtain ⟨n1, n2⟩ := ne _ _ _ hc (by decide) (by decide)
      exact ho k n1 n2
  · obtain ⟨c, hc⟩ := h.rp.ty k hk
    obtain ⟨n1, n2⟩ := ne _ _ _ hc (by decide) (by decide)
    exact ho k n1 n2

set_option maxHeartbeats 4000000 in
set_option maxRecDepth 100000 in
theorem push_broken (w : World) (b : Nat) (s : Value) (c : Int) (f : Fr) (x : SV) (ps : List (Int × Int)) (hj : Jn w b s (.broken c)) (hI : In EP w (sv x) ps) (hlen : ps.length * 16 ≤ 140737488355328)  :
    Calls Try.prog 12 #[.pointer (some ⟨b, 0, none⟩), .agg (fv f (sv x))] w fun e w' => PPost w s b (.broken c) false Fr.zero [] ⟨#[]⟩ e w' := by
  have P0 : Hid _ := Pu.start f (sv x) hj
  have B0 : Hid _ := bel3 w (.cells (fv f (sv x)) 24) (.cells (fv Fr.zero (.slice none 0 0)) 24) (.cells #[.int .i64 0, .int .i64 0] 32)
  obtain ⟨xb, xl, xc⟩ := x
  simp only [sv] at P0 B0 hI ⊢
  rw [fv_zero] at P0 B0
  have hlt := hj.lt
  have hlt1 : b < w.heap.size + 1 := by omega
  have hlt2 : b < w.heap.size + 1 + 1 := by omega
  have HI : Hid (In EP w (.slice xb xl xc) ps) := hI
  clear hI
  unfold fv at P0 B0 ⊢
  obtain ⟨hJ, rfl, hc0⟩ := hj
  have hcb : (c == 0) = false := by simp [hc0]
  obtain ⟨k0, k1, k2, k3, k4, k5, k6, k7, k8, k9, k10, k11, k12, k13⟩ := hJ.cells
  have hfin : Hid (∀ X : World, Below w.heap.size w X → PuR w (.slice none 0 0) X b (.broken c) (none, 0, 0) []) := fun X hX => ⟨⟨.slice none 0 0, ⟨(hX.block b hlt).trans hJ, rfl, hc0⟩, fun k hk => .inl hk⟩, R.nil _ _, Ks.of_below hX⟩
  clear hJ
  go_enter Try.func12, Try.ntmps12
  go_upto_region 9 with fail
  go_region
  all_goals
    go_wp2_with fail
    refine bodyPost_ret (results_tctc (r := 4) (p := 5) (ty := 24) (q := 6) (s := 7) (tz := 32) rfl _ _ (w.heap.size + 1) (w.heap.size + 1 + 1) 24 32 (fv Fr.zero (.slice none 0 0)) #[.int .i64 c, .int .i64 0] (0, 0) (0, 0) _ _ rfl ?q1 Try.underlying24 rfl (by kernel_rfl) rfl ?q2 Try.underlying32 rfl (by kernel_rfl)) rfl ⟨(none, 0, 0), rfl, hfin.out _ ?q3⟩
    case q1 =>
      simp only [heap_al, heap_dr, size_al, size_dr]
      repeat (first | rw [if_pos trivial] | rw [if_neg (by omega)] | rw [if_pos (by omega)])
      rfl
    case q2 =>
      simp only [heap_al, heap_dr, size_al, size_dr]
      repeat (first | rw [if_pos trivial] | rw [if_neg (by omega)] | rw [if_pos (by omega)])
    case q3 => (repeat (first | exact Below.refl _ _ | refine Below.drew ?_ | refine below_drewN ?_ _ | refine Below.alloc ?_ (by first | exact Nat.le_refl _ | (simp only [size_al, size_dr]; omega)) _))

set_option maxHeartbeats 4000000 in
set_option maxRecDepth 100000 in
theorem push_igo (w : World) (b : Nat)  (f : Fr) (x : SV) (ps : List (Int × Int)) (hj : Jn w b (.slice none 0 0) Js.idle) (hI : In EP w (sv x) ps) (hlen : ps.length * 16 ≤ 140737488355328) (h9 : ¬ f.ty = 9) (hh : dH f.ty = true) (hl : f.data.size ≤ 131072) (F : Bool) (hf : (bits .and .i64 f.fl 4 == 0) = F) :
    Calls Try.prog 12 #[.pointer (some ⟨b, 0, none⟩), .agg (fv f (sv x))] w fun e w' => (if F = true then PPost w (.slice none 0 0) b (.busy (headOf f) ps ([] ++ f.data.data.toList)) false Fr.zero [] ⟨#[]⟩ e w' else PPost w (.slice none 0 0) b .idle true (headOf f) ps (bt ([] ++ f.data.data.toList)) e w') := by
  have e9 : (f.ty == 9) = false := by simp [h9]
  clear h9
  have hl1 : decide ((131072 : Int) < (f.data.size : Int)) = false := decide_eq_false (by omega)
  have P0 : Hid _ := Pu.start f (sv x) hj
  have B0 : Hid _ := bel3 w (.cells (fv f (sv x)) 24) (.cells (fv Fr.zero (.slice none 0 0)) 24) (.cells #[.int .i64 0, .int .i64 0] 32)
  obtain ⟨xb, xl, xc⟩ := x
  simp only [sv] at P0 B0 hI ⊢
  rw [fv_zero] at P0 B0
  have hlt := hj.lt
  have hlt1 : b < w.heap.size + 1 := by omega
  have hlt2 : b < w.heap.size + 1 + 1 := by omega
  have HI : Hid (In EP w (.slice xb xl xc) ps) := hI
  clear hI
  unfold fv at P0 B0 ⊢
  obtain ⟨k11, k12, k13⟩ := hj.cells3
  simp only [Js.code] at k12
  go_enter Try.func12, Try.ntmps12
  go_wp2_with fail
  go_at_call 14
  refine (busy_any _ b _ Js.idle P0.out.j).mono ?_
  rintro e w1 ⟨rfl, hb⟩
  have P1 : Hid _ := P0.out.below hb
  have B1 : Hid _ := B0.out.trans (hb.mono B0.out.size)
  simp only [busyB]
  clear k11 k12 k13
  obtain ⟨z0, z1, z2, z3, z4, z5, z6, z7, z8, z9, z10⟩ := P1.out.b1.cells
  obtain ⟨k11, k12, k13⟩ := P1.out.j.cells3
  simp only [Js.code] at k12
  go_wp2_with fail
  go_at_call 14
  refine (busy_any _ b _ Js.idle P1.out.j).mono ?_
  rintro e w2 ⟨rfl, hb⟩
  have P2 : Hid _ := P1.out.below hb
  have B2 : Hid _ := B1.out.trans (hb.mono B1.out.size)
  simp only [busyB]
  clear z0 z1 z2 z3 z4 z5 z6 z7 z8 z9 z10 k11 k12 k13
  obtain ⟨z0, z1, z2, z3, z4, z5, z6, z7, z8, z9, z10⟩ := P2.out.b1.cells
  obtain ⟨k11, k12, k13⟩ := P2.out.j.cells3
  simp only [Js.code] at k12
  go_wp2_with fail
  go_at_call 14
  refine (busy_any _ b _ Js.idle P2.out.j).mono ?_
  rintro e w3 ⟨rfl, hb⟩
  have P3 : Hid _ := P2.out.below hb
  have B3 : Hid _ := B2.out.trans (hb.mono B2.out.size)
  simp only [busyB]
  clear z0 z1 z2 z3 z4 z5 z6 z7 z8 z9 z10 k11 k12 k13
  obtain ⟨z0, z1, z2, z3, z4, z5, z6, z7, z8, z9, z10⟩ := P3.out.b1.cells
  obtain ⟨k11, k12, k13⟩ := P3.out.j.cells3
  simp only [Js.code] at k12
  go_wp2_with fail
  go_at_call 23
  have hG := isHead_any f (.slice xb xl xc) w3
  rw [hh] at hG
  refine hG.mono ?_
  rintro e w4 ⟨rfl, hb⟩
  have P4 : Hid _ := P3.out.below hb
  have B4 : Hid _ := B3.out.trans (hb.mono B3.out.size)
  clear hG
  clear z0 z1 z2 z3 z4 z5 z6 z7 z8 z9 z10 k11 k12 k13
  obtain ⟨z0, z1, z2, z3, z4, z5, z6, z7, z8, z9, z10⟩ := P4.out.b1.cells
  obtain ⟨k11, k12, k13⟩ := P4.out.j.cells3
  simp only [Js.code] at k12
  go_upto_region 7 with fail
  go_cut [50] from 51 (fun x wx => x = .bool false ∧ wx = w4.drew)
  case first =>
    go_region
    all_goals
      go_wp2_with fail
      go_meet
      case rel => exact ⟨by first | rfl | rw [hl1], rfl⟩
  obtain ⟨rfl, rfl⟩ := hcut
  have P5 : Hid _ := P4.out.below (Below.refl _ _).drew
  have B5 : Hid _ := B4.out.drew
  clear z0 z1 z2 z3 z4 z5 z6 z7 z8 z9 z10 k11 k12 k13
  obtain ⟨w5, hw5⟩ : ∃ W, W = w4.drew := ⟨_, rfl⟩
  rw [← hw5] at P5 B5 ⊢
  clear hw5
  obtain ⟨z0, z1, z2, z3, z4, z5, z6, z7, z8, z9, z10⟩ := P5.out.b1.cells
  obtain ⟨k11, k12, k13⟩ := P5.out.j.cells3
  have HIn : Hid (In EP w5 (.slice xb xl xc) ps) := In.below HI.out B5.out
  go_wp2_with fail
  go_at_call 24
  refine (add_any w5 b _ Js.idle f (xb, xl, xc) ps P5.out.j (show In EP w5 (.slice xb xl xc) ps from HIn.out) hlen (headOf f) ps [] (.inl ⟨rfl, dH_iff.1 hh, rfl, rfl, rfl⟩) (by simpa using hl) F hf).mono ?_
  intro e w6 hadd
  cases F
  · obtain ⟨⟨yb, yl, yc⟩, rfl, hJ, hrp, hks⟩ := hadd
    have P6 : Hid _ := P5.out.turn hks hJ (fun k hk => by simp [Value.ownBlock] at hk)
    have hrp' : Hid (R EP w6 (.slice yb yl yc) ps) := hrp
    clear hJ hrp hks
    simp only [sv]
    unfold fv
    clear z0 z1 z2 z3 z4 z5 z6 z7 z8 z9 z10 k11 k12 k13
    obtain ⟨z0, z1, z2, z3, z4, z5, z6, z7, z8, z9, z10⟩ := P6.out.b1.cells
    obtain ⟨k11, k12, k13⟩ := P6.out.j.cells3
    have l1 : w.heap.size + 1 + 1 < w6.heap.size := P6.out.size
    have l2 : w.heap.size + 1 < w6.heap.size := by omega
    have l3 : w.heap.size < w6.heap.size := by omega
    obtain ⟨u0, u1, u2, u3, u4, u5, u6, u7, u8, u9, u10⟩ := P6.out.b2.cells
    obtain ⟨v0, v1, v2, v3, v4, v5, v6, v7, v8, v9, v10⟩ := P6.out.b2.frozens
    have t0 : w6.cell? ⟨w.heap.size + 1 + 1, 0, none⟩ = some (.int .i64 0) := cell_blk P6.out.b3 0
    have t1 : w6.cell? ⟨w.heap.size + 1 + 1, 1, none⟩ = some (.int .i64 0) := cell_blk P6.out.b3 1
    have t2 := frozen_blk P6.out.b3 0
    have t3 := frozen_blk P6.out.b3 1
    simp only [Fr.zero, sv] at u0 u1 u2 u3 u4 u5 u6 u7 u8 u9 u10
    simp only [Js.code] at k12
    go_upto_region 9 with fail
    have P7 := P6.out.head (g' := (headOf f)) (y' := (yb, yl, yc)) hrp'.out
    simp only [fsets, sv] at P7
    obtain ⟨w7, hw7⟩ : ∃ W, W = sets w6 (w.heap.size + 1) [(0, .int .i64 ((headOf f)).ty), (1, .int .i64 ((headOf f)).fl), (2, .int .i64 ((headOf f)).st), (3, .string ((headOf f)).data), (4, .int .i64 ((headOf f)).pad), (5, .int .i64 ((headOf f)).dep), (6, .bool ((headOf f)).excl), (7, .int .i64 ((headOf f)).wt), (8, .int .i64 ((headOf f)).code), (9, .int .i64 ((headOf f)).last), (10, .slice yb yl yc)] := ⟨_, rfl⟩
    rw [← hw7] at P7
    simp only [sets, List.foldl_cons, List.foldl_nil] at hw7
    rw [← hw7]
    clear hw7 u0 u1 u2 u3 u4 u5 u6 u7 u8 u9 u10 v0 v1 v2 v3 v4 v5 v6 v7 v8 v9 v10 t0 t1 t2 t3 l1 l2 l3
    replace P7 : Hid _ := P7
    clear z0 z1 z2 z3 z4 z5 z6 z7 z8 z9 z10 k11 k12 k13
    obtain ⟨z0, z1, z2, z3, z4, z5, z6, z7, z8, z9, z10⟩ := P7.out.b1.cells
    obtain ⟨k11, k12, k13⟩ := P7.out.j.cells3
    have l1 : w.heap.size + 1 + 1 < w7.heap.size := P7.out.size
    have l2 : w.heap.size + 1 < w7.heap.size := by omega
    have l3 : w.heap.size < w7.heap.size := by omega
    obtain ⟨u0, u1, u2, u3, u4, u5, u6, u7, u8, u9, u10⟩ := P7.out.b2.cells
    obtain ⟨v0, v1, v2, v3, v4, v5, v6, v7, v8, v9, v10⟩ := P7.out.b2.frozens
    have t0 : w7.cell? ⟨w.heap.size + 1 + 1, 0, none⟩ = some (.int .i64 0) := cell_blk P7.out.b3 0
    have t1 : w7.cell? ⟨w.heap.size + 1 + 1, 1, none⟩ = some (.int .i64 0) := cell_blk P7.out.b3 1
    have t2 := frozen_blk P7.out.b3 0
    have t3 := frozen_blk P7.out.b3 1
    simp only [Fr.zero, sv] at u0 u1 u2 u3 u4 u5 u6 u7 u8 u9 u10
    simp only [Js.code] at k12
    go_upto_region 9 with fail
    go_region
    all_goals
      go_wp2_with fail
      obtain ⟨q1, q2, q3⟩ := P7.out.fin _ rfl
      simp only [sets, fsets, sv, Fr.zero, Js.code, List.foldl_cons, List.foldl_nil] at q1 q2 q3
      refine bodyPost_ret (results_tctc (r := 4) (p := 5) (ty := 24) (q := 6) (s := 7) (tz := 32) rfl _ _ (w.heap.size + 1) (w.heap.size + 1 + 1) 24 32 _ _ (0, 0) (0, 0) _ _ rfl q1 Try.underlying24 rfl (by kernel_rfl) rfl q2 Try.underlying32 rfl (by kernel_rfl)) rfl ⟨(yb, yl, yc), rfl, q3⟩
  · obtain ⟨rfl, s', hJ, hks, hown⟩ := hadd
    have P6 : Hid _ := P5.out.turn hks hJ hown
    clear hJ hks hown
    clear z0 z1 z2 z3 z4 z5 z6 z7 z8 z9 z10 k11 k12 k13
    obtain ⟨z0, z1, z2, z3, z4, z5, z6, z7, z8, z9, z10⟩ := P6.out.b1.cells
    obtain ⟨k11, k12, k13⟩ := P6.out.j.cells3
    have l1 : w.heap.size + 1 + 1 < w6.heap.size := P6.out.size
    have l2 : w.heap.size + 1 < w6.heap.size := by omega
    have l3 : w.heap.size < w6.heap.size := by omega
    obtain ⟨u0, u1, u2, u3, u4, u5, u6, u7, u8, u9, u10⟩ := P6.out.b2.cells
    obtain ⟨v0, v1, v2, v3, v4, v5, v6, v7, v8, v9, v10⟩ := P6.out.b2.frozens
    have t0 : w6.cell? ⟨w.heap.size + 1 + 1, 0, none⟩ = some (.int .i64 0) := cell_blk P6.out.b3 0
    have t1 : w6.cell? ⟨w.heap.size + 1 + 1, 1, none⟩ = some (.int .i64 0) := cell_blk P6.out.b3 1
    have t2 := frozen_blk P6.out.b3 0
    have t3 := frozen_blk P6.out.b3 1
    simp only [Fr.zero, sv] at u0 u1 u2 u3 u4 u5 u6 u7 u8 u9 u10
    simp only [Js.code] at k12
    rw [fv_zero]
    go_upto_region 9 with fail
    have P7 := P6.out.head (g' := Fr.zero) (y' := (none, 0, 0)) (R.nil EP w6)
    simp only [fsets, sv, Fr.zero] at P7
    obtain ⟨w7, hw7⟩ : ∃ W, W = sets w6 (w.heap.size + 1) [(0, .int .i64 0), (1, .int .i64 0), (2, .int .i64 0), (3, .string ⟨#[]⟩), (4, .int .i64 0), (5, .int .i64 0), (6, .bool false), (7, .int .i64 0), (8, .int .i64 0), (9, .int .i64 0), (10, .slice none 0 0)] := ⟨_, rfl⟩
    rw [← hw7] at P7
    simp only [sets, List.foldl_cons, List.foldl_nil] at hw7
    rw [← hw7]
    clear hw7 u0 u1 u2 u3 u4 u5 u6 u7 u8 u9 u10 v0 v1 v2 v3 v4 v5 v6 v7 v8 v9 v10 t0 t1 t2 t3 l1 l2 l3
    replace P7 : Hid _ := P7
    clear z0 z1 z2 z3 z4 z5 z6 z7 z8 z9 z10 k11 k12 k13
    obtain ⟨z0, z1, z2, z3, z4, z5, z6, z7, z8, z9, z10⟩ := P7.out.b1.cells
    obtain ⟨k11, k12, k13⟩ := P7.out.j.cells3
    have l1 : w.heap.size + 1 + 1 < w7.heap.size := P7.out.size
    have l2 : w.heap.size + 1 < w7.heap.size := by omega
    have l3 : w.heap.size < w7.heap.size := by omega
    obtain ⟨u0, u1, u2, u3, u4, u5, u6, u7, u8, u9, u10⟩ := P7.out.b2.cells
    obtain ⟨v0, v1, v2, v3, v4, v5, v6, v7, v8, v9, v10⟩ := P7.out.b2.frozens
    have t0 : w7.cell? ⟨w.heap.size + 1 + 1, 0, none⟩ = some (.int .i64 0) := cell_blk P7.out.b3 0
    have t1 : w7.cell? ⟨w.heap.size + 1 + 1, 1, none⟩ = some (.int .i64 0) := cell_blk P7.out.b3 1
    have t2 := frozen_blk P7.out.b3 0
    have t3 := frozen_blk P7.out.b3 1
    simp only [Fr.zero, sv] at u0 u1 u2 u3 u4 u5 u6 u7 u8 u9 u10
    simp only [Js.code] at k12
    go_upto_region 9 with fail
    go_region
    all_goals
      go_wp2_with fail
      obtain ⟨q1, q2, q3⟩ := P7.out.fin _ rfl
      simp only [sets, fsets, sv, Fr.zero, Js.code, List.foldl_cons, List.foldl_nil] at q1 q2 q3
      refine bodyPost_ret (results_tctc (r := 4) (p := 5) (ty := 24) (q := 6) (s := 7) (tz := 32) rfl _ _ (w.heap.size + 1) (w.heap.size + 1 + 1) 24 32 _ _ (0, 0) (0, 0) _ _ rfl q1 Try.underlying24 rfl (by kernel_rfl) rfl q2 Try.underlying32 rfl (by kernel_rfl)) rfl ⟨(none, 0, 0), rfl, q3⟩

set_option maxHeartbeats 4000000 in
set_option maxRecDepth 100000 in
theorem push_bgo (w : World) (b : Nat) (s : Value) (h : Fr) (qs : List (Int × Int)) (l : List UInt8) (f : Fr) (x : SV) (ps : List (Int × Int)) (hj : Jn w b s (.busy h qs l)) (hI : In EP w (sv x) ps) (hlen : ps.length * 16 ≤ 140737488355328) (hg : (f.ty == 9 && f.st == h.st) = true) (hl : l.length + f.data.size ≤ 131072) (F : Bool) (hf : (bits .and .i64 f.fl 4 == 0) = F) :
    Calls Try.prog 12 #[.pointer (some ⟨b, 0, none⟩), .agg (fv f (sv x))] w fun e w' => (if F = true then PPost w s b (.busy h qs (l ++ f.data.data.toList)) false Fr.zero [] ⟨#[]⟩ e w' else PPost w s b .idle true h qs (bt (l ++ f.data.data.toList)) e w') := by
  have hl1 : decide ((131072 : Int) < (l.length : Int) + (f.data.size : Int)) = false := decide_eq_false (by omega)
  obtain ⟨sb, scap, rfl, hsl1, hsl2⟩ : ∃ sb scap, s = .slice sb l.length scap ∧ l.length ≤ 131072 ∧ l.length ≤ 131072 := by
    obtain ⟨_, _, _, _, _, hr, hll⟩ := hj
    obtain ⟨sb, scap, e, _⟩ := hr.slice
    exact ⟨sb, scap, e, hll, hll⟩
  have P0 : Hid _ := Pu.start f (sv x) hj
  have B0 : Hid _ := bel3 w (.cells (fv f (sv x)) 24) (.cells (fv Fr.zero (.slice none 0 0)) 24) (.cells #[.int .i64 0, .int .i64 0] 32)
  obtain ⟨xb, xl, xc⟩ := x
  simp only [sv] at P0 B0 hI ⊢
  rw [fv_zero] at P0 B0
  have hlt := hj.lt
  have hlt1 : b < w.heap.size + 1 := by omega
  have hlt2 : b < w.heap.size + 1 + 1 := by omega
  have HI : Hid (In EP w (.slice xb xl xc) ps) := hI
  clear hI
  unfold fv at P0 B0 ⊢
  obtain ⟨k11, k12, k13⟩ := hj.cells3
  simp only [Js.code] at k12
  go_enter Try.func12, Try.ntmps12
  go_wp2_with fail
  go_at_call 14
  refine (busy_any _ b _ (.busy h qs l) P0.out.j).mono ?_
  rintro e w1 ⟨rfl, hb⟩
  have P1 : Hid _ := P0.out.below hb
  have B1 : Hid _ := B0.out.trans (hb.mono B0.out.size)
  simp only [busyB]
  clear k11 k12 k13
  obtain ⟨z0, z1, z2, z3, z4, z5, z6, z7, z8, z9, z10⟩ := P1.out.b1.cells
  obtain ⟨k11, k12, k13⟩ := P1.out.j.cells3
  simp only [Js.code] at k12
  go_wp2_with fail
  go_at_call 21
  obtain ⟨hx, hJ, hr⟩ := P1.out.j
  have hG := goesOn_any _ b h f _ _ (.slice xb xl xc) 0 hJ
  rw [hg] at hG
  refine hG.mono ?_
  rintro e w2 ⟨rfl, hb⟩
  have P2 : Hid _ := P1.out.below hb
  have B2 : Hid _ := B1.out.trans (hb.mono B1.out.size)
  clear hr hJ hG hx
  clear z0 z1 z2 z3 z4 z5 z6 z7 z8 z9 z10 k11 k12 k13
  obtain ⟨z0, z1, z2, z3, z4, z5, z6, z7, z8, z9, z10⟩ := P2.out.b1.cells
  obtain ⟨k11, k12, k13⟩ := P2.out.j.cells3
  simp only [Js.code] at k12
  go_wp2_with fail
  go_at_call 14
  refine (busy_any _ b _ (.busy h qs l) P2.out.j).mono ?_
  rintro e w3 ⟨rfl, hb⟩
  have P3 : Hid _ := P2.out.below hb
  have B3 : Hid _ := B2.out.trans (hb.mono B2.out.size)
  simp only [busyB]
  clear z0 z1 z2 z3 z4 z5 z6 z7 z8 z9 z10 k11 k12 k13
  obtain ⟨z0, z1, z2, z3, z4, z5, z6, z7, z8, z9, z10⟩ := P3.out.b1.cells
  obtain ⟨k11, k12, k13⟩ := P3.out.j.cells3
  simp only [Js.code] at k12
  go_wp2_with fail
  go_at_call 14
  refine (busy_any _ b _ (.busy h qs l) P3.out.j).mono ?_
  rintro e w4 ⟨rfl, hb⟩
  have P4 : Hid _ := P3.out.below hb
  have B4 : Hid _ := B3.out.trans (hb.mono B3.out.size)
  simp only [busyB]
  clear z0 z1 z2 z3 z4 z5 z6 z7 z8 z9 z10 k11 k12 k13
  obtain ⟨z0, z1, z2, z3, z4, z5, z6, z7, z8, z9, z10⟩ := P4.out.b1.cells
  obtain ⟨k11, k12, k13⟩ := P4.out.j.cells3
  simp only [Js.code] at k12
  go_upto_region 7 with fail
  go_cut [50] from 51 (fun x wx => x = .bool false ∧ wx = w4.drew)
  case first =>
    go_region
    all_goals
      go_wp2_with fail
      go_meet
      case rel => exact ⟨by first | rfl | rw [hl1], rfl⟩
  obtain ⟨rfl, rfl⟩ := hcut
  have P5 : Hid _ := P4.out.below (Below.refl _ _).drew
  have B5 : Hid _ := B4.out.drew
  clear z0 z1 z2 z3 z4 z5 z6 z7 z8 z9 z10 k11 k12 k13
  obtain ⟨w5, hw5⟩ : ∃ W, W = w4.drew := ⟨_, rfl⟩
  rw [← hw5] at P5 B5 ⊢
  clear hw5
  obtain ⟨z0, z1, z2, z3, z4, z5, z6, z7, z8, z9, z10⟩ := P5.out.b1.cells
  obtain ⟨k11, k12, k13⟩ := P5.out.j.cells3
  simp only [Js.code] at k12
  have HIn : Hid (In EP w5 (.slice xb xl xc) ps) := In.below HI.out B5.out
  go_wp2_with fail
  go_at_call 24
  refine (add_any w5 b _ (.busy h qs l) f (xb, xl, xc) ps P5.out.j (show In EP w5 (.slice xb xl xc) ps from HIn.out) hlen h qs l (.inr rfl) hl F hf).mono ?_
  intro e w6 hadd
  cases F
  · obtain ⟨⟨yb, yl, yc⟩, rfl, hJ, hrp, hks⟩ := hadd
    have P6 : Hid _ := P5.out.turn hks hJ (fun k hk => by simp [Value.ownBlock] at hk)
    have hrp' : Hid (R EP w6 (.slice yb yl yc) qs) := hrp
    clear hJ hrp hks
    simp only [sv]
    unfold fv
    clear z0 z1 z2 z3 z4 z5 z6 z7 z8 z9 z10 k11 k12 k13
    obtain ⟨z0, z1, z2, z3, z4, z5, z6, z7, z8, z9, z10⟩ := P6.out.b1.cells
    obtain ⟨k11, k12, k13⟩ := P6.out.j.cells3
    have l1 : w.heap.size + 1 + 1 < w6.heap.size := P6.out.size
    have l2 : w.heap.size + 1 < w6.heap.size := by omega
    have l3 : w.heap.size < w6.heap.size := by omega
    obtain ⟨u0, u1, u2, u3, u4, u5, u6, u7, u8, u9, u10⟩ := P6.out.b2.cells
    obtain ⟨v0, v1, v2, v3, v4, v5, v6, v7, v8, v9, v10⟩ := P6.out.b2.frozens
    have t0 : w6.cell? ⟨w.heap.size + 1 + 1, 0, none⟩ = some (.int .i64 0) := cell_blk P6.out.b3 0
    have t1 : w6.cell? ⟨w.heap.size + 1 + 1, 1, none⟩ = some (.int .i64 0) := cell_blk P6.out.b3 1
    have t2 := frozen_blk P6.out.b3 0
    have t3 := frozen_blk P6.out.b3 1
    simp only [Fr.zero, sv] at u0 u1 u2 u3 u4 u5 u6 u7 u8 u9 u10
    simp only [Js.code] at k12
    go_upto_region 9 with fail
    have P7 := P6.out.head (g' := h) (y' := (yb, yl, yc)) hrp'.out
    simp only [fsets, sv] at P7
    obtain ⟨w7, hw7⟩ : ∃ W, W = sets w6 (w.heap.size + 1) [(0, .int .i64 (h).ty), (1, .int .i64 (h).fl), (2, .int .i64 (h).st), (3, .string (h).data), (4, .int .i64 (h).pad), (5, .int .i64 (h).dep), (6, .bool (h).excl), (7, .int .i64 (h).wt), (8, .int .i64 (h).code), (9, .int .i64 (h).last), (10, .slice yb yl yc)] := ⟨_, rfl⟩
    rw [← hw7] at P7
    simp only [sets, List.foldl_cons, List.foldl_nil] at hw7
    rw [← hw7]
    clear hw7 u0 u1 u2 u3 u4 u5 u6 u7 u8 u9 u10 v0 v1 v2 v3 v4 v5 v6 v7 v8 v9 v10 t0 t1 t2 t3 l1 l2 l3
    replace P7 : Hid _ := P7
    clear z0 z1 z2 z3 z4 z5 z6 z7 z8 z9 z10 k11 k12 k13
    obtain ⟨z0, z1, z2, z3, z4, z5, z6, z7, z8, z9, z10⟩ := P7.out.b1.cells
    obtain ⟨k11, k12, k13⟩ := P7.out.j.cells3
    have l1 : w.heap.size + 1 + 1 < w7.heap.size := P7.out.size
    have l2 : w.heap.size + 1 < w7.heap.size := by omega
    have l3 : w.heap.size < w7.heap.size := by omega
    obtain ⟨u0, u1, u2, u3, u4, u5, u6, u7, u8, u9, u10⟩ := P7.out.b2.cells
    obtain ⟨v0, v1, v2, v3, v4, v5, v6, v7, v8, v9, v10⟩ := P7.out.b2.frozens
    have t0 : w7.cell? ⟨w.heap.size + 1 + 1, 0, none⟩ = some (.int .i64 0) := cell_blk P7.out.b3 0
    have t1 : w7.cell? ⟨w.heap.size + 1 + 1, 1, none⟩ = some (.int .i64 0) := cell_blk P7.out.b3 1
    have t2 := frozen_blk P7.out.b3 0
    have t3 := frozen_blk P7.out.b3 1
    simp only [Fr.zero, sv] at u0 u1 u2 u3 u4 u5 u6 u7 u8 u9 u10
    simp only [Js.code] at k12
    go_upto_region 9 with fail
    go_region
    all_goals
      go_wp2_with fail
      obtain ⟨q1, q2, q3⟩ := P7.out.fin _ rfl
      simp only [sets, fsets, sv, Fr.zero, Js.code, List.foldl_cons, List.foldl_nil] at q1 q2 q3
      refine bodyPost_ret (results_tctc (r := 4) (p := 5) (ty := 24) (q := 6) (s := 7) (tz := 32) rfl _ _ (w.heap.size + 1) (w.heap.size + 1 + 1) 24 32 _ _ (0, 0) (0, 0) _ _ rfl q1 Try.underlying24 rfl (by kernel_rfl) rfl q2 Try.underlying32 rfl (by kernel_rfl)) rfl ⟨(yb, yl, yc), rfl, q3⟩
  · obtain ⟨rfl, s', hJ, hks, hown⟩ := hadd
    have P6 : Hid _ := P5.out.turn hks hJ hown
    clear hJ hks hown
    clear z0 z1 z2 z3 z4 z5 z6 z7 z8 z9 z10 k11 k12 k13
    obtain ⟨z0, z1, z2, z3, z4, z5, z6, z7, z8, z9, z10⟩ := P6.out.b1.cells
    obtain ⟨k11, k12, k13⟩ := P6.out.j.cells3
    have l1 : w.heap.size + 1 + 1 < w6.heap.size := P6.out.size
    have l2 : w.heap.size + 1 < w6.heap.size := by omega
    have l3 : w.heap.size < w6.heap.size := by omega
    obtain ⟨u0, u1, u2, u3, u4, u5, u6, u7, u8, u9, u10⟩ := P6.out.b2.cells
    obtain ⟨v0, v1, v2, v3, v4, v5, v6, v7, v8, v9, v10⟩ := P6.out.b2.frozens
    have t0 : w6.cell? ⟨w.heap.size + 1 + 1, 0, none⟩ = some (.int .i64 0) := cell_blk P6.out.b3 0
    have t1 : w6.cell? ⟨w.heap.size + 1 + 1, 1, none⟩ = some (.int .i64 0) := cell_blk P6.out.b3 1
    have t2 := frozen_blk P6.out.b3 0
    have t3 := frozen_blk P6.out.b3 1
    simp only [Fr.zero, sv] at u0 u1 u2 u3 u4 u5 u6 u7 u8 u9 u10
    simp only [Js.code] at k12
    rw [fv_zero]
    go_upto_region 9 with fail
    have P7 := P6.out.head (g' := Fr.zero) (y' := (none, 0, 0)) (R.nil EP w6)
    simp only [fsets, sv, Fr.zero] at P7
    obtain ⟨w7, hw7⟩ : ∃ W, W = sets w6 (w.heap.size + 1) [(0, .int .i64 0), (1, .int .i64 0), (2, .int .i64 0), (3, .string ⟨#[]⟩), (4, .int .i64 0), (5, .int .i64 0), (6, .bool false), (7, .int .i64 0), (8, .int .i64 0), (9, .int .i64 0), (10, .slice none 0 0)] := ⟨_, rfl⟩
    rw [← hw7] at P7
    simp only [sets, List.foldl_cons, List.foldl_nil] at hw7
    rw [← hw7]
    clear hw7 u0 u1 u2 u3 u4 u5 u6 u7 u8 u9 u10 v0 v1 v2 v3 v4 v5 v6 v7 v8 v9 v10 t0 t1 t2 t3 l1 l2 l3
    replace P7 : Hid _ := P7
    clear z0 z1 z2 z3 z4 z5 z6 z7 z8 z9 z10 k11 k12 k13
    obtain ⟨z0, z1, z2, z3, z4, z5, z6, z7, z8, z9, z10⟩ := P7.out.b1.cells
    obtain ⟨k11, k12, k13⟩ := P7.out.j.cells3
    have l1 : w.heap.size + 1 + 1 < w7.heap.size := P7.out.size
    have l2 : w.heap.size + 1 < w7.heap.size := by omega
    have l3 : w.heap.size < w7.heap.size := by omega
    obtain ⟨u0, u1, u2, u3, u4, u5, u6, u7, u8, u9, u10⟩ := P7.out.b2.cells
    obtain ⟨v0, v1, v2, v3, v4, v5, v6, v7, v8, v9, v10⟩ := P7.out.b2.frozens
    have t0 : w7.cell? ⟨w.heap.size + 1 + 1, 0, none⟩ = some (.int .i64 0) := cell_blk P7.out.b3 0
    have t1 : w7.cell? ⟨w.heap.size + 1 + 1, 1, none⟩ = some (.int .i64 0) := cell_blk P7.out.b3 1
    have t2 := frozen_blk P7.out.b3 0
    have t3 := frozen_blk P7.out.b3 1
    simp only [Fr.zero, sv] at u0 u1 u2 u3 u4 u5 u6 u7 u8 u9 u10
    simp only [Js.code] at k12
    go_upto_region 9 with fail
    go_region
    all_goals
      go_wp2_with fail
      obtain ⟨q1, q2, q3⟩ := P7.out.fin _ rfl
      simp only [sets, fsets, sv, Fr.zero, Js.code, List.foldl_cons, List.foldl_nil] at q1 q2 q3
      refine bodyPost_ret (results_tctc (r := 4) (p := 5) (ty := 24) (q := 6) (s := 7) (tz := 32) rfl _ _ (w.heap.size + 1) (w.heap.size + 1 + 1) 24 32 _ _ (0, 0) (0, 0) _ _ rfl q1 Try.underlying24 rfl (by kernel_rfl) rfl q2 Try.underlying32 rfl (by kernel_rfl)) rfl ⟨(none, 0, 0), rfl, q3⟩

set_option maxHeartbeats 4000000 in
set_option maxRecDepth 100000 in
theorem push_idle9 (w : World) (b : Nat)  (f : Fr) (x : SV) (ps : List (Int × Int)) (hj : Jn w b (.slice none 0 0) Js.idle) (hI : In EP w (sv x) ps) (hlen : ps.length * 16 ≤ 140737488355328) (h9 : f.ty = 9) :
    Calls Try.prog 12 #[.pointer (some ⟨b, 0, none⟩), .agg (fv f (sv x))] w fun e w' => PPost w (.slice none 0 0) b (.broken 1) false Fr.zero [] ⟨#[]⟩ e w' := by
  have e9 : (f.ty == 9) = true := by simp [h9]
  clear h9
  have P0 : Hid _ := Pu.start f (sv x) hj
  have B0 : Hid _ := bel3 w (.cells (fv f (sv x)) 24) (.cells (fv Fr.zero (.slice none 0 0)) 24) (.cells #[.int .i64 0, .int .i64 0] 32)
  obtain ⟨xb, xl, xc⟩ := x
  simp only [sv] at P0 B0 hI ⊢
  rw [fv_zero] at P0 B0
  have hlt := hj.lt
  have hlt1 : b < w.heap.size + 1 := by omega
  have hlt2 : b < w.heap.size + 1 + 1 := by omega
  have HI : Hid (In EP w (.slice xb xl xc) ps) := hI
  clear hI
  unfold fv at P0 B0 ⊢
  obtain ⟨k11, k12, k13⟩ := hj.cells3
  simp only [Js.code] at k12
  go_enter Try.func12, Try.ntmps12
  go_wp2_with fail
  go_at_call 14
  refine (busy_any _ b _ Js.idle P0.out.j).mono ?_
  rintro e w1 ⟨rfl, hb⟩
  have P1 : Hid _ := P0.out.below hb
  have B1 : Hid _ := B0.out.trans (hb.mono B0.out.size)
  simp only [busyB]
  clear k11 k12 k13
  obtain ⟨z0, z1, z2, z3, z4, z5, z6, z7, z8, z9, z10⟩ := P1.out.b1.cells
  obtain ⟨k11, k12, k13⟩ := P1.out.j.cells3
  simp only [Js.code] at k12
  go_wp2_with fail
  go_at_call 14
  refine (busy_any _ b _ Js.idle P1.out.j).mono ?_
  rintro e w2 ⟨rfl, hb⟩
  have P2 : Hid _ := P1.out.below hb
  have B2 : Hid _ := B1.out.trans (hb.mono B1.out.size)
  simp only [busyB]
  clear z0 z1 z2 z3 z4 z5 z6 z7 z8 z9 z10 k11 k12 k13
  obtain ⟨z0, z1, z2, z3, z4, z5, z6, z7, z8, z9, z10⟩ := P2.out.b1.cells
  obtain ⟨k11, k12, k13⟩ := P2.out.j.cells3
  simp only [Js.code] at k12
  go_wp2_with fail
  go_at_call 22
  refine (breakBy_any _ b _ Js.idle 1 (by decide) P2.out.j).mono ?_
  rintro e w3 ⟨rfl, hJ, hb⟩
  have P3 : Hid _ := P2.out.turn (hb.mono fun k _ e => .inl e) hJ (fun k hk => by simp [Value.ownBlock] at hk)
  clear hJ hb
  clear z0 z1 z2 z3 z4 z5 z6 z7 z8 z9 z10 k11 k12 k13
  obtain ⟨z0, z1, z2, z3, z4, z5, z6, z7, z8, z9, z10⟩ := P3.out.b1.cells
  obtain ⟨k11, k12, k13⟩ := P3.out.j.cells3
  simp only [Js.code] at k12
  have l1 : w.heap.size + 1 + 1 < w3.heap.size := P3.out.size
  have l2 : w.heap.size + 1 < w3.heap.size := by omega
  have l3 : w.heap.size < w3.heap.size := by omega
  obtain ⟨u0, u1, u2, u3, u4, u5, u6, u7, u8, u9, u10⟩ := P3.out.b2.cells
  obtain ⟨v0, v1, v2, v3, v4, v5, v6, v7, v8, v9, v10⟩ := P3.out.b2.frozens
  have t0 : w3.cell? ⟨w.heap.size + 1 + 1, 0, none⟩ = some (.int .i64 0) := cell_blk P3.out.b3 0
  have t1 : w3.cell? ⟨w.heap.size + 1 + 1, 1, none⟩ = some (.int .i64 0) := cell_blk P3.out.b3 1
  have t2 := frozen_blk P3.out.b3 0
  have t3 := frozen_blk P3.out.b3 1
  simp only [Fr.zero, sv] at u0 u1 u2 u3 u4 u5 u6 u7 u8 u9 u10
  go_upto_region 9 with fail
  go_region
  all_goals
    go_wp2_with fail
    obtain ⟨q1, q2, q3⟩ := P3.out.fin _ rfl
    simp only [sets, fsets, sv, Fr.zero, Js.code, List.foldl_cons, List.foldl_nil] at q1 q2 q3
    refine bodyPost_ret (results_tctc (r := 4) (p := 5) (ty := 24) (q := 6) (s := 7) (tz := 32) rfl _ _ (w.heap.size + 1) (w.heap.size + 1 + 1) 24 32 _ _ (0, 0) (0, 0) _ _ rfl q1 Try.underlying24 rfl (by kernel_rfl) rfl q2 Try.underlying32 rfl (by kernel_rfl)) rfl ⟨(none, 0, 0), rfl, q3⟩

set_option maxHeartbeats 4000000 in
set_option maxRecDepth 100000 in
theorem push_none (w : World) (b : Nat)  (f : Fr) (x : SV) (ps : List (Int × Int)) (hj : Jn w b (.slice none 0 0) Js.idle) (hI : In EP w (sv x) ps) (hlen : ps.length * 16 ≤ 140737488355328) (h9 : ¬ f.ty = 9) (hh : dH f.ty = false) :
    Calls Try.prog 12 #[.pointer (some ⟨b, 0, none⟩), .agg (fv f (sv x))] w fun e w' => PPost w (.slice none 0 0) b .idle false Fr.zero [] ⟨#[]⟩ e w' := by
  have e9 : (f.ty == 9) = false := by simp [h9]
  clear h9
  have P0 : Hid _ := Pu.start f (sv x) hj
  have B0 : Hid _ := bel3 w (.cells (fv f (sv x)) 24) (.cells (fv Fr.zero (.slice none 0 0)) 24) (.cells #[.int .i64 0, .int .i64 0] 32)
  obtain ⟨xb, xl, xc⟩ := x
  simp only [sv] at P0 B0 hI ⊢
  rw [fv_zero] at P0 B0
  have hlt := hj.lt
  have hlt1 : b < w.heap.size + 1 := by omega
  have hlt2 : b < w.heap.size + 1 + 1 := by omega
  have HI : Hid (In EP w (.slice xb xl xc) ps) := hI
  clear hI
  unfold fv at P0 B0 ⊢
  obtain ⟨k11, k12, k13⟩ := hj.cells3
  simp only [Js.code] at k12
  go_enter Try.func12, Try.ntmps12
  go_wp2_with fail
  go_at_call 14
  refine (busy_any _ b _ Js.idle P0.out.j).mono ?_
  rintro e w1 ⟨rfl, hb⟩
  have P1 : Hid _ := P0.out.below hb
  have B1 : Hid _ := B0.out.trans (hb.mono B0.out.size)
  simp only [busyB]
  clear k11 k12 k13
  obtain ⟨z0, z1, z2, z3, z4, z5, z6, z7, z8, z9, z10⟩ := P1.out.b1.cells
  obtain ⟨k11, k12, k13⟩ := P1.out.j.cells3
  simp only [Js.code] at k12
  go_wp2_with fail
  go_at_call 14
  refine (busy_any _ b _ Js.idle P1.out.j).mono ?_
  rintro e w2 ⟨rfl, hb⟩
  have P2 : Hid _ := P1.out.below hb
  have B2 : Hid _ := B1.out.trans (hb.mono B1.out.size)
  simp only [busyB]
  clear z0 z1 z2 z3 z4 z5 z6 z7 z8 z9 z10 k11 k12 k13
  obtain ⟨z0, z1, z2, z3, z4, z5, z6, z7, z8, z9, z10⟩ := P2.out.b1.cells
  obtain ⟨k11, k12, k13⟩ := P2.out.j.cells3
  simp only [Js.code] at k12
  go_wp2_with fail
  go_at_call 14
  refine (busy_any _ b _ Js.idle P2.out.j).mono ?_
  rintro e w3 ⟨rfl, hb⟩
  have P3 : Hid _ := P2.out.below hb
  have B3 : Hid _ := B2.out.trans (hb.mono B2.out.size)
  simp only [busyB]
  clear z0 z1 z2 z3 z4 z5 z6 z7 z8 z9 z10 k11 k12 k13
  obtain ⟨z0, z1, z2, z3, z4, z5, z6, z7, z8, z9, z10⟩ := P3.out.b1.cells
  obtain ⟨k11, k12, k13⟩ := P3.out.j.cells3
  simp only [Js.code] at k12
  go_wp2_with fail
  go_at_call 23
  have hG := isHead_any f (.slice xb xl xc) w3
  rw [hh] at hG
  refine hG.mono ?_
  rintro e w4 ⟨rfl, hb⟩
  have P4 : Hid _ := P3.out.below hb
  have B4 : Hid _ := B3.out.trans (hb.mono B3.out.size)
  clear hG
  clear z0 z1 z2 z3 z4 z5 z6 z7 z8 z9 z10 k11 k12 k13
  obtain ⟨z0, z1, z2, z3, z4, z5, z6, z7, z8, z9, z10⟩ := P4.out.b1.cells
  obtain ⟨k11, k12, k13⟩ := P4.out.j.cells3
  simp only [Js.code] at k12
  have l1 : w.heap.size + 1 + 1 < w4.heap.size := P4.out.size
  have l2 : w.heap.size + 1 < w4.heap.size := by omega
  have l3 : w.heap.size < w4.heap.size := by omega
  obtain ⟨u0, u1, u2, u3, u4, u5, u6, u7, u8, u9, u10⟩ := P4.out.b2.cells
  obtain ⟨v0, v1, v2, v3, v4, v5, v6, v7, v8, v9, v10⟩ := P4.out.b2.frozens
  have t0 : w4.cell? ⟨w.heap.size + 1 + 1, 0, none⟩ = some (.int .i64 0) := cell_blk P4.out.b3 0
  have t1 : w4.cell? ⟨w.heap.size + 1 + 1, 1, none⟩ = some (.int .i64 0) := cell_blk P4.out.b3 1
  have t2 := frozen_blk P4.out.b3 0
  have t3 := frozen_blk P4.out.b3 1
  simp only [Fr.zero, sv] at u0 u1 u2 u3 u4 u5 u6 u7 u8 u9 u10
  go_upto_region 9 with fail
  go_region
  all_goals
    go_wp2_with fail
    obtain ⟨q1, q2, q3⟩ := P4.out.fin _ rfl
    simp only [sets, fsets, sv, Fr.zero, Js.code, List.foldl_cons, List.foldl_nil] at q1 q2 q3
    refine bodyPost_ret (results_tctc (r := 4) (p := 5) (ty := 24) (q := 6) (s := 7) (tz := 32) rfl _ _ (w.heap.size + 1) (w.heap.size + 1 + 1) 24 32 _ _ (0, 0) (0, 0) _ _ rfl q1 Try.underlying24 rfl (by kernel_rfl) rfl q2 Try.underlying32 rfl (by kernel_rfl)) rfl ⟨(none, 0, 0), rfl, q3⟩

set_option maxHeartbeats 4000000 in
set_option maxRecDepth 100000 in
theorem push_ilong (w : World) (b : Nat)  (f : Fr) (x : SV) (ps : List (Int × Int)) (hj : Jn w b (.slice none 0 0) Js.idle) (hI : In EP w (sv x) ps) (hlen : ps.length * 16 ≤ 140737488355328) (h9 : ¬ f.ty = 9) (hh : dH f.ty = true) (hl : 131072 < f.data.size) (hz : f.data.size ≤ 140737488355328) :
    Calls Try.prog 12 #[.pointer (some ⟨b, 0, none⟩), .agg (fv f (sv x))] w fun e w' => PPost w (.slice none 0 0) b (.broken 11) false Fr.zero [] ⟨#[]⟩ e w' := by
  have e9 : (f.ty == 9) = false := by simp [h9]
  clear h9
  have hl1 : (131072 : Int) < (f.data.size : Int) := by omega
  have P0 : Hid _ := Pu.start f (sv x) hj
  have B0 : Hid _ := bel3 w (.cells (fv f (sv x)) 24) (.cells (fv Fr.zero (.slice none 0 0)) 24) (.cells #[.int .i64 0, .int .i64 0] 32)
  obtain ⟨xb, xl, xc⟩ := x
  simp only [sv] at P0 B0 hI ⊢
  rw [fv_zero] at P0 B0
  have hlt := hj.lt
  have hlt1 : b < w.heap.size + 1 := by omega
  have hlt2 : b < w.heap.size + 1 + 1 := by omega
  have HI : Hid (In EP w (.slice xb xl xc) ps) := hI
  clear hI
  unfold fv at P0 B0 ⊢
  obtain ⟨k11, k12, k13⟩ := hj.cells3
  simp only [Js.code] at k12
  go_enter Try.func12, Try.ntmps12
  go_wp2_with fail
  go_at_call 14
  refine (busy_any _ b _ Js.idle P0.out.j).mono ?_
  rintro e w1 ⟨rfl, hb⟩
  have P1 : Hid _ := P0.out.below hb
  have B1 : Hid _ := B0.out.trans (hb.mono B0.out.size)
  simp only [busyB]
  clear k11 k12 k13
  obtain ⟨z0, z1, z2, z3, z4, z5, z6, z7, z8, z9, z10⟩ := P1.out.b1.cells
  obtain ⟨k11, k12, k13⟩ := P1.out.j.cells3
  simp only [Js.code] at k12
  go_wp2_with fail
  go_at_call 14
  refine (busy_any _ b _ Js.idle P1.out.j).mono ?_
  rintro e w2 ⟨rfl, hb⟩
  have P2 : Hid _ := P1.out.below hb
  have B2 : Hid _ := B1.out.trans (hb.mono B1.out.size)
  simp only [busyB]
  clear z0 z1 z2 z3 z4 z5 z6 z7 z8 z9 z10 k11 k12 k13
  obtain ⟨z0, z1, z2, z3, z4, z5, z6, z7, z8, z9, z10⟩ := P2.out.b1.cells
  obtain ⟨k11, k12, k13⟩ := P2.out.j.cells3
  simp only [Js.code] at k12
  go_wp2_with fail
  go_at_call 14
  refine (busy_any _ b _ Js.idle P2.out.j).mono ?_
  rintro e w3 ⟨rfl, hb⟩
  have P3 : Hid _ := P2.out.below hb
  have B3 : Hid _ := B2.out.trans (hb.mono B2.out.size)
  simp only [busyB]
  clear z0 z1 z2 z3 z4 z5 z6 z7 z8 z9 z10 k11 k12 k13
  obtain ⟨z0, z1, z2, z3, z4, z5, z6, z7, z8, z9, z10⟩ := P3.out.b1.cells
  obtain ⟨k11, k12, k13⟩ := P3.out.j.cells3
  simp only [Js.code] at k12
  go_wp2_with fail
  go_at_call 23
  have hG := isHead_any f (.slice xb xl xc) w3
  rw [hh] at hG
  refine hG.mono ?_
  rintro e w4 ⟨rfl, hb⟩
  have P4 : Hid _ := P3.out.below hb
  have B4 : Hid _ := B3.out.trans (hb.mono B3.out.size)
  clear hG
  clear z0 z1 z2 z3 z4 z5 z6 z7 z8 z9 z10 k11 k12 k13
  obtain ⟨z0, z1, z2, z3, z4, z5, z6, z7, z8, z9, z10⟩ := P4.out.b1.cells
  obtain ⟨k11, k12, k13⟩ := P4.out.j.cells3
  simp only [Js.code] at k12
  go_upto_region 7 with fail
  go_cut [50] from 51 (fun x wx => x = .bool true ∧ wx = w4.drew)
  case first =>
    go_region
    all_goals
      go_wp2_with fail
      go_meet
      case rel => exact ⟨by first | rfl | rw [hl1], rfl⟩
  obtain ⟨rfl, rfl⟩ := hcut
  have P5 : Hid _ := P4.out.below (Below.refl _ _).drew
  have B5 : Hid _ := B4.out.drew
  clear z0 z1 z2 z3 z4 z5 z6 z7 z8 z9 z10 k11 k12 k13
  obtain ⟨w5, hw5⟩ : ∃ W, W = w4.drew := ⟨_, rfl⟩
  rw [← hw5] at P5 B5 ⊢
  clear hw5
  obtain ⟨z0, z1, z2, z3, z4, z5, z6, z7, z8, z9, z10⟩ := P5.out.b1.cells
  obtain ⟨k11, k12, k13⟩ := P5.out.j.cells3
  go_wp2_with fail
  go_at_call 22
  refine (breakBy_any _ b _ Js.idle 11 (by decide) P5.out.j).mono ?_
  rintro e w6 ⟨rfl, hJ, hb⟩
  have P6 : Hid _ := P5.out.turn (hb.mono fun k _ e => .inl e) hJ (fun k hk => by simp [Value.ownBlock] at hk)
  clear hJ hb
  clear z0 z1 z2 z3 z4 z5 z6 z7 z8 z9 z10 k11 k12 k13
  obtain ⟨z0, z1, z2, z3, z4, z5, z6, z7, z8, z9, z10⟩ := P6.out.b1.cells
  obtain ⟨k11, k12, k13⟩ := P6.out.j.cells3
  simp only [Js.code] at k12
  have l1 : w.heap.size + 1 + 1 < w6.heap.size := P6.out.size
  have l2 : w.heap.size + 1 < w6.heap.size := by omega
  have l3 : w.heap.size < w6.heap.size := by omega
  obtain ⟨u0, u1, u2, u3, u4, u5, u6, u7, u8, u9, u10⟩ := P6.out.b2.cells
  obtain ⟨v0, v1, v2, v3, v4, v5, v6, v7, v8, v9, v10⟩ := P6.out.b2.frozens
  have t0 : w6.cell? ⟨w.heap.size + 1 + 1, 0, none⟩ = some (.int .i64 0) := cell_blk P6.out.b3 0
  have t1 : w6.cell? ⟨w.heap.size + 1 + 1, 1, none⟩ = some (.int .i64 0) := cell_blk P6.out.b3 1
  have t2 := frozen_blk P6.out.b3 0
  have t3 := frozen_blk P6.out.b3 1
  simp only [Fr.zero, sv] at u0 u1 u2 u3 u4 u5 u6 u7 u8 u9 u10
  go_upto_region 9 with fail
  go_region
  all_goals
    go_wp2_with fail
    obtain ⟨q1, q2, q3⟩ := P6.out.fin _ rfl
    simp only [sets, fsets, sv, Fr.zero, Js.code, List.foldl_cons, List.foldl_nil] at q1 q2 q3
    refine bodyPost_ret (results_tctc (r := 4) (p := 5) (ty := 24) (q := 6) (s := 7) (tz := 32) rfl _ _ (w.heap.size + 1) (w.heap.size + 1 + 1) 24 32 _ _ (0, 0) (0, 0) _ _ rfl q1 Try.underlying24 rfl (by kernel_rfl) rfl q2 Try.underlying32 rfl (by kernel_rfl)) rfl ⟨(none, 0, 0), rfl, q3⟩

set_option maxHeartbeats 4000000 in
set_option maxRecDepth 100000 in
theorem push_bbad (w : World) (b : Nat) (s : Value) (h : Fr) (qs : List (Int × Int)) (l : List UInt8) (f : Fr) (x : SV) (ps : List (Int × Int)) (hj : Jn w b s (.busy h qs l)) (hI : In EP w (sv x) ps) (hlen : ps.length * 16 ≤ 140737488355328) (hg : (f.ty == 9 && f.st == h.st) = false) :
    Calls Try.prog 12 #[.pointer (some ⟨b, 0, none⟩), .agg (fv f (sv x))] w fun e w' => PPost w s b (.broken 1) false Fr.zero [] ⟨#[]⟩ e w' := by
  have P0 : Hid _ := Pu.start f (sv x) hj
  have B0 : Hid _ := bel3 w (.cells (fv f (sv x)) 24) (.cells (fv Fr.zero (.slice none 0 0)) 24) (.cells #[.int .i64 0, .int .i64 0] 32)
  obtain ⟨xb, xl, xc⟩ := x
  simp only [sv] at P0 B0 hI ⊢
  rw [fv_zero] at P0 B0
  have hlt := hj.lt
  have hlt1 : b < w.heap.size + 1 := by omega
  have hlt2 : b < w.heap.size + 1 + 1 := by omega
  have HI : Hid (In EP w (.slice xb xl xc) ps) := hI
  clear hI
  unfold fv at P0 B0 ⊢
  obtain ⟨k11, k12, k13⟩ := hj.cells3
  simp only [Js.code] at k12
  go_enter Try.func12, Try.ntmps12
  go_wp2_with fail
  go_at_call 14
  refine (busy_any _ b _ (.busy h qs l) P0.out.j).mono ?_
  rintro e w1 ⟨rfl, hb⟩
  have P1 : Hid _ := P0.out.below hb
  have B1 : Hid _ := B0.out.trans (hb.mono B0.out.size)
  simp only [busyB]
  clear k11 k12 k13
  obtain ⟨z0, z1, z2, z3, z4, z5, z6, z7, z8, z9, z10⟩ := P1.out.b1.cells
  obtain ⟨k11, k12, k13⟩ := P1.out.j.cells3
  simp only [Js.code] at k12
  go_wp2_with fail
  go_at_call 21
  obtain ⟨hx, hJ, hr⟩ := P1.out.j
  have hG := goesOn_any _ b h f _ _ (.slice xb xl xc) 0 hJ
  rw [hg] at hG
  refine hG.mono ?_
  rintro e w2 ⟨rfl, hb⟩
  have P2 : Hid _ := P1.out.below hb
  have B2 : Hid _ := B1.out.trans (hb.mono B1.out.size)
  clear hr hJ hG hx
  clear z0 z1 z2 z3 z4 z5 z6 z7 z8 z9 z10 k11 k12 k13
  obtain ⟨z0, z1, z2, z3, z4, z5, z6, z7, z8, z9, z10⟩ := P2.out.b1.cells
  obtain ⟨k11, k12, k13⟩ := P2.out.j.cells3
  simp only [Js.code] at k12
  go_wp2_with fail
  go_at_call 22
  refine (breakBy_any _ b _ (.busy h qs l) 1 (by decide) P2.out.j).mono ?_
  rintro e w3 ⟨rfl, hJ, hb⟩
  have P3 : Hid _ := P2.out.turn (hb.mono fun k _ e => .inl e) hJ (fun k hk => by simp [Value.ownBlock] at hk)
  clear hJ hb
  clear z0 z1 z2 z3 z4 z5 z6 z7 z8 z9 z10 k11 k12 k13
  obtain ⟨z0, z1, z2, z3, z4, z5, z6, z7, z8, z9, z10⟩ := P3.out.b1.cells
  obtain ⟨k11, k12, k13⟩ := P3.out.j.cells3
  simp only [Js.code] at k12
  have l1 : w.heap.size + 1 + 1 < w3.heap.size := P3.out.size
  have l2 : w.heap.size + 1 < w3.heap.size := by omega
  have l3 : w.heap.size < w3.heap.size := by omega
  obtain ⟨u0, u1, u2, u3, u4, u5, u6, u7, u8, u9, u10⟩ := P3.out.b2.cells
  obtain ⟨v0, v1, v2, v3, v4, v5, v6, v7, v8, v9, v10⟩ := P3.out.b2.frozens
  have t0 : w3.cell? ⟨w.heap.size + 1 + 1, 0, none⟩ = some (.int .i64 0) := cell_blk P3.out.b3 0
  have t1 : w3.cell? ⟨w.heap.size + 1 + 1, 1, none⟩ = some (.int .i64 0) := cell_blk P3.out.b3 1
  have t2 := frozen_blk P3.out.b3 0
  have t3 := frozen_blk P3.out.b3 1
  simp only [Fr.zero, sv] at u0 u1 u2 u3 u4 u5 u6 u7 u8 u9 u10
  go_upto_region 9 with fail
  go_region
  all_goals
    go_wp2_with fail
    obtain ⟨q1, q2, q3⟩ := P3.out.fin _ rfl
    simp only [sets, fsets, sv, Fr.zero, Js.code, List.foldl_cons, List.foldl_nil] at q1 q2 q3
    refine bodyPost_ret (results_tctc (r := 4) (p := 5) (ty := 24) (q := 6) (s := 7) (tz := 32) rfl _ _ (w.heap.size + 1) (w.heap.size + 1 + 1) 24 32 _ _ (0, 0) (0, 0) _ _ rfl q1 Try.underlying24 rfl (by kernel_rfl) rfl q2 Try.underlying32 rfl (by kernel_rfl)) rfl ⟨(none, 0, 0), rfl, q3⟩

set_option maxHeartbeats 4000000 in
set_option maxRecDepth 100000 in
theorem push_blong (w : World) (b : Nat) (s : Value) (h : Fr) (qs : List (Int × Int)) (l : List UInt8) (f : Fr) (x : SV) (ps : List (Int × Int)) (hj : Jn w b s (.busy h qs l)) (hI : In EP w (sv x) ps) (hlen : ps.length * 16 ≤ 140737488355328) (hg : (f.ty == 9 && f.st == h.st) = true) (hl : 131072 < l.length + f.data.size) (hz : f.data.size ≤ 140737488355328) :
    Calls Try.prog 12 #[.pointer (some ⟨b, 0, none⟩), .agg (fv f (sv x))] w fun e w' => PPost w s b (.broken 11) false Fr.zero [] ⟨#[]⟩ e w' := by
  have hl1 : (131072 : Int) < (l.length : Int) + (f.data.size : Int) := by omega
  obtain ⟨sb, scap, rfl, hsl1, hsl2⟩ : ∃ sb scap, s = .slice sb l.length scap ∧ l.length ≤ 131072 ∧ l.length ≤ 131072 := by
    obtain ⟨_, _, _, _, _, hr, hll⟩ := hj
    obtain ⟨sb, scap, e, _⟩ := hr.slice
    exact ⟨sb, scap, e, hll, hll⟩
  have P0 : Hid _ := Pu.start f (sv x) hj
  have B0 : Hid _ := bel3 w (.cells (fv f (sv x)) 24) (.cells (fv Fr.zero (.slice none 0 0)) 24) (.cells #[.int .i64 0, .int .i64 0] 32)
  obtain ⟨xb, xl, xc⟩ := x
  simp only [sv] at P0 B0 hI ⊢
  rw [fv_zero] at P0 B0
  have hlt := hj.lt
  have hlt1 : b < w.heap.size + 1 := by omega
  have hlt2 : b < w.heap.size + 1 + 1 := by omega
  have HI : Hid (In EP w (.slice xb xl xc) ps) := hI
  clear hI
  unfold fv at P0 B0 ⊢
  obtain ⟨k11, k12, k13⟩ := hj.cells3
  simp only [Js.code] at k12
  go_enter Try.func12, Try.ntmps12
  go_wp2_with fail
  go_at_call 14
  refine (busy_any _ b _ (.busy h qs l) P0.out.j).mono ?_
  rintro e w1 ⟨rfl, hb⟩
  have P1 : Hid _ := P0.out.below hb
  have B1 : Hid _ := B0.out.trans (hb.mono B0.out.size)
  simp only [busyB]
  clear k11 k12 k13
  obtain ⟨z0, z1, z2, z3, z4, z5, z6, z7, z8, z9, z10⟩ := P1.out.b1.cells
  obtain ⟨k11, k12, k13⟩ := P1.out.j.cells3
  simp only [Js.code] at k12
  go_wp2_with fail
  go_at_call 21
  obtain ⟨hx, hJ, hr⟩ := P1.out.j
  have hG := goesOn_any _ b h f _ _ (.slice xb xl xc) 0 hJ
  rw [hg] at hG
  refine hG.mono ?_
  rintro e w2 ⟨rfl, hb⟩
  have P2 : Hid _ := P1.out.below hb
  have B2 : Hid _ := B1.out.trans (hb.mono B1.out.size)
  clear hr hJ hG hx
  clear z0 z1 z2 z3 z4 z5 z6 z7 z8 z9 z10 k11 k12 k13
  obtain ⟨z0, z1, z2, z3, z4, z5, z6, z7, z8, z9, z10⟩ := P2.out.b1.cells
  obtain ⟨k11, k12, k13⟩ := P2.out.j.cells3
  simp only [Js.code] at k12
  go_wp2_with fail
  go_at_call 14
  refine (busy_any _ b _ (.busy h qs l) P2.out.j).mono ?_
  rintro e w3 ⟨rfl, hb⟩
  have P3 : Hid _ := P2.out.below hb
  have B3 : Hid _ := B2.out.trans (hb.mono B2.out.size)
  simp only [busyB]
  clear z0 z1 z2 z3 z4 z5 z6 z7 z8 z9 z10 k11 k12 k13
  obtain ⟨z0, z1, z2, z3, z4, z5, z6, z7, z8, z9, z10⟩ := P3.out.b1.cells
  obtain ⟨k11, k12, k13⟩ := P3.out.j.cells3
  simp only [Js.code] at k12
  go_wp2_with fail
  go_at_call 14
  refine (busy_any _ b _ (.busy h qs l) P3.out.j).mono ?_
  rintro e w4 ⟨rfl, hb⟩
  have P4 : Hid _ := P3.out.below hb
  have B4 : Hid _ := B3.out.trans (hb.mono B3.out.size)
  simp only [busyB]
  clear z0 z1 z2 z3 z4 z5 z6 z7 z8 z9 z10 k11 k12 k13
  obtain ⟨z0, z1, z2, z3, z4, z5, z6, z7, z8, z9, z10⟩ := P4.out.b1.cells
  obtain ⟨k11, k12, k13⟩ := P4.out.j.cells3
  simp only [Js.code] at k12
  go_upto_region 7 with fail
  go_cut [50] from 51 (fun x wx => x = .bool true ∧ wx = w4.drew)
  case first =>
    go_region
    all_goals
      go_wp2_with fail
      go_meet
      case rel => exact ⟨by first | rfl | rw [hl1], rfl⟩
  obtain ⟨rfl, rfl⟩ := hcut
  have P5 : Hid _ := P4.out.below (Below.refl _ _).drew
  have B5 : Hid _ := B4.out.drew
  clear z0 z1 z2 z3 z4 z5 z6 z7 z8 z9 z10 k11 k12 k13
  obtain ⟨w5, hw5⟩ : ∃ W, W = w4.drew := ⟨_, rfl⟩
  rw [← hw5] at P5 B5 ⊢
  clear hw5
  obtain ⟨z0, z1, z2, z3, z4, z5, z6, z7, z8, z9, z10⟩ := P5.out.b1.cells
  obtain ⟨k11, k12, k13⟩ := P5.out.j.cells3
  simp only [Js.code] at k12
  go_wp2_with fail
  go_at_call 22
  refine (breakBy_any _ b _ (.busy h qs l) 11 (by decide) P5.out.j).mono ?_
  rintro e w6 ⟨rfl, hJ, hb⟩
  have P6 : Hid _ := P5.out.turn (hb.mono fun k _ e => .inl e) hJ (fun k hk => by simp [Value.ownBlock] at hk)
  clear hJ hb
  clear z0 z1 z2 z3 z4 z5 z6 z7 z8 z9 z10 k11 k12 k13
  obtain ⟨z0, z1, z2, z3, z4, z5, z6, z7, z8, z9, z10⟩ := P6.out.b1.cells
  obtain ⟨k11, k12, k13⟩ := P6.out.j.cells3
  simp only [Js.code] at k12
  have l1 : w.heap.size + 1 + 1 < w6.heap.size := P6.out.size
  have l2 : w.heap.size + 1 < w6.heap.size := by omega
  have l3 : w.heap.size < w6.heap.size := by omega
  obtain ⟨u0, u1, u2, u3, u4, u5, u6, u7, u8, u9, u10⟩ := P6.out.b2.cells
  obtain ⟨v0, v1, v2, v3, v4, v5, v6, v7, v8, v9, v10⟩ := P6.out.b2.frozens
  have t0 : w6.cell? ⟨w.heap.size + 1 + 1, 0, none⟩ = some (.int .i64 0) := cell_blk P6.out.b3 0
  have t1 : w6.cell? ⟨w.heap.size + 1 + 1, 1, none⟩ = some (.int .i64 0) := cell_blk P6.out.b3 1
  have t2 := frozen_blk P6.out.b3 0
  have t3 := frozen_blk P6.out.b3 1
  simp only [Fr.zero, sv] at u0 u1 u2 u3 u4 u5 u6 u7 u8 u9 u10
  go_upto_region 9 with fail
  go_region
  all_goals
    go_wp2_with fail
    obtain ⟨q1, q2, q3⟩ := P6.out.fin _ rfl
    simp only [sets, fsets, sv, Fr.zero, Js.code, List.foldl_cons, List.foldl_nil] at q1 q2 q3
    refine bodyPost_ret (results_tctc (r := 4) (p := 5) (ty := 24) (q := 6) (s := 7) (tz := 32) rfl _ _ (w.heap.size + 1) (w.heap.size + 1 + 1) 24 32 _ _ (0, 0) (0, 0) _ _ rfl q1 Try.underlying24 rfl (by kernel_rfl) rfl q2 Try.underlying32 rfl (by kernel_rfl)) rfl ⟨(none, 0, 0), rfl, q3⟩

end Go.Proofs.Ytdgdjanchpfleaa
