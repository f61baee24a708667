/- Next. -/
import Derived.Test.YtmhbaaemihljjaaDoorK6
namespace Go.Proofs.YtmhbaaemihljjaaDoor
open Go.RowKit
set_option linter.unusedVariables false
set_option linter.unusedSimpArgs false

/-- what is told and left behind the deferred call -/
structure NxR where
  fp : Fr × List (Int × Int)
  ok : Bool
  c : Int
  x : Int
  S : St

/-- a feed that broke tells its code, and is dead -/
def shutR (r : NxR) : NxR := if r.S.code = 0 then r else ⟨(Fr.zero, []), false, r.S.code, 0, deadS r.S.code⟩
/-- what Next tells and leaves -/
def nextS (S : St) : NxR :=
  shutR (if S.code ≠ 0 then ⟨(Fr.zero, []), false, 0, 0, S⟩
    else if (passS S).1 = false then ⟨(Fr.zero, []), false, 0, 0, (passS S).2⟩
    else ⟨(rdL (passS S).2.wait (passS S).2.most).1, okR (rdL (passS S).2.wait (passS S).2.most), (rdL (passS S).2.wait (passS S).2.most).2.2.1, (rdL (passS S).2.wait (passS S).2.most).2.2.2, rfS (passS S).2⟩)

theorem results_cells3 {P : Program} {fn : Func} {p r q : Tmp} {ty tr tz : TypeId} (h : fn.results = #[.cell p ty, .cell r tr, .cell q tz]) (tmps : Array Value) (w : World) (g m k : Nat) (t s u : TypeId) (cs ds : Array Value) (b : Value) (fr fm fs : Nat × Nat) (d e : TypeDesc)
    (hp : tmps.getD p undef = .pointer (some ⟨g, 0, none⟩)) (hg : w.heap[g]? = some (.cells cs t fr)) (hu : P.underlying ty = some d) (hd : (match d with | .struct _ | .array _ _ => true | _ => false) = true) (hi : (P.info? ty).map (·.size) = some cs.size)
    (hr : tmps.getD r undef = .pointer (some ⟨m, 0, none⟩)) (hm : (loadVar tr ⟨m, 0, none⟩).run P w = .ok b w)
    (hq : tmps.getD q undef = .pointer (some ⟨k, 0, none⟩)) (hk : w.heap[k]? = some (.cells ds u fs)) (hv : P.underlying tz = some e) (he : (match e with | .struct _ | .array _ _ => true | _ => false) = true) (hj : (P.info? tz).map (·.size) = some ds.size) :
    (results fn tmps).run P w = .ok (.tuple #[.agg cs, b, .agg ds]) w := by
  have hp' : tmps[p]?.getD undef = .pointer (some ⟨g, 0, none⟩) := by simpa using hp
  have hr' : tmps[r]?.getD undef = .pointer (some ⟨m, 0, none⟩) := by simpa using hr
  have hq' : tmps[q]?.getD undef = .pointer (some ⟨k, 0, none⟩) := by simpa using hq
  simp [results, h, hp', hq', hr', asAddr, run_loadVar_row w g t ty cs fr d hg hu hd hi, run_loadVar_row w k u tz ds fs e hk hv he hj, hm]

theorem load_bool (w : World) (m : Nat) (b : Bool) (fz : Nat × Nat) (h : w.heap[m]? = some (.cells #[.bool b] 4 fz)) : (loadVar 4 ⟨m, 0, none⟩).run Tryd.prog w = .ok (.bool b) w := by
  have hc : w.cell? ⟨m, 0, none⟩ = some (.bool b) := by rw [cell_of_row _ _ _ _ _ _ h]; rfl
  simp [loadVar, run_underlying Tryd.underlying4, hc, go_sem]

theorem Nd.step {w W W' : World} {g : Nat} {v v' : Value} {S S' : St} (h : Nd w W g v S Fr.zero none 0 0 [] false 0 0) (hf : Fd W' g v' S') (hk : Kp g W W') : Nd w W' g v' S' Fr.zero none 0 0 [] false 0 0 := by
  have hg := h.lt
  have l3 := (Array.getElem?_eq_some_iff.1 h.b3).1
  exact ⟨(hk.block _ (by omega) (by omega)).trans h.b0, (hk.block _ (by omega) (by omega)).trans h.b1, (hk.block _ (by omega) (by omega)).trans h.b2, (hk.block _ (by omega) (by omega)).trans h.b3, hf, PRow.nil _, h.kp.trans hk, hg⟩

theorem resF (w W : World) (g : Nat) (v : Value) (S : St) (h : Nd w W g v S Fr.zero none 0 0 [] false 0 0) (f : Fr) (pb : Option Addr) (pl pc : Nat) (ps : List (Int × Int)) (ok : Bool) (c x : Int) (hP : PRow W (.slice pb pl pc) ps) (w2 : World)
    (e1 : w2.heap = (sets (sets (sets W (w.heap.size + 1) (fsets f (.slice pb pl pc))) (w.heap.size + 1 + 1) [(0, .bool ok)]) (w.heap.size + 1 + 1 + 1) [(0, .int .i64 c), (1, .int .i64 x)]).heap) (e2 : w2.os = (sets (sets (sets W (w.heap.size + 1) (fsets f (.slice pb pl pc))) (w.heap.size + 1 + 1) [(0, .bool ok)]) (w.heap.size + 1 + 1 + 1) [(0, .int .i64 c), (1, .int .i64 x)]).os) (e3 : w2.tape = (sets (sets (sets W (w.heap.size + 1) (fsets f (.slice pb pl pc))) (w.heap.size + 1 + 1) [(0, .bool ok)]) (w.heap.size + 1 + 1 + 1) [(0, .int .i64 c), (1, .int .i64 x)]).tape) (e4 : w2.output = (sets (sets (sets W (w.heap.size + 1) (fsets f (.slice pb pl pc))) (w.heap.size + 1 + 1) [(0, .bool ok)]) (w.heap.size + 1 + 1 + 1) [(0, .int .i64 c), (1, .int .i64 x)]).output) :
    Nd w w2 g v S f pb pl pc ps ok c x := by
  have hg := h.lt
  have l3 := (Array.getElem?_eq_some_iff.1 h.b3).1
  have hb := ((sets_below (w.heap.size + 1) 0 (Nat.zero_le _) (fsets f (.slice pb pl pc)) W).trans (sets_below (w.heap.size + 1 + 1) 0 (Nat.zero_le _) [(0, .bool ok)] _)).trans (sets_below (w.heap.size + 1 + 1 + 1) 0 (Nat.zero_le _) [(0, .int .i64 c), (1, .int .i64 x)] _)
  replace e2 := e2.trans hb.os
  replace e3 := e3.trans hb.tape
  replace e4 := e4.trans hb.output
  have ho : ∀ i, i ≠ w.heap.size + 1 → i ≠ w.heap.size + 1 + 1 → i ≠ w.heap.size + 1 + 1 + 1 → w2.heap[i]? = W.heap[i]? := fun i h1 h2 h3 => by
    rw [e1, sets_other _ _ h3, sets_other _ _ h2, sets_other _ _ h1]
  have htype : ∀ (i : Nat) (cs : Array Value) (t : TypeId), W.heap[i]? = some (.cells cs t (0, 0)) → t = 34 ∨ t = 5 ∨ t = 49 ∨ t = 69 → i ≠ w.heap.size + 1 ∧ i ≠ w.heap.size + 1 + 1 ∧ i ≠ w.heap.size + 1 + 1 + 1 := fun i cs t hi ht => by
    have h1 : W.heap[w.heap.size + 1]? = some (.cells (fv Fr.zero (.slice none 0 0)) 28 (0, 0)) := h.b1
    rcases ht with rfl | rfl | rfl | rfl
    all_goals
      refine ⟨fun e => ?_, fun e => ?_, fun e => ?_⟩
      · rw [e, h1] at hi; simp at hi
      · rw [e, h.b2] at hi; simp at hi
      · rw [e, h.b3] at hi; simp at hi
  refine ⟨?_, ?_, ?_, ?_, h.fd.same ?_ (fun i hi => ?_), hP.below fun i hi _ => ?_, ⟨e2.trans h.kp.os, e3.trans h.kp.tape, e4.trans h.kp.output, by rw [e1, sets_size, sets_size, sets_size]; exact h.kp.size, fun i hi hne => ?_⟩, hg⟩
  · rw [ho _ (by omega) (by omega) (by omega)]; exact h.b0
  · unfold FB
    rw [e1, sets_other _ _ (by omega), sets_other _ _ (by omega), sets_block _ _ _ _ _ _ h.b1]
    simp only [fsets, fv, List.foldl_cons, List.foldl_nil, List.setIfInBounds_toArray, List.set_cons_zero, List.set_cons_succ]
  · rw [e1, sets_other _ _ (by omega), sets_block _ _ _ _ _ _ ((sets_other _ _ (by omega) _ _).trans h.b2)]
    simp only [List.foldl_cons, List.foldl_nil, List.setIfInBounds_toArray, List.set_cons_zero]
  · rw [e1, sets_block _ _ _ _ _ _ ((sets_other _ _ (by omega) _ _).trans ((sets_other _ _ (by omega) _ _).trans h.b3))]
    simp only [List.foldl_cons, List.foldl_nil, List.setIfInBounds_toArray, List.set_cons_zero, List.set_cons_succ]
  · exact ho _ (by omega) (by omega) (by omega)
  · rcases h.fd.row with ⟨e, _⟩ | ⟨r, off, cap, cur, e, hr, _⟩
    · rw [e] at hi; simp [Value.ownBlock] at hi
    · rw [e] at hi
      simp [Value.ownBlock] at hi
      subst hi
      obtain ⟨a, b, c⟩ := htype _ _ _ hr (.inr (.inl rfl))
      exact ho _ a b c
  · obtain ⟨cur, hc⟩ := hP.type i hi
    obtain ⟨a, b, c⟩ := htype _ _ _ hc (.inr (.inr (.inl rfl)))
    exact ho _ a b c
  · rw [ho _ (by omega) (by omega) (by omega)]
    exact h.kp.block i hi hne

theorem door (w W : World) (g : Nat) (v v1 : Value) (S1 : St) (f : Fr) (pb : Option Addr) (pl pc : Nat) (ps : List (Int × Int)) (ok : Bool) (c x : Int) (h : Nd w W g v1 S1 f pb pl pc ps ok c x) (hown : ∀ k, v1.ownBlock = some k → v.ownBlock = some k) (hPn : ∀ k, (Value.slice pb pl pc).ownBlock = some k → w.heap.size ≤ k)
    (r : NxR) (hr : r = shutR ⟨(f, ps), ok, c, x, S1⟩) (tmps : Array Value) (h2 : tmps.getD 2 undef = .pointer (some ⟨w.heap.size + 1, 0, none⟩)) (h3 : tmps.getD 3 undef = .pointer (some ⟨w.heap.size + 1 + 1, 0, none⟩)) (h4 : tmps.getD 4 undef = .pointer (some ⟨w.heap.size + 1 + 1 + 1, 0, none⟩)) :
    bodyPostD Tryd.prog Tryd.f12 (fun e w' => NPost w g v r.fp r.ok r.c r.x r.S e w') Exit.ret { tmps := tmps, defers := [{ target := Target.fn (Fn.func 27) #[.pointer (some ⟨w.heap.size, 0, none⟩), .pointer (some ⟨w.heap.size + 1, 0, none⟩), .pointer (some ⟨w.heap.size + 1 + 1, 0, none⟩), .pointer (some ⟨w.heap.size + 1 + 1 + 1, 0, none⟩)], args := #[] }] } W := by
  refine leaves_cons (f := 27) (args := #[.pointer (some ⟨w.heap.size, 0, none⟩), .pointer (some ⟨w.heap.size + 1, 0, none⟩), .pointer (some ⟨w.heap.size + 1 + 1, 0, none⟩), .pointer (some ⟨w.heap.size + 1 + 1 + 1, 0, none⟩)]) (by simp) (by simp [go_sem]) ?_
  refine (close_any w W g v1 S1 f pb pl pc ps ok c x .returning h).mono ?_
  rintro e u' w'' ⟨rfl, rfl, hz, hn⟩
  subst hr
  by_cases hc : S1.code = 0
  · obtain rfl := hz hc
    refine ⟨_, results_cells3 (p := 2) (ty := 28) (r := 3) (tr := 4) (q := 4) (tz := 30) rfl _ _ (w.heap.size + 1) (w.heap.size + 1 + 1) (w.heap.size + 1 + 1 + 1) 28 4 30 _ _ _ (0, 0) (0, 0) (0, 0) _ _ h2 h.b1 Tryd.underlying28 rfl (by kernel_rfl) h3 (load_bool _ _ _ _ h.b2) h4 h.b3 Tryd.underlying30 rfl (by kernel_rfl), ?_⟩
    unfold shutR
    rw [if_pos hc]
    exact ⟨pb, pl, pc, v1, rfl, h.pr, hPn, h.fd, h.kp, hown⟩
  · have h := hn hc
    refine ⟨_, results_cells3 (p := 2) (ty := 28) (r := 3) (tr := 4) (q := 4) (tz := 30) rfl _ _ (w.heap.size + 1) (w.heap.size + 1 + 1) (w.heap.size + 1 + 1 + 1) 28 4 30 _ _ _ (0, 0) (0, 0) (0, 0) _ _ h2 h.b1 Tryd.underlying28 rfl (by kernel_rfl) h3 (load_bool _ _ _ _ h.b2) h4 h.b3 Tryd.underlying30 rfl (by kernel_rfl), ?_⟩
    unfold shutR
    rw [if_neg hc]
    exact ⟨none, 0, 0, _, rfl, h.pr, fun k hk => by simp [Value.ownBlock] at hk, h.fd, h.kp, fun k hk => by simp [Value.ownBlock] at hk⟩

theorem nd0 (w : World) (g : Nat) (v : Value) (S : St) (h : Fd w g v S) :
    Nd w ((((w.alloc (.cells #[.pointer (some ⟨g, 0, none⟩)] 23)).alloc (.cells #[.int .i64 0, .int .i64 0, .int .i64 0, .string ⟨#[]⟩, .int .i64 0, .int .i64 0, .bool false, .int .i64 0, .int .i64 0, .int .i64 0, .slice none 0 0] 28)).alloc (.cells #[.bool false] 4)).alloc (.cells #[.int .i64 0, .int .i64 0] 30)) g v S Fr.zero none 0 0 [] false 0 0 := by
  have hg := h.lt
  have hb : Below w.heap.size w ((((w.alloc (.cells #[.pointer (some ⟨g, 0, none⟩)] 23)).alloc (.cells #[.int .i64 0, .int .i64 0, .int .i64 0, .string ⟨#[]⟩, .int .i64 0, .int .i64 0, .bool false, .int .i64 0, .int .i64 0, .int .i64 0, .slice none 0 0] 28)).alloc (.cells #[.bool false] 4)).alloc (.cells #[.int .i64 0, .int .i64 0] 30)) :=
    ((((Below.refl _ w).alloc (Nat.le_refl _) _).alloc (by simp only [size_al]; omega) _).alloc (by simp only [size_al]; omega) _).alloc (by simp only [size_al]; omega) _
  refine ⟨?_, ?_, ?_, ?_, h.below hb, PRow.nil _, Kp.of_below hb, hg⟩
  all_goals
    (try unfold FB)
    simp only [heap_al, size_al]
    repeat (first | rw [if_pos trivial] | rw [if_neg (by omega)])
  rfl

set_option maxRecDepth 100000 in
set_option maxHeartbeats 4000000 in
theorem next_any (w : World) (g : Nat) (v : Value) (S : St) (h : Fd w g v S) (hg0 : g ≠ 0) (hK : Kinds w) :
    Calls Tryd.prog 12 #[.pointer (some ⟨g, 0, none⟩)] w fun e w' => NPost w g v (nextS S).fp (nextS S).ok (nextS S).c (nextS S).x (nextS S).S e w' := by
  have hmf : ∀ (fn : Fn) (first cap : Array Value) (w : World), (Instr.makeFunc fn first cap).run Tryd.prog w = .ok (.func fn first cap) w := fun _ _ _ _ => rfl
  have hN := nd0 w g v S h
  have hgB := h.lt
  have hib : Hid (∀ W, Fd W g v S → Calls Tryd.prog 26 #[.pointer (some ⟨g, 0, none⟩)] W fun e w' => e = .returned (.bool (S.code != 0)) ∧ w' = W) := fun W hF => isBroken_any W g S.code hF.cells.2.2.2.1 hF.cells.2.2.2.2
  have HN : Hid _ := hN
  by_cases hc : S.code = 0
  · have hb0 : (S.code != 0) = false := by simpa using hc
    rw [hb0] at hib
    have hpass := pass_any _ g v S hN.fd
    cases hp : (passS S).1 with
    | false =>
      rw [hp] at hpass
      have hr : Hid (nextS S = shutR ⟨(Fr.zero, []), false, 0, 0, (passS S).2⟩) := by show _ = _; unfold nextS; rw [if_neg (by simpa using hc), if_pos hp]
      clear hN hc hb0 h hp
      go_enter_defers Tryd.func12, Tryd.ntmps12
      go_wp2_with (first | (go_at_call 26; refine (hib.out _ HN.out.fd).mono ?_; rintro e w' ⟨rfl, rfl⟩) | (go_at_call 28; refine hpass.mono ?_; rintro e w1 ⟨rfl, v1, hF1, hK1, hown⟩; have hN1 : Nd w w1 g v1 (passS S).2 Fr.zero none 0 0 [] false 0 0 := HN.out.step hF1 hK1; have r0 := cell_of_row _ _ 0 _ _ _ hN1.b0; obtain ⟨d0, d1, d2, d3, d4, d5, d6, d7, d8, d9, d10⟩ := hN1.b1.cells; obtain ⟨y0, y1, y2, y3, y4, y5, y6, y7, y8, y9, y10⟩ := hN1.b1.frozens; have q0 := cell_of_row _ _ 0 _ _ _ hN1.b2; have q1 := cell_of_row _ _ 0 _ _ _ hN1.b3; have q2 := cell_of_row _ _ 1 _ _ _ hN1.b3; have q3 : w1.frozen? ⟨w.heap.size + 1 + 1, 0, none⟩ = false := frozen_row hN1.b2 0; have q4 : w1.frozen? ⟨w.heap.size + 1 + 1 + 1, 0, none⟩ = false := frozen_row hN1.b3 0; have q5 : w1.frozen? ⟨w.heap.size + 1 + 1 + 1, 1, none⟩ = false := frozen_row hN1.b3 1; simp only [Fr.zero, List.getElem?_toArray, List.getElem?_cons_succ, List.getElem?_cons_zero] at r0 d0 d1 d2 d3 d4 d5 d6 d7 d8 d9 d10 q0 q1 q2; replace hN1 : Hid _ := hN1; clear hF1 hK1))
      have hfin := resF w w1 g v1 (passS S).2 hN1.out Fr.zero none 0 0 [] false 0 0 (PRow.nil _)
      simp only [sets, fsets, Fr.zero, List.foldl_cons, List.foldl_nil] at hfin
      exact door w _ g v v1 (passS S).2 Fr.zero none 0 0 [] false 0 0 (hfin _ rfl rfl rfl rfl) hown (fun k hk => by simp [Value.ownBlock] at hk) _ hr.out _ rfl rfl rfl
    | true =>
      rw [hp] at hpass
      obtain ⟨R, hR⟩ : ∃ R, R = rdL (passS S).2.wait (passS S).2.most := ⟨_, rfl⟩
      have hr : Hid (nextS S = shutR ⟨R.1, okR R, R.2.2.1, R.2.2.2, rfS (passS S).2⟩) := by show _ = _; unfold nextS; rw [if_neg (by simpa using hc), if_neg (by simp [hp]), hR]
      obtain ⟨⟨f, ps⟩, n, c, x⟩ := R
      obtain ⟨T, hT⟩ : ∃ T, T = okR ((f, ps), n, c, x) := ⟨_, rfl⟩
      rw [← hT] at hr
      have hread : Hid (∀ (w1 : World) (v1 : Value), Nd w w1 g v1 (passS S).2 Fr.zero none 0 0 [] false 0 0 → Calls Tryd.prog 29 #[.pointer (some ⟨g, 0, none⟩)] w1 fun e w' => ∃ pb pl pc v', e = .returned (.tuple #[.agg #[.int .i64 f.ty, .int .i64 f.fl, .int .i64 f.st, .string f.data, .int .i64 f.pad, .int .i64 f.dep, .bool f.excl, .int .i64 f.wt, .int .i64 f.code, .int .i64 f.last, .slice pb pl pc], .bool T, .agg #[.int .i64 c, .int .i64 x]]) ∧ PRow w' (.slice pb pl pc) ps ∧ (∀ k, (Value.slice pb pl pc).ownBlock = some k → w.heap.size ≤ k) ∧ Nd w w' g v' (rfS (passS S).2) Fr.zero none 0 0 [] false 0 0 ∧ (∀ k, v'.ownBlock = some k → v1.ownBlock = some k)) := by
        intro w1 v1 hN1
        have hsz := hN1.kp.size
        refine (rframe_any w1 g v1 (passS S).2 hN1.fd (by omega) (hK.of_eq (hN1.kp.block 0 (by omega) (Ne.symm hg0)))).mono ?_
        rintro e w' hn
        rw [← hR, ← hT] at hn
        obtain ⟨pb, pl, pc, v', rfl, k1, k2, k3, k4, k5⟩ := hn
        exact ⟨pb, pl, pc, v', rfl, k1, fun k hk => by have := k2 k hk; omega, hN1.step k3 k4, k5⟩
      clear hN hc hb0 h hp hR hT
      go_enter_defers Tryd.func12, Tryd.ntmps12
      go_wp2_with (first | (go_at_call 26; refine (hib.out _ HN.out.fd).mono ?_; rintro e w' ⟨rfl, rfl⟩) | (go_at_call 28; refine hpass.mono ?_; rintro e w1 ⟨rfl, v1, hF1, hK1, hown⟩; have hN0 : Nd w w1 g v1 (passS S).2 Fr.zero none 0 0 [] false 0 0 := HN.out.step hF1 hK1; have r0 := cell_of_row _ _ 0 _ _ _ hN0.b0; simp only [List.getElem?_toArray, List.getElem?_cons_zero] at r0; replace hN0 : Hid _ := hN0; replace hown : Hid _ := hown; clear hF1 hK1) | (go_at_call 29; refine (hread.out _ _ hN0.out).mono ?_; rintro e w1 ⟨pb, pl, pc, v2, rfl, hP, hPn, hN1, hown2⟩; clear r0; have r0 := cell_of_row _ _ 0 _ _ _ hN1.b0; obtain ⟨d0, d1, d2, d3, d4, d5, d6, d7, d8, d9, d10⟩ := hN1.b1.cells; obtain ⟨y0, y1, y2, y3, y4, y5, y6, y7, y8, y9, y10⟩ := hN1.b1.frozens; have q0 := cell_of_row _ _ 0 _ _ _ hN1.b2; have q1 := cell_of_row _ _ 0 _ _ _ hN1.b3; have q2 := cell_of_row _ _ 1 _ _ _ hN1.b3; have q3 : w1.frozen? ⟨w.heap.size + 1 + 1, 0, none⟩ = false := frozen_row hN1.b2 0; have q4 : w1.frozen? ⟨w.heap.size + 1 + 1 + 1, 0, none⟩ = false := frozen_row hN1.b3 0; have q5 : w1.frozen? ⟨w.heap.size + 1 + 1 + 1, 1, none⟩ = false := frozen_row hN1.b3 1; simp only [Fr.zero, List.getElem?_toArray, List.getElem?_cons_succ, List.getElem?_cons_zero] at r0 d0 d1 d2 d3 d4 d5 d6 d7 d8 d9 d10 q0 q1 q2; replace hN1 : Hid _ := hN1; replace hP : Hid _ := hP; replace hPn : Hid _ := hPn; replace hown2 : Hid _ := hown2))
      have hfin := resF w w1 g v2 (rfS (passS S).2) hN1.out f pb pl pc ps T c x hP.out
      simp only [sets, fsets, List.foldl_cons, List.foldl_nil] at hfin
      exact door w _ g v v2 (rfS (passS S).2) f pb pl pc ps T c x (hfin _ rfl rfl rfl rfl) (fun k hk => hown.out k (hown2.out k hk)) hPn.out _ hr.out _ rfl rfl rfl
  · have hb0 : (S.code != 0) = true := by simpa using hc
    rw [hb0] at hib
    have hr : Hid (nextS S = shutR ⟨(Fr.zero, []), false, 0, 0, S⟩) := by show _ = _; unfold nextS; rw [if_pos hc]
    clear hN hc hb0 h
    go_enter_defers Tryd.func12, Tryd.ntmps12
    go_wp2_with (first | (go_at_call 26; refine (hib.out _ HN.out.fd).mono ?_; rintro e w' ⟨rfl, rfl⟩))
    exact door w _ g v v S Fr.zero none 0 0 [] false 0 0 HN.out (fun k hk => hk) (fun k hk => by simp [Value.ownBlock] at hk) _ hr.out _ rfl rfl rfl
end Go.Proofs.YtmhbaaemihljjaaDoor
