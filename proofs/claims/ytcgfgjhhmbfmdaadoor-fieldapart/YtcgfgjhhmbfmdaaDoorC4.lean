/- The document's ReadRequest and ReadResponse. -/
import Derived.Test.YtcgfgjhhmbfmdaaDoorC2
import Derived.Test.YtcgfgjhhmbfmdaaDoorC3
namespace Go.Proofs.YtcgfgjhhmbfmdaaDoor
open Go.RowKit Go.Maps
set_option linter.unusedVariables false
set_option linter.unusedSimpArgs false

theorem ones_vals {l : List Fd} {m s a p : ByteArray} (h0 : rqE l = 0) (ho : ones4 l = some [m, s, a, p]) : vals l 4 reqNames = some [m, s, a, p] := by
  have h1 : ¬ 64 < l.length := fun h => by
    have b : rdE l reqNames = 3 := by unfold rdE; rw [if_pos h]
    unfold rqE at h0
    rw [b, if_pos (by decide)] at h0
    exact absurd h0 (by decide)
  have h2 : l.any wrongB = false := by
    cases e : l.any wrongB
    · rfl
    · have b : rdE l reqNames = 130 := by unfold rdE; rw [if_neg h1, if_pos e]
      unfold rqE at h0
      rw [b, if_pos (by decide)] at h0
      exact absurd h0 (by decide)
  rcases lk_cases l 4 h1 h2 with ⟨a, a1, a2⟩ | ⟨a, a1⟩
  · exact ((heads4 h2 _).2 ⟨a1, a2, ho⟩).2.2
  · rw [← dq_eq] at h0
    unfold dqE at h0
    rw [a, if_pos (by decide)] at h0
    exact absurd h0 (by decide)
theorem one_vals {l : List Fd} {s : ByteArray} (h0 : rsE l = 0) (ho : oneO l resNames[0] = some s) : vals l 1 resNames = some [s] := by
  have h1 : ¬ 64 < l.length := fun h => by
    have b : rdE l resNames = 3 := by unfold rdE; rw [if_pos h]
    unfold rsE at h0
    rw [b, if_pos (by decide)] at h0
    exact absurd h0 (by decide)
  have h2 : l.any wrongB = false := by
    cases e : l.any wrongB
    · rfl
    · have b : rdE l resNames = 130 := by unfold rdE; rw [if_neg h1, if_pos e]
      unfold rsE at h0
      rw [b, if_pos (by decide)] at h0
      exact absurd h0 (by decide)
  rcases lk_cases l 1 h1 h2 with ⟨a, a1, a2⟩ | ⟨a, a1⟩
  · exact ((heads1 h2 _).2 ⟨a1, a2, ho⟩).2.2
  · rw [← ds_eq] at h0
    unfold dsE at h0
    rw [a, if_pos (by decide)] at h0
    exact absurd h0 (by decide)

set_option maxHeartbeats 20000000 in
set_option maxRecDepth 100000 in
theorem rreadRequest_any (s : SV) (l : List Fd) (w : World) (hI : In EFd w (sv s) l) (hz : SzOk l) :
    Calls Tryd.prog 27 #[sv s] w fun e w' => RqPost l w e w' := by
  obtain ⟨w1, hw1⟩ : ∃ w1, w.alloc (.cells #[.string ⟨#[]⟩, .string ⟨#[]⟩, .string ⟨#[]⟩, .string ⟨#[]⟩, .slice none 0 0, .string ⟨#[]⟩] 26) = w1 := ⟨_, rfl⟩
  have b0 : Below w.heap.size w w1 := by rw [← hw1]; exact bel1 w _
  have Q1 : RqB w1 w.heap.size ⟨#[]⟩ ⟨#[]⟩ ⟨#[]⟩ ⟨#[]⟩ (.slice none 0 0) ⟨#[]⟩ := by rw [← hw1]; unfold RqB; rw [heap_al, if_pos rfl]; rfl
  have hl1 : w.heap.size < w1.heap.size := heap_lt Q1
  have hL : Hid (Calls Tryd.prog 53 #[sv s, .int .i64 4] w1 fun e w' => e = .returned (.int .i64 (lkE l 4)) ∧ Below w1.heap.size w1 w') := rlooked_any s l 4 w1 (hI.below b0) hz (by decide)
  have hO : Hid (∀ name W, Below w1.heap.size w1 W → Calls Tryd.prog 54 #[sv s, .string name] W fun e w' => e = .returned (.tuple #[.string ((oneO l name).getD ⟨#[]⟩), .bool (oneO l name).isSome]) ∧ Below w1.heap.size w1 w') := fun name W hb => by
    refine (rone_any s l name W ((hI.below b0).below hb) hz.2).mono ?_
    rintro e w' ⟨rfl, h⟩
    exact ⟨rfl, hb.trans (h.mono hb.size)⟩
  have hPl : Hid (4 ≤ l.length → ∀ W, Below w1.heap.size w1 W → Calls Tryd.prog 59 #[sv s, .int .i64 4] W fun e w' => ∃ y : SV, e = .returned (sv y) ∧ Below w1.heap.size w1 w' ∧ R EFd w' (sv y) (l.drop 4) ∧ ∀ k, (sv y).ownBlock = some k → w1.heap.size ≤ k) := fun h4 W hb => by
    refine (rplain_any s l 4 W ((hI.below b0).below hb) h4 hz.2).mono ?_
    rintro e w' ⟨y, rfl, h1, h2, h3⟩
    exact ⟨y, rfl, hb.trans (h1.mono hb.size), h2, fun k hk => Nat.le_trans hb.size (h3 k hk)⟩
  have hcl : Hid (∀ W, Below w1.heap.size w1 W → (W.cell? ⟨w.heap.size, 0, none⟩ = some (.string ⟨#[]⟩) ∧ W.cell? ⟨w.heap.size, 1, none⟩ = some (.string ⟨#[]⟩) ∧ W.cell? ⟨w.heap.size, 2, none⟩ = some (.string ⟨#[]⟩) ∧ W.cell? ⟨w.heap.size, 3, none⟩ = some (.string ⟨#[]⟩) ∧ W.cell? ⟨w.heap.size, 4, none⟩ = some (.slice none 0 0) ∧ W.cell? ⟨w.heap.size, 5, none⟩ = some (.string ⟨#[]⟩)) ∧ W.frozen? ⟨w.heap.size, 0, none⟩ = false ∧ W.frozen? ⟨w.heap.size, 1, none⟩ = false ∧ W.frozen? ⟨w.heap.size, 2, none⟩ = false ∧ W.frozen? ⟨w.heap.size, 3, none⟩ = false ∧ W.frozen? ⟨w.heap.size, 4, none⟩ = false ∧ W.frozen? ⟨w.heap.size, 5, none⟩ = false ∧ w.heap.size < W.heap.size) := fun W hb => by
    have q : RqB W w.heap.size ⟨#[]⟩ ⟨#[]⟩ ⟨#[]⟩ ⟨#[]⟩ (.slice none 0 0) ⟨#[]⟩ := (hb.block _ hl1).trans Q1
    exact ⟨⟨cell_blk q 0, cell_blk q 1, cell_blk q 2, cell_blk q 3, cell_blk q 4, cell_blk q 5⟩, frozen_blk q 0, frozen_blk q 1, frozen_blk q 2, frozen_blk q 3, frozen_blk q 4, frozen_blk q 5, heap_lt q⟩
  have hfin : Hid (∀ w5, Below w1.heap.size w1 w5 → rqE l ≠ 0 → ∀ X, X = ((((((w5.setCell ⟨w.heap.size, 0, none⟩ (.string ⟨#[]⟩)).setCell ⟨w.heap.size, 1, none⟩ (.string ⟨#[]⟩)).setCell ⟨w.heap.size, 2, none⟩ (.string ⟨#[]⟩)).setCell ⟨w.heap.size, 3, none⟩ (.string ⟨#[]⟩)).setCell ⟨w.heap.size, 4, none⟩ (.slice none 0 0)).setCell ⟨w.heap.size, 5, none⟩ (.string ⟨#[]⟩)) → RqB X w.heap.size ⟨#[]⟩ ⟨#[]⟩ ⟨#[]⟩ ⟨#[]⟩ (.slice none 0 0) ⟨#[]⟩ ∧ RqPost l w (.returned (.tuple #[.agg (rqv ⟨#[]⟩ ⟨#[]⟩ ⟨#[]⟩ ⟨#[]⟩ (.slice none 0 0) ⟨#[]⟩), .int .i64 (rqE l)])) X) := fun w5 hb hh X hX => by
    subst hX
    refine ⟨rq_sets ((hb.block _ hl1).trans Q1) _ _ _ _ _ _, ⟨#[]⟩, ⟨#[]⟩, ⟨#[]⟩, ⟨#[]⟩, (none, 0, 0), rfl, (b0.trans (hb.mono b0.size)).trans (rq_below _ _ _ (Nat.le_refl _) _ _ _ _ _ _), fun h => absurd h hh, fun _ => ⟨rfl, rfl, rfl, rfl, rfl⟩⟩
  have hgood : Hid (∀ (m s a p : ByteArray) (yb : Option Addr) (yl yc : Nat) w5, Below w1.heap.size w1 w5 → ones4 l = some [m, s, a, p] → headB m s a p = true → rqE l = 0 → R EFd w5 (.slice yb yl yc) (l.drop 4) → (∀ k, (Value.slice yb yl yc).ownBlock = some k → w1.heap.size ≤ k) → ∀ X, X = ((((((w5.setCell ⟨w.heap.size, 0, none⟩ (.string m)).setCell ⟨w.heap.size, 1, none⟩ (.string s)).setCell ⟨w.heap.size, 2, none⟩ (.string a)).setCell ⟨w.heap.size, 3, none⟩ (.string p)).setCell ⟨w.heap.size, 4, none⟩ (.slice yb yl yc)).setCell ⟨w.heap.size, 5, none⟩ (.string ⟨#[]⟩)) → RqB X w.heap.size m s a p (.slice yb yl yc) ⟨#[]⟩ ∧ RqPost l w (.returned (.tuple #[.agg (rqv m s a p (.slice yb yl yc) ⟨#[]⟩), .int .i64 0])) X) := fun m s a p yb yl yc w5 hb ho hh hq hr hown X hX => by
    subst hX
    refine ⟨rq_sets ((hb.block _ hl1).trans Q1) _ _ _ _ _ _, m, s, a, p, (yb, yl, yc), by rw [hq]; rfl, (b0.trans (hb.mono b0.size)).trans (rq_below _ _ _ (Nat.le_refl _) _ _ _ _ _ _), fun _ => ⟨ones_vals hq ho, hh, hr.stays fun k hk _ => rq_other _ _ _ (by have := hown k hk; omega) _ _ _ _ _ _, fun k hk => by have := hown k hk; have := b0.size; omega⟩, fun h => absurd hq h⟩
  have hdq : Hid (rqE l = dqE l) := (dq_eq l).symm
  have HS : Hid (∀ v, v ∈ [oneO l reqNames[0], oneO l reqNames[1], oneO l reqNames[2], oneO l reqNames[3]] → ∀ x, v = some x → x.size ≤ 140737488355328) := fun v hv x hx => by
    have key : ∀ name, oneO l name = some x → x.size ≤ 140737488355328 := fun name h => by
      obtain ⟨i, hi, _, e, _⟩ := one_vs (oneO_some.1 h)
      rw [← e]
      exact (hz.1 _ (List.getElem_mem hi)).2
    simp only [List.mem_cons, List.not_mem_nil, or_false] at hv
    rcases hv with rfl | rfl | rfl | rfl <;> exact key _ hx
  have H4 : Hid (lkE l 4 = 0 → 4 ≤ l.length) := fun h => by
    unfold lkE at h
    by_cases h1 : 64 < l.length
    · rw [if_pos h1] at h; exact absurd h (by decide)
    · rw [if_neg h1] at h
      cases h2 : l.any wrongB
      · rw [h2, if_neg (by decide)] at h
        cases h3 : hbAny l 4
        · rw [h3, if_neg (by decide)] at h
          by_cases h4 : l.length < 4
          · rw [if_pos h4] at h; exact absurd h (by decide)
          · omega
        · rw [h3, if_pos rfl] at h; exact absurd h (by decide)
      · rw [h2, if_pos rfl] at h; exact absurd h (by decide)
  obtain ⟨sb, sl, sc⟩ := s
  simp only [sv] at hL hO hPl ⊢
  obtain ⟨E, hE⟩ : ∃ E, lkE l 4 = E := ⟨_, rfl⟩
  have HE : Hid (lkE l 4 = E) := hE
  rw [hE] at hL
  clear hE hI hz b0 Q1
  go_enter Tryd.func27, Tryd.ntmps27
  go_wp2_with fail
  go_at_call 53
  refine hL.out.mono ?_
  rintro e w2 ⟨rfl, b2⟩
  replace b2 : Hid (Below w1.heap.size w1 w2) := b2
  clear hL hw1
  by_cases h0 : E = 0
  · subst h0
    have h4 : Hid (4 ≤ l.length) := H4.out HE.out
    have hq0 : Hid (rqE l = match ones4 l with | some [m, s, a, p] => if headB m s a p = true then 0 else 131 | _ => 131) := by
      show _ = _
      rw [hdq.out]
      unfold dqE
      rw [HE.out, if_neg (by simp)]
      try rfl
    have o0 : Hid (∀ W, Below w1.heap.size w1 W → Calls Tryd.prog 54 #[.slice sb sl sc, .string ⟨#[58, 109, 101, 116, 104, 111, 100]⟩] W fun e w' => e = .returned (.tuple #[.string ((oneO l reqNames[0]).getD ⟨#[]⟩), .bool (oneO l reqNames[0]).isSome]) ∧ Hid (Below w1.heap.size w1 w')) := fun W hb => hO.out _ W hb
    have o1 : Hid (∀ W, Below w1.heap.size w1 W → Calls Tryd.prog 54 #[.slice sb sl sc, .string ⟨#[58, 115, 99, 104, 101, 109, 101]⟩] W fun e w' => e = .returned (.tuple #[.string ((oneO l reqNames[1]).getD ⟨#[]⟩), .bool (oneO l reqNames[1]).isSome]) ∧ Hid (Below w1.heap.size w1 w')) := fun W hb => hO.out _ W hb
    have o2 : Hid (∀ W, Below w1.heap.size w1 W → Calls Tryd.prog 54 #[.slice sb sl sc, .string ⟨#[58, 97, 117, 116, 104, 111, 114, 105, 116, 121]⟩] W fun e w' => e = .returned (.tuple #[.string ((oneO l reqNames[2]).getD ⟨#[]⟩), .bool (oneO l reqNames[2]).isSome]) ∧ Hid (Below w1.heap.size w1 w')) := fun W hb => hO.out _ W hb
    have o3 : Hid (∀ W, Below w1.heap.size w1 W → Calls Tryd.prog 54 #[.slice sb sl sc, .string ⟨#[58, 112, 97, 116, 104]⟩] W fun e w' => e = .returned (.tuple #[.string ((oneO l reqNames[3]).getD ⟨#[]⟩), .bool (oneO l reqNames[3]).isSome]) ∧ Hid (Below w1.heap.size w1 w')) := fun W hb => hO.out _ W hb
    have HO : Hid (ones4 l = match oneO l reqNames[0], oneO l reqNames[1], oneO l reqNames[2], oneO l reqNames[3] with | some m, some s, some a, some p => some [m, s, a, p] | _, _, _, _ => none) := rfl
    obtain ⟨O0, hO0⟩ : ∃ O, oneO l reqNames[0] = O := ⟨_, rfl⟩
    rw [hO0] at o0 HO HS
    obtain ⟨O1, hO1⟩ : ∃ O, oneO l reqNames[1] = O := ⟨_, rfl⟩
    rw [hO1] at o1 HO HS
    obtain ⟨O2, hO2⟩ : ∃ O, oneO l reqNames[2] = O := ⟨_, rfl⟩
    rw [hO2] at o2 HO HS
    obtain ⟨O3, hO3⟩ : ∃ O, oneO l reqNames[3] = O := ⟨_, rfl⟩
    rw [hO3] at o3 HO HS
    clear hO hO0 hO1 hO2 hO3 H4 HE hdq
    go_wp2_with fail
    go_at_call 54
    refine (o0.out _ b2.out).mono ?_
    rintro e w3 ⟨rfl, b3⟩
    clear o0
    go_wp2_with fail
    go_at_call 54
    refine (o1.out _ b3.out).mono ?_
    rintro e w4 ⟨rfl, b4⟩
    clear o1
    go_wp2_with fail
    go_at_call 54
    refine (o2.out _ b4.out).mono ?_
    rintro e w5 ⟨rfl, b5⟩
    clear o2
    go_wp2_with fail
    go_at_call 54
    refine (o3.out _ b5.out).mono ?_
    rintro e w6 ⟨rfl, b6⟩
    clear o3
    cases O0 with
    | none =>
      have HQ : Hid (rqE l = 131) := by show _ = _; rw [hq0.out, HO.out]
      clear hq0 HO hgood hPl HS
      simp only [Option.getD_none, Option.isSome_none, Option.getD_some, Option.isSome_some]
      obtain ⟨⟨z0, z1, z2, z3, z4, z5⟩, y0, y1, y2, y3, y4, y5, hlW⟩ := hcl.out _ b6.out
      go_wp2_with (fail)
      obtain ⟨q1, q2⟩ := hfin.out _ b6.out (by rw [HQ.out]; decide) _ rfl
      rw [HQ.out] at q2
      refine bodyPost_ret (results_ct (p := 2) (ty := 26) (r := 3) rfl _ _ w.heap.size 26 (rqv ⟨#[]⟩ ⟨#[]⟩ ⟨#[]⟩ ⟨#[]⟩ (.slice none 0 0) ⟨#[]⟩) (0, 0) _ rfl q1 Tryd.underlying26 rfl (by kernel_rfl)) rfl q2
    | some x0 =>
      cases O1 with
      | none =>
        have HQ : Hid (rqE l = 131) := by show _ = _; rw [hq0.out, HO.out]
        clear hq0 HO hgood hPl HS
        simp only [Option.getD_none, Option.isSome_none, Option.getD_some, Option.isSome_some]
        obtain ⟨⟨z0, z1, z2, z3, z4, z5⟩, y0, y1, y2, y3, y4, y5, hlW⟩ := hcl.out _ b6.out
        go_wp2_with (fail)
        obtain ⟨q1, q2⟩ := hfin.out _ b6.out (by rw [HQ.out]; decide) _ rfl
        rw [HQ.out] at q2
        refine bodyPost_ret (results_ct (p := 2) (ty := 26) (r := 3) rfl _ _ w.heap.size 26 (rqv ⟨#[]⟩ ⟨#[]⟩ ⟨#[]⟩ ⟨#[]⟩ (.slice none 0 0) ⟨#[]⟩) (0, 0) _ rfl q1 Tryd.underlying26 rfl (by kernel_rfl)) rfl q2
      | some x1 =>
        cases O2 with
        | none =>
          have HQ : Hid (rqE l = 131) := by show _ = _; rw [hq0.out, HO.out]
          clear hq0 HO hgood hPl HS
          simp only [Option.getD_none, Option.isSome_none, Option.getD_some, Option.isSome_some]
          obtain ⟨⟨z0, z1, z2, z3, z4, z5⟩, y0, y1, y2, y3, y4, y5, hlW⟩ := hcl.out _ b6.out
          go_wp2_with (fail)
          obtain ⟨q1, q2⟩ := hfin.out _ b6.out (by rw [HQ.out]; decide) _ rfl
          rw [HQ.out] at q2
          refine bodyPost_ret (results_ct (p := 2) (ty := 26) (r := 3) rfl _ _ w.heap.size 26 (rqv ⟨#[]⟩ ⟨#[]⟩ ⟨#[]⟩ ⟨#[]⟩ (.slice none 0 0) ⟨#[]⟩) (0, 0) _ rfl q1 Tryd.underlying26 rfl (by kernel_rfl)) rfl q2
        | some x2 =>
          cases O3 with
          | none =>
            have HQ : Hid (rqE l = 131) := by show _ = _; rw [hq0.out, HO.out]
            clear hq0 HO hgood hPl HS
            simp only [Option.getD_none, Option.isSome_none, Option.getD_some, Option.isSome_some]
            obtain ⟨⟨z0, z1, z2, z3, z4, z5⟩, y0, y1, y2, y3, y4, y5, hlW⟩ := hcl.out _ b6.out
            go_wp2_with (fail)
            obtain ⟨q1, q2⟩ := hfin.out _ b6.out (by rw [HQ.out]; decide) _ rfl
            rw [HQ.out] at q2
            refine bodyPost_ret (results_ct (p := 2) (ty := 26) (r := 3) rfl _ _ w.heap.size 26 (rqv ⟨#[]⟩ ⟨#[]⟩ ⟨#[]⟩ ⟨#[]⟩ (.slice none 0 0) ⟨#[]⟩) (0, 0) _ rfl q1 Tryd.underlying26 rfl (by kernel_rfl)) rfl q2
          | some x3 =>
            have hq1 : Hid (rqE l = if headB x0 x1 x2 x3 = true then 0 else 131) := by show _ = _; rw [hq0.out, HO.out]
            have HON : Hid (ones4 l = some [x0, x1, x2, x3]) := HO.out
            have k1 : Hid (∀ W, Calls Tryd.prog 55 #[.string x0] W fun e w' => e = .returned (.bool (consB methB 64 x0)) ∧ w' = W) := fun W => rmethod_any x0 W (HS.out _ (by simp) _ rfl)
            have k2 : Hid (∀ W, Calls Tryd.prog 56 #[.string x1] W fun e w' => e = .returned (.bool (schemeB x1)) ∧ w' = W) := fun W => rscheme_any x1 W (HS.out _ (by simp) _ rfl)
            have k3 : Hid (∀ W, Calls Tryd.prog 57 #[.string x2] W fun e w' => e = .returned (.bool (consB visB 4096 x2)) ∧ w' = W) := fun W => rshown_any x2 W (HS.out _ (by simp) _ rfl)
            have k4 : Hid (∀ W, Calls Tryd.prog 58 #[.string x3, .string x0] W fun e w' => e = .returned (.bool (pathB x3 x0)) ∧ w' = W) := fun W => rpath_any x3 x0 W (HS.out _ (by simp) _ rfl)
            have HH : Hid (headB x0 x1 x2 x3 = (consB methB 64 x0 && schemeB x1 && consB visB 4096 x2 && pathB x3 x0)) := rfl
            obtain ⟨K1, hK1⟩ : ∃ K, consB methB 64 x0 = K := ⟨_, rfl⟩
            obtain ⟨K2, hK2⟩ : ∃ K, schemeB x1 = K := ⟨_, rfl⟩
            obtain ⟨K3, hK3⟩ : ∃ K, consB visB 4096 x2 = K := ⟨_, rfl⟩
            obtain ⟨K4, hK4⟩ : ∃ K, pathB x3 x0 = K := ⟨_, rfl⟩
            rw [hK1] at k1 HH
            rw [hK2] at k2 HH
            rw [hK3] at k3 HH
            rw [hK4] at k4 HH
            clear hK1 hK2 hK3 hK4 hq0 HO HS
            simp only [Option.getD_some, Option.isSome_some]
            cases K1
            · have HQ : Hid (rqE l = 131) := by show _ = _; rw [hq1.out, HH.out]; simp
              clear hq1 HH hgood hPl HON
              obtain ⟨⟨z0, z1, z2, z3, z4, z5⟩, y0, y1, y2, y3, y4, y5, hlW⟩ := hcl.out _ b6.out
              go_wp2_with (first | (go_at_call 55; refine (k1.out _).mono ?_; rintro e w' ⟨rfl, hw⟩; rw [hw]; clear hw) | (go_at_call 56; refine (k2.out _).mono ?_; rintro e w' ⟨rfl, hw⟩; rw [hw]; clear hw) | (go_at_call 57; refine (k3.out _).mono ?_; rintro e w' ⟨rfl, hw⟩; rw [hw]; clear hw) | (go_at_call 58; refine (k4.out _).mono ?_; rintro e w' ⟨rfl, hw⟩; rw [hw]; clear hw))
              obtain ⟨q1, q2⟩ := hfin.out _ b6.out (by rw [HQ.out]; decide) _ rfl
              rw [HQ.out] at q2
              refine bodyPost_ret (results_ct (p := 2) (ty := 26) (r := 3) rfl _ _ w.heap.size 26 (rqv ⟨#[]⟩ ⟨#[]⟩ ⟨#[]⟩ ⟨#[]⟩ (.slice none 0 0) ⟨#[]⟩) (0, 0) _ rfl q1 Tryd.underlying26 rfl (by kernel_rfl)) rfl q2
            · cases K2
              · have HQ : Hid (rqE l = 131) := by show _ = _; rw [hq1.out, HH.out]; simp
                clear hq1 HH hgood hPl HON
                obtain ⟨⟨z0, z1, z2, z3, z4, z5⟩, y0, y1, y2, y3, y4, y5, hlW⟩ := hcl.out _ b6.out
                go_wp2_with (first | (go_at_call 55; refine (k1.out _).mono ?_; rintro e w' ⟨rfl, hw⟩; rw [hw]; clear hw) | (go_at_call 56; refine (k2.out _).mono ?_; rintro e w' ⟨rfl, hw⟩; rw [hw]; clear hw) | (go_at_call 57; refine (k3.out _).mono ?_; rintro e w' ⟨rfl, hw⟩; rw [hw]; clear hw) | (go_at_call 58; refine (k4.out _).mono ?_; rintro e w' ⟨rfl, hw⟩; rw [hw]; clear hw))
                obtain ⟨q1, q2⟩ := hfin.out _ b6.out (by rw [HQ.out]; decide) _ rfl
                rw [HQ.out] at q2
                refine bodyPost_ret (results_ct (p := 2) (ty := 26) (r := 3) rfl _ _ w.heap.size 26 (rqv ⟨#[]⟩ ⟨#[]⟩ ⟨#[]⟩ ⟨#[]⟩ (.slice none 0 0) ⟨#[]⟩) (0, 0) _ rfl q1 Tryd.underlying26 rfl (by kernel_rfl)) rfl q2
              · cases K3
                · have HQ : Hid (rqE l = 131) := by show _ = _; rw [hq1.out, HH.out]; simp
                  clear hq1 HH hgood hPl HON
                  obtain ⟨⟨z0, z1, z2, z3, z4, z5⟩, y0, y1, y2, y3, y4, y5, hlW⟩ := hcl.out _ b6.out
                  go_wp2_with (first | (go_at_call 55; refine (k1.out _).mono ?_; rintro e w' ⟨rfl, hw⟩; rw [hw]; clear hw) | (go_at_call 56; refine (k2.out _).mono ?_; rintro e w' ⟨rfl, hw⟩; rw [hw]; clear hw) | (go_at_call 57; refine (k3.out _).mono ?_; rintro e w' ⟨rfl, hw⟩; rw [hw]; clear hw) | (go_at_call 58; refine (k4.out _).mono ?_; rintro e w' ⟨rfl, hw⟩; rw [hw]; clear hw))
                  obtain ⟨q1, q2⟩ := hfin.out _ b6.out (by rw [HQ.out]; decide) _ rfl
                  rw [HQ.out] at q2
                  refine bodyPost_ret (results_ct (p := 2) (ty := 26) (r := 3) rfl _ _ w.heap.size 26 (rqv ⟨#[]⟩ ⟨#[]⟩ ⟨#[]⟩ ⟨#[]⟩ (.slice none 0 0) ⟨#[]⟩) (0, 0) _ rfl q1 Tryd.underlying26 rfl (by kernel_rfl)) rfl q2
                · cases K4
                  · have HQ : Hid (rqE l = 131) := by show _ = _; rw [hq1.out, HH.out]; simp
                    clear hq1 HH hgood hPl HON
                    obtain ⟨⟨z0, z1, z2, z3, z4, z5⟩, y0, y1, y2, y3, y4, y5, hlW⟩ := hcl.out _ b6.out
                    go_wp2_with (first | (go_at_call 55; refine (k1.out _).mono ?_; rintro e w' ⟨rfl, hw⟩; rw [hw]; clear hw) | (go_at_call 56; refine (k2.out _).mono ?_; rintro e w' ⟨rfl, hw⟩; rw [hw]; clear hw) | (go_at_call 57; refine (k3.out _).mono ?_; rintro e w' ⟨rfl, hw⟩; rw [hw]; clear hw) | (go_at_call 58; refine (k4.out _).mono ?_; rintro e w' ⟨rfl, hw⟩; rw [hw]; clear hw))
                    obtain ⟨q1, q2⟩ := hfin.out _ b6.out (by rw [HQ.out]; decide) _ rfl
                    rw [HQ.out] at q2
                    refine bodyPost_ret (results_ct (p := 2) (ty := 26) (r := 3) rfl _ _ w.heap.size 26 (rqv ⟨#[]⟩ ⟨#[]⟩ ⟨#[]⟩ ⟨#[]⟩ (.slice none 0 0) ⟨#[]⟩) (0, 0) _ rfl q1 Tryd.underlying26 rfl (by kernel_rfl)) rfl q2
                  · have HQ : Hid (rqE l = 0 ∧ headB x0 x1 x2 x3 = true) := ⟨by rw [hq1.out, HH.out]; rfl, HH.out⟩
                    clear hq1 HH hfin
                    go_wp2_with (first | (go_at_call 55; refine (k1.out _).mono ?_; rintro e w' ⟨rfl, hw⟩; rw [hw]; clear hw) | (go_at_call 56; refine (k2.out _).mono ?_; rintro e w' ⟨rfl, hw⟩; rw [hw]; clear hw) | (go_at_call 57; refine (k3.out _).mono ?_; rintro e w' ⟨rfl, hw⟩; rw [hw]; clear hw) | (go_at_call 58; refine (k4.out _).mono ?_; rintro e w' ⟨rfl, hw⟩; rw [hw]; clear hw))
                    go_at_call 59
                    refine (hPl.out h4.out _ b6.out).mono ?_
                    rintro e w7 ⟨⟨yb, yl, yc⟩, rfl, b7, r7, ow7⟩
                    replace b7 : Hid (Below w1.heap.size w1 w7) := b7
                    replace r7 : Hid (R EFd w7 (.slice yb yl yc) (l.drop 4)) := r7
                    replace ow7 : Hid (∀ k, (Value.slice yb yl yc).ownBlock = some k → w1.heap.size ≤ k) := ow7
                    obtain ⟨⟨z0, z1, z2, z3, z4, z5⟩, y0, y1, y2, y3, y4, y5, hlW⟩ := hcl.out _ b7.out
                    simp only [sv]
                    go_wp2_with fail
                    obtain ⟨q1, q2⟩ := hgood.out x0 x1 x2 x3 yb yl yc _ b7.out HON.out HQ.out.2 HQ.out.1 r7.out ow7.out _ rfl
                    refine bodyPost_ret (results_ct (p := 2) (ty := 26) (r := 3) rfl _ _ w.heap.size 26 (rqv x0 x1 x2 x3 (.slice yb yl yc) ⟨#[]⟩) (0, 0) _ rfl q1 Tryd.underlying26 rfl (by kernel_rfl)) rfl q2
  · have h0' : (E != 0) = true := by simp [h0]
    have HQ : Hid (rqE l = E) := by
      show _ = _
      rw [hdq.out]
      unfold dqE
      rw [HE.out, if_pos h0]
    have H0 : Hid (E ≠ 0) := h0
    obtain ⟨⟨z0, z1, z2, z3, z4, z5⟩, y0, y1, y2, y3, y4, y5, hlW⟩ := hcl.out _ b2.out
    clear h0 hgood hPl hO H4 HE hdq
    go_wp2_with fail
    obtain ⟨q1, q2⟩ := hfin.out _ b2.out (by rw [HQ.out]; exact H0.out) _ rfl
    rw [HQ.out] at q2
    refine bodyPost_ret (results_ct (p := 2) (ty := 26) (r := 3) rfl _ _ w.heap.size 26 (rqv ⟨#[]⟩ ⟨#[]⟩ ⟨#[]⟩ ⟨#[]⟩ (.slice none 0 0) ⟨#[]⟩) (0, 0) _ rfl q1 Tryd.underlying26 rfl (by kernel_rfl)) rfl q2
end Go.Proofs.YtcgfgjhhmbfmdaaDoor
