/- The document's ReadResponse. -/
import Derived.Test.YtcgfgjhhmbfmdaaDoorC4
namespace Go.Proofs.YtcgfgjhhmbfmdaaDoor
open Go.RowKit Go.Maps
set_option linter.unusedVariables false
set_option linter.unusedSimpArgs false

theorem stN_zero {s : ByteArray} : stN s = 0 ↔ stB s = false := by
  unfold stN
  constructor
  · intro h
    cases e : stB s
    · rfl
    · rw [e, if_pos rfl] at h
      unfold stB at e
      simp only [Bool.and_eq_true, decide_eq_true_eq] at e
      omega
  · intro h
    rw [h]
    rfl
set_option maxHeartbeats 20000000 in
set_option maxRecDepth 100000 in
theorem rreadResponse_any (s : SV) (l : List Fd) (w : World) (hI : In EFd w (sv s) l) (hz : SzOk l) :
    Calls Tryd.prog 29 #[sv s] w fun e w' => RsPost l w e w' := by
  obtain ⟨w1, hw1⟩ : ∃ w1, w.alloc (.cells #[.int .i64 0, .slice none 0 0, .string ⟨#[]⟩] 37) = w1 := ⟨_, rfl⟩
  have b0 : Below w.heap.size w w1 := by rw [← hw1]; exact bel1 w _
  have Q1 : RsB w1 w.heap.size 0 (.slice none 0 0) ⟨#[]⟩ := by rw [← hw1]; unfold RsB; rw [heap_al, if_pos rfl]; rfl
  have hl1 : w.heap.size < w1.heap.size := heap_lt Q1
  have hL : Hid (Calls Tryd.prog 53 #[sv s, .int .i64 1] w1 fun e w' => e = .returned (.int .i64 (lkE l 1)) ∧ Below w1.heap.size w1 w') := rlooked_any s l 1 w1 (hI.below b0) hz (by decide)
  have o0 : Hid (∀ W, Below w1.heap.size w1 W → Calls Tryd.prog 54 #[sv s, .string ⟨#[58, 115, 116, 97, 116, 117, 115]⟩] W fun e w' => e = .returned (.tuple #[.string ((oneO l resNames[0]).getD ⟨#[]⟩), .bool (oneO l resNames[0]).isSome]) ∧ Hid (Below w1.heap.size w1 w')) := fun W hb => by
    refine (rone_any s l resNames[0] W ((hI.below b0).below hb) hz.2).mono ?_
    rintro e w' ⟨rfl, h⟩
    exact ⟨rfl, hb.trans (h.mono hb.size)⟩
  have hPl : Hid (1 ≤ l.length → ∀ W, Below w1.heap.size w1 W → Calls Tryd.prog 59 #[sv s, .int .i64 1] W fun e w' => ∃ y : SV, e = .returned (sv y) ∧ Below w1.heap.size w1 w' ∧ R EFd w' (sv y) (l.drop 1) ∧ ∀ k, (sv y).ownBlock = some k → w1.heap.size ≤ k) := fun h4 W hb => by
    refine (rplain_any s l 1 W ((hI.below b0).below hb) h4 hz.2).mono ?_
    rintro e w' ⟨y, rfl, h1, h2, h3⟩
    exact ⟨y, rfl, hb.trans (h1.mono hb.size), h2, fun k hk => Nat.le_trans hb.size (h3 k hk)⟩
  have hcl : Hid (∀ W, Below w1.heap.size w1 W → (W.cell? ⟨w.heap.size, 0, none⟩ = some (.int .i64 0) ∧ W.cell? ⟨w.heap.size, 1, none⟩ = some (.slice none 0 0) ∧ W.cell? ⟨w.heap.size, 2, none⟩ = some (.string ⟨#[]⟩)) ∧ W.frozen? ⟨w.heap.size, 0, none⟩ = false ∧ W.frozen? ⟨w.heap.size, 1, none⟩ = false ∧ W.frozen? ⟨w.heap.size, 2, none⟩ = false ∧ w.heap.size < W.heap.size) := fun W hb => by
    have q : RsB W w.heap.size 0 (.slice none 0 0) ⟨#[]⟩ := (hb.block _ hl1).trans Q1
    exact ⟨⟨cell_blk q 0, cell_blk q 1, cell_blk q 2⟩, frozen_blk q 0, frozen_blk q 1, frozen_blk q 2, heap_lt q⟩
  have hfin : Hid (∀ w5, Below w1.heap.size w1 w5 → rsE l ≠ 0 → ∀ X, X = (((w5.setCell ⟨w.heap.size, 0, none⟩ (.int .i64 0)).setCell ⟨w.heap.size, 1, none⟩ (.slice none 0 0)).setCell ⟨w.heap.size, 2, none⟩ (.string ⟨#[]⟩)) → RsB X w.heap.size 0 (.slice none 0 0) ⟨#[]⟩ ∧ RsPost l w (.returned (.tuple #[.agg (rsv 0 (.slice none 0 0) ⟨#[]⟩), .int .i64 (rsE l)])) X) := fun w5 hb hh X hX => by
    subst hX
    exact ⟨rs_sets ((hb.block _ hl1).trans Q1) _ _ _, 0, (none, 0, 0), rfl, (b0.trans (hb.mono b0.size)).trans (rs_below _ _ _ (Nat.le_refl _) _ _ _), fun h => absurd h hh, fun _ => ⟨rfl, rfl⟩⟩
  have hgood : Hid (∀ (x : ByteArray) (yb : Option Addr) (yl yc : Nat) w5, Below w1.heap.size w1 w5 → oneO l resNames[0] = some x → stB x = true → rsE l = 0 → R EFd w5 (.slice yb yl yc) (l.drop 1) → (∀ k, (Value.slice yb yl yc).ownBlock = some k → w1.heap.size ≤ k) → ∀ X, X = (((w5.setCell ⟨w.heap.size, 0, none⟩ (.int .i64 (stN x))).setCell ⟨w.heap.size, 1, none⟩ (.slice yb yl yc)).setCell ⟨w.heap.size, 2, none⟩ (.string ⟨#[]⟩)) → RsB X w.heap.size (stN x) (.slice yb yl yc) ⟨#[]⟩ ∧ RsPost l w (.returned (.tuple #[.agg (rsv (stN x) (.slice yb yl yc) ⟨#[]⟩), .int .i64 0])) X) := fun x yb yl yc w5 hb ho hh hq hr hown X hX => by
    subst hX
    refine ⟨rs_sets ((hb.block _ hl1).trans Q1) _ _ _, stN x, (yb, yl, yc), by rw [hq]; rfl, (b0.trans (hb.mono b0.size)).trans (rs_below _ _ _ (Nat.le_refl _) _ _ _), fun _ => ⟨⟨x, one_vals hq ho, hh, by unfold stN; rw [hh, if_pos rfl]⟩, hr.stays fun k hk _ => rs_other _ _ _ (by have := hown k hk; omega) _ _ _, fun k hk => by have := hown k hk; have := b0.size; omega⟩, fun h => absurd hq h⟩
  have hdq : Hid (rsE l = dsE l) := (ds_eq l).symm
  have HS : Hid (∀ x, oneO l resNames[0] = some x → x.size ≤ 140737488355328) := fun x h => by
    obtain ⟨i, hi, _, e, _⟩ := one_vs (oneO_some.1 h)
    rw [← e]
    exact (hz.1 _ (List.getElem_mem hi)).2
  have H4 : Hid (lkE l 1 = 0 → 1 ≤ l.length) := fun h => by
    unfold lkE at h
    by_cases h1 : 64 < l.length
    · rw [if_pos h1] at h; exact absurd h (by decide)
    · rw [if_neg h1] at h
      cases h2 : l.any wrongB
      · rw [h2, if_neg (by decide)] at h
        cases h3 : hbAny l 1
        · rw [h3, if_neg (by decide)] at h
          by_cases h4 : l.length < 1
          · rw [if_pos h4] at h; exact absurd h (by decide)
          · omega
        · rw [h3, if_pos rfl] at h; exact absurd h (by decide)
      · rw [h2, if_pos rfl] at h; exact absurd h (by decide)
  obtain ⟨sb, sl, sc⟩ := s
  simp only [sv] at hL o0 hPl ⊢
  obtain ⟨E, hE⟩ : ∃ E, lkE l 1 = E := ⟨_, rfl⟩
  have HE : Hid (lkE l 1 = E) := hE
  rw [hE] at hL
  clear hE hI hz b0 Q1
  go_enter Tryd.func29, Tryd.ntmps29
  go_wp2_with fail
  go_at_call 53
  refine hL.out.mono ?_
  rintro e w2 ⟨rfl, b2⟩
  replace b2 : Hid (Below w1.heap.size w1 w2) := b2
  clear hL hw1
  by_cases h0 : E = 0
  · subst h0
    have h4 : Hid (1 ≤ l.length) := H4.out HE.out
    have hq0 : Hid (rsE l = match oneO l resNames[0] with | some s => if stB s = true then 0 else 131 | none => 131) := by
      show _ = _
      rw [hdq.out]
      unfold dsE
      rw [HE.out, if_neg (by simp)]
      try rfl
    obtain ⟨O, hO⟩ : ∃ O, oneO l resNames[0] = O := ⟨_, rfl⟩
    have HON : Hid (oneO l resNames[0] = O) := hO
    rw [hO] at o0 hq0 HS
    clear hO H4 HE hdq
    go_wp2_with fail
    go_at_call 54
    refine (o0.out _ b2.out).mono ?_
    rintro e w3 ⟨rfl, b3⟩
    clear o0
    obtain ⟨⟨z0, z1, z2⟩, y0, y1, y2, hlW⟩ := hcl.out _ b3.out
    cases O with
    | none =>
      have HQ : Hid (rsE l = 131) := by show _ = _; rw [hq0.out]
      clear hq0 hgood hPl HS HON
      simp only [Option.getD_none, Option.isSome_none]
      go_wp2_with fail
      obtain ⟨q1, q2⟩ := hfin.out _ b3.out (by rw [HQ.out]; decide) _ rfl
      rw [HQ.out] at q2
      refine bodyPost_ret (results_ct (p := 2) (ty := 37) (r := 3) rfl _ _ w.heap.size 37 (rsv 0 (.slice none 0 0) ⟨#[]⟩) (0, 0) _ rfl q1 Tryd.underlying37 rfl (by kernel_rfl)) rfl q2
    | some x =>
      have hxs : x.size ≤ 140737488355328 := HS.out x rfl
      have k1 : Hid (∀ W, Below w1.heap.size w1 W → Calls Tryd.prog 60 #[.string x] W fun e w' => e = .returned (.int .i64 (stN x)) ∧ Hid (Below w1.heap.size w1 w')) := fun W hb => by
        refine (rstatus_any x W hxs).mono ?_
        rintro e w' ⟨rfl, h⟩
        exact ⟨rfl, hb.trans (h.mono hb.size)⟩
      clear hxs HS
      simp only [Option.getD_some, Option.isSome_some]
      cases hst : stB x
      · have HQ : Hid (rsE l = 131) := by show _ = _; rw [hq0.out]; simp [hst]
        have h0 : stN x = 0 := stN_zero.2 hst
        rw [h0] at k1
        clear hq0 hgood hPl HON hst h0 z0 z1 z2 y0 y1 y2 hlW
        go_wp2_with fail
        go_at_call 60
        refine (k1.out _ b3.out).mono ?_
        rintro e w4 ⟨rfl, b4⟩
        obtain ⟨⟨z0, z1, z2⟩, y0, y1, y2, hlW⟩ := hcl.out _ b4.out
        go_wp2_with fail
        obtain ⟨q1, q2⟩ := hfin.out _ b4.out (by rw [HQ.out]; decide) _ rfl
        rw [HQ.out] at q2
        refine bodyPost_ret (results_ct (p := 2) (ty := 37) (r := 3) rfl _ _ w.heap.size 37 (rsv 0 (.slice none 0 0) ⟨#[]⟩) (0, 0) _ rfl q1 Tryd.underlying37 rfl (by kernel_rfl)) rfl q2
      · have HQ : Hid (rsE l = 0 ∧ stB x = true) := ⟨by rw [hq0.out]; simp [hst], hst⟩
        have h0 : stN x ≠ 0 := fun e => by rw [stN_zero.1 e] at hst; cases hst
        have h0' : (stN x == 0) = false := beq_eq_false_iff_ne.2 h0
        clear hq0 hfin hst h0 z0 z1 z2 y0 y1 y2 hlW
        obtain ⟨X, hX⟩ : ∃ X, stN x = X := ⟨_, rfl⟩
        rw [hX] at k1 h0'
        have HX : Hid (stN x = X) := hX
        clear hX
        go_wp2_with fail
        go_at_call 60
        refine (k1.out _ b3.out).mono ?_
        rintro e w4 ⟨rfl, b4⟩
        go_wp2_with fail
        go_at_call 60
        refine (k1.out _ b4.out).mono ?_
        rintro e w5 ⟨rfl, b5⟩
        go_wp2_with fail
        go_at_call 59
        refine (hPl.out h4.out _ b5.out).mono ?_
        rintro e w7 ⟨⟨yb, yl, yc⟩, rfl, b7, r7, ow7⟩
        replace b7 : Hid (Below w1.heap.size w1 w7) := b7
        replace r7 : Hid (R EFd w7 (.slice yb yl yc) (l.drop 1)) := r7
        replace ow7 : Hid (∀ k, (Value.slice yb yl yc).ownBlock = some k → w1.heap.size ≤ k) := ow7
        obtain ⟨⟨z0, z1, z2⟩, y0, y1, y2, hlW⟩ := hcl.out _ b7.out
        simp only [sv]
        go_wp2_with fail
        obtain ⟨q1, q2⟩ := hgood.out x yb yl yc _ b7.out HON.out HQ.out.2 HQ.out.1 r7.out ow7.out _ (by rw [HX.out])
        rw [HX.out] at q1 q2
        refine bodyPost_ret (results_ct (p := 2) (ty := 37) (r := 3) rfl _ _ w.heap.size 37 (rsv X (.slice yb yl yc) ⟨#[]⟩) (0, 0) _ rfl q1 Tryd.underlying37 rfl (by kernel_rfl)) rfl q2
  · have h0' : (E != 0) = true := by simp [h0]
    have HQ : Hid (rsE l = E) := by
      show _ = _
      rw [hdq.out]
      unfold dsE
      rw [HE.out, if_pos h0]
    have H0 : Hid (E ≠ 0) := h0
    obtain ⟨⟨z0, z1, z2⟩, y0, y1, y2, hlW⟩ := hcl.out _ b2.out
    clear h0 hgood hPl o0 H4 HE hdq
    go_wp2_with fail
    obtain ⟨q1, q2⟩ := hfin.out _ b2.out (by rw [HQ.out]; exact H0.out) _ rfl
    rw [HQ.out] at q2
    refine bodyPost_ret (results_ct (p := 2) (ty := 37) (r := 3) rfl _ _ w.heap.size 37 (rsv 0 (.slice none 0 0) ⟨#[]⟩) (0, 0) _ rfl q1 Tryd.underlying37 rfl (by kernel_rfl)) rfl q2
end Go.Proofs.YtcgfgjhhmbfmdaaDoor
