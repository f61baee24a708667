/- BlockBetween, walked. -/
import Derived.Test.YtdgdjanchpfleaaC6
import Derived.Deep.CutRange
namespace Go.Proofs.Ytdgdjanchpfleaa
open Go.RowKit
set_option linter.unusedVariables false
set_option linter.unusedSimpArgs false

/-- what comes between -/
def btw (h g : Fr) : Fr := { g with st := if g.ty = 9 ∧ g.st = h.st then h.st + 2 else g.st }
def nfl (h : Fr) : Fr := { h with fl := bits .andNot .i64 h.fl 4 }
def c9 (g : Fr) : Fr := ⟨9, g.fl, g.st, g.data, 0, 0, false, 0, 0, 0⟩
theorem btw_bad (h g : Fr) : ((btw h g).ty == 9 && (btw h g).st == (headOf (nfl h)).st) = false := by
  show (g.ty == 9 && (if g.ty = 9 ∧ g.st = h.st then h.st + 2 else g.st) == h.st) = false
  by_cases h9 : g.ty = 9
  · by_cases hs : g.st = h.st
    · rw [if_pos ⟨h9, hs⟩]
      simp
      omega
    · rw [if_neg (fun e => hs e.2)]
      simp [hs]
  · simp [h9]

theorem between_push1 {h : Fr} (H : Hd h) {ps : List (Int × Int)} (hlen : ps.length * 16 ≤ 140737488355328) (W : World) (b : Nat) (y : SV) (hj : Jn W b (.slice none 0 0) .idle) (hI : In EP W (sv y) ps) :
    Calls Try.prog 12 #[.pointer (some ⟨b, 0, none⟩), .agg (fv (nfl h) (sv y))] W fun e w' => PPost W (.slice none 0 0) b (.busy (headOf (nfl h)) ps []) false Fr.zero [] ⟨#[]⟩ e w' := by
  have hd : (nfl h).data = ⟨#[]⟩ := H.data
  have := push_igo W b (nfl h) y ps hj hI hlen (by
    show ¬ h.ty = 9
    rcases H.ty with e | e <;> omega) (by
    show dH h.ty = true
    exact dH_of H.ty) (by rw [hd]; decide) true (fl_of H.f0 H.f1).a0
  refine this.mono fun e w' hp => ?_
  rw [hd] at hp
  exact hp

set_option maxHeartbeats 80000000 in
set_option maxRecDepth 100000 in
theorem blockBetween_any (f g : Fr) (x x2 x3 : SV) (ps ps2 : List (Int × Int)) (l : List ((Fr × SV) × List (Int × Int))) (w : World) (hI : In EP w (sv x) ps) (hlen : ps.length * 16 ≤ 140737488355328) (hI2 : In EP w (sv x2) ps2) (hlen2 : ps2.length * 16 ≤ 140737488355328)
    (hI3 : In EF w (sv x3) (l.map (·.1))) (he : ∀ e ∈ l, In EP w (sv e.1.2) e.2 ∧ e.2.length * 16 ≤ 140737488355328) :
    Calls Try.prog 4 #[.agg (fv f (sv x)), .agg (fv g (sv x2)), sv x3] w fun e w' => e = .returned (.bool true) ∧ Below w.heap.size w w' := by
  have H := made_hd f
  have hC1 : Hid (∀ W, Below w.heap.size w W → Calls Try.prog 8 #[.agg (fv f (sv x))] W fun e w' => ∃ yb yl yc, e = .returned (.agg (fv (madeF f) (.slice yb yl yc))) ∧ Hid (R EP w' (.slice yb yl yc) ps ∧ Below W.heap.size W w')) := fun W hb => by
    refine (made_any f x ps W (hI.below hb) hlen).mono ?_
    rintro e w' ⟨⟨yb, yl, yc⟩, rfl, q1, q2, q3⟩
    exact ⟨yb, yl, yc, rfl, q1, q3⟩
  have hst : (madeF f).st = 1 + f.st % 1048576 := rfl
  obtain ⟨h, hh⟩ : ∃ h, madeF f = h := ⟨_, rfl⟩
  rw [hh] at H hC1 hst
  clear hh
  have hst2 : 1 ≤ h.st ∧ h.st ≤ 1048576 := by omega
  obtain ⟨hs1, hs2⟩ := hst2
  clear hst
  have hOwn : Hid (∀ (q : Fr) (y : SV) (qs : List (Int × Int)) W, In EP W (sv y) qs → qs.length * 16 ≤ 140737488355328 → Calls Try.prog 11 #[.agg (fv q (sv y))] W fun e w' => ∃ yb yl yc, e = .returned (.agg (fv q (.slice yb yl yc))) ∧ Hid (R EP w' (.slice yb yl yc) qs ∧ Below W.heap.size W w')) := fun q y qs W hy hl => by
    refine (own_any q y qs W hy hl).mono ?_
    rintro e w' ⟨⟨yb, yl, yc⟩, rfl, q1, q2, q3⟩
    exact ⟨yb, yl, yc, rfl, q1, q3⟩
  have HH : Hid (Hd h) := H
  have hP1 : Hid (∀ W b (y : SV), Jn W b (.slice none 0 0) .idle → In EP W (sv y) ps → _) := between_push1 H hlen
  have hI2' : Hid (In EP w (sv x2) ps2) := hI2
  have hI3' : Hid (In EF w (sv x3) (l.map (·.1))) := hI3
  have he' : Hid (∀ e ∈ l, In EP w (sv e.1.2) e.2 ∧ e.2.length * 16 ≤ 140737488355328) := he
  obtain ⟨l3b, l3c, e3, l31, l32⟩ := hI3.slice
  rw [List.length_map] at e3 l31
  rw [e3]
  have hI3'' : Hid (In EF w (.slice l3b l.length l3c) (l.map (·.1))) := by show In EF w _ _; rw [← e3]; exact hI3
  clear hI3 hI3' e3
  obtain ⟨xb, xl, xc⟩ := x
  obtain ⟨tb, tl, tc⟩ := x2
  have B0 : Hid (Below w.heap.size w ((w.alloc (.cells (fv f (.slice xb xl xc)) 24)).alloc (.cells (fv g (.slice tb tl tc)) 24))) := bel2 w _ _
  have F0 : Hid (FB ((w.alloc (.cells (fv f (.slice xb xl xc)) 24)).alloc (.cells (fv g (.slice tb tl tc)) 24)) (w.heap.size + 1) g (.slice tb tl tc)) := (FB.al2 w _ _ _ _).2
  simp only [sv] at hC1 ⊢
  unfold fv at hC1 B0 F0 ⊢
  clear H hI hI2 he x3
  go_enter Try.func4, Try.ntmps4
  go_wp2_with fail
  go_at_call 8
  refine (hC1.out _ B0.out).mono ?_
  rintro e w1 ⟨yb, yl, yc, rfl, h1⟩
  have B1 : Hid (Below w.heap.size w w1) := B0.out.trans (h1.out.2.mono B0.out.size)
  have F1 : Hid (FB w1 (w.heap.size + 1) g (.slice tb tl tc)) := FB.below F0.out h1.out.2
  have Y1 : Hid (R EP w1 (.slice yb yl yc) ps) := h1.out.1
  clear h1 F0 B0 hC1
  go_wp2_with fail
  go_at_call 9
  refine (new_any _).mono ?_
  rintro e w2 ⟨rfl, J2, hb2⟩
  go_wp2_with fail
  go_at_call 9
  refine (new_any w2).mono ?_
  rintro e w3 ⟨rfl, J3, hb3⟩
  have bA := bel1 w1 (.cells (fv (nfl h) (.slice yb yl yc)) 24)
  have T3 : Hid (Tw w w3 (w1.heap.size + 1) w2.heap.size (.slice none 0 0) (.slice none 0 0) .idle .idle) := by
    have := Tw.two (B1.out.trans (bA.mono B1.out.size)) J2 hb2 J3 hb3
    rw [size_al] at this
    exact this
  have b13 : Below w1.heap.size w1 w3 := (bA.trans (hb2.mono (by simp))).trans (hb3.mono (by have := hb2.size; rw [size_al] at this; omega))
  have G3 : Hid (FB w3 w1.heap.size (nfl h) (.slice yb yl yc)) := (hb3.block _ (by have := hb2.size; rw [size_al] at this; omega)).trans ((hb2.block _ (by simp)).trans (by rw [heap_al, if_pos rfl]; rfl))
  have F3 : Hid (FB w3 (w.heap.size + 1) g (.slice tb tl tc)) := FB.below F1.out b13
  have Y3 : Hid (R EP w3 (.slice yb yl yc) ps) := R.below Y1.out b13
  have lb : w1.heap.size + 1 < w2.heap.size := by have := J2.lt; rw [size_al] at this; exact this
  clear bA b13 J2 J3 hb2 hb3 F1 Y1 B1
  go_wp2_with fail
  go_at_call 10
  refine (first_any w3).mono ?_
  rintro e w4 ⟨rfl, hb⟩
  have T4 : Hid _ := T3.out.below hb
  have G4 := FB.below G3.out hb
  have F4 : Hid (FB w4 (w.heap.size + 1) g (.slice tb tl tc)) := FB.below F3.out hb
  have Y4 : Hid (R EP w4 (.slice yb yl yc) ps) := R.below Y3.out hb
  obtain ⟨c0, c1, c2, c3, c4, c5, c6, c7, c8, c9, c10⟩ := G4.cells
  replace G4 : Hid (FB w4 w1.heap.size (nfl h) (.slice yb yl yc)) := G4
  simp only [nfl] at c0 c1 c2 c3 c4 c5 c6 c7 c8 c9 c10
  clear hb T3 G3 F3 Y3
  go_wp2_with fail
  go_at_call 11
  refine (hOwn.out (nfl h) (yb, yl, yc) ps w4 (R.isIn Y4.out) hlen).mono ?_
  rintro e w5 ⟨zb, zl, zc, rfl, h5⟩
  have T5 : Hid _ := T4.out.below h5.out.2
  have G5 : Hid (FB w5 w1.heap.size (nfl h) (.slice yb yl yc)) := FB.below G4.out h5.out.2
  have F5 : Hid (FB w5 (w.heap.size + 1) g (.slice tb tl tc)) := FB.below F4.out h5.out.2
  clear c0 c1 c2 c3 c4 c5 c6 c7 c8 c9 c10 T4 G4 F4 Y4
  go_wp2_with fail
  go_at_call 12
  refine (hP1.out w5 (w1.heap.size + 1) (zb, zl, zc) T5.out.j1 (R.isIn h5.out.1)).mono ?_
  rintro e w6 ⟨⟨ob, ol, oc⟩, rfl, hp⟩
  obtain ⟨s6, T6⟩ := T5.out.push1 hp
  replace T6 : Hid _ := T6
  have G6 : Hid (FB w6 w1.heap.size (nfl h) (.slice yb yl yc)) := hp.keep T5.out.j1 G5.out (by decide) (by decide)
  have F6 : Hid (FB w6 (w.heap.size + 1) g (.slice tb tl tc)) := hp.keep T5.out.j1 F5.out (by decide) (by decide)
  clear hp h5 T5 G5 F5 hP1
  have b6 : Hid (Below w6.heap.size w6 ((w6.alloc (.cells #[.int .i64 0, .int .i64 0, .int .i64 0, .string ⟨#[]⟩, .int .i64 0, .int .i64 0, .bool false, .int .i64 0, .int .i64 0, .int .i64 0, .slice ob ol oc] 24)).alloc (.cells #[.int .i64 0, .int .i64 0] 32))) := bel2 w6 _ _
  have z6 : Hid (((w6.alloc (.cells #[.int .i64 0, .int .i64 0, .int .i64 0, .string ⟨#[]⟩, .int .i64 0, .int .i64 0, .bool false, .int .i64 0, .int .i64 0, .int .i64 0, .slice ob ol oc] 24)).alloc (.cells #[.int .i64 0, .int .i64 0] 32)).heap[w6.heap.size + 1]? = some (.cells #[.int .i64 0, .int .i64 0] 32 (0, 0))) := fresh2 w6 _ _
  obtain ⟨c0, c1, c2, c3, c4, c5, c6, c7, c8, c9, c10⟩ := FB.cells F6.out
  have lf : w.heap.size + 1 < w6.heap.size := FB.lt F6.out
  have lf1 : w.heap.size + 1 < w6.heap.size + 1 := by omega
  simp only [Js.code, fv, Fr.zero, sv]
  go_wp2_with fail
  go_at_call 11
  refine (hOwn.out g (tb, tl, tc) ps2 _ (hI2'.out.below (T6.out.bel.trans (b6.out.mono T6.out.bel.size))) hlen2).mono ?_
  rintro e w7 ⟨pb, pl, pc, rfl, h7⟩
  simp only [fv]
  have b7 := b6.out.trans (h7.out.2.mono b6.out.size)
  have T7 : Hid _ := T6.out.below b7
  have G7 : Hid (FB w7 w1.heap.size (nfl h) (.slice yb yl yc)) := FB.below G6.out b7
  have F7 : Hid (FB w7 (w.heap.size + 1) g (.slice tb tl tc)) := FB.below F6.out b7
  have z7 : Hid (w7.heap[w6.heap.size + 1]? = some (.cells #[.int .i64 0, .int .i64 0] 32 (0, 0))) := (h7.out.2.block _ (by simp)).trans z6.out
  have Y7 : Hid (R EP w7 (.slice pb pl pc) ps2) := h7.out.1
  clear b7 h7 T6 G6 F6 z6 b6 c0 c1 c2 c3 c4 c5 c6 c7 c8 c9 c10 lf lf1
  have c2 : w7.cell? ⟨w1.heap.size, 2, none⟩ = some (.int .i64 h.st) := FB.cell G7.out 2
  have lg : w1.heap.size < w7.heap.size := FB.lt G7.out
  have hbad := btw_bad h g
  obtain ⟨S, hS0⟩ : ∃ S, (btw h g).st = S := ⟨_, rfl⟩
  have hbt : btw h g = { g with st := S } := by rw [← hS0]; rfl
  rw [hbt] at hbad
  have hS1 : S = if g.ty = 9 ∧ g.st = h.st then h.st + 2 else g.st := hS0.symm
  clear hS0 hbt
  by_cases h9 : g.ty = 9
  · have e9 : (g.ty == 9) = true := by simp [h9]
    by_cases hs : g.st = h.st
    · obtain rfl : S = h.st + 2 := by rw [hS1, if_pos ⟨h9, hs⟩]
      have es : (g.st == h.st) = true := by simp [hs]
      clear hS1 h9 hs
      as_aux_lemma =>
      have b8 : Hid (Below w7.heap.size w7 (w7.alloc (.cells (fv { g with st := (h.st + 2) } (.slice pb pl pc)) 24))) := bel1 w7 _
      have hP2 : Hid (∀ W b s (y : SV), Jn W b s (.busy (headOf (nfl h)) ps []) → In EP W (sv y) ps2 → Calls Try.prog 12 #[.pointer (some ⟨b, 0, none⟩), .agg (fv { g with st := (h.st + 2) } (sv y))] W fun e w' => PPost W s b (.broken 1) false Fr.zero [] ⟨#[]⟩ e w') := fun W b s y hj hy => push_bbad W b s _ ps [] _ y ps2 hj hy hlen2 hbad
      have hP3 : Hid (∀ W b, Jn W b (.slice none 0 0) .idle → Calls Try.prog 12 #[.pointer (some ⟨b, 0, none⟩), .agg (fv (c9 g) (sv (none, 0, 0)))] W fun e w' => PPost W (.slice none 0 0) b (.broken 1) false Fr.zero [] ⟨#[]⟩ e w') := fun W b hj => push_idle9 W b (c9 g) (none, 0, 0) [] hj (.inl ⟨rfl, rfl⟩) (by decide) rfl
      simp only [sv, fv, c9] at hP2 hP3 b8
      clear hbad
      go_wp2_with fail
      go_at_call 12
      refine (hP2.out _ (w1.heap.size + 1) s6 (pb, pl, pc) (T7.out.below b8.out).j1 (R.isIn (R.below Y7.out b8.out))).mono ?_
      rintro e w9 ⟨⟨ob2, ol2, oc2⟩, rfl, hp⟩
      have T8 := T7.out.below b8.out
      obtain ⟨s9, T9⟩ := T8.push1 hp
      have F9 : Hid (FB w9 (w.heap.size + 1) g (.slice tb tl tc)) := hp.keep T8.j1 (FB.below F7.out b8.out) (by decide) (by decide)
      have z9 : Hid (w9.heap[w6.heap.size + 1]? = some (.cells #[.int .i64 0, .int .i64 0] 32 (0, 0))) := hp.keep T8.j1 ((b8.out.block _ (heap_lt z7.out)).trans z7.out) (by decide) (by decide)
      have Y9 : Hid (R EP w9 (.slice ob2 ol2 oc2) []) := hp.rp
      obtain rfl : s9 = .slice none 0 0 := T9.j1.2.1
      replace T9 : Hid _ := T9
      clear hp T8 T7 F7 z7 Y7 b8 hP2 c2 lg
      have b9 : Hid (Below w9.heap.size w9 ((w9.alloc (.cells #[.int .i64 0, .int .i64 0, .int .i64 0, .string ⟨#[]⟩, .int .i64 0, .int .i64 0, .bool false, .int .i64 0, .int .i64 0, .int .i64 0, .slice ob2 ol2 oc2] 24)).alloc (.cells #[.int .i64 1, .int .i64 0] 32))) := bel2 w9 _ _
      have k9 : Hid (FB ((w9.alloc (.cells #[.int .i64 0, .int .i64 0, .int .i64 0, .string ⟨#[]⟩, .int .i64 0, .int .i64 0, .bool false, .int .i64 0, .int .i64 0, .int .i64 0, .slice ob2 ol2 oc2] 24)).alloc (.cells #[.int .i64 1, .int .i64 0] 32)) w9.heap.size Fr.zero (.slice ob2 ol2 oc2)) := by
        show FB _ _ _ _
        unfold FB
        rw [heap_al, if_neg (by simp), heap_al, if_pos rfl]
        rfl
      have y9 : Hid (((w9.alloc (.cells #[.int .i64 0, .int .i64 0, .int .i64 0, .string ⟨#[]⟩, .int .i64 0, .int .i64 0, .bool false, .int .i64 0, .int .i64 0, .int .i64 0, .slice ob2 ol2 oc2] 24)).alloc (.cells #[.int .i64 1, .int .i64 0] 32)).heap[w9.heap.size + 1]? = some (.cells #[.int .i64 1, .int .i64 0] 32 (0, 0))) := fresh2 w9 _ _
      obtain ⟨c0, c1, c2, c3, c4, c5, c6, c7, c8, c9, c10⟩ := FB.cells F9.out
      have lf : w.heap.size + 1 < w9.heap.size := FB.lt F9.out
      have lf1 : w.heap.size + 1 < w9.heap.size + 1 := by omega
      clear c0 c4 c5 c6 c7 c8 c9 c10
      simp only [Js.code, fv, Fr.zero, sv]
      go_wp2_with fail
      go_at_call 12
      refine (hP3.out _ w2.heap.size (T9.out.below b9.out).j2).mono ?_
      rintro e w10 ⟨⟨ob3, ol3, oc3⟩, rfl, hp⟩
      have T9' := (T9.out.below b9.out).swap
      obtain ⟨s10, T10⟩ := T9'.push1 hp
      replace T10 := T10.swap
      obtain rfl : s10 = .slice none 0 0 := T10.j2.2.1
      have z10 : Hid (w10.heap[w6.heap.size + 1]? = some (.cells #[.int .i64 0, .int .i64 0] 32 (0, 0))) := hp.keep T9'.j1 ((b9.out.block _ (heap_lt z9.out)).trans z9.out) (by decide) (by decide)
      have k10 : Hid (FB w10 w9.heap.size Fr.zero (.slice ob2 ol2 oc2)) := hp.keep T9'.j1 k9.out (by decide) (by decide)
      have y10 : Hid (w10.heap[w9.heap.size + 1]? = some (.cells #[.int .i64 1, .int .i64 0] 32 (0, 0))) := hp.keep T9'.j1 y9.out (by decide) (by decide)
      have Y10 : Hid (R EP w10 (.slice ob2 ol2 oc2) []) := by
        have := R.below Y9.out b9.out
        refine R.stays this fun k hk _ => ?_
        obtain ⟨c, hc⟩ := R.ty this k hk
        rw [hp.keep T9'.j1 hc (by decide) (by decide), hc]
      replace T10 : Hid _ := T10
      clear hp T9' T9 F9 z9 Y9 b9 k9 y9 hP3 c1 c2 c3 lf lf1
      have b10 : Hid (Below w10.heap.size w10 (((w10.alloc (.cells #[.int .i64 0, .int .i64 0, .int .i64 0, .string ⟨#[]⟩, .int .i64 0, .int .i64 0, .bool false, .int .i64 0, .int .i64 0, .int .i64 0, .slice ob3 ol3 oc3] 24)).alloc (.cells #[.int .i64 1, .int .i64 0] 32)).alloc (.cells #[.int .i64 1, .int .i64 0] 32))) := bel3 w10 _ _ _
      have y10' : Hid ((((w10.alloc (.cells #[.int .i64 0, .int .i64 0, .int .i64 0, .string ⟨#[]⟩, .int .i64 0, .int .i64 0, .bool false, .int .i64 0, .int .i64 0, .int .i64 0, .slice ob3 ol3 oc3] 24)).alloc (.cells #[.int .i64 1, .int .i64 0] 32)).alloc (.cells #[.int .i64 1, .int .i64 0] 32)).heap[w10.heap.size + 2]? = some (.cells #[.int .i64 1, .int .i64 0] 32 (0, 0))) := fresh3 w10 _ _ _
      have hS : Hid (∀ W, Below w10.heap.size w10 W → Calls Try.prog 13 #[.agg (fv Fr.zero (sv (ob2, ol2, oc2))), .agg (fv Fr.zero (sv (none, 0, 0)))] W fun e w' => e = .returned (.bool true) ∧ Below W.heap.size W w') := fun W hb => same_eq Fr.zero W (ob2, ol2, oc2) (none, 0, 0) [] (R.isIn (R.below Y10.out hb)) (.inl ⟨rfl, rfl⟩)
      have a0 : w10.cell? ⟨w6.heap.size + 1, 0, none⟩ = some (.int .i64 0) := cell_blk z10.out 0
      have a1 : w10.cell? ⟨w6.heap.size + 1, 1, none⟩ = some (.int .i64 0) := cell_blk z10.out 1
      have e0 : w10.cell? ⟨w9.heap.size + 1, 0, none⟩ = some (.int .i64 1) := cell_blk y10.out 0
      have e1 : w10.cell? ⟨w9.heap.size + 1, 1, none⟩ = some (.int .i64 0) := cell_blk y10.out 1
      obtain ⟨c0, c1, c2, c3, c4, c5, c6, c7, c8, c9, c10⟩ := FB.cells k10.out
      have l1 : w6.heap.size + 1 < w10.heap.size := heap_lt z10.out
      have l2 : w9.heap.size + 1 < w10.heap.size := heap_lt y10.out
      have l3 : w9.heap.size < w10.heap.size := by omega
      have l4 : w6.heap.size < w10.heap.size := by omega
      have l5 : w6.heap.size < w10.heap.size + 1 := by omega
      have l6 : w6.heap.size + 1 < w10.heap.size + 1 := by omega
      have l7 : w6.heap.size + 1 < w10.heap.size + 1 + 1 := by omega
      have l8 : w9.heap.size < w10.heap.size + 1 := by omega
      have l9 : w9.heap.size < w10.heap.size + 1 + 1 := by omega
      have la : w9.heap.size + 1 < w10.heap.size + 1 := by omega
      have lc : w9.heap.size + 1 < w10.heap.size + 1 + 1 := by omega
      have hT : w10.heap.size + 2 = w10.heap.size + 1 + 1 := rfl
      simp only [Fr.zero] at c0 c1 c2 c3 c4 c5 c6 c7 c8 c9 c10
      simp only [sv, fv, Fr.zero] at hS
      simp only [Js.code, fv, Fr.zero, sv]
      clear hT
      go_wp2_with fail
      go_at_call 13
      refine (hS.out _ b10.out).mono ?_
      rintro e w11 ⟨rfl, hb⟩
      have T11 : Hid _ := T10.out.below (b10.out.trans (hb.mono b10.out.size))
      have y11 : Hid (w11.heap[w10.heap.size + 2]? = some (.cells #[.int .i64 1, .int .i64 0] 32 (0, 0))) := (hb.block _ (heap_lt y10'.out)).trans y10'.out
      clear hb T10 z10 k10 y10 Y10 b10 y10' hS a0 a1 e0 e1 c0 c1 c2 c3 c4 c5 c6 c7 c8 c9 c10 l1 l2 l3 l4 l5 l6 l7 l8 l9 la lc
      go_wp2_with fail
      go_at_call 14
      refine (busy_any _ _ _ _ T11.out.j1).mono ?_
      rintro e w12 ⟨rfl, hb⟩
      have T12 : Hid _ := T11.out.below hb
      have y12 : Hid (w12.heap[w10.heap.size + 2]? = some (.cells #[.int .i64 1, .int .i64 0] 32 (0, 0))) := (hb.block _ (heap_lt y11.out)).trans y11.out
      clear hb T11 y11
      simp only [busyB]
      go_wp2_with fail
      go_at_call 14
      refine (busy_any _ _ _ _ T12.out.j2).mono ?_
      rintro e w13 ⟨rfl, hb⟩
      have T13 : Hid _ := T12.out.below hb
      have y13 : Hid (w13.heap[w10.heap.size + 2]? = some (.cells #[.int .i64 1, .int .i64 0] 32 (0, 0))) := (hb.block _ (heap_lt y12.out)).trans y12.out
      clear hb T12 y12
      simp only [busyB]
      go_upto_region 16 with fail
      go_cut [24] from 33 (fun iv wx => iv = .int .i64 0 ∧ wx = w13)
      case first =>
        go_wp2_with fail
        go_meet
        case rel => exact ⟨rfl, rfl⟩
      obtain ⟨rfl, rfl⟩ := hcut
      go_wp2_with fail
      go_loopw [24] (fun iv wr => ∃ n : Nat, iv = .int .i64 (n : Int) ∧ n ≤ l.length ∧ Hid (Tw w wr (w1.heap.size + 1) w2.heap.size (.slice none 0 0) (.slice none 0 0) (.broken 1) (.broken 1)) ∧ Hid (wr.heap[w10.heap.size + 2]? = some (.cells #[.int .i64 1, .int .i64 0] 32 (0, 0)))) (fun iv _ => l.length - (intOf iv).toNat)
      case atStart => exact ⟨0, rfl, Nat.zero_le _, T13.out, y13.out⟩
      case round =>
        obtain ⟨n, rfl, hn, hT, hy⟩ := hrel
        clear T13 y13
        have l32' : l.length ≤ 9223372036854775807 := by omega
        by_cases hlt : n < l.length
        · have hmem := he'.out l[n] (List.getElem_mem hlt)
          have hI := hI3''.out.below hT.out.bel
          obtain ⟨B, off, cap, e1, lB, hcell⟩ := hI.get okF n (by rw [List.length_map]; exact hlt)
          injection e1 with e1 e2 e3
          subst e1
          clear e2 e3
          rw [List.getElem_map] at hcell
          obtain ⟨⟨X, ⟨ub, ul, uc⟩⟩, hX⟩ : ∃ X, l[n].1 = X := ⟨_, rfl⟩
          rw [hX] at hcell hmem
          obtain ⟨qs, hqs⟩ : ∃ qs, l[n].2 = qs := ⟨_, rfl⟩
          rw [hqs] at hmem
          have d0 : wr.cell? ⟨B, off + n * 11, none⟩ = some (.int .i64 X.ty) := hcell 0 _ rfl
          have d1 : wr.cell? ⟨B, off + n * 11 + 1, none⟩ = some (.int .i64 X.fl) := hcell 1 _ rfl
          have d2 : wr.cell? ⟨B, off + n * 11 + 2, none⟩ = some (.int .i64 X.st) := hcell 2 _ rfl
          have d3 : wr.cell? ⟨B, off + n * 11 + 3, none⟩ = some (.string X.data) := hcell 3 _ rfl
          have d4 : wr.cell? ⟨B, off + n * 11 + 4, none⟩ = some (.int .i64 X.pad) := hcell 4 _ rfl
          have d5 : wr.cell? ⟨B, off + n * 11 + 5, none⟩ = some (.int .i64 X.dep) := hcell 5 _ rfl
          have d6 : wr.cell? ⟨B, off + n * 11 + 6, none⟩ = some (.bool X.excl) := hcell 6 _ rfl
          have d7 : wr.cell? ⟨B, off + n * 11 + 7, none⟩ = some (.int .i64 X.wt) := hcell 7 _ rfl
          have d8 : wr.cell? ⟨B, off + n * 11 + 8, none⟩ = some (.int .i64 X.code) := hcell 8 _ rfl
          have d9 : wr.cell? ⟨B, off + n * 11 + 9, none⟩ = some (.int .i64 X.last) := hcell 9 _ rfl
          have d10 : wr.cell? ⟨B, off + n * 11 + 10, none⟩ = some (.slice ub ul uc) := hcell 10 _ rfl
          have HM : Hid (In EP w (sv (ub, ul, uc)) qs ∧ qs.length * 16 ≤ 140737488355328) := hmem
          have HI3 : Hid (∀ W, Below w.heap.size w W → W.cell? ⟨B, off + n * 11, none⟩ = some (.int .i64 X.ty) ∧ W.cell? ⟨B, off + n * 11 + 1, none⟩ = some (.int .i64 X.fl) ∧ W.cell? ⟨B, off + n * 11 + 2, none⟩ = some (.int .i64 X.st) ∧ W.cell? ⟨B, off + n * 11 + 3, none⟩ = some (.string X.data) ∧ W.cell? ⟨B, off + n * 11 + 4, none⟩ = some (.int .i64 X.pad) ∧ W.cell? ⟨B, off + n * 11 + 5, none⟩ = some (.int .i64 X.dep) ∧ W.cell? ⟨B, off + n * 11 + 6, none⟩ = some (.bool X.excl) ∧ W.cell? ⟨B, off + n * 11 + 7, none⟩ = some (.int .i64 X.wt) ∧ W.cell? ⟨B, off + n * 11 + 8, none⟩ = some (.int .i64 X.code) ∧ W.cell? ⟨B, off + n * 11 + 9, none⟩ = some (.int .i64 X.last) ∧ W.cell? ⟨B, off + n * 11 + 10, none⟩ = some (.slice ub ul uc) ∧ B < W.heap.size) := fun W hb => by
            have hI := hI3''.out.below hb
            obtain ⟨B', off', cap', e1, lB', hc⟩ := hI.get okF n (by rw [List.length_map]; exact hlt)
            injection e1 with e1 e2 e3
            injection e1 with e1
            injection e1 with e1 e4
            subst e1
            subst e4
            rw [List.getElem_map, hX] at hc
            exact ⟨hc 0 _ rfl, hc 1 _ rfl, hc 2 _ rfl, hc 3 _ rfl, hc 4 _ rfl, hc 5 _ rfl, hc 6 _ rfl, hc 7 _ rfl, hc 8 _ rfl, hc 9 _ rfl, hc 10 _ rfl, lB'⟩
          clear hcell hI hX hqs hmem
          go_wp2_with fail
          go_at_call 11
          refine (hOwn.out X (ub, ul, uc) qs wr (HM.out.1.below hT.out.bel) HM.out.2).mono ?_
          rintro e v1 ⟨pb1, pl1, pc1, rfl, g1⟩
          have U1 : Hid _ := hT.out.below g1.out.2
          have y1 : Hid (v1.heap[w10.heap.size + 2]? = some (.cells #[.int .i64 1, .int .i64 0] 32 (0, 0))) := (g1.out.2.block _ (heap_lt hy.out)).trans hy.out
          clear d0 d1 d2 d3 d4 d5 d6 d7 d8 d9 d10 lB hT hy
          go_wp2_with fail
          go_at_call 12
          refine (push_broken v1 (w1.heap.size + 1) (.slice none 0 0) 1 X (pb1, pl1, pc1) qs U1.out.j1 (R.isIn g1.out.1) HM.out.2).mono ?_
          rintro e v2 ⟨⟨ab, al, ac⟩, rfl, hp⟩
          obtain ⟨t2, U2⟩ := U1.out.push1 hp
          obtain rfl : t2 = .slice none 0 0 := U2.j1.2.1
          have y2 : Hid (v2.heap[w10.heap.size + 2]? = some (.cells #[.int .i64 1, .int .i64 0] 32 (0, 0))) := hp.keep U1.out.j1 y1.out (by decide) (by decide)
          replace U2 : Hid _ := U2
          clear hp U1 y1 g1
          have b2 : Hid (Below v2.heap.size v2 ((v2.alloc (.cells #[.int .i64 0, .int .i64 0, .int .i64 0, .string ⟨#[]⟩, .int .i64 0, .int .i64 0, .bool false, .int .i64 0, .int .i64 0, .int .i64 0, .slice ab al ac] 24)).alloc (.cells #[.int .i64 1, .int .i64 0] 32))) := bel2 v2 _ _
          have x2 : Hid (((v2.alloc (.cells #[.int .i64 0, .int .i64 0, .int .i64 0, .string ⟨#[]⟩, .int .i64 0, .int .i64 0, .bool false, .int .i64 0, .int .i64 0, .int .i64 0, .slice ab al ac] 24)).alloc (.cells #[.int .i64 1, .int .i64 0] 32)).heap[v2.heap.size + 1]? = some (.cells #[.int .i64 1, .int .i64 0] 32 (0, 0))) := fresh2 v2 _ _
          obtain ⟨d0, d1, d2, d3, d4, d5, d6, d7, d8, d9, d10, lB⟩ := HI3.out v2 U2.out.bel
          simp only [Js.code, fv, Fr.zero, sv]
          go_wp2_with fail
          go_at_call 11
          refine (hOwn.out X (ub, ul, uc) qs _ (HM.out.1.below (U2.out.bel.trans (b2.out.mono U2.out.bel.size))) HM.out.2).mono ?_
          rintro e v3 ⟨pb2, pl2, pc2, rfl, g3⟩
          have b23 := b2.out.trans (g3.out.2.mono b2.out.size)
          have U3 : Hid _ := U2.out.below b23
          have y3 : Hid (v3.heap[w10.heap.size + 2]? = some (.cells #[.int .i64 1, .int .i64 0] 32 (0, 0))) := (b23.block _ (heap_lt y2.out)).trans y2.out
          have x3 : Hid (v3.heap[v2.heap.size + 1]? = some (.cells #[.int .i64 1, .int .i64 0] 32 (0, 0))) := (g3.out.2.block _ (heap_lt x2.out)).trans x2.out
          clear d0 d1 d2 d3 d4 d5 d6 d7 d8 d9 d10 lB U2 y2 x2 b23 b2
          go_wp2_with fail
          go_at_call 12
          refine (push_broken v3 w2.heap.size (.slice none 0 0) 1 X (pb2, pl2, pc2) qs U3.out.j2 (R.isIn g3.out.1) HM.out.2).mono ?_
          rintro e v4 ⟨⟨ab2, al2, ac2⟩, rfl, hp⟩
          obtain ⟨t4, U4⟩ := U3.out.swap.push1 hp
          replace U4 := U4.swap
          obtain rfl : t4 = .slice none 0 0 := U4.j2.2.1
          have y4 : Hid (v4.heap[w10.heap.size + 2]? = some (.cells #[.int .i64 1, .int .i64 0] 32 (0, 0))) := hp.keep U3.out.swap.j1 y3.out (by decide) (by decide)
          have x4 : Hid (v4.heap[v2.heap.size + 1]? = some (.cells #[.int .i64 1, .int .i64 0] 32 (0, 0))) := hp.keep U3.out.swap.j1 x3.out (by decide) (by decide)
          replace U4 : Hid _ := U4
          clear hp U3 y3 x3 g3
          have b4 : Hid (Below v4.heap.size v4 ((v4.alloc (.cells #[.int .i64 0, .int .i64 0, .int .i64 0, .string ⟨#[]⟩, .int .i64 0, .int .i64 0, .bool false, .int .i64 0, .int .i64 0, .int .i64 0, .slice ab2 al2 ac2] 24)).alloc (.cells #[.int .i64 1, .int .i64 0] 32))) := bel2 v4 _ _
          have a0 : v4.cell? ⟨w10.heap.size + 2, 0, none⟩ = some (.int .i64 1) := cell_blk y4.out 0
          have a1 : v4.cell? ⟨w10.heap.size + 2, 1, none⟩ = some (.int .i64 0) := cell_blk y4.out 1
          have e0 : v4.cell? ⟨v2.heap.size + 1, 0, none⟩ = some (.int .i64 1) := cell_blk x4.out 0
          have e1 : v4.cell? ⟨v2.heap.size + 1, 1, none⟩ = some (.int .i64 0) := cell_blk x4.out 1
          have l1 : w10.heap.size + 2 < v4.heap.size := heap_lt y4.out
          have l2 : v2.heap.size + 1 < v4.heap.size := heap_lt x4.out
          have l3 : v2.heap.size < v4.heap.size := by omega
          have l4 : v2.heap.size + 1 < v4.heap.size + 1 := by omega
          have l5 : w10.heap.size + 2 < v4.heap.size + 1 := by omega
          have l6 : w10.heap.size + 1 < v4.heap.size := by omega
          simp only [Js.code, fv, Fr.zero, sv]
          go_wp2_with fail
          go_at_call 14
          refine (busy_any _ _ _ _ (U4.out.below b4.out).j1).mono ?_
          rintro e v5 ⟨rfl, hb⟩
          have b45 := b4.out.trans (hb.mono b4.out.size)
          have U5 : Hid _ := U4.out.below b45
          have y5 : Hid (v5.heap[w10.heap.size + 2]? = some (.cells #[.int .i64 1, .int .i64 0] 32 (0, 0))) := (b45.block _ (heap_lt y4.out)).trans y4.out
          clear hb b45 b4 a0 a1 e0 e1 l1 l2 l3 l4 l5 l6 U4 y4 x4
          simp only [busyB]
          go_wp2_with fail
          go_at_call 14
          refine (busy_any _ _ _ _ U5.out.j2).mono ?_
          rintro e v6 ⟨rfl, hb⟩
          have U6 : Hid _ := U5.out.below hb
          have y6 : Hid (v6.heap[w10.heap.size + 2]? = some (.cells #[.int .i64 1, .int .i64 0] 32 (0, 0))) := (hb.block _ (heap_lt y5.out)).trans y5.out
          clear hb U5 y5
          simp only [busyB]
          go_wp2_with fail
          go_roundw
          case rel => exact ⟨n + 1, by simp, by omega, U6.out, y6.out⟩
          case measure => simp [intOf]; omega
        · obtain rfl : n = l.length := by omega
          have hge : ¬ ((l.length : Int) < (l.length : Int)) := by omega
          go_wp2_with fail
          go_ret
          exact ⟨rfl, hT.out.bel⟩
    · obtain rfl : S = g.st := by rw [hS1, if_neg (fun e => hs e.2)]
      have es : (g.st == h.st) = false := by simp [hs]
      clear hS1 h9 hs
      as_aux_lemma =>
      have b8 : Hid (Below w7.heap.size w7 (w7.alloc (.cells (fv { g with st := g.st } (.slice pb pl pc)) 24))) := bel1 w7 _
      have hP2 : Hid (∀ W b s (y : SV), Jn W b s (.busy (headOf (nfl h)) ps []) → In EP W (sv y) ps2 → Calls Try.prog 12 #[.pointer (some ⟨b, 0, none⟩), .agg (fv { g with st := g.st } (sv y))] W fun e w' => PPost W s b (.broken 1) false Fr.zero [] ⟨#[]⟩ e w') := fun W b s y hj hy => push_bbad W b s _ ps [] _ y ps2 hj hy hlen2 hbad
      have hP3 : Hid (∀ W b, Jn W b (.slice none 0 0) .idle → Calls Try.prog 12 #[.pointer (some ⟨b, 0, none⟩), .agg (fv (c9 g) (sv (none, 0, 0)))] W fun e w' => PPost W (.slice none 0 0) b (.broken 1) false Fr.zero [] ⟨#[]⟩ e w') := fun W b hj => push_idle9 W b (c9 g) (none, 0, 0) [] hj (.inl ⟨rfl, rfl⟩) (by decide) rfl
      simp only [sv, fv, c9] at hP2 hP3 b8
      clear hbad
      go_wp2_with fail
      go_at_call 12
      refine (hP2.out _ (w1.heap.size + 1) s6 (pb, pl, pc) (T7.out.below b8.out).j1 (R.isIn (R.below Y7.out b8.out))).mono ?_
      rintro e w9 ⟨⟨ob2, ol2, oc2⟩, rfl, hp⟩
      have T8 := T7.out.below b8.out
      obtain ⟨s9, T9⟩ := T8.push1 hp
      have F9 : Hid (FB w9 (w.heap.size + 1) g (.slice tb tl tc)) := hp.keep T8.j1 (FB.below F7.out b8.out) (by decide) (by decide)
      have z9 : Hid (w9.heap[w6.heap.size + 1]? = some (.cells #[.int .i64 0, .int .i64 0] 32 (0, 0))) := hp.keep T8.j1 ((b8.out.block _ (heap_lt z7.out)).trans z7.out) (by decide) (by decide)
      have Y9 : Hid (R EP w9 (.slice ob2 ol2 oc2) []) := hp.rp
      obtain rfl : s9 = .slice none 0 0 := T9.j1.2.1
      replace T9 : Hid _ := T9
      clear hp T8 T7 F7 z7 Y7 b8 hP2 c2 lg
      have b9 : Hid (Below w9.heap.size w9 ((w9.alloc (.cells #[.int .i64 0, .int .i64 0, .int .i64 0, .string ⟨#[]⟩, .int .i64 0, .int .i64 0, .bool false, .int .i64 0, .int .i64 0, .int .i64 0, .slice ob2 ol2 oc2] 24)).alloc (.cells #[.int .i64 1, .int .i64 0] 32))) := bel2 w9 _ _
      have k9 : Hid (FB ((w9.alloc (.cells #[.int .i64 0, .int .i64 0, .int .i64 0, .string ⟨#[]⟩, .int .i64 0, .int .i64 0, .bool false, .int .i64 0, .int .i64 0, .int .i64 0, .slice ob2 ol2 oc2] 24)).alloc (.cells #[.int .i64 1, .int .i64 0] 32)) w9.heap.size Fr.zero (.slice ob2 ol2 oc2)) := by
        show FB _ _ _ _
        unfold FB
        rw [heap_al, if_neg (by simp), heap_al, if_pos rfl]
        rfl
      have y9 : Hid (((w9.alloc (.cells #[.int .i64 0, .int .i64 0, .int .i64 0, .string ⟨#[]⟩, .int .i64 0, .int .i64 0, .bool false, .int .i64 0, .int .i64 0, .int .i64 0, .slice ob2 ol2 oc2] 24)).alloc (.cells #[.int .i64 1, .int .i64 0] 32)).heap[w9.heap.size + 1]? = some (.cells #[.int .i64 1, .int .i64 0] 32 (0, 0))) := fresh2 w9 _ _
      obtain ⟨c0, c1, c2, c3, c4, c5, c6, c7, c8, c9, c10⟩ := FB.cells F9.out
      have lf : w.heap.size + 1 < w9.heap.size := FB.lt F9.out
      have lf1 : w.heap.size + 1 < w9.heap.size + 1 := by omega
      clear c0 c4 c5 c6 c7 c8 c9 c10
      simp only [Js.code, fv, Fr.zero, sv]
      go_wp2_with fail
      go_at_call 12
      refine (hP3.out _ w2.heap.size (T9.out.below b9.out).j2).mono ?_
      rintro e w10 ⟨⟨ob3, ol3, oc3⟩, rfl, hp⟩
      have T9' := (T9.out.below b9.out).swap
      obtain ⟨s10, T10⟩ := T9'.push1 hp
      replace T10 := T10.swap
      obtain rfl : s10 = .slice none 0 0 := T10.j2.2.1
      have z10 : Hid (w10.heap[w6.heap.size + 1]? = some (.cells #[.int .i64 0, .int .i64 0] 32 (0, 0))) := hp.keep T9'.j1 ((b9.out.block _ (heap_lt z9.out)).trans z9.out) (by decide) (by decide)
      have k10 : Hid (FB w10 w9.heap.size Fr.zero (.slice ob2 ol2 oc2)) := hp.keep T9'.j1 k9.out (by decide) (by decide)
      have y10 : Hid (w10.heap[w9.heap.size + 1]? = some (.cells #[.int .i64 1, .int .i64 0] 32 (0, 0))) := hp.keep T9'.j1 y9.out (by decide) (by decide)
      have Y10 : Hid (R EP w10 (.slice ob2 ol2 oc2) []) := by
        have := R.below Y9.out b9.out
        refine R.stays this fun k hk _ => ?_
        obtain ⟨c, hc⟩ := R.ty this k hk
        rw [hp.keep T9'.j1 hc (by decide) (by decide), hc]
      replace T10 : Hid _ := T10
      clear hp T9' T9 F9 z9 Y9 b9 k9 y9 hP3 c1 c2 c3 lf lf1
      have b10 : Hid (Below w10.heap.size w10 (((w10.alloc (.cells #[.int .i64 0, .int .i64 0, .int .i64 0, .string ⟨#[]⟩, .int .i64 0, .int .i64 0, .bool false, .int .i64 0, .int .i64 0, .int .i64 0, .slice ob3 ol3 oc3] 24)).alloc (.cells #[.int .i64 1, .int .i64 0] 32)).alloc (.cells #[.int .i64 1, .int .i64 0] 32))) := bel3 w10 _ _ _
      have y10' : Hid ((((w10.alloc (.cells #[.int .i64 0, .int .i64 0, .int .i64 0, .string ⟨#[]⟩, .int .i64 0, .int .i64 0, .bool false, .int .i64 0, .int .i64 0, .int .i64 0, .slice ob3 ol3 oc3] 24)).alloc (.cells #[.int .i64 1, .int .i64 0] 32)).alloc (.cells #[.int .i64 1, .int .i64 0] 32)).heap[w10.heap.size + 2]? = some (.cells #[.int .i64 1, .int .i64 0] 32 (0, 0))) := fresh3 w10 _ _ _
      have hS : Hid (∀ W, Below w10.heap.size w10 W → Calls Try.prog 13 #[.agg (fv Fr.zero (sv (ob2, ol2, oc2))), .agg (fv Fr.zero (sv (none, 0, 0)))] W fun e w' => e = .returned (.bool true) ∧ Below W.heap.size W w') := fun W hb => same_eq Fr.zero W (ob2, ol2, oc2) (none, 0, 0) [] (R.isIn (R.below Y10.out hb)) (.inl ⟨rfl, rfl⟩)
      have a0 : w10.cell? ⟨w6.heap.size + 1, 0, none⟩ = some (.int .i64 0) := cell_blk z10.out 0
      have a1 : w10.cell? ⟨w6.heap.size + 1, 1, none⟩ = some (.int .i64 0) := cell_blk z10.out 1
      have e0 : w10.cell? ⟨w9.heap.size + 1, 0, none⟩ = some (.int .i64 1) := cell_blk y10.out 0
      have e1 : w10.cell? ⟨w9.heap.size + 1, 1, none⟩ = some (.int .i64 0) := cell_blk y10.out 1
      obtain ⟨c0, c1, c2, c3, c4, c5, c6, c7, c8, c9, c10⟩ := FB.cells k10.out
      have l1 : w6.heap.size + 1 < w10.heap.size := heap_lt z10.out
      have l2 : w9.heap.size + 1 < w10.heap.size := heap_lt y10.out
      have l3 : w9.heap.size < w10.heap.size := by omega
      have l4 : w6.heap.size < w10.heap.size := by omega
      have l5 : w6.heap.size < w10.heap.size + 1 := by omega
      have l6 : w6.heap.size + 1 < w10.heap.size + 1 := by omega
      have l7 : w6.heap.size + 1 < w10.heap.size + 1 + 1 := by omega
      have l8 : w9.heap.size < w10.heap.size + 1 := by omega
      have l9 : w9.heap.size < w10.heap.size + 1 + 1 := by omega
      have la : w9.heap.size + 1 < w10.heap.size + 1 := by omega
      have lc : w9.heap.size + 1 < w10.heap.size + 1 + 1 := by omega
      have hT : w10.heap.size + 2 = w10.heap.size + 1 + 1 := rfl
      simp only [Fr.zero] at c0 c1 c2 c3 c4 c5 c6 c7 c8 c9 c10
      simp only [sv, fv, Fr.zero] at hS
      simp only [Js.code, fv, Fr.zero, sv]
      clear hT
      go_wp2_with fail
      go_at_call 13
      refine (hS.out _ b10.out).mono ?_
      rintro e w11 ⟨rfl, hb⟩
      have T11 : Hid _ := T10.out.below (b10.out.trans (hb.mono b10.out.size))
      have y11 : Hid (w11.heap[w10.heap.size + 2]? = some (.cells #[.int .i64 1, .int .i64 0] 32 (0, 0))) := (hb.block _ (heap_lt y10'.out)).trans y10'.out
      clear hb T10 z10 k10 y10 Y10 b10 y10' hS a0 a1 e0 e1 c0 c1 c2 c3 c4 c5 c6 c7 c8 c9 c10 l1 l2 l3 l4 l5 l6 l7 l8 l9 la lc
      go_wp2_with fail
      go_at_call 14
      refine (busy_any _ _ _ _ T11.out.j1).mono ?_
      rintro e w12 ⟨rfl, hb⟩
      have T12 : Hid _ := T11.out.below hb
      have y12 : Hid (w12.heap[w10.heap.size + 2]? = some (.cells #[.int .i64 1, .int .i64 0] 32 (0, 0))) := (hb.block _ (heap_lt y11.out)).trans y11.out
      clear hb T11 y11
      simp only [busyB]
      go_wp2_with fail
      go_at_call 14
      refine (busy_any _ _ _ _ T12.out.j2).mono ?_
      rintro e w13 ⟨rfl, hb⟩
      have T13 : Hid _ := T12.out.below hb
      have y13 : Hid (w13.heap[w10.heap.size + 2]? = some (.cells #[.int .i64 1, .int .i64 0] 32 (0, 0))) := (hb.block _ (heap_lt y12.out)).trans y12.out
      clear hb T12 y12
      simp only [busyB]
      go_upto_region 16 with fail
      go_cut [24] from 33 (fun iv wx => iv = .int .i64 0 ∧ wx = w13)
      case first =>
        go_wp2_with fail
        go_meet
        case rel => exact ⟨rfl, rfl⟩
      obtain ⟨rfl, rfl⟩ := hcut
      go_wp2_with fail
      go_loopw [24] (fun iv wr => ∃ n : Nat, iv = .int .i64 (n : Int) ∧ n ≤ l.length ∧ Hid (Tw w wr (w1.heap.size + 1) w2.heap.size (.slice none 0 0) (.slice none 0 0) (.broken 1) (.broken 1)) ∧ Hid (wr.heap[w10.heap.size + 2]? = some (.cells #[.int .i64 1, .int .i64 0] 32 (0, 0)))) (fun iv _ => l.length - (intOf iv).toNat)
      case atStart => exact ⟨0, rfl, Nat.zero_le _, T13.out, y13.out⟩
      case round =>
        obtain ⟨n, rfl, hn, hT, hy⟩ := hrel
        clear T13 y13
        have l32' : l.length ≤ 9223372036854775807 := by omega
        by_cases hlt : n < l.length
        · have hmem := he'.out l[n] (List.getElem_mem hlt)
          have hI := hI3''.out.below hT.out.bel
          obtain ⟨B, off, cap, e1, lB, hcell⟩ := hI.get okF n (by rw [List.length_map]; exact hlt)
          injection e1 with e1 e2 e3
          subst e1
          clear e2 e3
          rw [List.getElem_map] at hcell
          obtain ⟨⟨X, ⟨ub, ul, uc⟩⟩, hX⟩ : ∃ X, l[n].1 = X := ⟨_, rfl⟩
          rw [hX] at hcell hmem
          obtain ⟨qs, hqs⟩ : ∃ qs, l[n].2 = qs := ⟨_, rfl⟩
          rw [hqs] at hmem
          have d0 : wr.cell? ⟨B, off + n * 11, none⟩ = some (.int .i64 X.ty) := hcell 0 _ rfl
          have d1 : wr.cell? ⟨B, off + n * 11 + 1, none⟩ = some (.int .i64 X.fl) := hcell 1 _ rfl
          have d2 : wr.cell? ⟨B, off + n * 11 + 2, none⟩ = some (.int .i64 X.st) := hcell 2 _ rfl
          have d3 : wr.cell? ⟨B, off + n * 11 + 3, none⟩ = some (.string X.data) := hcell 3 _ rfl
          have d4 : wr.cell? ⟨B, off + n * 11 + 4, none⟩ = some (.int .i64 X.pad) := hcell 4 _ rfl
          have d5 : wr.cell? ⟨B, off + n * 11 + 5, none⟩ = some (.int .i64 X.dep) := hcell 5 _ rfl
          have d6 : wr.cell? ⟨B, off + n * 11 + 6, none⟩ = some (.bool X.excl) := hcell 6 _ rfl
          have d7 : wr.cell? ⟨B, off + n * 11 + 7, none⟩ = some (.int .i64 X.wt) := hcell 7 _ rfl
          have d8 : wr.cell? ⟨B, off + n * 11 + 8, none⟩ = some (.int .i64 X.code) := hcell 8 _ rfl
          have d9 : wr.cell? ⟨B, off + n * 11 + 9, none⟩ = some (.int .i64 X.last) := hcell 9 _ rfl
          have d10 : wr.cell? ⟨B, off + n * 11 + 10, none⟩ = some (.slice ub ul uc) := hcell 10 _ rfl
          have HM : Hid (In EP w (sv (ub, ul, uc)) qs ∧ qs.length * 16 ≤ 140737488355328) := hmem
          have HI3 : Hid (∀ W, Below w.heap.size w W → W.cell? ⟨B, off + n * 11, none⟩ = some (.int .i64 X.ty) ∧ W.cell? ⟨B, off + n * 11 + 1, none⟩ = some (.int .i64 X.fl) ∧ W.cell? ⟨B, off + n * 11 + 2, none⟩ = some (.int .i64 X.st) ∧ W.cell? ⟨B, off + n * 11 + 3, none⟩ = some (.string X.data) ∧ W.cell? ⟨B, off + n * 11 + 4, none⟩ = some (.int .i64 X.pad) ∧ W.cell? ⟨B, off + n * 11 + 5, none⟩ = some (.int .i64 X.dep) ∧ W.cell? ⟨B, off + n * 11 + 6, none⟩ = some (.bool X.excl) ∧ W.cell? ⟨B, off + n * 11 + 7, none⟩ = some (.int .i64 X.wt) ∧ W.cell? ⟨B, off + n * 11 + 8, none⟩ = some (.int .i64 X.code) ∧ W.cell? ⟨B, off + n * 11 + 9, none⟩ = some (.int .i64 X.last) ∧ W.cell? ⟨B, off + n * 11 + 10, none⟩ = some (.slice ub ul uc) ∧ B < W.heap.size) := fun W hb => by
            have hI := hI3''.out.below hb
            obtain ⟨B', off', cap', e1, lB', hc⟩ := hI.get okF n (by rw [List.length_map]; exact hlt)
            injection e1 with e1 e2 e3
            injection e1 with e1
            injection e1 with e1 e4
            subst e1
            subst e4
            rw [List.getElem_map, hX] at hc
            exact ⟨hc 0 _ rfl, hc 1 _ rfl, hc 2 _ rfl, hc 3 _ rfl, hc 4 _ rfl, hc 5 _ rfl, hc 6 _ rfl, hc 7 _ rfl, hc 8 _ rfl, hc 9 _ rfl, hc 10 _ rfl, lB'⟩
          clear hcell hI hX hqs hmem
          go_wp2_with fail
          go_at_call 11
          refine (hOwn.out X (ub, ul, uc) qs wr (HM.out.1.below hT.out.bel) HM.out.2).mono ?_
          rintro e v1 ⟨pb1, pl1, pc1, rfl, g1⟩
          have U1 : Hid _ := hT.out.below g1.out.2
          have y1 : Hid (v1.heap[w10.heap.size + 2]? = some (.cells #[.int .i64 1, .int .i64 0] 32 (0, 0))) := (g1.out.2.block _ (heap_lt hy.out)).trans hy.out
          clear d0 d1 d2 d3 d4 d5 d6 d7 d8 d9 d10 lB hT hy
          go_wp2_with fail
          go_at_call 12
          refine (push_broken v1 (w1.heap.size + 1) (.slice none 0 0) 1 X (pb1, pl1, pc1) qs U1.out.j1 (R.isIn g1.out.1) HM.out.2).mono ?_
          rintro e v2 ⟨⟨ab, al, ac⟩, rfl, hp⟩
          obtain ⟨t2, U2⟩ := U1.out.push1 hp
          obtain rfl : t2 = .slice none 0 0 := U2.j1.2.1
          have y2 : Hid (v2.heap[w10.heap.size + 2]? = some (.cells #[.int .i64 1, .int .i64 0] 32 (0, 0))) := hp.keep U1.out.j1 y1.out (by decide) (by decide)
          replace U2 : Hid _ := U2
          clear hp U1 y1 g1
          have b2 : Hid (Below v2.heap.size v2 ((v2.alloc (.cells #[.int .i64 0, .int .i64 0, .int .i64 0, .string ⟨#[]⟩, .int .i64 0, .int .i64 0, .bool false, .int .i64 0, .int .i64 0, .int .i64 0, .slice ab al ac] 24)).alloc (.cells #[.int .i64 1, .int .i64 0] 32))) := bel2 v2 _ _
          have x2 : Hid (((v2.alloc (.cells #[.int .i64 0, .int .i64 0, .int .i64 0, .string ⟨#[]⟩, .int .i64 0, .int .i64 0, .bool false, .int .i64 0, .int .i64 0, .int .i64 0, .slice ab al ac] 24)).alloc (.cells #[.int .i64 1, .int .i64 0] 32)).heap[v2.heap.size + 1]? = some (.cells #[.int .i64 1, .int .i64 0] 32 (0, 0))) := fresh2 v2 _ _
          obtain ⟨d0, d1, d2, d3, d4, d5, d6, d7, d8, d9, d10, lB⟩ := HI3.out v2 U2.out.bel
          simp only [Js.code, fv, Fr.zero, sv]
          go_wp2_with fail
          go_at_call 11
          refine (hOwn.out X (ub, ul, uc) qs _ (HM.out.1.below (U2.out.bel.trans (b2.out.mono U2.out.bel.size))) HM.out.2).mono ?_
          rintro e v3 ⟨pb2, pl2, pc2, rfl, g3⟩
          have b23 := b2.out.trans (g3.out.2.mono b2.out.size)
          have U3 : Hid _ := U2.out.below b23
          have y3 : Hid (v3.heap[w10.heap.size + 2]? = some (.cells #[.int .i64 1, .int .i64 0] 32 (0, 0))) := (b23.block _ (heap_lt y2.out)).trans y2.out
          have x3 : Hid (v3.heap[v2.heap.size + 1]? = some (.cells #[.int .i64 1, .int .i64 0] 32 (0, 0))) := (g3.out.2.block _ (heap_lt x2.out)).trans x2.out
          clear d0 d1 d2 d3 d4 d5 d6 d7 d8 d9 d10 lB U2 y2 x2 b23 b2
          go_wp2_with fail
          go_at_call 12
          refine (push_broken v3 w2.heap.size (.slice none 0 0) 1 X (pb2, pl2, pc2) qs U3.out.j2 (R.isIn g3.out.1) HM.out.2).mono ?_
          rintro e v4 ⟨⟨ab2, al2, ac2⟩, rfl, hp⟩
          obtain ⟨t4, U4⟩ := U3.out.swap.push1 hp
          replace U4 := U4.swap
          obtain rfl : t4 = .slice none 0 0 := U4.j2.2.1
          have y4 : Hid (v4.heap[w10.heap.size + 2]? = some (.cells #[.int .i64 1, .int .i64 0] 32 (0, 0))) := hp.keep U3.out.swap.j1 y3.out (by decide) (by decide)
          have x4 : Hid (v4.heap[v2.heap.size + 1]? = some (.cells #[.int .i64 1, .int .i64 0] 32 (0, 0))) := hp.keep U3.out.swap.j1 x3.out (by decide) (by decide)
          replace U4 : Hid _ := U4
          clear hp U3 y3 x3 g3
          have b4 : Hid (Below v4.heap.size v4 ((v4.alloc (.cells #[.int .i64 0, .int .i64 0, .int .i64 0, .string ⟨#[]⟩, .int .i64 0, .int .i64 0, .bool false, .int .i64 0, .int .i64 0, .int .i64 0, .slice ab2 al2 ac2] 24)).alloc (.cells #[.int .i64 1, .int .i64 0] 32))) := bel2 v4 _ _
          have a0 : v4.cell? ⟨w10.heap.size + 2, 0, none⟩ = some (.int .i64 1) := cell_blk y4.out 0
          have a1 : v4.cell? ⟨w10.heap.size + 2, 1, none⟩ = some (.int .i64 0) := cell_blk y4.out 1
          have e0 : v4.cell? ⟨v2.heap.size + 1, 0, none⟩ = some (.int .i64 1) := cell_blk x4.out 0
          have e1 : v4.cell? ⟨v2.heap.size + 1, 1, none⟩ = some (.int .i64 0) := cell_blk x4.out 1
          have l1 : w10.heap.size + 2 < v4.heap.size := heap_lt y4.out
          have l2 : v2.heap.size + 1 < v4.heap.size := heap_lt x4.out
          have l3 : v2.heap.size < v4.heap.size := by omega
          have l4 : v2.heap.size + 1 < v4.heap.size + 1 := by omega
          have l5 : w10.heap.size + 2 < v4.heap.size + 1 := by omega
          have l6 : w10.heap.size + 1 < v4.heap.size := by omega
          simp only [Js.code, fv, Fr.zero, sv]
          go_wp2_with fail
          go_at_call 14
          refine (busy_any _ _ _ _ (U4.out.below b4.out).j1).mono ?_
          rintro e v5 ⟨rfl, hb⟩
          have b45 := b4.out.trans (hb.mono b4.out.size)
          have U5 : Hid _ := U4.out.below b45
          have y5 : Hid (v5.heap[w10.heap.size + 2]? = some (.cells #[.int .i64 1, .int .i64 0] 32 (0, 0))) := (b45.block _ (heap_lt y4.out)).trans y4.out
          clear hb b45 b4 a0 a1 e0 e1 l1 l2 l3 l4 l5 l6 U4 y4 x4
          simp only [busyB]
          go_wp2_with fail
          go_at_call 14
          refine (busy_any _ _ _ _ U5.out.j2).mono ?_
          rintro e v6 ⟨rfl, hb⟩
          have U6 : Hid _ := U5.out.below hb
          have y6 : Hid (v6.heap[w10.heap.size + 2]? = some (.cells #[.int .i64 1, .int .i64 0] 32 (0, 0))) := (hb.block _ (heap_lt y5.out)).trans y5.out
          clear hb U5 y5
          simp only [busyB]
          go_wp2_with fail
          go_roundw
          case rel => exact ⟨n + 1, by simp, by omega, U6.out, y6.out⟩
          case measure => simp [intOf]; omega
        · obtain rfl : n = l.length := by omega
          have hge : ¬ ((l.length : Int) < (l.length : Int)) := by omega
          go_wp2_with fail
          go_ret
          exact ⟨rfl, hT.out.bel⟩
  · obtain rfl : S = g.st := by rw [hS1, if_neg (fun e => h9 e.1)]
    have e9 : (g.ty == 9) = false := by simp [h9]
    clear hS1 h9
    as_aux_lemma =>
    have b8 : Hid (Below w7.heap.size w7 (w7.alloc (.cells (fv { g with st := g.st } (.slice pb pl pc)) 24))) := bel1 w7 _
    have hP2 : Hid (∀ W b s (y : SV), Jn W b s (.busy (headOf (nfl h)) ps []) → In EP W (sv y) ps2 → Calls Try.prog 12 #[.pointer (some ⟨b, 0, none⟩), .agg (fv { g with st := g.st } (sv y))] W fun e w' => PPost W s b (.broken 1) false Fr.zero [] ⟨#[]⟩ e w') := fun W b s y hj hy => push_bbad W b s _ ps [] _ y ps2 hj hy hlen2 hbad
    have hP3 : Hid (∀ W b, Jn W b (.slice none 0 0) .idle → Calls Try.prog 12 #[.pointer (some ⟨b, 0, none⟩), .agg (fv (c9 g) (sv (none, 0, 0)))] W fun e w' => PPost W (.slice none 0 0) b (.broken 1) false Fr.zero [] ⟨#[]⟩ e w') := fun W b hj => push_idle9 W b (c9 g) (none, 0, 0) [] hj (.inl ⟨rfl, rfl⟩) (by decide) rfl
    simp only [sv, fv, c9] at hP2 hP3 b8
    clear hbad
    go_wp2_with fail
    go_at_call 12
    refine (hP2.out _ (w1.heap.size + 1) s6 (pb, pl, pc) (T7.out.below b8.out).j1 (R.isIn (R.below Y7.out b8.out))).mono ?_
    rintro e w9 ⟨⟨ob2, ol2, oc2⟩, rfl, hp⟩
    have T8 := T7.out.below b8.out
    obtain ⟨s9, T9⟩ := T8.push1 hp
    have F9 : Hid (FB w9 (w.heap.size + 1) g (.slice tb tl tc)) := hp.keep T8.j1 (FB.below F7.out b8.out) (by decide) (by decide)
    have z9 : Hid (w9.heap[w6.heap.size + 1]? = some (.cells #[.int .i64 0, .int .i64 0] 32 (0, 0))) := hp.keep T8.j1 ((b8.out.block _ (heap_lt z7.out)).trans z7.out) (by decide) (by decide)
    have Y9 : Hid (R EP w9 (.slice ob2 ol2 oc2) []) := hp.rp
    obtain rfl : s9 = .slice none 0 0 := T9.j1.2.1
    replace T9 : Hid _ := T9
    clear hp T8 T7 F7 z7 Y7 b8 hP2 c2 lg
    have b9 : Hid (Below w9.heap.size w9 ((w9.alloc (.cells #[.int .i64 0, .int .i64 0, .int .i64 0, .string ⟨#[]⟩, .int .i64 0, .int .i64 0, .bool false, .int .i64 0, .int .i64 0, .int .i64 0, .slice ob2 ol2 oc2] 24)).alloc (.cells #[.int .i64 1, .int .i64 0] 32))) := bel2 w9 _ _
    have k9 : Hid (FB ((w9.alloc (.cells #[.int .i64 0, .int .i64 0, .int .i64 0, .string ⟨#[]⟩, .int .i64 0, .int .i64 0, .bool false, .int .i64 0, .int .i64 0, .int .i64 0, .slice ob2 ol2 oc2] 24)).alloc (.cells #[.int .i64 1, .int .i64 0] 32)) w9.heap.size Fr.zero (.slice ob2 ol2 oc2)) := by
      show FB _ _ _ _
      unfold FB
      rw [heap_al, if_neg (by simp), heap_al, if_pos rfl]
      rfl
    have y9 : Hid (((w9.alloc (.cells #[.int .i64 0, .int .i64 0, .int .i64 0, .string ⟨#[]⟩, .int .i64 0, .int .i64 0, .bool false, .int .i64 0, .int .i64 0, .int .i64 0, .slice ob2 ol2 oc2] 24)).alloc (.cells #[.int .i64 1, .int .i64 0] 32)).heap[w9.heap.size + 1]? = some (.cells #[.int .i64 1, .int .i64 0] 32 (0, 0))) := fresh2 w9 _ _
    obtain ⟨c0, c1, c2, c3, c4, c5, c6, c7, c8, c9, c10⟩ := FB.cells F9.out
    have lf : w.heap.size + 1 < w9.heap.size := FB.lt F9.out
    have lf1 : w.heap.size + 1 < w9.heap.size + 1 := by omega
    clear c0 c4 c5 c6 c7 c8 c9 c10
    simp only [Js.code, fv, Fr.zero, sv]
    go_wp2_with fail
    go_at_call 12
    refine (hP3.out _ w2.heap.size (T9.out.below b9.out).j2).mono ?_
    rintro e w10 ⟨⟨ob3, ol3, oc3⟩, rfl, hp⟩
    have T9' := (T9.out.below b9.out).swap
    obtain ⟨s10, T10⟩ := T9'.push1 hp
    replace T10 := T10.swap
    obtain rfl : s10 = .slice none 0 0 := T10.j2.2.1
    have z10 : Hid (w10.heap[w6.heap.size + 1]? = some (.cells #[.int .i64 0, .int .i64 0] 32 (0, 0))) := hp.keep T9'.j1 ((b9.out.block _ (heap_lt z9.out)).trans z9.out) (by decide) (by decide)
    have k10 : Hid (FB w10 w9.heap.size Fr.zero (.slice ob2 ol2 oc2)) := hp.keep T9'.j1 k9.out (by decide) (by decide)
    have y10 : Hid (w10.heap[w9.heap.size + 1]? = some (.cells #[.int .i64 1, .int .i64 0] 32 (0, 0))) := hp.keep T9'.j1 y9.out (by decide) (by decide)
    have Y10 : Hid (R EP w10 (.slice ob2 ol2 oc2) []) := by
      have := R.below Y9.out b9.out
      refine R.stays this fun k hk _ => ?_
      obtain ⟨c, hc⟩ := R.ty this k hk
      rw [hp.keep T9'.j1 hc (by decide) (by decide), hc]
    replace T10 : Hid _ := T10
    clear hp T9' T9 F9 z9 Y9 b9 k9 y9 hP3 c1 c2 c3 lf lf1
    have b10 : Hid (Below w10.heap.size w10 (((w10.alloc (.cells #[.int .i64 0, .int .i64 0, .int .i64 0, .string ⟨#[]⟩, .int .i64 0, .int .i64 0, .bool false, .int .i64 0, .int .i64 0, .int .i64 0, .slice ob3 ol3 oc3] 24)).alloc (.cells #[.int .i64 1, .int .i64 0] 32)).alloc (.cells #[.int .i64 1, .int .i64 0] 32))) := bel3 w10 _ _ _
    have y10' : Hid ((((w10.alloc (.cells #[.int .i64 0, .int .i64 0, .int .i64 0, .string ⟨#[]⟩, .int .i64 0, .int .i64 0, .bool false, .int .i64 0, .int .i64 0, .int .i64 0, .slice ob3 ol3 oc3] 24)).alloc (.cells #[.int .i64 1, .int .i64 0] 32)).alloc (.cells #[.int .i64 1, .int .i64 0] 32)).heap[w10.heap.size + 2]? = some (.cells #[.int .i64 1, .int .i64 0] 32 (0, 0))) := fresh3 w10 _ _ _
    have hS : Hid (∀ W, Below w10.heap.size w10 W → Calls Try.prog 13 #[.agg (fv Fr.zero (sv (ob2, ol2, oc2))), .agg (fv Fr.zero (sv (none, 0, 0)))] W fun e w' => e = .returned (.bool true) ∧ Below W.heap.size W w') := fun W hb => same_eq Fr.zero W (ob2, ol2, oc2) (none, 0, 0) [] (R.isIn (R.below Y10.out hb)) (.inl ⟨rfl, rfl⟩)
    have a0 : w10.cell? ⟨w6.heap.size + 1, 0, none⟩ = some (.int .i64 0) := cell_blk z10.out 0
    have a1 : w10.cell? ⟨w6.heap.size + 1, 1, none⟩ = some (.int .i64 0) := cell_blk z10.out 1
    have e0 : w10.cell? ⟨w9.heap.size + 1, 0, none⟩ = some (.int .i64 1) := cell_blk y10.out 0
    have e1 : w10.cell? ⟨w9.heap.size + 1, 1, none⟩ = some (.int .i64 0) := cell_blk y10.out 1
    obtain ⟨c0, c1, c2, c3, c4, c5, c6, c7, c8, c9, c10⟩ := FB.cells k10.out
    have l1 : w6.heap.size + 1 < w10.heap.size := heap_lt z10.out
    have l2 : w9.heap.size + 1 < w10.heap.size := heap_lt y10.out
    have l3 : w9.heap.size < w10.heap.size := by omega
    have l4 : w6.heap.size < w10.heap.size := by omega
    have l5 : w6.heap.size < w10.heap.size + 1 := by omega
    have l6 : w6.heap.size + 1 < w10.heap.size + 1 := by omega
    have l7 : w6.heap.size + 1 < w10.heap.size + 1 + 1 := by omega
    have l8 : w9.heap.size < w10.heap.size + 1 := by omega
    have l9 : w9.heap.size < w10.heap.size + 1 + 1 := by omega
    have la : w9.heap.size + 1 < w10.heap.size + 1 := by omega
    have lc : w9.heap.size + 1 < w10.heap.size + 1 + 1 := by omega
    have hT : w10.heap.size + 2 = w10.heap.size + 1 + 1 := rfl
    simp only [Fr.zero] at c0 c1 c2 c3 c4 c5 c6 c7 c8 c9 c10
    simp only [sv, fv, Fr.zero] at hS
    simp only [Js.code, fv, Fr.zero, sv]
    clear hT
    go_wp2_with fail
    go_at_call 13
    refine (hS.out _ b10.out).mono ?_
    rintro e w11 ⟨rfl, hb⟩
    have T11 : Hid _ := T10.out.below (b10.out.trans (hb.mono b10.out.size))
    have y11 : Hid (w11.heap[w10.heap.size + 2]? = some (.cells #[.int .i64 1, .int .i64 0] 32 (0, 0))) := (hb.block _ (heap_lt y10'.out)).trans y10'.out
    clear hb T10 z10 k10 y10 Y10 b10 y10' hS a0 a1 e0 e1 c0 c1 c2 c3 c4 c5 c6 c7 c8 c9 c10 l1 l2 l3 l4 l5 l6 l7 l8 l9 la lc
    go_wp2_with fail
    go_at_call 14
    refine (busy_any _ _ _ _ T11.out.j1).mono ?_
    rintro e w12 ⟨rfl, hb⟩
    have T12 : Hid _ := T11.out.below hb
    have y12 : Hid (w12.heap[w10.heap.size + 2]? = some (.cells #[.int .i64 1, .int .i64 0] 32 (0, 0))) := (hb.block _ (heap_lt y11.out)).trans y11.out
    clear hb T11 y11
    simp only [busyB]
    go_wp2_with fail
    go_at_call 14
    refine (busy_any _ _ _ _ T12.out.j2).mono ?_
    rintro e w13 ⟨rfl, hb⟩
    have T13 : Hid _ := T12.out.below hb
    have y13 : Hid (w13.heap[w10.heap.size + 2]? = some (.cells #[.int .i64 1, .int .i64 0] 32 (0, 0))) := (hb.block _ (heap_lt y12.out)).trans y12.out
    clear hb T12 y12
    simp only [busyB]
    go_upto_region 16 with fail
    go_cut [24] from 33 (fun iv wx => iv = .int .i64 0 ∧ wx = w13)
    case first =>
      go_wp2_with fail
      go_meet
      case rel => exact ⟨rfl, rfl⟩
    obtain ⟨rfl, rfl⟩ := hcut
    go_wp2_with fail
    go_loopw [24] (fun iv wr => ∃ n : Nat, iv = .int .i64 (n : Int) ∧ n ≤ l.length ∧ Hid (Tw w wr (w1.heap.size + 1) w2.heap.size (.slice none 0 0) (.slice none 0 0) (.broken 1) (.broken 1)) ∧ Hid (wr.heap[w10.heap.size + 2]? = some (.cells #[.int .i64 1, .int .i64 0] 32 (0, 0)))) (fun iv _ => l.length - (intOf iv).toNat)
    case atStart => exact ⟨0, rfl, Nat.zero_le _, T13.out, y13.out⟩
    case round =>
      obtain ⟨n, rfl, hn, hT, hy⟩ := hrel
      clear T13 y13
      have l32' : l.length ≤ 9223372036854775807 := by omega
      by_cases hlt : n < l.length
      · have hmem := he'.out l[n] (List.getElem_mem hlt)
        have hI := hI3''.out.below hT.out.bel
        obtain ⟨B, off, cap, e1, lB, hcell⟩ := hI.get okF n (by rw [List.length_map]; exact hlt)
        injection e1 with e1 e2 e3
        subst e1
        clear e2 e3
        rw [List.getElem_map] at hcell
        obtain ⟨⟨X, ⟨ub, ul, uc⟩⟩, hX⟩ : ∃ X, l[n].1 = X := ⟨_, rfl⟩
        rw [hX] at hcell hmem
        obtain ⟨qs, hqs⟩ : ∃ qs, l[n].2 = qs := ⟨_, rfl⟩
        rw [hqs] at hmem
        have d0 : wr.cell? ⟨B, off + n * 11, none⟩ = some (.int .i64 X.ty) := hcell 0 _ rfl
        have d1 : wr.cell? ⟨B, off + n * 11 + 1, none⟩ = some (.int .i64 X.fl) := hcell 1 _ rfl
        have d2 : wr.cell? ⟨B, off + n * 11 + 2, none⟩ = some (.int .i64 X.st) := hcell 2 _ rfl
        have d3 : wr.cell? ⟨B, off + n * 11 + 3, none⟩ = some (.string X.data) := hcell 3 _ rfl
        have d4 : wr.cell? ⟨B, off + n * 11 + 4, none⟩ = some (.int .i64 X.pad) := hcell 4 _ rfl
        have d5 : wr.cell? ⟨B, off + n * 11 + 5, none⟩ = some (.int .i64 X.dep) := hcell 5 _ rfl
        have d6 : wr.cell? ⟨B, off + n * 11 + 6, none⟩ = some (.bool X.excl) := hcell 6 _ rfl
        have d7 : wr.cell? ⟨B, off + n * 11 + 7, none⟩ = some (.int .i64 X.wt) := hcell 7 _ rfl
        have d8 : wr.cell? ⟨B, off + n * 11 + 8, none⟩ = some (.int .i64 X.code) := hcell 8 _ rfl
        have d9 : wr.cell? ⟨B, off + n * 11 + 9, none⟩ = some (.int .i64 X.last) := hcell 9 _ rfl
        have d10 : wr.cell? ⟨B, off + n * 11 + 10, none⟩ = some (.slice ub ul uc) := hcell 10 _ rfl
        have HM : Hid (In EP w (sv (ub, ul, uc)) qs ∧ qs.length * 16 ≤ 140737488355328) := hmem
        have HI3 : Hid (∀ W, Below w.heap.size w W → W.cell? ⟨B, off + n * 11, none⟩ = some (.int .i64 X.ty) ∧ W.cell? ⟨B, off + n * 11 + 1, none⟩ = some (.int .i64 X.fl) ∧ W.cell? ⟨B, off + n * 11 + 2, none⟩ = some (.int .i64 X.st) ∧ W.cell? ⟨B, off + n * 11 + 3, none⟩ = some (.string X.data) ∧ W.cell? ⟨B, off + n * 11 + 4, none⟩ = some (.int .i64 X.pad) ∧ W.cell? ⟨B, off + n * 11 + 5, none⟩ = some (.int .i64 X.dep) ∧ W.cell? ⟨B, off + n * 11 + 6, none⟩ = some (.bool X.excl) ∧ W.cell? ⟨B, off + n * 11 + 7, none⟩ = some (.int .i64 X.wt) ∧ W.cell? ⟨B, off + n * 11 + 8, none⟩ = some (.int .i64 X.code) ∧ W.cell? ⟨B, off + n * 11 + 9, none⟩ = some (.int .i64 X.last) ∧ W.cell? ⟨B, off + n * 11 + 10, none⟩ = some (.slice ub ul uc) ∧ B < W.heap.size) := fun W hb => by
          have hI := hI3''.out.below hb
          obtain ⟨B', off', cap', e1, lB', hc⟩ := hI.get okF n (by rw [List.length_map]; exact hlt)
          injection e1 with e1 e2 e3
          injection e1 with e1
          injection e1 with e1 e4
          subst e1
          subst e4
          rw [List.getElem_map, hX] at hc
          exact ⟨hc 0 _ rfl, hc 1 _ rfl, hc 2 _ rfl, hc 3 _ rfl, hc 4 _ rfl, hc 5 _ rfl, hc 6 _ rfl, hc 7 _ rfl, hc 8 _ rfl, hc 9 _ rfl, hc 10 _ rfl, lB'⟩
        clear hcell hI hX hqs hmem
        go_wp2_with fail
        go_at_call 11
        refine (hOwn.out X (ub, ul, uc) qs wr (HM.out.1.below hT.out.bel) HM.out.2).mono ?_
        rintro e v1 ⟨pb1, pl1, pc1, rfl, g1⟩
        have U1 : Hid _ := hT.out.below g1.out.2
        have y1 : Hid (v1.heap[w10.heap.size + 2]? = some (.cells #[.int .i64 1, .int .i64 0] 32 (0, 0))) := (g1.out.2.block _ (heap_lt hy.out)).trans hy.out
        clear d0 d1 d2 d3 d4 d5 d6 d7 d8 d9 d10 lB hT hy
        go_wp2_with fail
        go_at_call 12
        refine (push_broken v1 (w1.heap.size + 1) (.slice none 0 0) 1 X (pb1, pl1, pc1) qs U1.out.j1 (R.isIn g1.out.1) HM.out.2).mono ?_
        rintro e v2 ⟨⟨ab, al, ac⟩, rfl, hp⟩
        obtain ⟨t2, U2⟩ := U1.out.push1 hp
        obtain rfl : t2 = .slice none 0 0 := U2.j1.2.1
        have y2 : Hid (v2.heap[w10.heap.size + 2]? = some (.cells #[.int .i64 1, .int .i64 0] 32 (0, 0))) := hp.keep U1.out.j1 y1.out (by decide) (by decide)
        replace U2 : Hid _ := U2
        clear hp U1 y1 g1
        have b2 : Hid (Below v2.heap.size v2 ((v2.alloc (.cells #[.int .i64 0, .int .i64 0, .int .i64 0, .string ⟨#[]⟩, .int .i64 0, .int .i64 0, .bool false, .int .i64 0, .int .i64 0, .int .i64 0, .slice ab al ac] 24)).alloc (.cells #[.int .i64 1, .int .i64 0] 32))) := bel2 v2 _ _
        have x2 : Hid (((v2.alloc (.cells #[.int .i64 0, .int .i64 0, .int .i64 0, .string ⟨#[]⟩, .int .i64 0, .int .i64 0, .bool false, .int .i64 0, .int .i64 0, .int .i64 0, .slice ab al ac] 24)).alloc (.cells #[.int .i64 1, .int .i64 0] 32)).heap[v2.heap.size + 1]? = some (.cells #[.int .i64 1, .int .i64 0] 32 (0, 0))) := fresh2 v2 _ _
        obtain ⟨d0, d1, d2, d3, d4, d5, d6, d7, d8, d9, d10, lB⟩ := HI3.out v2 U2.out.bel
        simp only [Js.code, fv, Fr.zero, sv]
        go_wp2_with fail
        go_at_call 11
        refine (hOwn.out X (ub, ul, uc) qs _ (HM.out.1.below (U2.out.bel.trans (b2.out.mono U2.out.bel.size))) HM.out.2).mono ?_
        rintro e v3 ⟨pb2, pl2, pc2, rfl, g3⟩
        have b23 := b2.out.trans (g3.out.2.mono b2.out.size)
        have U3 : Hid _ := U2.out.below b23
        have y3 : Hid (v3.heap[w10.heap.size + 2]? = some (.cells #[.int .i64 1, .int .i64 0] 32 (0, 0))) := (b23.block _ (heap_lt y2.out)).trans y2.out
        have x3 : Hid (v3.heap[v2.heap.size + 1]? = some (.cells #[.int .i64 1, .int .i64 0] 32 (0, 0))) := (g3.out.2.block _ (heap_lt x2.out)).trans x2.out
        clear d0 d1 d2 d3 d4 d5 d6 d7 d8 d9 d10 lB U2 y2 x2 b23 b2
        go_wp2_with fail
        go_at_call 12
        refine (push_broken v3 w2.heap.size (.slice none 0 0) 1 X (pb2, pl2, pc2) qs U3.out.j2 (R.isIn g3.out.1) HM.out.2).mono ?_
        rintro e v4 ⟨⟨ab2, al2, ac2⟩, rfl, hp⟩
        obtain ⟨t4, U4⟩ := U3.out.swap.push1 hp
        replace U4 := U4.swap
        obtain rfl : t4 = .slice none 0 0 := U4.j2.2.1
        have y4 : Hid (v4.heap[w10.heap.size + 2]? = some (.cells #[.int .i64 1, .int .i64 0] 32 (0, 0))) := hp.keep U3.out.swap.j1 y3.out (by decide) (by decide)
        have x4 : Hid (v4.heap[v2.heap.size + 1]? = some (.cells #[.int .i64 1, .int .i64 0] 32 (0, 0))) := hp.keep U3.out.swap.j1 x3.out (by decide) (by decide)
        replace U4 : Hid _ := U4
        clear hp U3 y3 x3 g3
        have b4 : Hid (Below v4.heap.size v4 ((v4.alloc (.cells #[.int .i64 0, .int .i64 0, .int .i64 0, .string ⟨#[]⟩, .int .i64 0, .int .i64 0, .bool false, .int .i64 0, .int .i64 0, .int .i64 0, .slice ab2 al2 ac2] 24)).alloc (.cells #[.int .i64 1, .int .i64 0] 32))) := bel2 v4 _ _
        have a0 : v4.cell? ⟨w10.heap.size + 2, 0, none⟩ = some (.int .i64 1) := cell_blk y4.out 0
        have a1 : v4.cell? ⟨w10.heap.size + 2, 1, none⟩ = some (.int .i64 0) := cell_blk y4.out 1
        have e0 : v4.cell? ⟨v2.heap.size + 1, 0, none⟩ = some (.int .i64 1) := cell_blk x4.out 0
        have e1 : v4.cell? ⟨v2.heap.size + 1, 1, none⟩ = some (.int .i64 0) := cell_blk x4.out 1
        have l1 : w10.heap.size + 2 < v4.heap.size := heap_lt y4.out
        have l2 : v2.heap.size + 1 < v4.heap.size := heap_lt x4.out
        have l3 : v2.heap.size < v4.heap.size := by omega
        have l4 : v2.heap.size + 1 < v4.heap.size + 1 := by omega
        have l5 : w10.heap.size + 2 < v4.heap.size + 1 := by omega
        have l6 : w10.heap.size + 1 < v4.heap.size := by omega
        simp only [Js.code, fv, Fr.zero, sv]
        go_wp2_with fail
        go_at_call 14
        refine (busy_any _ _ _ _ (U4.out.below b4.out).j1).mono ?_
        rintro e v5 ⟨rfl, hb⟩
        have b45 := b4.out.trans (hb.mono b4.out.size)
        have U5 : Hid _ := U4.out.below b45
        have y5 : Hid (v5.heap[w10.heap.size + 2]? = some (.cells #[.int .i64 1, .int .i64 0] 32 (0, 0))) := (b45.block _ (heap_lt y4.out)).trans y4.out
        clear hb b45 b4 a0 a1 e0 e1 l1 l2 l3 l4 l5 l6 U4 y4 x4
        simp only [busyB]
        go_wp2_with fail
        go_at_call 14
        refine (busy_any _ _ _ _ U5.out.j2).mono ?_
        rintro e v6 ⟨rfl, hb⟩
        have U6 : Hid _ := U5.out.below hb
        have y6 : Hid (v6.heap[w10.heap.size + 2]? = some (.cells #[.int .i64 1, .int .i64 0] 32 (0, 0))) := (hb.block _ (heap_lt y5.out)).trans y5.out
        clear hb U5 y5
        simp only [busyB]
        go_wp2_with fail
        go_roundw
        case rel => exact ⟨n + 1, by simp, by omega, U6.out, y6.out⟩
        case measure => simp [intOf]; omega
      · obtain rfl : n = l.length := by omega
        have hge : ¬ ((l.length : Int) < (l.length : Int)) := by omega
        go_wp2_with fail
        go_ret
        exact ⟨rfl, hT.out.bel⟩
end Go.Proofs.Ytdgdjanchpfleaa
