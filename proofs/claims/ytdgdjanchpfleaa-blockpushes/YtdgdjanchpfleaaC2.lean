/- first, walked. -/
import Derived.Test.YtdgdjanchpfleaaC1
namespace Go.Proofs.Ytdgdjanchpfleaa
open Go.RowKit
set_option linter.unusedVariables false
set_option linter.unusedSimpArgs false

set_option maxHeartbeats 8000000 in
set_option maxRecDepth 100000 in
theorem first_any (w : World) : Calls Try.prog 10 #[] w fun e w' => e = .returned (.bool true) ∧ Below w.heap.size w w' := by
  have h1 : Hid (∀ W b, Jn W b (.slice none 0 0) .idle → _) := first_push1
  have h2 : Hid (∀ W b s, Jn W b s (.busy fC [] [97, 98]) → _) := first_push2
  have h3 : Hid (∀ W b, Jn W b (.slice none 0 0) .idle → _) := first_push3
  have h4 : Hid (∀ W, _) := first_split
  simp only [fv, fA, fB, fD, fG] at h1 h2 h3 h4
  go_enter Try.func10, Try.ntmps10
  go_wp2_with fail
  go_at_call 9
  refine (new_any w).mono ?_
  rintro e w1 ⟨rfl, J1, B1⟩
  have L1 := J1.lt
  replace J1 : Hid (Jn w1 w.heap.size (.slice none 0 0) .idle) := J1
  replace B1 : Hid (Below w.heap.size w w1) := B1
  go_wp2_with fail
  go_at_call 12
  refine (h1.out w1 w.heap.size J1.out).mono ?_
  rintro e w2 ⟨⟨yb, yl, yc⟩, rfl, hp⟩
  obtain ⟨s2, J2, O2⟩ := hp.ex
  have B2 : Hid (Below w.heap.size w w2) := B1.out.trans (hp.bel _ B1.out.size (Nat.le_refl _) (fun k hk => by simp [Value.ownBlock] at hk))
  have O2' : Hid (∀ k, s2.ownBlock = some k → w.heap.size ≤ k) := fun k hk => (O2 k hk).elim (fun e => by simp [Value.ownBlock] at e) (fun e => Nat.le_trans B1.out.size e)
  have J2' : Hid (Jn w2 w.heap.size s2 (.busy fC [] [97, 98])) := J2
  clear hp J2 O2 h1 J1 B1
  simp only [Js.code, fv, Fr.zero, sv]
  go_wp2_with fail
  go_at_call 14
  have J2a := J2'.out.below (bel2 w2 (.cells #[.int .i64 0, .int .i64 0, .int .i64 0, .string ⟨#[]⟩, .int .i64 0, .int .i64 0, .bool false, .int .i64 0, .int .i64 0, .int .i64 0, .slice yb yl yc] 24) (.cells #[.int .i64 0, .int .i64 0] 32))
  refine (busy_any _ w.heap.size s2 _ J2a).mono ?_
  rintro e w3 ⟨rfl, hb⟩
  have J3 : Hid (Jn w3 w.heap.size s2 (.busy fC [] [97, 98])) := J2a.below hb
  have P3 : Hid (w3.heap[w2.heap.size + 1]? = some (.cells #[.int .i64 0, .int .i64 0] 32 (0, 0))) := (hb.block _ (by simp)).trans (fresh2 w2 _ _)
  have B3 : Hid (Below w.heap.size w w3) := (B2.out.trans ((bel2 w2 _ _).mono B2.out.size)).trans (hb.mono (by have := B2.out.size; simp; omega))
  clear J2a hb J2' B2
  simp only [busyB]
  go_wp2_with fail
  go_at_call 12
  refine (h2.out w3 w.heap.size s2 J3.out).mono ?_
  rintro e w4 ⟨⟨zb, zl, zc⟩, rfl, hp⟩
  obtain ⟨s4, J4, O4⟩ := hp.ex
  have J4' : Hid (Jn w4 w.heap.size (.slice none 0 0) .idle) := by
    have := J4.2
    subst this
    exact J4
  have P4 : Hid (w4.heap[w2.heap.size + 1]? = some (.cells #[.int .i64 0, .int .i64 0] 32 (0, 0))) := hp.keep J3.out P3.out (by decide) (by decide)
  have R4 : Hid (R EP w4 (.slice zb zl zc) []) := hp.rp
  have B4 : Hid (Below w.heap.size w w4) := B3.out.trans (hp.bel _ B3.out.size (Nat.le_refl _) O2'.out)
  clear hp J4 O4 h2 J3 B3 P3
  simp only [Js.code, fv, fC, sv]
  go_wp2_with fail
  go_at_call 15
  refine (h4.out _).mono ?_
  rintro e w5 ⟨v, ⟨qb, ql, qc⟩, rfl, RF5, RP5, hb⟩
  have b4 := bel2 w4 (.cells #[.int .i64 1, .int .i64 4, .int .i64 1, .string ⟨#[]⟩, .int .i64 0, .int .i64 0, .bool false, .int .i64 0, .int .i64 0, .int .i64 0, .slice zb zl zc] 24) (.cells #[.int .i64 0, .int .i64 0] 32)
  have b5 := b4.trans (hb.mono b4.size)
  have J5 : Hid (Jn w5 w.heap.size (.slice none 0 0) .idle) := J4'.out.below b5
  have R5 : Hid (R EP w5 (.slice zb zl zc) []) := R.below R4.out b5
  have P5 := (b5.block _ (heap_lt P4.out)).trans P4.out
  have X5 : w5.heap[w4.heap.size + 1]? = some (.cells #[.int .i64 0, .int .i64 0] 32 (0, 0)) := (hb.block _ (by simp)).trans (fresh2 w4 _ _)
  have Y5 : FB w5 w4.heap.size fC (.slice zb zl zc) := (hb.block _ (by simp; omega)).trans (by rw [heap_al, if_neg (by simp), heap_al, if_pos rfl]; rfl)
  have B5 : Hid (Below w.heap.size w w5) := B4.out.trans (b5.mono B4.out.size)
  obtain ⟨vb, vc, rfl, hv1, hv2⟩ := RF5.slice
  have RF5' : Hid (R EF w5 (.slice vb 1 vc) [(fE, (qb, ql, qc))]) := RF5
  have RP5' : Hid (R EP w5 (.slice qb ql qc) []) := RP5
  have x0 := cell_blk P5 0
  have x1 := cell_blk P5 1
  have x2 := cell_blk X5 0
  have x3 := cell_blk X5 1
  obtain ⟨y0, y1, y2, y3, y4, y5, y6, y7, y8, y9, y10⟩ := Y5.cells
  replace P5 : Hid _ := P5
  replace X5 : Hid _ := X5
  replace Y5 : Hid (FB w5 w4.heap.size fC (.slice zb zl zc)) := Y5
  simp only [List.getElem?_toArray, List.getElem?_cons_succ, List.getElem?_cons_zero] at x0 x1 x2 x3
  simp only [fC] at y0 y1 y2 y3 y4 y5 y6 y7 y8 y9 y10
  clear RF5 RP5 hb b4 b5 h4 J4' P4 B4 R4
  simp only [List.length_cons, List.length_nil]
  go_wp2_with fail
  go_at_call 14
  refine (busy_any w5 w.heap.size _ _ J5.out).mono ?_
  rintro e w6 ⟨rfl, hb⟩
  have J6 : Hid (Jn w6 w.heap.size (.slice none 0 0) .idle) := J5.out.below hb
  have Y6 := Y5.out.below hb
  have R6 : Hid (In EP w6 (sv (zb, zl, zc)) []) := R.isIn (R.below R5.out hb)
  have RF6 : Hid (R EF w6 (.slice vb 1 vc) [(fE, (qb, ql, qc))]) := R.below RF5'.out hb
  have RP6 : Hid (R EP w6 (.slice qb ql qc) []) := R.below RP5'.out hb
  have B6 : Hid (Below w.heap.size w w6) := B5.out.trans (hb.mono B5.out.size)
  clear x0 x1 x2 x3 y0 y1 y2 y3 y4 y5 y6 y7 y8 y9 y10
  obtain ⟨y0, y1, y2, y3, y4, y5, y6, y7, y8, y9, y10⟩ := Y6.cells
  simp only [fC] at y0 y1 y2 y3 y4 y5 y6 y7 y8 y9 y10
  clear hb J5 Y6 R5 RF5' RP5' B5 P5 X5 Y5
  simp only [busyB]
  go_wp2_with fail
  go_at_call 13
  have hsame := same_eq fC w6 (zb, zl, zc) NS [] R6.out (inNil w6)
  simp only [fv, fC, sv, NS] at hsame
  refine hsame.mono ?_
  rintro e w7 ⟨rfl, hb⟩
  have J7 : Hid (Jn w7 w.heap.size (.slice none 0 0) .idle) := J6.out.below hb
  have RF7 : R EF w7 (.slice vb 1 vc) [(fE, (qb, ql, qc))] := R.below RF6.out hb
  have RP7 : Hid (In EP w7 (sv (qb, ql, qc)) []) := R.isIn (R.below RP6.out hb)
  have B7 : Hid (Below w.heap.size w w7) := B6.out.trans (hb.mono B6.out.size)
  obtain ⟨B, off, cap, e1, _, d⟩ := RF7.isIn.get okF 0 (by simp)
  cases e1
  have d0 := d 0 _ rfl
  have d1 := d 1 _ rfl
  have d2 := d 2 _ rfl
  have d3 := d 3 _ rfl
  have d4 := d 4 _ rfl
  have d5 := d 5 _ rfl
  have d6 := d 6 _ rfl
  have d7 := d 7 _ rfl
  have d8 := d 8 _ rfl
  have d9 := d 9 _ rfl
  have d10 := d 10 _ rfl
  simp only [EF, Nat.zero_mul, Nat.add_zero, List.getElem_cons_zero, fE, sv] at d0 d1 d2 d3 d4 d5 d6 d7 d8 d9 d10
  clear y0 y1 y2 y3 y4 y5 y6 y7 y8 y9 y10 hsame hb J6 R6 RF6 RP6 B6 RF7 d
  go_wp2_with fail
  go_at_call 13
  have hsame := same_eq fE w7 (qb, ql, qc) NS [] RP7.out (inNil w7)
  simp only [fv, fE, sv, NS] at hsame
  refine hsame.mono ?_
  rintro e w8 ⟨rfl, hb⟩
  have J8 : Hid (Jn w8 w.heap.size (.slice none 0 0) .idle) := J7.out.below hb
  have B8 : Hid (Below w.heap.size w w8) := B7.out.trans (hb.mono B7.out.size)
  clear d0 d1 d2 d3 d4 d5 d6 d7 d8 d9 d10 hsame hb J7 RP7 B7
  go_wp2_with fail
  go_at_call 12
  refine (h3.out w8 w.heap.size J8.out).mono ?_
  rintro e w9 ⟨⟨tb, tl, tc⟩, rfl, hp⟩
  have B9 : Hid (Below w.heap.size w w9) := B8.out.trans (hp.bel _ B8.out.size (Nat.le_refl _) (fun k hk => by simp [Value.ownBlock] at hk))
  clear hp h3 J8 B8
  simp only [Js.code, fv, Fr.zero, sv]
  go_wp2_with fail
  go_ret
  refine ⟨rfl, ?_⟩
  exact B9.out.trans ((bel2 w9 _ _).mono B9.out.size)
end Go.Proofs.Ytdgdjanchpfleaa
