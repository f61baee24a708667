import Derived.Test.YtfponcdhaefkdaaDoorE4
import Derived.Test.YtfponcdhaefkdaaDoorVd
/- Sizes out of the bulk. -/
namespace Go.Proofs.YtfponcdhaefkdaaDoor
open Go.RowKit
set_option linter.unusedVariables false
set_option linter.unusedSimpArgs false
theorem szL_tot (l : List Fd) : szL l ≤ 33 * totF l := by
  induction l with
  | nil => exact Nat.zero_le _
  | cons f r ih =>
    unfold szL at ih ⊢
    rw [List.map_cons, List.sum_cons]
    simp only [totF]
    omega
theorem az_of {q : Rq} {Q : List Fd} {b : ByteArray} {fr : List Fd} (h1 : q.m.size ≤ 140737488351232 ∧ q.s.size ≤ 140737488351232 ∧ q.a.size ≤ 140737488351232 ∧ q.p.size ≤ 140737488351232) (h2 : ∀ e ∈ Q, e.n.size ≤ 140737488351232 ∧ e.v.size ≤ 140737488351232) (h3 : totF Q ≤ 1048576) (h4 : ∀ e ∈ fr, e.n.size ≤ 140737488351232 ∧ e.v.size ≤ 140737488351232) (h5 : totF fr ≤ 1048576) (h6 : b.size ≤ 140737488351232) : Az q Q b fr := by
  have a1 := len_le Q
  have a2 := len_le fr
  have a3 := szL_tot fr
  have a4 := allP_few fr varyS
  have a5 := totV_le fr
  exact ⟨⟨by omega, by omega, by omega, by omega⟩, by omega, fun f hf => ⟨by have := (h2 f hf).1; omega, by have := (h2 f hf).2; omega⟩, by omega, by omega, fun f hf => ⟨by have := (h4 f hf).1; omega, by have := (h4 f hf).2; omega⟩, by omega, by omega⟩
end Go.Proofs.YtfponcdhaefkdaaDoor
/- The body's size out of the bulk; what the listed mark gives. -/
namespace Go.Proofs.YtfponcdhaefkdaaDoor
open Go.ChangeShapes Go.WideShapes Go.ChangeAt Go.RowKit
set_option linter.unusedVariables false
set_option linter.unusedSimpArgs false
set_option maxRecDepth 100000 in
theorem resp_body {H : Type} {enc : TypeId × Value → H} {W : World} {d : DataW H} {p : List MemPlace} {n : Int} {y : Value} {b : ByteArray} (h : DataW.Trod enc Tryd.prog W 0 (fun _ => true) true 26 (.agg (rsv n y b)) d p) : b.size ≤ Rows.uptoBulk d := by
  obtain ⟨fuel, hf0⟩ := h
  obtain ⟨xs, k', hk, hxy, _, hxl, hf⟩ := DataW.trod_struct Tryd.underlying26 hf0
  match xs, hxl with
  | [y0, y1, y2], _ =>
    have g2 := hf 2 _ rfl
    simp [cells3', cells9, cells22, Value.cells, rsv] at g2
    obtain ⟨n2, e2, q2, _⟩ := DataW.trod_string Tryd.underlying9 g2
    simp only [List.cons.injEq, and_true, Value.string.injEq] at e2
    subst e2
    have hd : d = .agg ([y0, y1, y2].map (·.1)) := congrArg Prod.fst hxy
    rw [hd, show y2 = _ from q2]
    simp only [List.map_cons, List.map_nil, Rows.uptoBulk, Rows.uptoBulkAll]
    have h5 := Lib.size_eq b
    omega
theorem gMark : Tryd.prog.globalNamed "herald/heraldlaw19.mark" = some 0 := by kernel_rfl
theorem gMarkType : (Tryd.prog.globals[0]?).map (·.type) = some 51 := by kernel_rfl
set_option maxRecDepth 100000 in
theorem mark_of_laid {W : World} (h0 : laidMetH Tryd.prog Rows.cacheApartRow.laid W) : ∃ mn mv mb mt, W.heap[0]? = some (.cells #[.string mn, .string mv, .bool mb] mt (0, 0)) := by
  have h : laidMet Tryd.prog [("unicode/utf8.acceptRanges", Rows.laid_unicode_utf8_acceptRanges), ("herald/heraldlaw19.mark", Rows.laid_herald_heraldlaw19_mark), ("unicode/utf8.first", Rows.laid_unicode_utf8_first)] W := h0
  obtain ⟨ps, ⟨ga, ta, ca, fa, pa, qa, _, _, _, _, ⟨g, t, cs, fuel, p, q, hg, ht, hvar, hd, hq, hqa⟩, hps⟩, _, hcell⟩ := h
  obtain rfl := Option.some.inj (gMark.symm.trans hg)
  obtain rfl := Option.some.inj (gMarkType.symm.trans ht)
  obtain ⟨xs, k', hk, hxy, hl, hxl, hf⟩ := DataW.trod_struct Tryd.underlying51 hd
  rw [cells30] at hl
  obtain ⟨l⟩ := cs
  match xs, hxl, l, hl with
  | [y0, y1, y2], _, [v0, v1, v2], _ =>
    have g0 := hf 0 _ rfl
    have g1 := hf 1 _ rfl
    have g2 := hf 2 _ rfl
    simp [cells9, cells4] at g0 g1 g2
    obtain ⟨s0, e0, q0, _⟩ := DataW.trod_string Tryd.underlying9 g0
    obtain ⟨s1, e1, q1, _⟩ := DataW.trod_string Tryd.underlying9 g1
    obtain ⟨b2, e2, q2⟩ := DataW.trod_bool Tryd.underlying4 g2
    simp only [List.cons.injEq, and_true] at e0 e1 e2
    subst e0 e1 e2
    have hpl : MemPlace.cell 0 0 ∈ ps := by
      rw [hps, hqa]
      apply List.mem_append_right
      apply List.mem_append_left
      apply List.mem_append_left
      show MemPlace.cell 0 0 ∈ MemPlace.row ⟨0, 0, none⟩ 3
      decide
    obtain ⟨⟨c, t, hc⟩, _⟩ := hcell 0 0 hpl
    refine ⟨s0, s1, b2, t, ?_⟩
    have hv : W.var? Tryd.prog "herald/heraldlaw19.mark" = some c := by
      simp [World.var?, gMark, hc]
    rw [hvar] at hv
    rw [hc, ← Option.some.inj hv]
end Go.Proofs.YtfponcdhaefkdaaDoor
