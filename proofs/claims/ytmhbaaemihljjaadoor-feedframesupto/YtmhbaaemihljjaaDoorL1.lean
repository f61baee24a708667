/- What the listed table gives. -/
import Derived.Test.YtmhbaaemihljjaaDoorA5
import Derived.Test.YtmhbaaemihljjaaDoorCards
import Derived.Test.YtmhbaaemihljjaaDoorTie
import Derived.WalkKit
import Derived.ProofKit
import Derived.OpenShut
import Derived.Deep.DeepHandedRow
import Derived.Lib.LaidTab
namespace Go.Proofs.YtmhbaaemihljjaaDoor
open Go.ChangeShapes Go.WideShapes Go.ChangeAt Go.RowKit
set_option linter.unusedVariables false
set_option linter.unusedSimpArgs false

theorem own : ownKnob Tryd.prog.godebug = none := by kernel_rfl
theorem gKinds : Tryd.prog.globalNamed "herald/frame.kinds" = some 0 := by kernel_rfl
theorem gKindsType : (Tryd.prog.globals[0]?).map (·.type) = some 90 := by kernel_rfl
theorem cells66 : Tryd.prog.cellsOf 90 = 33 := by kernel_rfl
theorem cells65 : Tryd.prog.cellsOf 89 = 3 := by kernel_rfl
theorem cells3 : Tryd.prog.cellsOf 3 = 1 := by kernel_rfl
theorem cells2 : Tryd.prog.cellsOf 2 = 1 := by kernel_rfl

/-- an integer's cell, out of what it reads as -/
theorem int_of_trod {H : Type} {enc : TypeId × Value → H} {P : Program} {w : World} {base : Nat} {sp : Nat → Bool} {held : Bool} {fuel : Nat} {t : TypeId} {k : IntKind} {c : Value} {y : DataW H × List MemPlace}
    (ht : P.underlying t = some (.int k)) (h : DataW.trod enc P w base sp held fuel t [c] = some y) : ∃ n, c = .int k n ∧ y = (.lit (.int k n), []) := by
  cases fuel with
  | zero => simp [DataW.trod] at h
  | succ fuel =>
    cases c with
    | int k' n =>
      simp [DataW.trod, ht] at h
      obtain ⟨⟨rfl, _⟩, rfl⟩ := h
      exact ⟨n, rfl, rfl⟩
    | _ => simp [DataW.trod, ht] at h

/-- a row of the table -/
theorem row_of_trod {w : World} {base : Nat} {sp : Nat → Bool} {held : Bool} {fuel : Nat} {cs : List Value} {a b c : Int} {q : List MemPlace}
    (h : DataW.trod (H := Unit) (fun _ => ()) Tryd.prog w base sp held fuel 89 cs = some (.agg [.lit (.int .i64 a), .lit (.int .i64 b), .lit (.int .i64 c)], q)) : cs = [.int .i64 a, .int .i64 b, .int .i64 c] := by
  obtain ⟨xs, n, _, hx, hl, hxl, hall⟩ := DataW.trod_struct Tryd.underlying89 h
  rw [cells65] at hl
  obtain ⟨x0, x1, x2, rfl⟩ : ∃ x0 x1 x2, cs = [x0, x1, x2] := by
    match cs, hl with
    | [a, b, c], _ => exact ⟨a, b, c, rfl⟩
  have h0 : DataW.trod (H := Unit) (fun _ => ()) Tryd.prog w base sp held n 3 (([x0, x1, x2].drop 0).take (Tryd.prog.cellsOf 3)) = xs[0]? := hall 0 _ rfl
  have h1 : DataW.trod (H := Unit) (fun _ => ()) Tryd.prog w base sp held n 2 (([x0, x1, x2].drop 1).take (Tryd.prog.cellsOf 2)) = xs[1]? := hall 1 _ rfl
  have h2 : DataW.trod (H := Unit) (fun _ => ()) Tryd.prog w base sp held n 2 (([x0, x1, x2].drop 2).take (Tryd.prog.cellsOf 2)) = xs[2]? := hall 2 _ rfl
  rw [cells3] at h0
  rw [cells2] at h1 h2
  obtain ⟨y0, y1, y2, rfl⟩ : ∃ y0 y1 y2, xs = [y0, y1, y2] := by
    match xs, hxl with
    | [a, b, c], _ => exact ⟨a, b, c, rfl⟩
  replace h0 : DataW.trod (H := Unit) (fun _ => ()) Tryd.prog w base sp held n 3 [x0] = some y0 := h0
  replace h1 : DataW.trod (H := Unit) (fun _ => ()) Tryd.prog w base sp held n 2 [x1] = some y1 := h1
  replace h2 : DataW.trod (H := Unit) (fun _ => ()) Tryd.prog w base sp held n 2 [x2] = some y2 := h2
  obtain ⟨n0, e0, rfl⟩ := int_of_trod Tryd.underlying3 h0
  obtain ⟨n1, e1, rfl⟩ := int_of_trod Tryd.underlying2 h1
  obtain ⟨n2, e2, rfl⟩ := int_of_trod Tryd.underlying2 h2
  simp at hx
  obtain ⟨⟨rfl, rfl, rfl⟩, _⟩ := hx
  rw [e0, e1, e2]

theorem kinds_of_laid {W : World} (h0 : laidMetH Tryd.prog [("herald/frame.kinds", Rows.laid_herald_frame_kinds)] W) : Kinds W := by
  have h : laidMet Tryd.prog [("herald/frame.kinds", Rows.laid_herald_frame_kinds)] W := h0
  obtain ⟨ps, ⟨g, t, cs, fuel, p, q, hg, ht, hvar, hd, hq, hps⟩, _, hcell⟩ := h
  obtain rfl := Option.some.inj (gKinds.symm.trans hg)
  obtain rfl := Option.some.inj (gKindsType.symm.trans ht)
  obtain ⟨xs, m, _, hx, hl, hxl, hall⟩ := DataW.trod_array Tryd.underlying90 hd
  rw [cells66] at hl
  simp only [cells65] at hall
  have hcs : cs = kindCells := by
    apply Array.ext'
    have hmem : ∀ i, i < 11 → ∀ a b c, (xs.map (·.1))[i]? = some (.agg [.lit (.int .i64 a), .lit (.int .i64 b), .lit (.int .i64 c)]) → (cs.toList.drop (i * 3)).take 3 = [.int .i64 a, .int .i64 b, .int .i64 c] := by
      intro i hi a b c hc
      have h1 := hall i hi
      rw [List.getElem?_map] at hc
      cases hxi : xs[i]? with
      | none => rw [hxi] at hc; cases hc
      | some y =>
        rw [hxi] at hc h1
        simp at hc
        obtain ⟨y1, y2⟩ := y
        simp at hc
        subst hc
        exact row_of_trod h1
    have hxs : xs.map (·.1) = [.agg [.lit (.int .i64 9), .lit (.int .i64 1), .lit (.int .i64 2147483647)], .agg [.lit (.int .i64 45), .lit (.int .i64 1), .lit (.int .i64 2147483647)], .agg [.lit (.int .i64 0), .lit (.int .i64 1), .lit (.int .i64 2147483647)], .agg [.lit (.int .i64 0), .lit (.int .i64 1), .lit (.int .i64 2147483647)], .agg [.lit (.int .i64 1), .lit (.int .i64 0), .lit (.int .i64 0)], .agg [.lit (.int .i64 12), .lit (.int .i64 1), .lit (.int .i64 2147483647)], .agg [.lit (.int .i64 1), .lit (.int .i64 0), .lit (.int .i64 0)], .agg [.lit (.int .i64 0), .lit (.int .i64 0), .lit (.int .i64 0)], .agg [.lit (.int .i64 0), .lit (.int .i64 0), .lit (.int .i64 2147483647)], .agg [.lit (.int .i64 4), .lit (.int .i64 1), .lit (.int .i64 2147483647)], .agg [.lit (.int .i64 255), .lit (.int .i64 0), .lit (.int .i64 2147483647)]] := by
      have := congrArg Prod.fst hx
      simp only [Rows.laid_herald_frame_kinds, DataW.agg.injEq] at this
      exact this.symm
    have q0 := hmem 0 (by omega) _ _ _ (by rw [hxs]; rfl)
    have q1 := hmem 1 (by omega) _ _ _ (by rw [hxs]; rfl)
    have q2 := hmem 2 (by omega) _ _ _ (by rw [hxs]; rfl)
    have q3 := hmem 3 (by omega) _ _ _ (by rw [hxs]; rfl)
    have q4 := hmem 4 (by omega) _ _ _ (by rw [hxs]; rfl)
    have q5 := hmem 5 (by omega) _ _ _ (by rw [hxs]; rfl)
    have q6 := hmem 6 (by omega) _ _ _ (by rw [hxs]; rfl)
    have q7 := hmem 7 (by omega) _ _ _ (by rw [hxs]; rfl)
    have q8 := hmem 8 (by omega) _ _ _ (by rw [hxs]; rfl)
    have q9 := hmem 9 (by omega) _ _ _ (by rw [hxs]; rfl)
    have q10 := hmem 10 (by omega) _ _ _ (by rw [hxs]; rfl)
    have key : ∀ (n : Nat) (l : List Value), l.length = 3 * n → l = (List.range n).flatMap fun i => (l.drop (i * 3)).take 3 := by
      intro n
      induction n with
      | zero => intro l hl; exact List.eq_nil_of_length_eq_zero (by simpa using hl)
      | succ n ih =>
        intro l hl
        have h1 := ih (l.take (3 * n)) (by rw [List.length_take]; omega)
        rw [List.range_succ, List.flatMap_append]
        have h2 : ((List.range n).flatMap fun i => (l.drop (i * 3)).take 3) = (List.range n).flatMap fun i => ((l.take (3 * n)).drop (i * 3)).take 3 := by
          rw [List.flatMap_def, List.flatMap_def]
          congr 1
          apply List.map_congr_left
          intro i hi
          have := List.mem_range.1 hi
          rw [List.drop_take, List.take_take, show min 3 (3 * n - i * 3) = 3 by omega]
        rw [h2, ← h1]
        simp only [List.flatMap_cons, List.flatMap_nil, List.append_nil]
        rw [show n * 3 = 3 * n by omega, List.take_of_length_le (l := l.drop (3 * n)) (by rw [List.length_drop]; omega), List.take_append_drop]
    have hk := key 11 cs.toList (by omega)
    rw [hk]
    have er : List.range 11 = [0, 1, 2, 3, 4, 5, 6, 7, 8, 9, 10] := rfl
    rw [er]
    simp only [List.flatMap_cons, List.flatMap_nil, q0, q1, q2, q3, q4, q5, q6, q7, q8, q9, q10]
    rfl
  have hpl : MemPlace.cell 0 0 ∈ ps := by
    rw [hps]
    have hsz : cs.size = 33 := by rw [← Array.length_toList]; exact hl
    rw [hsz]
    apply List.mem_append_left
    apply List.mem_append_left
    decide
  obtain ⟨⟨c, t, hc⟩, _⟩ := hcell 0 0 hpl
  refine ⟨t, ?_⟩
  have hv : W.var? Tryd.prog "herald/frame.kinds" = some c := by
    simp [World.var?, gKinds, hc]
  rw [hvar] at hv
  rw [hc, ← Option.some.inj hv, hcs]
end Go.Proofs.YtmhbaaemihljjaaDoor
