import Derived.Test.YtfmljlflnpmceaaGreatDoorVzn
import Derived.Test.YtfmljlflnpmceaaGreatDoorCards
import Derived.Test.YtfmljlflnpmceaaGreatDoorTie
import Derived.WalkKit
import Derived.ProofKit
import Derived.OpenShut
import Derived.Deep.DeepHandedRow
import Derived.Lib.LaidTab
import Derived.SizedLaws
import Derived.SliceStrings
import Derived.ChangeSlices
import Derived.Deep.SlicePairs
/- What the listed variables give. -/
namespace Go.Proofs.YtfmljlflnpmceaaGreatDoor
open Go.ChangeShapes Go.WideShapes Go.ChangeAt Go.RowKit Go.Deep
set_option linter.unusedVariables false
set_option linter.unusedSimpArgs false
theorem own : ownKnob Tryz.prog.godebug = none := by kernel_rfl
theorem gStd : Tryz.prog.globalNamed "herald/setting.standard" = some 0 := by kernel_rfl
theorem gStdType : (Tryz.prog.globals[0]?).map (·.type) = some 92 := by kernel_rfl
theorem gKinds : Tryz.prog.globalNamed "herald/frame.kinds" = some 1 := by kernel_rfl
theorem gKindsType : (Tryz.prog.globals[1]?).map (·.type) = some 130 := by kernel_rfl
theorem cells66 : Tryz.prog.cellsOf 130 = 33 := by kernel_rfl
theorem cells65 : Tryz.prog.cellsOf 129 = 3 := by kernel_rfl
theorem cells92 : Tryz.prog.cellsOf 92 = 6 := by kernel_rfl
theorem cells3 : Tryz.prog.cellsOf 3 = 1 := by kernel_rfl
theorem cells2 : Tryz.prog.cellsOf 2 = 1 := by kernel_rfl
/-- an integer's cell, out of what it reads as -/
theorem int_of_trod {H : Type} {enc : TypeId × Value → H} {P : Program} {w : World} {base : Nat} {sp : Nat → Bool} {held : Bool} {fuel : Nat} {t : TypeId} {k : IntKind} {c : Value} {y : DataW H × List MemPlace}
    (ht : P.underlying t = some (.int k)) (h : DataW.trod enc P w base sp held fuel t [c] = some y) : ∃ n, c = .int k n ∧ y = (.lit (.int k n), []) := by
  cases fuel with
  | zero => simp [DataW.trod] at h
  | succ fuel =>
    cases c with
    | int k' n =>
      simp [DataW.trod, ht] at h
      obtain ⟨⟨rfl, _⟩, rfl⟩ := h
      exact ⟨n, rfl, rfl⟩
    | _ => simp [DataW.trod, ht] at h


set_option maxRecDepth 100000 in
theorem row_of_trod {w : World} {base : Nat} {sp : Nat → Bool} {held : Bool} {fuel : Nat} {cs : List Value} {a b c : Int} {q : List MemPlace}
    (h : DataW.trod (H := Unit) (fun _ => ()) Tryz.prog w base sp held fuel 129 cs = some (.agg [.lit (.int .i64 a), .lit (.int .i64 b), .lit (.int .i64 c)], q)) : cs = [.int .i64 a, .int .i64 b, .int .i64 c] := by
  obtain ⟨xs, n, _, hx, hl, hxl, hall⟩ := DataW.trod_struct Tryz.underlying129 h
  rw [cells65] at hl
  obtain ⟨x0, x1, x2, rfl⟩ : ∃ x0 x1 x2, cs = [x0, x1, x2] := by
    match cs, hl with
    | [a, b, c], _ => exact ⟨a, b, c, rfl⟩
  have h0 : DataW.trod (H := Unit) (fun _ => ()) Tryz.prog w base sp held n 3 (([x0, x1, x2].drop 0).take (Tryz.prog.cellsOf 3)) = xs[0]? := hall 0 _ rfl
  have h1 : DataW.trod (H := Unit) (fun _ => ()) Tryz.prog w base sp held n 2 (([x0, x1, x2].drop 1).take (Tryz.prog.cellsOf 2)) = xs[1]? := hall 1 _ rfl
  have h2 : DataW.trod (H := Unit) (fun _ => ()) Tryz.prog w base sp held n 2 (([x0, x1, x2].drop 2).take (Tryz.prog.cellsOf 2)) = xs[2]? := hall 2 _ rfl
  rw [cells3] at h0
  rw [cells2] at h1 h2
  obtain ⟨y0, y1, y2, rfl⟩ : ∃ y0 y1 y2, xs = [y0, y1, y2] := by
    match xs, hxl with
    | [a, b, c], _ => exact ⟨a, b, c, rfl⟩
  replace h0 : DataW.trod (H := Unit) (fun _ => ()) Tryz.prog w base sp held n 3 [x0] = some y0 := h0
  replace h1 : DataW.trod (H := Unit) (fun _ => ()) Tryz.prog w base sp held n 2 [x1] = some y1 := h1
  replace h2 : DataW.trod (H := Unit) (fun _ => ()) Tryz.prog w base sp held n 2 [x2] = some y2 := h2
  obtain ⟨n0, e0, rfl⟩ := int_of_trod Tryz.underlying3 h0
  obtain ⟨n1, e1, rfl⟩ := int_of_trod Tryz.underlying2 h1
  obtain ⟨n2, e2, rfl⟩ := int_of_trod Tryz.underlying2 h2
  simp at hx
  obtain ⟨⟨rfl, rfl, rfl⟩, _⟩ := hx
  rw [e0, e1, e2]

theorem laid_mem {W : World} {n : String} {d : DataW Unit} : ∀ {laid : List (String × DataW Unit)} {ps : List MemPlace}, DataW.LaidVars Tryz.prog W laid ps → (n, d) ∈ laid →
    ∃ g t cs fuel p, Tryz.prog.globalNamed n = some g ∧ (Tryz.prog.globals[g]?).map (·.type) = some t ∧ W.var? Tryz.prog n = some cs ∧ DataW.trod (fun _ => ()) Tryz.prog W 0 (fun _ => true) false fuel t cs.toList = some (d, p) ∧ ∀ x ∈ MemPlace.row ⟨g, 0, none⟩ cs.size, x ∈ ps
  | [], _, _, hm => by cases hm
  | (n', d') :: r, ps, h, hm => by
    obtain ⟨g, t, cs, fuel, p, q, h1, h2, h3, h4, h5, h6⟩ := h
    rcases List.mem_cons.1 hm with e | hm
    · cases e
      exact ⟨g, t, cs, fuel, p, h1, h2, h3, h4, fun x hx => by rw [h6]; exact List.mem_append_left _ (List.mem_append_left _ hx)⟩
    · obtain ⟨g', t', cs', fuel', p', k1, k2, k3, k4, k5⟩ := laid_mem h5 hm
      exact ⟨g', t', cs', fuel', p', k1, k2, k3, k4, fun x hx => by rw [h6]; exact List.mem_append_right _ (k5 x hx)⟩

def sixD (a b c d e f : Int) : DataW Unit := .agg [.lit (.int .i64 a), .lit (.int .i64 b), .lit (.int .i64 c), .lit (.int .i64 d), .lit (.int .i64 e), .lit (.int .i64 f)]

theorem six_of_trod {W : World} {base : Nat} {sp : Nat → Bool} {held : Bool} {fuel : Nat} {cs : List Value} {a b c d e f : Int} {q : List MemPlace} {t : TypeId} (ht : t = 92)
    (h : DataW.trod (H := Unit) (fun _ => ()) Tryz.prog W base sp held fuel t cs = some (sixD a b c d e f, q)) : cs = (St.mk a b c d e f).a.toList := by
  obtain ⟨xs, n, hx, hl, hxl, hall⟩ : ∃ (xs : List (DataW Unit × List MemPlace)) (n : Nat), sixD a b c d e f = .agg (xs.map (·.1)) ∧ cs.length = 6 ∧ xs.length = 6 ∧ ∀ i, i < 6 → DataW.trod (H := Unit) (fun _ => ()) Tryz.prog W base sp held n 2 ((cs.drop i).take 1) = xs[i]? := by
    subst ht
    obtain ⟨xs, n, _, hx, hl, hxl, hall⟩ := DataW.trod_struct Tryz.underlying92 h
    rw [cells92] at hl
    refine ⟨xs, n, congrArg Prod.fst hx, hl, hxl, fun i hi => ?_⟩
    obtain rfl | rfl | rfl | rfl | rfl | rfl : i = 0 ∨ i = 1 ∨ i = 2 ∨ i = 3 ∨ i = 4 ∨ i = 5 := by omega
    · have : DataW.trod (H := Unit) (fun _ => ()) Tryz.prog W base sp held n 2 ((cs.drop 0).take (Tryz.prog.cellsOf 2)) = xs[0]? := hall 0 _ rfl
      rw [cells2] at this
      exact this
    · have : DataW.trod (H := Unit) (fun _ => ()) Tryz.prog W base sp held n 2 ((cs.drop 1).take (Tryz.prog.cellsOf 2)) = xs[1]? := hall 1 _ rfl
      rw [cells2] at this
      exact this
    · have : DataW.trod (H := Unit) (fun _ => ()) Tryz.prog W base sp held n 2 ((cs.drop 2).take (Tryz.prog.cellsOf 2)) = xs[2]? := hall 2 _ rfl
      rw [cells2] at this
      exact this
    · have : DataW.trod (H := Unit) (fun _ => ()) Tryz.prog W base sp held n 2 ((cs.drop 3).take (Tryz.prog.cellsOf 2)) = xs[3]? := hall 3 _ rfl
      rw [cells2] at this
      exact this
    · have : DataW.trod (H := Unit) (fun _ => ()) Tryz.prog W base sp held n 2 ((cs.drop 4).take (Tryz.prog.cellsOf 2)) = xs[4]? := hall 4 _ rfl
      rw [cells2] at this
      exact this
    · have : DataW.trod (H := Unit) (fun _ => ()) Tryz.prog W base sp held n 2 ((cs.drop 5).take (Tryz.prog.cellsOf 2)) = xs[5]? := hall 5 _ rfl
      rw [cells2] at this
      exact this
  match xs, hxl, cs, hl with
  | [y0, y1, y2, y3, y4, y5], _, [v0, v1, v2, v3, v4, v5], _ =>
    have g0 : DataW.trod (H := Unit) (fun _ => ()) Tryz.prog W base sp held n 2 [v0] = some y0 := hall 0 (by omega)
    have g1 : DataW.trod (H := Unit) (fun _ => ()) Tryz.prog W base sp held n 2 [v1] = some y1 := hall 1 (by omega)
    have g2 : DataW.trod (H := Unit) (fun _ => ()) Tryz.prog W base sp held n 2 [v2] = some y2 := hall 2 (by omega)
    have g3 : DataW.trod (H := Unit) (fun _ => ()) Tryz.prog W base sp held n 2 [v3] = some y3 := hall 3 (by omega)
    have g4 : DataW.trod (H := Unit) (fun _ => ()) Tryz.prog W base sp held n 2 [v4] = some y4 := hall 4 (by omega)
    have g5 : DataW.trod (H := Unit) (fun _ => ()) Tryz.prog W base sp held n 2 [v5] = some y5 := hall 5 (by omega)
    obtain ⟨n0, rfl, rfl⟩ := int_of_trod Tryz.underlying2 g0
    obtain ⟨n1, rfl, rfl⟩ := int_of_trod Tryz.underlying2 g1
    obtain ⟨n2, rfl, rfl⟩ := int_of_trod Tryz.underlying2 g2
    obtain ⟨n3, rfl, rfl⟩ := int_of_trod Tryz.underlying2 g3
    obtain ⟨n4, rfl, rfl⟩ := int_of_trod Tryz.underlying2 g4
    obtain ⟨n5, rfl, rfl⟩ := int_of_trod Tryz.underlying2 g5
    simp [sixD] at hx
    obtain ⟨rfl, rfl, rfl, rfl, rfl, rfl⟩ := hx
    rfl

theorem laid_six {W : World} {laid : List (String × DataW Unit)} (h : laidMet Tryz.prog laid W) {n : String} {a b c d e f : Int} (hm : (n, sixD a b c d e f) ∈ laid) {g : Nat} {t : TypeId} (hg : Tryz.prog.globalNamed n = some g) (ht : (Tryz.prog.globals[g]?).map (·.type) = some t) (ht2 : t = 92) :
    ∃ t', W.heap[g]? = some (.cells (St.mk a b c d e f).a t' (0, 0)) := by
  obtain ⟨ps, hv, _, hcell⟩ := h
  obtain ⟨g', t', cs, fuel, p, k1, k2, k3, k4, k5⟩ := laid_mem hv hm
  obtain rfl := Option.some.inj (hg.symm.trans k1)
  obtain rfl := Option.some.inj (ht.symm.trans k2)
  have hcs : cs = (St.mk a b c d e f).a := by
    apply Array.ext'
    exact six_of_trod ht2 k4
  have hpl : MemPlace.cell g 0 ∈ ps := by
    refine k5 _ ?_
    rw [hcs]
    show MemPlace.cell g 0 ∈ MemPlace.row ⟨g, 0, none⟩ 6
    simp [MemPlace.row]
  obtain ⟨⟨c', t'', hc⟩, _⟩ := hcell g 0 hpl
  refine ⟨t'', ?_⟩
  have hv : W.var? Tryz.prog n = some c' := by
    simp [World.var?, hg, hc]
  rw [k3] at hv
  rw [hc, ← Option.some.inj hv, hcs]

theorem std_of_laid {W : World} {laid : List (String × DataW Unit)} (h : laidMet Tryz.prog laid W) (hm : ("herald/setting.standard", Rows.laid_herald_setting_standard) ∈ laid) : Std W :=
  laid_six h (a := 4096) (b := 1) (c := 2147483647) (d := 65535) (e := 16384) (f := 2147483647) hm gStd gStdType rfl
theorem kinds_of_laid {W : World} {laid : List (String × DataW Unit)} (h : laidMet Tryz.prog laid W) (hm : ("herald/frame.kinds", Rows.laid_herald_frame_kinds) ∈ laid) : Fm.Kinds W := by
  obtain ⟨ps, hv0, _, hcell⟩ := h
  obtain ⟨g, t, cs, fuel, p, hg, ht, hvar, hd, hps⟩ := laid_mem hv0 hm
  obtain rfl := Option.some.inj (gKinds.symm.trans hg)
  obtain rfl := Option.some.inj (gKindsType.symm.trans ht)
  obtain ⟨xs, m, _, hx, hl, hxl, hall⟩ := DataW.trod_array Tryz.underlying130 hd
  rw [cells66] at hl
  simp only [cells65] at hall
  have hcs : cs = Fm.kindCells := by
    apply Array.ext'
    have hmem : ∀ i, i < 11 → ∀ a b c, (xs.map (·.1))[i]? = some (.agg [.lit (.int .i64 a), .lit (.int .i64 b), .lit (.int .i64 c)]) → (cs.toList.drop (i * 3)).take 3 = [.int .i64 a, .int .i64 b, .int .i64 c] := by
      intro i hi a b c hc
      have h1 := hall i hi
      rw [List.getElem?_map] at hc
      cases hxi : xs[i]? with
      | none => rw [hxi] at hc; cases hc
      | some y =>
        rw [hxi] at hc h1
        simp at hc
        obtain ⟨y1, y2⟩ := y
        simp at hc
        subst hc
        exact row_of_trod h1
    have hxs : xs.map (·.1) = [.agg [.lit (.int .i64 9), .lit (.int .i64 1), .lit (.int .i64 2147483647)], .agg [.lit (.int .i64 45), .lit (.int .i64 1), .lit (.int .i64 2147483647)], .agg [.lit (.int .i64 0), .lit (.int .i64 1), .lit (.int .i64 2147483647)], .agg [.lit (.int .i64 0), .lit (.int .i64 1), .lit (.int .i64 2147483647)], .agg [.lit (.int .i64 1), .lit (.int .i64 0), .lit (.int .i64 0)], .agg [.lit (.int .i64 12), .lit (.int .i64 1), .lit (.int .i64 2147483647)], .agg [.lit (.int .i64 1), .lit (.int .i64 0), .lit (.int .i64 0)], .agg [.lit (.int .i64 0), .lit (.int .i64 0), .lit (.int .i64 0)], .agg [.lit (.int .i64 0), .lit (.int .i64 0), .lit (.int .i64 2147483647)], .agg [.lit (.int .i64 4), .lit (.int .i64 1), .lit (.int .i64 2147483647)], .agg [.lit (.int .i64 255), .lit (.int .i64 0), .lit (.int .i64 2147483647)]] := by
      have := congrArg Prod.fst hx
      simp only [Rows.laid_herald_frame_kinds, DataW.agg.injEq] at this
      exact this.symm
    have q0 := hmem 0 (by omega) _ _ _ (by rw [hxs]; rfl)
    have q1 := hmem 1 (by omega) _ _ _ (by rw [hxs]; rfl)
    have q2 := hmem 2 (by omega) _ _ _ (by rw [hxs]; rfl)
    have q3 := hmem 3 (by omega) _ _ _ (by rw [hxs]; rfl)
    have q4 := hmem 4 (by omega) _ _ _ (by rw [hxs]; rfl)
    have q5 := hmem 5 (by omega) _ _ _ (by rw [hxs]; rfl)
    have q6 := hmem 6 (by omega) _ _ _ (by rw [hxs]; rfl)
    have q7 := hmem 7 (by omega) _ _ _ (by rw [hxs]; rfl)
    have q8 := hmem 8 (by omega) _ _ _ (by rw [hxs]; rfl)
    have q9 := hmem 9 (by omega) _ _ _ (by rw [hxs]; rfl)
    have q10 := hmem 10 (by omega) _ _ _ (by rw [hxs]; rfl)
    have key : ∀ (n : Nat) (l : List Value), l.length = 3 * n → l = (List.range n).flatMap fun i => (l.drop (i * 3)).take 3 := by
      intro n
      induction n with
      | zero => intro l hl; exact List.eq_nil_of_length_eq_zero (by simpa using hl)
      | succ n ih =>
        intro l hl
        have h1 := ih (l.take (3 * n)) (by rw [List.length_take]; omega)
        rw [List.range_succ, List.flatMap_append]
        have h2 : ((List.range n).flatMap fun i => (l.drop (i * 3)).take 3) = (List.range n).flatMap fun i => ((l.take (3 * n)).drop (i * 3)).take 3 := by
          rw [List.flatMap_def, List.flatMap_def]
          congr 1
          apply List.map_congr_left
          intro i hi
          have := List.mem_range.1 hi
          rw [List.drop_take, List.take_take, show min 3 (3 * n - i * 3) = 3 by omega]
        rw [h2, ← h1]
        simp only [List.flatMap_cons, List.flatMap_nil, List.append_nil]
        rw [show n * 3 = 3 * n by omega, List.take_of_length_le (l := l.drop (3 * n)) (by rw [List.length_drop]; omega), List.take_append_drop]
    have hk := key 11 cs.toList (by omega)
    rw [hk]
    have er : List.range 11 = [0, 1, 2, 3, 4, 5, 6, 7, 8, 9, 10] := rfl
    rw [er]
    simp only [List.flatMap_cons, List.flatMap_nil, q0, q1, q2, q3, q4, q5, q6, q7, q8, q9, q10]
    rfl
  have hpl : MemPlace.cell 1 0 ∈ ps := by
    refine hps _ ?_
    have hsz : cs.size = 33 := by rw [← Array.length_toList]; exact hl
    rw [hsz]
    decide
  obtain ⟨⟨c, t, hc⟩, _⟩ := hcell 1 0 hpl
  refine ⟨t, ?_⟩
  have hv : W.var? Tryz.prog "herald/frame.kinds" = some c := by
    simp [World.var?, gKinds, hc]
  rw [hvar] at hv
  rw [hc, ← Option.some.inj hv, hcs]
end Go.Proofs.YtfmljlflnpmceaaGreatDoor
/- The arguments opened: logs. -/
namespace Go.Proofs.YtfmljlflnpmceaaGreatDoor
namespace P1
open Go.ChangeShapes Go.WideShapes Go.ChangeAt Go.RowKit Go.Deep
set_option linter.unusedVariables false
set_option linter.unusedSimpArgs false
theorem wf_i64 {n : Int} (h : (Lit.int .i64 n).wf = true) : -9223372036854775808 ≤ n ∧ n ≤ 9223372036854775807 := by
  simp [Lit.wf] at h
  have h1 : IntKind.i64.min = -9223372036854775808 := by decide
  rw [h1] at h
  exact h
theorem spot_none {W : World} {a : Addr} {u : Value} (h : W.cell? a = some u) : a.spot = none := by
  unfold World.cell? at h
  split at h
  · split at h
    · cases h
    · rename_i h1
      simpa using h1
  · cases h

open Classical in noncomputable def nOf (f : Fm.Fr) (ps : List (Int × Int)) : Option Nat := if Fm.Right f ps then some (Fm.asmB f ps).size else none
theorem fn_nOf (f : Fm.Fr) (ps : List (Int × Int)) : Fn f ps (nOf f ps) := by
  unfold nOf
  by_cases h : Fm.Right f ps
  · rw [if_pos h]; exact .inl ⟨h, rfl⟩
  · rw [if_neg h]; exact .inr ⟨h, rfl⟩
theorem par_len (ps : List (Int × Int)) : (Fm.parB ps).length = 6 * ps.length := by
  unfold Fm.parB
  induction ps with
  | nil => rfl
  | cons q r ih =>
    rw [List.flatMap_cons, List.length_append, ih]
    simp [Fm.be_length]
    omega
theorem asm_le (f : Fm.Fr) (ps : List (Int × Int)) : (Fm.asmB f ps).size ≤ f.data.size + 6 * ps.length + 300 := by
  have hd : f.data.data.toList.length = f.data.size := by rw [Array.length_toList]; rfl
  have h2 := par_len ps
  have hp : (Fm.payB (Fm.kd f.ty f.fl).2.2.1 f ps).length ≤ f.data.size + 6 * ps.length + 20 := by
    unfold Fm.payB
    repeat' split
    all_goals
      simp only [List.length_append, Fm.prioB, Fm.be_length, List.length_cons, List.length_nil, hd, h2]
      omega
  have hw : (Fm.wholeB f ps).length ≤ (Fm.payB (Fm.kd f.ty f.fl).2.2.1 f ps).length + 256 := by
    unfold Fm.wholeB
    split
    · simp only [List.length_append, List.length_cons, List.length_nil, List.length_replicate]
      omega
    · omega
  have : (Fm.asmB f ps).size = 9 + (Fm.wholeB f ps).length := by
    simp [Fm.asmB, ByteArray.size, Fm.headS_length]
  omega
end P1
end Go.Proofs.YtfmljlflnpmceaaGreatDoor
