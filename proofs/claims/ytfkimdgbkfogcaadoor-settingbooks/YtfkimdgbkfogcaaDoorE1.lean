/- What the listed variables give. -/
import Derived.Test.YtfkimdgbkfogcaaDoorE0
namespace Go.Proofs.YtfkimdgbkfogcaaDoor
open Go.ChangeShapes Go.WideShapes Go.ChangeAt Go.RowKit Go.Deep
set_option linter.unusedVariables false
set_option linter.unusedSimpArgs false

theorem laid_mem {W : World} {n : String} {d : DataW Unit} : ∀ {laid : List (String × DataW Unit)} {ps : List MemPlace}, DataW.LaidVars Tryd.prog W laid ps → (n, d) ∈ laid →
    ∃ g t cs fuel p, Tryd.prog.globalNamed n = some g ∧ (Tryd.prog.globals[g]?).map (·.type) = some t ∧ W.var? Tryd.prog n = some cs ∧ DataW.trod (fun _ => ()) Tryd.prog W 0 (fun _ => true) false fuel t cs.toList = some (d, p) ∧ ∀ x ∈ MemPlace.row ⟨g, 0, none⟩ cs.size, x ∈ ps
  | [], _, _, hm => by cases hm
  | (n', d') :: r, ps, h, hm => by
    obtain ⟨g, t, cs, fuel, p, q, h1, h2, h3, h4, h5, h6⟩ := h
    rcases List.mem_cons.1 hm with e | hm
    · cases e
      exact ⟨g, t, cs, fuel, p, h1, h2, h3, h4, fun x hx => by rw [h6]; exact List.mem_append_left _ (List.mem_append_left _ hx)⟩
    · obtain ⟨g', t', cs', fuel', p', k1, k2, k3, k4, k5⟩ := laid_mem h5 hm
      exact ⟨g', t', cs', fuel', p', k1, k2, k3, k4, fun x hx => by rw [h6]; exact List.mem_append_right _ (k5 x hx)⟩

def sixD (a b c d e f : Int) : DataW Unit := .agg [.lit (.int .i64 a), .lit (.int .i64 b), .lit (.int .i64 c), .lit (.int .i64 d), .lit (.int .i64 e), .lit (.int .i64 f)]

theorem six_of_trod {W : World} {base : Nat} {sp : Nat → Bool} {held : Bool} {fuel : Nat} {cs : List Value} {a b c d e f : Int} {q : List MemPlace} {t : TypeId} (ht : t = 27 ∨ t = 68)
    (h : DataW.trod (H := Unit) (fun _ => ()) Tryd.prog W base sp held fuel t cs = some (sixD a b c d e f, q)) : cs = (St.mk a b c d e f).a.toList := by
  obtain ⟨xs, n, hx, hl, hxl, hall⟩ : ∃ (xs : List (DataW Unit × List MemPlace)) (n : Nat), sixD a b c d e f = .agg (xs.map (·.1)) ∧ cs.length = 6 ∧ xs.length = 6 ∧ ∀ i, i < 6 → DataW.trod (H := Unit) (fun _ => ()) Tryd.prog W base sp held n 2 ((cs.drop i).take 1) = xs[i]? := by
    rcases ht with rfl | rfl
    · obtain ⟨xs, n, _, hx, hl, hxl, hall⟩ := DataW.trod_struct Tryd.underlying27 h
      rw [cells27] at hl
      refine ⟨xs, n, congrArg Prod.fst hx, hl, hxl, fun i hi => ?_⟩
      obtain rfl | rfl | rfl | rfl | rfl | rfl : i = 0 ∨ i = 1 ∨ i = 2 ∨ i = 3 ∨ i = 4 ∨ i = 5 := by omega
      · have : DataW.trod (H := Unit) (fun _ => ()) Tryd.prog W base sp held n 2 ((cs.drop 0).take (Tryd.prog.cellsOf 2)) = xs[0]? := hall 0 _ rfl
        rw [cells2] at this
        exact this
      · have : DataW.trod (H := Unit) (fun _ => ()) Tryd.prog W base sp held n 2 ((cs.drop 1).take (Tryd.prog.cellsOf 2)) = xs[1]? := hall 1 _ rfl
        rw [cells2] at this
        exact this
      · have : DataW.trod (H := Unit) (fun _ => ()) Tryd.prog W base sp held n 2 ((cs.drop 2).take (Tryd.prog.cellsOf 2)) = xs[2]? := hall 2 _ rfl
        rw [cells2] at this
        exact this
      · have : DataW.trod (H := Unit) (fun _ => ()) Tryd.prog W base sp held n 2 ((cs.drop 3).take (Tryd.prog.cellsOf 2)) = xs[3]? := hall 3 _ rfl
        rw [cells2] at this
        exact this
      · have : DataW.trod (H := Unit) (fun _ => ()) Tryd.prog W base sp held n 2 ((cs.drop 4).take (Tryd.prog.cellsOf 2)) = xs[4]? := hall 4 _ rfl
        rw [cells2] at this
        exact this
      · have : DataW.trod (H := Unit) (fun _ => ()) Tryd.prog W base sp held n 2 ((cs.drop 5).take (Tryd.prog.cellsOf 2)) = xs[5]? := hall 5 _ rfl
        rw [cells2] at this
        exact this
    · obtain ⟨xs, n, _, hx, hl, hxl, hall⟩ := DataW.trod_array Tryd.underlying68 h
      rw [cells68] at hl
      refine ⟨xs, n, congrArg Prod.fst hx, hl, hxl, fun i hi => ?_⟩
      have := hall i hi
      rw [cells2, Nat.mul_one] at this
      exact this
  match xs, hxl, cs, hl with
  | [y0, y1, y2, y3, y4, y5], _, [v0, v1, v2, v3, v4, v5], _ =>
    have g0 : DataW.trod (H := Unit) (fun _ => ()) Tryd.prog W base sp held n 2 [v0] = some y0 := hall 0 (by omega)
    have g1 : DataW.trod (H := Unit) (fun _ => ()) Tryd.prog W base sp held n 2 [v1] = some y1 := hall 1 (by omega)
    have g2 : DataW.trod (H := Unit) (fun _ => ()) Tryd.prog W base sp held n 2 [v2] = some y2 := hall 2 (by omega)
    have g3 : DataW.trod (H := Unit) (fun _ => ()) Tryd.prog W base sp held n 2 [v3] = some y3 := hall 3 (by omega)
    have g4 : DataW.trod (H := Unit) (fun _ => ()) Tryd.prog W base sp held n 2 [v4] = some y4 := hall 4 (by omega)
    have g5 : DataW.trod (H := Unit) (fun _ => ()) Tryd.prog W base sp held n 2 [v5] = some y5 := hall 5 (by omega)
    obtain ⟨n0, rfl, rfl⟩ := int_of_trod Tryd.underlying2 g0
    obtain ⟨n1, rfl, rfl⟩ := int_of_trod Tryd.underlying2 g1
    obtain ⟨n2, rfl, rfl⟩ := int_of_trod Tryd.underlying2 g2
    obtain ⟨n3, rfl, rfl⟩ := int_of_trod Tryd.underlying2 g3
    obtain ⟨n4, rfl, rfl⟩ := int_of_trod Tryd.underlying2 g4
    obtain ⟨n5, rfl, rfl⟩ := int_of_trod Tryd.underlying2 g5
    simp [sixD] at hx
    obtain ⟨rfl, rfl, rfl, rfl, rfl, rfl⟩ := hx
    rfl

theorem laid_six {W : World} {laid : List (String × DataW Unit)} (h : laidMet Tryd.prog laid W) {n : String} {a b c d e f : Int} (hm : (n, sixD a b c d e f) ∈ laid) {g : Nat} {t : TypeId} (hg : Tryd.prog.globalNamed n = some g) (ht : (Tryd.prog.globals[g]?).map (·.type) = some t) (ht2 : t = 27 ∨ t = 68) :
    ∃ t', W.heap[g]? = some (.cells (St.mk a b c d e f).a t' (0, 0)) := by
  obtain ⟨ps, hv, _, hcell⟩ := h
  obtain ⟨g', t', cs, fuel, p, k1, k2, k3, k4, k5⟩ := laid_mem hv hm
  obtain rfl := Option.some.inj (hg.symm.trans k1)
  obtain rfl := Option.some.inj (ht.symm.trans k2)
  have hcs : cs = (St.mk a b c d e f).a := by
    apply Array.ext'
    exact six_of_trod ht2 k4
  have hpl : MemPlace.cell g 0 ∈ ps := by
    refine k5 _ ?_
    rw [hcs]
    show MemPlace.cell g 0 ∈ MemPlace.row ⟨g, 0, none⟩ 6
    simp [MemPlace.row]
  obtain ⟨⟨c', t'', hc⟩, _⟩ := hcell g 0 hpl
  refine ⟨t'', ?_⟩
  have hv : W.var? Tryd.prog n = some c' := by
    simp [World.var?, hg, hc]
  rw [k3] at hv
  rw [hc, ← Option.some.inj hv, hcs]

theorem std_of_laid {W : World} {laid : List (String × DataW Unit)} (h : laidMet Tryd.prog laid W) (hm : ("herald/setting.standard", Rows.laid_herald_setting_standard) ∈ laid) : Std W :=
  laid_six h (a := 4096) (b := 1) (c := 2147483647) (d := 65535) (e := 16384) (f := 2147483647) hm gStd gStdType (.inl rfl)
end Go.Proofs.YtfkimdgbkfogcaaDoor
