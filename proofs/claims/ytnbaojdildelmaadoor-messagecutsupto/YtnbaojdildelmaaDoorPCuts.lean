/- The row of MessageCuts: its walk lifted to the given statement, and the card. -/
import Derived.Test.YtnbaojdildelmaaDoorE1
import Derived.Test.YtnbaojdildelmaaDoorL3
import Derived.SizedLaws
namespace Go.Proofs.YtnbaojdildelmaaDoor
namespace PCuts
open Go.ChangeShapes Go.WideShapes Go.ChangeAt Go.RowKit
open Go.ChangeMaps (open_string shut_string)
set_option linter.unusedVariables false
set_option linter.unusedSimpArgs false

theorem wf_i64 {n : Int} (h : (Lit.int .i64 n).wf = true) : -9223372036854775808 ≤ n ∧ n ≤ 9223372036854775807 := by
  simp [Lit.wf] at h
  have h1 : IntKind.i64.min = -9223372036854775808 := by decide
  rw [h1] at h
  exact h
set_option maxRecDepth 100000 in
theorem contract (H : Type) (enc : TypeId × Value → H) (W : World) (base : Nat) (args : Array Value) (ds gs : List (DataW H)) (before : List MemPlace)
    (hval : ∀ (j : Nat) t v, Tryd.f6.params[j]? = some t → args[j]? = some v → Value.okWide Tryd.prog W .any base t v)
    (hW : DataW.Whole enc Tryd.prog Tryd.f6.params.toList Rows.messageCutsSpec.vars false W args.toList ds gs before) (hsz0 : (DataW.weightsEach Tryd.prog (Tryd.f6.params.toList ++ (OpenSpec.ofChange Rows.messageCutsSpec).bare.plain.varTypes Tryd.prog) (ds ++ gs)).all (· ≤ reachBytes) = true) (hL : laidMetH Tryd.prog Rows.messageCutsRow.laid W) (hk : Rows.uptoSmall H (ds ++ gs) = true) :
    Calls Tryd.prog 6 args W fun e W' => ∃ v, e = .returned v ∧ Rows.messageCutsSpec.post enc Tryd.prog Tryd.f6 false true false false W args v W' := by
  have hW' := hW
  obtain ⟨p, q, hA0, hV, rfl, hfz, hnd⟩ := hW
  have hA : DataW.TrodAll enc Tryd.prog W 0 (fun _ => true) true Tryd.f6.params.toList args.toList ds p := hA0
  have hsz := hsz0
  rw [Tryd.params6] at hA hval hsz
  obtain ⟨v0, vs0, d0, ds0, p0, q0, hargs, rfl, rfl, h0, r0⟩ := trodAll_cons hA
  obtain ⟨v1, vs1, d1, ds1, p1, q1, rfl, rfl, rfl, h1, r1⟩ := trodAll_cons r0
  obtain ⟨v2, vs2, d2, ds2, p2, q2, rfl, rfl, rfl, h2, r2⟩ := trodAll_cons r1
  obtain ⟨v3, vs3, d3, ds3, p3, q3, rfl, rfl, rfl, h3, r3⟩ := trodAll_cons r2
  obtain ⟨v4, vs4, d4, ds4, p4, q4, rfl, rfl, rfl, h4, r4⟩ := trodAll_cons r3
  obtain ⟨v5, vs5, d5, ds5, p5, q5, rfl, rfl, rfl, h5, r5⟩ := trodAll_cons r4
  obtain ⟨rfl, rfl, rfl⟩ := trodAll_nil r5
  obtain rfl : args = #[v0, v1, v2, v3, v4, v5] := by cases args; simp_all
  obtain ⟨rfl, rfl⟩ := trodVars_none hV
  obtain ⟨a0, rfl, rfl, rfl, w0⟩ := open_string Tryd.underlying9 (hval 0 9 v0 rfl rfl) h0
  have hz0 : a0.size ≤ 140737488351232 := by have := weights_of hsz (j := 0) rfl rfl a0.size (by simp [DataW.weights]); simpa [reachBytes] using this
  have hb0 : a0.size ≤ 1048576 := by
    have hb := of_decide_eq_true hk
    simp only [Rows.uptoBulkAll, Rows.uptoBulk, List.cons_append, List.nil_append] at hb
    have h5 := Lib.size_eq a0
    omega
  obtain ⟨a1, rfl, rfl, rfl, w1⟩ := open_int Tryd.underlying3 (hval 1 3 v1 rfl rfl) h1
  obtain ⟨fu2, hfu2⟩ := h2
  obtain ⟨sa2, sl2, sc2, rfl⟩ := okWide_slice Tryd.underlying46 (hval 2 46 v2 rfl rfl)
  obtain ⟨y2, l2, ev2, hI2⟩ := open_ints hfu2
  have hlt2 : ∀ x ∈ p2, x.block < W.heap.size := fun x hx => hW'.lt x (by simp [hx])
  obtain ⟨fu3, hfu3⟩ := h3
  obtain ⟨sa3, sl3, sc3, rfl⟩ := okWide_slice Tryd.underlying46 (hval 3 46 v3 rfl rfl)
  obtain ⟨y3, l3, ev3, hI3⟩ := open_ints hfu3
  have hlt3 : ∀ x ∈ p3, x.block < W.heap.size := fun x hx => hW'.lt x (by simp [hx])
  obtain ⟨a4, rfl, rfl, rfl⟩ := open_bool Tryd.underlying4 (hval 4 4 v4 rfl rfl) h4
  obtain ⟨a5, rfl, rfl, rfl, w5⟩ := open_int Tryd.underlying2 (hval 5 2 v5 rfl rfl) h5
  have hL0 : laidMet Tryd.prog _ W := hL
  have hT : Tab W := tab_of_laid hL0
  have hE : Er W := er_of_laid hL0
  clear hA0
  have hcall : Calls Tryd.prog 6 #[.string a0, .int .i64 a1, .slice sa2 sl2 sc2, .slice sa3 sl3 sc3, .bool a4, .int .i64 a5] W (fun e w' => e = .returned (.bool true) ∧ Below W.heap.size W w') := by rw [ev2]; rw [ev3]; exact messageCuts_any a0 a1 y2 y3 l2 l3 a4 a5 W hb0 (wf_i64 w1).1 (wf_i64 w1).2 hI2 hI3 (wf_i64 w5).1 (wf_i64 w5).2 hE hT
  refine hcall.mono ?_
  rintro e W' ⟨rfl, bel⟩
  refine ⟨_, rfl, _, _, _, [], ([] ++ ([] ++ (p2 ++ (p3 ++ ([] ++ ([] ++ [])))))), [], hW', ?_, ?_, ?_, bel.frame _, fun h => by cases h⟩
  · exact trodAll_mk1 (shut_bool Tryd.underlying4 _)
  · exact ⟨[], _, shut_string Tryd.underlying9 w0, ⟨[], _, shut_int Tryd.underlying3 w1, ⟨p2, _, Below.trod laidOut (by kernel_rfl) (of_decide_eq_true (by kernel_rfl)) ⟨fu2, hfu2⟩ bel hlt2, ⟨p3, _, Below.trod laidOut (by kernel_rfl) (of_decide_eq_true (by kernel_rfl)) ⟨fu3, hfu3⟩ bel hlt3, ⟨[], _, shut_bool Tryd.underlying4 _, ⟨[], _, shut_int Tryd.underlying2 w5, trodAll_mk0, rfl⟩, rfl⟩, rfl⟩, rfl⟩, rfl⟩, rfl⟩
  · rfl

theorem laid_met (os : Os) (L : World) (hL : L = { World.holding Tryd.prog os ⟨#[], #[], []⟩ with heap := (((((((((((World.holding Tryd.prog os ⟨#[], #[], []⟩).heap.modify 0 fun
      | .cells _ t frozen => .cells cPow t frozen
      | o => o).modify 1 fun
      | .cells _ t frozen => .cells c32 t frozen
      | o => o).modify 2 fun
      | .cells _ t frozen => .cells c64 t frozen
      | o => o).modify 3 fun
      | .cells _ t frozen => .cells cSyn t frozen
      | o => o).modify 4 fun
      | .cells _ t frozen => .cells cRng t frozen
      | o => o).modify 6 fun
      | .cells _ t frozen => .cells cFirst t frozen
      | o => o).modify 7 fun
      | .cells _ t frozen => .cells cAccept t frozen
      | o => o)).push (.cells #[.string synS] 122)).push (.cells #[.string rngS] 122)) }) : laidMet Tryd.prog Rows.messageCutsRow.laid ((L.forCall (fun _ _ => 0) ⟨#[], #[.string ⟨#[]⟩, .int .i64 0, .slice none 0 0, .slice none 0 0, .bool false, .int .i64 0], []⟩).memory) := by
  subst hL
  exact laidMet_of_run' 8 (by kernel_rfl) (by kernel_rfl)
theorem reads (os : Os) (L : World) (hL : L = { World.holding Tryd.prog os ⟨#[], #[], []⟩ with heap := (((((((((((World.holding Tryd.prog os ⟨#[], #[], []⟩).heap.modify 0 fun
      | .cells _ t frozen => .cells cPow t frozen
      | o => o).modify 1 fun
      | .cells _ t frozen => .cells c32 t frozen
      | o => o).modify 2 fun
      | .cells _ t frozen => .cells c64 t frozen
      | o => o).modify 3 fun
      | .cells _ t frozen => .cells cSyn t frozen
      | o => o).modify 4 fun
      | .cells _ t frozen => .cells cRng t frozen
      | o => o).modify 6 fun
      | .cells _ t frozen => .cells cFirst t frozen
      | o => o).modify 7 fun
      | .cells _ t frozen => .cells cAccept t frozen
      | o => o)).push (.cells #[.string synS] 122)).push (.cells #[.string rngS] 122)) }) {H : Type} (enc : TypeId × Value → H) : ∃ places, DataW.whole enc Tryd.prog ((L.forCall (fun _ _ => 0) ⟨#[], #[.string ⟨#[]⟩, .int .i64 0, .slice none 0 0, .slice none 0 0, .bool false, .int .i64 0], []⟩).memory) Tryd.f6.params.toList Rows.messageCutsSpec.vars false #[Value.string ⟨#[]⟩, .int .i64 0, .slice none 0 0, .slice none 0 0, .bool false, .int .i64 0].toList 8 = some ([.lit (.string []), .lit (.int .i64 0), .nil, .nil, .lit (.bool false), .lit (.int .i64 0)], [], places) := by
  subst hL
  exact ⟨[], by kernel_rfl⟩

set_option maxRecDepth 100000 in
theorem lifted (os : Os) (started : os.Started) (H : Type) (enc : TypeId × Value → H) (F : Stop.Interp) :
    ReturnsInHanded {} Tryd.checked os 6 .any ((Rows.OpenSpec.upto Rows.messageCutsSpec).preRow enc Tryd.prog Tryd.f6 Rows.messageCutsUptoRow.domain false Rows.messageCutsUptoRow.laid) (((Rows.OpenSpec.upto Rows.messageCutsSpec).at F).post enc Tryd.prog Tryd.f6 false true false false) := by
  obtain ⟨places, hx⟩ := reads os _ rfl enc
  refine returnsInHanded_of_row (C := Tryd.checked) (s := Rows.OpenSpec.upto Rows.messageCutsSpec) own started (by kernel_rfl) Tryd.func6
    (witness_row_at (enc := enc) (C := Tryd.checked) false ({ World.holding Tryd.prog os ⟨#[], #[], []⟩ with heap := (((((((((((World.holding Tryd.prog os ⟨#[], #[], []⟩).heap.modify 0 fun
      | .cells _ t frozen => .cells cPow t frozen
      | o => o).modify 1 fun
      | .cells _ t frozen => .cells c32 t frozen
      | o => o).modify 2 fun
      | .cells _ t frozen => .cells c64 t frozen
      | o => o).modify 3 fun
      | .cells _ t frozen => .cells cSyn t frozen
      | o => o).modify 4 fun
      | .cells _ t frozen => .cells cRng t frozen
      | o => o).modify 6 fun
      | .cells _ t frozen => .cells cFirst t frozen
      | o => o).modify 7 fun
      | .cells _ t frozen => .cells cAccept t frozen
      | o => o)).push (.cells #[.string synS] 122)).push (.cells #[.string rngS] 122)) }) #[.string ⟨#[]⟩, .int .i64 0, .slice none 0 0, .slice none 0 0, .bool false, .int .i64 0] rfl (by kernel_rfl) (by kernel_rfl) (by kernel_rfl)
      (OpenSpec.preRow_of_cond 8 hx (by kernel_rfl) (fun k hk => by cases hk; kernel_rfl) (by kernel_rfl) (laid_met os _ rfl))) ?_
  intro W base args ds gs before hval hW _ hcond hsz hL _ _
  exact contract H enc W base args ds gs before hval hW hsz hL (hcond _ rfl)

theorem said : Rows.MessageCutsUptoSaid :=
  OpenClaim.holds_of_cond 6 Tryd.f6 rfl rfl rfl rfl rfl rfl rfl ⟨rfl, rfl, rfl, rfl, rfl⟩ rfl rfl rfl rfl rfl (by kernel_rfl) Tryd.func6 (by kernel_rfl)
    (of_decide_eq_true (by kernel_rfl)) (by unfold Func.isWrapper; first | (rw [if_pos (by decide +kernel)]; kernel_rfl) | (rw [if_neg (by decide +kernel)]; exact ⟨rfl, rfl⟩))
    (fun os started H enc _ F => by rw [OpenClaim.pre_eq_preRow]; exact lifted os started H enc F)

theorem plain (f : FuncId) (fn : Func) (hf : Tryd.pinned.checked.prog.funcNamed "herald/heraldlaw14.MessageCuts" = some f) (hfn : Tryd.pinned.checked.prog.funcs[f]? = some fn) :
    true = Tryd.pinned.checked.prog.looks [] ∧ ∀ (j : Nat) t, fn.params[j]? = some t → Tryd.pinned.checked.prog.wantsStandIn t = false := by
  obtain rfl : f = 6 := Option.some.inj ((show Tryd.prog.funcNamed "herald/heraldlaw14.MessageCuts" = some 6 by kernel_rfl).symm.trans hf) |>.symm
  obtain rfl : fn = Tryd.f6 := (Option.some.inj (Tryd.func6.symm.trans hfn)).symm
  refine ⟨by kernel_rfl, fun j t ht => ?_⟩
  rw [Tryd.params6] at ht
  rcases j with _ | _ | _ | _ | _ | _ | j
  · obtain rfl : t = 9 := by simpa using ht.symm
    exact (show Tryd.prog.wantsStandIn 9 = false by kernel_rfl)
  · obtain rfl : t = 3 := by simpa using ht.symm
    exact (show Tryd.prog.wantsStandIn 3 = false by kernel_rfl)
  · obtain rfl : t = 46 := by simpa using ht.symm
    exact (show Tryd.prog.wantsStandIn 46 = false by kernel_rfl)
  · obtain rfl : t = 46 := by simpa using ht.symm
    exact (show Tryd.prog.wantsStandIn 46 = false by kernel_rfl)
  · obtain rfl : t = 4 := by simpa using ht.symm
    exact (show Tryd.prog.wantsStandIn 4 = false by kernel_rfl)
  · obtain rfl : t = 2 := by simpa using ht.symm
    exact (show Tryd.prog.wantsStandIn 2 = false by kernel_rfl)
  · simp at ht
end PCuts

theorem messageCutsUpto_holds : Rows.MessageCutsUptoCardSaid :=
  Claim7.holds_tied_plain_at .later [] _ _ _ _ PCuts.said (fun _ h => by cases h) (by kernel_rfl) (fun _ h => by cases h) messageCutsUpto_row_tie rfl ⟨rfl, rfl⟩ (by kernel_rfl) rfl PCuts.plain (by kernel_rfl)
end Go.Proofs.YtnbaojdildelmaaDoor
