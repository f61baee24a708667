/- The row of MessageApart: its walk lifted to the given statement, and the card. -/
import Derived.Test.YtnbaojdildelmaaDoorE2
import Derived.Test.YtnbaojdildelmaaDoorR3
import Derived.SizedLaws
namespace Go.Proofs.YtnbaojdildelmaaDoor
namespace PApart
open Go.ChangeShapes Go.WideShapes Go.ChangeAt Go.RowKit
open Go.ChangeMaps (open_string shut_string)
set_option linter.unusedVariables false
set_option linter.unusedSimpArgs false

theorem wf_i64 {n : Int} (h : (Lit.int .i64 n).wf = true) : -9223372036854775808 ≤ n ∧ n ≤ 9223372036854775807 := by
  simp [Lit.wf] at h
  have h1 : IntKind.i64.min = -9223372036854775808 := by decide
  rw [h1] at h
  exact h
set_option maxRecDepth 100000 in
theorem contract (H : Type) (enc : TypeId × Value → H) (W : World) (base : Nat) (args : Array Value) (ds gs : List (DataW H)) (before : List MemPlace)
    (hval : ∀ (j : Nat) t v, Tryd.f3.params[j]? = some t → args[j]? = some v → Value.okWide Tryd.prog W .any base t v)
    (hW : DataW.Whole enc Tryd.prog Tryd.f3.params.toList Rows.messageApartSpec.vars false W args.toList ds gs before) (hsz0 : (DataW.weightsEach Tryd.prog (Tryd.f3.params.toList ++ (OpenSpec.ofChange Rows.messageApartSpec).bare.plain.varTypes Tryd.prog) (ds ++ gs)).all (· ≤ reachBytes) = true) (hL : laidMetH Tryd.prog Rows.messageApartRow.laid W) :
    Calls Tryd.prog 3 args W fun e W' => ∃ v, e = .returned v ∧ Rows.messageApartSpec.post enc Tryd.prog Tryd.f3 false true false false W args v W' := by
  have hW' := hW
  obtain ⟨p, q, hA0, hV, rfl, hfz, hnd⟩ := hW
  have hA : DataW.TrodAll enc Tryd.prog W 0 (fun _ => true) true Tryd.f3.params.toList args.toList ds p := hA0
  have hsz := hsz0
  rw [Tryd.params3] at hA hval hsz
  obtain ⟨v0, vs0, d0, ds0, p0, q0, hargs, rfl, rfl, h0, r0⟩ := trodAll_cons hA
  obtain ⟨rfl, rfl, rfl⟩ := trodAll_nil r0
  obtain rfl : args = #[v0] := by cases args; simp_all
  obtain ⟨rfl, rfl⟩ := trodVars_none hV
  obtain ⟨fu0, hfu0⟩ := h0
  obtain ⟨sa0, sl0, sc0, rfl⟩ := okWide_slice Tryd.underlying22 (hval 0 22 v0 rfl rfl)
  obtain ⟨y0, l0, ev0, hI0⟩ := open_strs hfu0
  have hlt0 : ∀ x ∈ p0, x.block < W.heap.size := fun x hx => hW'.lt x (by simp [hx])
  have hL0 : laidMet Tryd.prog _ W := hL
  have hT : Tab W := tab_of_laid hL0
  have hE : Er W := er_of_laid hL0
  clear hA0
  have hcall : Calls Tryd.prog 3 #[.slice sa0 sl0 sc0] W (fun e w' => e = .returned (.bool true) ∧ Below W.heap.size W w') := by rw [ev0]; exact messageApart_any y0 l0 W hI0 hE
  refine hcall.mono ?_
  rintro e W' ⟨rfl, bel⟩
  refine ⟨_, rfl, _, _, _, [], (p0 ++ []), [], hW', ?_, ?_, ?_, bel.frame _, fun h => by cases h⟩
  · exact trodAll_mk1 (shut_bool Tryd.underlying4 _)
  · exact ⟨p0, _, Below.trod laidOut (by kernel_rfl) (of_decide_eq_true (by kernel_rfl)) ⟨fu0, hfu0⟩ bel hlt0, trodAll_mk0, rfl⟩
  · rfl

theorem laid_met (os : Os) (L : World) (hL : L = { World.holding Tryd.prog os ⟨#[], #[], []⟩ with heap := (((((((((((World.holding Tryd.prog os ⟨#[], #[], []⟩).heap.modify 0 fun
      | .cells _ t frozen => .cells cPow t frozen
      | o => o).modify 1 fun
      | .cells _ t frozen => .cells c32 t frozen
      | o => o).modify 2 fun
      | .cells _ t frozen => .cells c64 t frozen
      | o => o).modify 3 fun
      | .cells _ t frozen => .cells cSyn t frozen
      | o => o).modify 4 fun
      | .cells _ t frozen => .cells cRng t frozen
      | o => o).modify 6 fun
      | .cells _ t frozen => .cells cFirst t frozen
      | o => o).modify 7 fun
      | .cells _ t frozen => .cells cAccept t frozen
      | o => o)).push (.cells #[.string synS] 122)).push (.cells #[.string rngS] 122)) }) : laidMet Tryd.prog Rows.messageApartRow.laid ((L.forCall (fun _ _ => 0) ⟨#[], #[.slice none 0 0], []⟩).memory) := by
  subst hL
  exact laidMet_of_run' 8 (by kernel_rfl) (by kernel_rfl)
theorem reads (os : Os) (L : World) (hL : L = { World.holding Tryd.prog os ⟨#[], #[], []⟩ with heap := (((((((((((World.holding Tryd.prog os ⟨#[], #[], []⟩).heap.modify 0 fun
      | .cells _ t frozen => .cells cPow t frozen
      | o => o).modify 1 fun
      | .cells _ t frozen => .cells c32 t frozen
      | o => o).modify 2 fun
      | .cells _ t frozen => .cells c64 t frozen
      | o => o).modify 3 fun
      | .cells _ t frozen => .cells cSyn t frozen
      | o => o).modify 4 fun
      | .cells _ t frozen => .cells cRng t frozen
      | o => o).modify 6 fun
      | .cells _ t frozen => .cells cFirst t frozen
      | o => o).modify 7 fun
      | .cells _ t frozen => .cells cAccept t frozen
      | o => o)).push (.cells #[.string synS] 122)).push (.cells #[.string rngS] 122)) }) {H : Type} (enc : TypeId × Value → H) : ∃ places, DataW.whole enc Tryd.prog ((L.forCall (fun _ _ => 0) ⟨#[], #[.slice none 0 0], []⟩).memory) Tryd.f3.params.toList Rows.messageApartSpec.vars false #[Value.slice none 0 0].toList 8 = some ([.nil], [], places) := by
  subst hL
  exact ⟨[], by kernel_rfl⟩

set_option maxRecDepth 100000 in
theorem lifted (os : Os) (started : os.Started) (H : Type) (enc : TypeId × Value → H) (F : Stop.Interp) :
    ReturnsInHanded {} Tryd.checked os 3 .any ((OpenSpec.ofChange Rows.messageApartSpec).preRow enc Tryd.prog Tryd.f3 Rows.messageApartRow.domain false Rows.messageApartRow.laid) (((OpenSpec.ofChange Rows.messageApartSpec).at F).post enc Tryd.prog Tryd.f3 false true false false) := by
  obtain ⟨places, hx⟩ := reads os _ rfl enc
  refine returnsInHanded_of_row (C := Tryd.checked) (s := OpenSpec.ofChange Rows.messageApartSpec) own started (by kernel_rfl) Tryd.func3
    (witness_row_at (enc := enc) (C := Tryd.checked) false ({ World.holding Tryd.prog os ⟨#[], #[], []⟩ with heap := (((((((((((World.holding Tryd.prog os ⟨#[], #[], []⟩).heap.modify 0 fun
      | .cells _ t frozen => .cells cPow t frozen
      | o => o).modify 1 fun
      | .cells _ t frozen => .cells c32 t frozen
      | o => o).modify 2 fun
      | .cells _ t frozen => .cells c64 t frozen
      | o => o).modify 3 fun
      | .cells _ t frozen => .cells cSyn t frozen
      | o => o).modify 4 fun
      | .cells _ t frozen => .cells cRng t frozen
      | o => o).modify 6 fun
      | .cells _ t frozen => .cells cFirst t frozen
      | o => o).modify 7 fun
      | .cells _ t frozen => .cells cAccept t frozen
      | o => o)).push (.cells #[.string synS] 122)).push (.cells #[.string rngS] 122)) }) #[.slice none 0 0] rfl (by kernel_rfl) (by kernel_rfl) (by kernel_rfl)
      (OpenSpec.preRow_of_cond 8 hx (by kernel_rfl) (fun k hk => by cases hk) (by kernel_rfl) (laid_met os _ rfl))) ?_
  intro W base args ds gs before hval hW _ _ hsz hL _ _
  exact contract H enc W base args ds gs before hval hW hsz hL

theorem said : Rows.MessageApartSaid :=
  OpenClaim.holds_of_cond 3 Tryd.f3 rfl rfl rfl rfl rfl rfl rfl ⟨rfl, rfl, rfl, rfl, rfl⟩ rfl rfl rfl rfl rfl (by kernel_rfl) Tryd.func3 (by kernel_rfl)
    (of_decide_eq_true (by kernel_rfl)) (by unfold Func.isWrapper; first | (rw [if_pos (by decide +kernel)]; kernel_rfl) | (rw [if_neg (by decide +kernel)]; exact ⟨rfl, rfl⟩))
    (fun os started H enc _ F => by rw [OpenClaim.pre_eq_preRow]; exact lifted os started H enc F)

theorem plain (f : FuncId) (fn : Func) (hf : Tryd.pinned.checked.prog.funcNamed "herald/heraldlaw14.MessageApart" = some f) (hfn : Tryd.pinned.checked.prog.funcs[f]? = some fn) :
    true = Tryd.pinned.checked.prog.looks [] ∧ ∀ (j : Nat) t, fn.params[j]? = some t → Tryd.pinned.checked.prog.wantsStandIn t = false := by
  obtain rfl : f = 3 := Option.some.inj ((show Tryd.prog.funcNamed "herald/heraldlaw14.MessageApart" = some 3 by kernel_rfl).symm.trans hf) |>.symm
  obtain rfl : fn = Tryd.f3 := (Option.some.inj (Tryd.func3.symm.trans hfn)).symm
  refine ⟨by kernel_rfl, fun j t ht => ?_⟩
  rw [Tryd.params3] at ht
  rcases j with _ | j
  · obtain rfl : t = 22 := by simpa using ht.symm
    exact (show Tryd.prog.wantsStandIn 22 = false by kernel_rfl)
  · simp at ht
end PApart

theorem messageApart_holds : Rows.MessageApartCardSaid :=
  Claim7.holds_tied_plain_at .later [] _ _ _ _ PApart.said (fun _ h => by cases h) (by kernel_rfl) (fun _ h => by cases h) messageApart_row_tie rfl ⟨rfl, rfl⟩ (by kernel_rfl) rfl PApart.plain (by kernel_rfl)
end Go.Proofs.YtnbaojdildelmaaDoor
