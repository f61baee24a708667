/- The row of ScriptNumbers: its walk lifted to the given statement, and the card. -/
import Derived.Test.YtghppkfopglgaaaGreatDoorKaf
import Derived.Test.YtghppkfopglgaaaGreatDoorGd
import Derived.SizedLaws
namespace Go.Proofs.YtghppkfopglgaaaGreatDoor
namespace PNumbers
open Go.ChangeShapes Go.WideShapes Go.ChangeAt Go.RowKit
open Go.ChangeMaps (open_string shut_string)
set_option linter.unusedVariables false
set_option linter.unusedSimpArgs false

theorem wf_i64 {n : Int} (h : (Lit.int .i64 n).wf = true) : -9223372036854775808 ≤ n ∧ n ≤ 9223372036854775807 := by
  simp [Lit.wf] at h
  have h1 : IntKind.i64.min = -9223372036854775808 := by decide
  rw [h1] at h
  exact h
set_option maxRecDepth 100000 in
theorem contract (H : Type) (enc : TypeId × Value → H) (W : World) (base : Nat) (args : Array Value) (ds gs : List (DataW H)) (before : List MemPlace)
    (hval : ∀ (j : Nat) t v, Tryz.f4.params[j]? = some t → args[j]? = some v → Value.okWide Tryz.prog W .any base t v)
    (hW : DataW.Whole enc Tryz.prog Tryz.f4.params.toList Rows.scriptNumbersSpec.vars false W args.toList ds gs before) (hsz0 : (DataW.weightsEach Tryz.prog (Tryz.f4.params.toList ++ (OpenSpec.ofChange Rows.scriptNumbersSpec).bare.plain.varTypes Tryz.prog) (ds ++ gs)).all (· ≤ reachBytes) = true) (hL : laidMetH Tryz.prog Rows.scriptNumbersRow.laid W) :
    Calls Tryz.prog 4 args W fun e W' => ∃ v, e = .returned v ∧ Rows.scriptNumbersSpec.post enc Tryz.prog Tryz.f4 false true false false W args v W' := by
  have hW' := hW
  obtain ⟨p, q, hA0, hV, rfl, hfz, hnd⟩ := hW
  have hA : DataW.TrodAll enc Tryz.prog W 0 (fun _ => true) true Tryz.f4.params.toList args.toList ds p := hA0
  have hsz := hsz0
  rw [Tryz.params4] at hA hval hsz
  obtain ⟨v0, vs0, d0, ds0, p0, q0, hargs, rfl, rfl, h0, r0⟩ := trodAll_cons hA
  obtain ⟨v1, vs1, d1, ds1, p1, q1, rfl, rfl, rfl, h1, r1⟩ := trodAll_cons r0
  obtain ⟨rfl, rfl, rfl⟩ := trodAll_nil r1
  obtain rfl : args = #[v0, v1] := by cases args; simp_all
  obtain ⟨rfl, rfl⟩ := trodVars_none hV
  obtain ⟨a0, rfl, rfl, rfl, w0⟩ := open_int Tryz.underlying2 (hval 0 2 v0 rfl rfl) h0
  obtain ⟨a1, rfl, rfl, rfl, w1⟩ := open_int Tryz.underlying2 (hval 1 2 v1 rfl rfl) h1
  have hL0 : laidMet Tryz.prog Rows.scriptNumbersRow.laid W := hL
  have hE : Env W := env_of_laid hL0 (by simp [Rows.scriptNumbersRow]) (by simp [Rows.scriptNumbersRow]) (by simp [Rows.scriptNumbersRow]) (by simp [Rows.scriptNumbersRow]) (by simp [Rows.scriptNumbersRow])
  clear hA0
  have hcall : Calls Tryz.prog 4 #[.int .i64 a0, .int .i64 a1] W (fun e w' => e = .returned (.bool true) ∧ Below W.heap.size W w') := by exact numbers_law a0 a1 (wf_I64 w0) (wf_I64 w1) W hE
  refine hcall.mono ?_
  rintro e W' ⟨rfl, bel⟩
  refine ⟨_, rfl, _, _, _, [], ([] ++ ([] ++ [])), [], hW', ?_, ?_, ?_, bel.frame _, fun h => by cases h⟩
  · exact trodAll_mk1 (shut_bool Tryz.underlying4 _)
  · exact ⟨[], _, shut_int Tryz.underlying2 w0, ⟨[], _, shut_int Tryz.underlying2 w1, trodAll_mk0, rfl⟩, rfl⟩
  · rfl

theorem laid_met (os : Os) (L : World) (hL : L = { World.holding Tryz.prog os ⟨#[], #[], []⟩ with heap := (((((((((((World.holding Tryz.prog os ⟨#[], #[], []⟩).heap.modify 0 fun
      | .cells _ t frozen => .cells cKn t frozen
      | o => o).modify 1 fun
      | .cells _ t frozen => .cells cMn t frozen
      | o => o).modify 2 fun
      | .cells _ t frozen => .cells cPow t frozen
      | o => o).modify 4 fun
      | .cells _ t frozen => .cells c32 t frozen
      | o => o).modify 5 fun
      | .cells _ t frozen => .cells c64 t frozen
      | o => o).modify 6 fun
      | .cells _ t frozen => .cells cSyn t frozen
      | o => o).modify 7 fun
      | .cells _ t frozen => .cells cRng t frozen
      | o => o)).push (.cells #[.string synS] 199)).push (.cells #[.string rngS] 199)) }) : laidMet Tryz.prog Rows.scriptNumbersRow.laid ((L.forCall (fun _ _ => 0) ⟨#[], #[.int .i64 0, .int .i64 0], []⟩).memory) := by
  subst hL
  exact laidMet_of_run' 8 (by kernel_rfl) (by kernel_rfl)
theorem reads (os : Os) (L : World) (hL : L = { World.holding Tryz.prog os ⟨#[], #[], []⟩ with heap := (((((((((((World.holding Tryz.prog os ⟨#[], #[], []⟩).heap.modify 0 fun
      | .cells _ t frozen => .cells cKn t frozen
      | o => o).modify 1 fun
      | .cells _ t frozen => .cells cMn t frozen
      | o => o).modify 2 fun
      | .cells _ t frozen => .cells cPow t frozen
      | o => o).modify 4 fun
      | .cells _ t frozen => .cells c32 t frozen
      | o => o).modify 5 fun
      | .cells _ t frozen => .cells c64 t frozen
      | o => o).modify 6 fun
      | .cells _ t frozen => .cells cSyn t frozen
      | o => o).modify 7 fun
      | .cells _ t frozen => .cells cRng t frozen
      | o => o)).push (.cells #[.string synS] 199)).push (.cells #[.string rngS] 199)) }) {H : Type} (enc : TypeId × Value → H) : ∃ places, DataW.whole enc Tryz.prog ((L.forCall (fun _ _ => 0) ⟨#[], #[.int .i64 0, .int .i64 0], []⟩).memory) Tryz.f4.params.toList Rows.scriptNumbersSpec.vars false #[Value.int .i64 0, .int .i64 0].toList 8 = some ([.lit (.int .i64 0), .lit (.int .i64 0)], [], places) := by
  subst hL
  exact ⟨[], by kernel_rfl⟩

set_option maxRecDepth 100000 in
theorem lifted (os : Os) (started : os.Started) (H : Type) (enc : TypeId × Value → H) (F : Stop.Interp) :
    ReturnsInHanded {} Tryz.checked os 4 .any ((OpenSpec.ofChange Rows.scriptNumbersSpec).preRow enc Tryz.prog Tryz.f4 Rows.scriptNumbersRow.domain false Rows.scriptNumbersRow.laid) (((OpenSpec.ofChange Rows.scriptNumbersSpec).at F).post enc Tryz.prog Tryz.f4 false true false false) := by
  obtain ⟨places, hx⟩ := reads os _ rfl enc
  refine returnsInHanded_of_row (C := Tryz.checked) (s := OpenSpec.ofChange Rows.scriptNumbersSpec) own started (by kernel_rfl) Tryz.func4
    (witness_row_at (enc := enc) (C := Tryz.checked) false ({ World.holding Tryz.prog os ⟨#[], #[], []⟩ with heap := (((((((((((World.holding Tryz.prog os ⟨#[], #[], []⟩).heap.modify 0 fun
      | .cells _ t frozen => .cells cKn t frozen
      | o => o).modify 1 fun
      | .cells _ t frozen => .cells cMn t frozen
      | o => o).modify 2 fun
      | .cells _ t frozen => .cells cPow t frozen
      | o => o).modify 4 fun
      | .cells _ t frozen => .cells c32 t frozen
      | o => o).modify 5 fun
      | .cells _ t frozen => .cells c64 t frozen
      | o => o).modify 6 fun
      | .cells _ t frozen => .cells cSyn t frozen
      | o => o).modify 7 fun
      | .cells _ t frozen => .cells cRng t frozen
      | o => o)).push (.cells #[.string synS] 199)).push (.cells #[.string rngS] 199)) }) #[.int .i64 0, .int .i64 0] rfl (by kernel_rfl) (by kernel_rfl) (by kernel_rfl)
      (OpenSpec.preRow_of_cond 8 hx (by kernel_rfl) (fun k hk => by cases hk) (by kernel_rfl) (laid_met os _ rfl))) ?_
  intro W base args ds gs before hval hW _ _ hsz hL _ _
  exact contract H enc W base args ds gs before hval hW hsz hL

theorem said : Rows.ScriptNumbersSaid :=
  OpenClaim.holds_of_cond 4 Tryz.f4 rfl rfl rfl rfl rfl rfl rfl ⟨rfl, rfl, rfl, rfl, rfl⟩ rfl rfl rfl rfl rfl (by kernel_rfl) Tryz.func4 (by kernel_rfl)
    (of_decide_eq_true (by kernel_rfl)) (by unfold Func.isWrapper; first | (rw [if_pos (by decide +kernel)]; kernel_rfl) | (rw [if_neg (by decide +kernel)]; exact ⟨rfl, rfl⟩))
    (fun os started H enc _ F => by rw [OpenClaim.pre_eq_preRow]; exact lifted os started H enc F)

theorem plain (f : FuncId) (fn : Func) (hf : Tryz.pinned.checked.prog.funcNamed "herald/heraldlaw26.ScriptNumbers" = some f) (hfn : Tryz.pinned.checked.prog.funcs[f]? = some fn) :
    true = Tryz.pinned.checked.prog.looks [] ∧ ∀ (j : Nat) t, fn.params[j]? = some t → Tryz.pinned.checked.prog.wantsStandIn t = false := by
  obtain rfl : f = 4 := Option.some.inj ((show Tryz.prog.funcNamed "herald/heraldlaw26.ScriptNumbers" = some 4 by kernel_rfl).symm.trans hf) |>.symm
  obtain rfl : fn = Tryz.f4 := (Option.some.inj (Tryz.func4.symm.trans hfn)).symm
  refine ⟨by kernel_rfl, fun j t ht => ?_⟩
  rw [Tryz.params4] at ht
  rcases j with _ | _ | j
  · obtain rfl : t = 2 := by simpa using ht.symm
    exact (show Tryz.prog.wantsStandIn 2 = false by kernel_rfl)
  · obtain rfl : t = 2 := by simpa using ht.symm
    exact (show Tryz.prog.wantsStandIn 2 = false by kernel_rfl)
  · simp at ht
end PNumbers

theorem scriptNumbers_holds : Rows.ScriptNumbersCardSaid :=
  Claim7.holds_tied_plain_at .later [] _ _ _ _ PNumbers.said (fun _ h => by cases h) (by kernel_rfl) (fun _ h => by cases h) scriptNumbers_row_tie rfl ⟨rfl, rfl⟩ (by kernel_rfl) rfl PNumbers.plain (by kernel_rfl)
end Go.Proofs.YtghppkfopglgaaaGreatDoor
