/- The row of ScriptFrames: its walk lifted to the given statement, and the card. -/
import Derived.Test.YtghppkfopglgaaaGreatDoorKaf
import Derived.Test.YtghppkfopglgaaaGreatDoorKaw
import Derived.SizedLaws
namespace Go.Proofs.YtghppkfopglgaaaGreatDoor
namespace PFrames
open Go.ChangeShapes Go.WideShapes Go.ChangeAt Go.RowKit
open Go.ChangeMaps (open_string shut_string)
set_option linter.unusedVariables false
set_option linter.unusedSimpArgs false

theorem wf_i64 {n : Int} (h : (Lit.int .i64 n).wf = true) : -9223372036854775808 ≤ n ∧ n ≤ 9223372036854775807 := by
  simp [Lit.wf] at h
  have h1 : IntKind.i64.min = -9223372036854775808 := by decide
  rw [h1] at h
  exact h
set_option maxRecDepth 100000 in
theorem contract (H : Type) (enc : TypeId × Value → H) (W : World) (base : Nat) (args : Array Value) (ds gs : List (DataW H)) (before : List MemPlace)
    (hval : ∀ (j : Nat) t v, Tryz.f5.params[j]? = some t → args[j]? = some v → Value.okWide Tryz.prog W .any base t v)
    (hW : DataW.Whole enc Tryz.prog Tryz.f5.params.toList Rows.scriptFramesSpec.vars false W args.toList ds gs before) (hsz0 : (DataW.weightsEach Tryz.prog (Tryz.f5.params.toList ++ (OpenSpec.ofChange Rows.scriptFramesSpec).bare.plain.varTypes Tryz.prog) (ds ++ gs)).all (· ≤ reachBytes) = true) (hL : laidMetH Tryz.prog Rows.scriptFramesRow.laid W) (hk : Rows.uptoSmall H (ds ++ gs) = true) :
    Calls Tryz.prog 5 args W fun e W' => ∃ v, e = .returned v ∧ Rows.scriptFramesSpec.post enc Tryz.prog Tryz.f5 false true false false W args v W' := by
  have hW' := hW
  obtain ⟨p, q, hA0, hV, rfl, hfz, hnd⟩ := hW
  have hA : DataW.TrodAll enc Tryz.prog W 0 (fun _ => true) true Tryz.f5.params.toList args.toList ds p := hA0
  have hsz := hsz0
  rw [Tryz.params5] at hA hval hsz
  obtain ⟨v0, vs0, d0, ds0, p0, q0, hargs, rfl, rfl, h0, r0⟩ := trodAll_cons hA
  obtain ⟨rfl, rfl, rfl⟩ := trodAll_nil r0
  obtain rfl : args = #[v0] := by cases args; simp_all
  obtain ⟨rfl, rfl⟩ := trodVars_none hV
  have hb0 : Rows.uptoBulk d0 ≤ 1048576 := by
    have hb := of_decide_eq_true hk
    simp only [Rows.uptoBulkAll, List.cons_append, List.nil_append] at hb
    omega
  obtain ⟨f0, u0, rfl, hP0, hf0, hk0⟩ := open_frame_upto (hval 0 55 v0 rfl rfl) h0 (weights_of hsz (j := 0) rfl rfl) hb0
  have hlt0 : ∀ x ∈ p0, x.block < W.heap.size := fun x hx => hW'.lt x (by simp [hx])
  have hL0 : laidMet Tryz.prog Rows.scriptFramesRow.laid W := hL
  have hE : Env W := env_of_laid hL0 (by simp [Rows.scriptFramesRow]) (by simp [Rows.scriptFramesRow]) (by simp [Rows.scriptFramesRow]) (by simp [Rows.scriptFramesRow]) (by simp [Rows.scriptFramesRow])
  clear hA0
  have hcall : Calls Tryz.prog 5 #[.agg (fmA f0 u0)] W (fun e w' => e = .returned (.bool true) ∧ Below W.heap.size W w') := by exact frames_law f0 hf0 hk0 u0 W hE hP0
  refine hcall.mono ?_
  rintro e W' ⟨rfl, bel⟩
  refine ⟨_, rfl, _, _, _, [], (p0 ++ []), [], hW', ?_, ?_, ?_, bel.frame _, fun h => by cases h⟩
  · exact trodAll_mk1 (shut_bool Tryz.underlying4 _)
  · exact ⟨p0, _, Below.trod laidOut (by kernel_rfl) (of_decide_eq_true (by kernel_rfl)) h0 bel hlt0, trodAll_mk0, rfl⟩
  · rfl

theorem laid_met (os : Os) (L : World) (hL : L = { World.holding Tryz.prog os ⟨#[], #[], []⟩ with heap := (((((((((((World.holding Tryz.prog os ⟨#[], #[], []⟩).heap.modify 0 fun
      | .cells _ t frozen => .cells cKn t frozen
      | o => o).modify 1 fun
      | .cells _ t frozen => .cells cMn t frozen
      | o => o).modify 2 fun
      | .cells _ t frozen => .cells cPow t frozen
      | o => o).modify 4 fun
      | .cells _ t frozen => .cells c32 t frozen
      | o => o).modify 5 fun
      | .cells _ t frozen => .cells c64 t frozen
      | o => o).modify 6 fun
      | .cells _ t frozen => .cells cSyn t frozen
      | o => o).modify 7 fun
      | .cells _ t frozen => .cells cRng t frozen
      | o => o)).push (.cells #[.string synS] 199)).push (.cells #[.string rngS] 199)) }) : laidMet Tryz.prog Rows.scriptFramesRow.laid ((L.forCall (fun _ _ => 0) ⟨#[], #[.agg #[.int .i64 0, .int .i64 0, .int .i64 0, .string ⟨#[]⟩, .int .i64 0, .int .i64 0, .bool false, .int .i64 0, .int .i64 0, .int .i64 0, .slice none 0 0]], []⟩).memory) := by
  subst hL
  exact laidMet_of_run' 8 (by kernel_rfl) (by kernel_rfl)
theorem reads (os : Os) (L : World) (hL : L = { World.holding Tryz.prog os ⟨#[], #[], []⟩ with heap := (((((((((((World.holding Tryz.prog os ⟨#[], #[], []⟩).heap.modify 0 fun
      | .cells _ t frozen => .cells cKn t frozen
      | o => o).modify 1 fun
      | .cells _ t frozen => .cells cMn t frozen
      | o => o).modify 2 fun
      | .cells _ t frozen => .cells cPow t frozen
      | o => o).modify 4 fun
      | .cells _ t frozen => .cells c32 t frozen
      | o => o).modify 5 fun
      | .cells _ t frozen => .cells c64 t frozen
      | o => o).modify 6 fun
      | .cells _ t frozen => .cells cSyn t frozen
      | o => o).modify 7 fun
      | .cells _ t frozen => .cells cRng t frozen
      | o => o)).push (.cells #[.string synS] 199)).push (.cells #[.string rngS] 199)) }) {H : Type} (enc : TypeId × Value → H) : ∃ places, DataW.whole enc Tryz.prog ((L.forCall (fun _ _ => 0) ⟨#[], #[.agg #[.int .i64 0, .int .i64 0, .int .i64 0, .string ⟨#[]⟩, .int .i64 0, .int .i64 0, .bool false, .int .i64 0, .int .i64 0, .int .i64 0, .slice none 0 0]], []⟩).memory) Tryz.f5.params.toList Rows.scriptFramesSpec.vars false #[Value.agg #[.int .i64 0, .int .i64 0, .int .i64 0, .string ⟨#[]⟩, .int .i64 0, .int .i64 0, .bool false, .int .i64 0, .int .i64 0, .int .i64 0, .slice none 0 0]].toList 8 = some ([.agg [.lit (.int .i64 0), .lit (.int .i64 0), .lit (.int .i64 0), .lit (.string []), .lit (.int .i64 0), .lit (.int .i64 0), .lit (.bool false), .lit (.int .i64 0), .lit (.int .i64 0), .lit (.int .i64 0), .nil]], [], places) := by
  subst hL
  exact ⟨[], by kernel_rfl⟩

set_option maxRecDepth 100000 in
theorem lifted (os : Os) (started : os.Started) (H : Type) (enc : TypeId × Value → H) (F : Stop.Interp) :
    ReturnsInHanded {} Tryz.checked os 5 .any ((Rows.OpenSpec.upto Rows.scriptFramesSpec).preRow enc Tryz.prog Tryz.f5 Rows.scriptFramesUptoRow.domain false Rows.scriptFramesUptoRow.laid) (((Rows.OpenSpec.upto Rows.scriptFramesSpec).at F).post enc Tryz.prog Tryz.f5 false true false false) := by
  obtain ⟨places, hx⟩ := reads os _ rfl enc
  refine returnsInHanded_of_row (C := Tryz.checked) (s := Rows.OpenSpec.upto Rows.scriptFramesSpec) own started (by kernel_rfl) Tryz.func5
    (witness_row_at (enc := enc) (C := Tryz.checked) false ({ World.holding Tryz.prog os ⟨#[], #[], []⟩ with heap := (((((((((((World.holding Tryz.prog os ⟨#[], #[], []⟩).heap.modify 0 fun
      | .cells _ t frozen => .cells cKn t frozen
      | o => o).modify 1 fun
      | .cells _ t frozen => .cells cMn t frozen
      | o => o).modify 2 fun
      | .cells _ t frozen => .cells cPow t frozen
      | o => o).modify 4 fun
      | .cells _ t frozen => .cells c32 t frozen
      | o => o).modify 5 fun
      | .cells _ t frozen => .cells c64 t frozen
      | o => o).modify 6 fun
      | .cells _ t frozen => .cells cSyn t frozen
      | o => o).modify 7 fun
      | .cells _ t frozen => .cells cRng t frozen
      | o => o)).push (.cells #[.string synS] 199)).push (.cells #[.string rngS] 199)) }) #[.agg #[.int .i64 0, .int .i64 0, .int .i64 0, .string ⟨#[]⟩, .int .i64 0, .int .i64 0, .bool false, .int .i64 0, .int .i64 0, .int .i64 0, .slice none 0 0]] rfl (by kernel_rfl) (by kernel_rfl) (by kernel_rfl)
      (OpenSpec.preRow_of_cond 8 hx (by kernel_rfl) (fun k hk => by cases hk; kernel_rfl) (by kernel_rfl) (laid_met os _ rfl))) ?_
  intro W base args ds gs before hval hW _ hcond hsz hL _ _
  exact contract H enc W base args ds gs before hval hW hsz hL (hcond _ rfl)

theorem said : Rows.ScriptFramesUptoSaid :=
  OpenClaim.holds_of_cond 5 Tryz.f5 rfl rfl rfl rfl rfl rfl rfl ⟨rfl, rfl, rfl, rfl, rfl⟩ rfl rfl rfl rfl rfl (by kernel_rfl) Tryz.func5 (by kernel_rfl)
    (of_decide_eq_true (by kernel_rfl)) (by unfold Func.isWrapper; first | (rw [if_pos (by decide +kernel)]; kernel_rfl) | (rw [if_neg (by decide +kernel)]; exact ⟨rfl, rfl⟩))
    (fun os started H enc _ F => by rw [OpenClaim.pre_eq_preRow]; exact lifted os started H enc F)

theorem plain (f : FuncId) (fn : Func) (hf : Tryz.pinned.checked.prog.funcNamed "herald/heraldlaw26.ScriptFrames" = some f) (hfn : Tryz.pinned.checked.prog.funcs[f]? = some fn) :
    true = Tryz.pinned.checked.prog.looks [] ∧ ∀ (j : Nat) t, fn.params[j]? = some t → Tryz.pinned.checked.prog.wantsStandIn t = false := by
  obtain rfl : f = 5 := Option.some.inj ((show Tryz.prog.funcNamed "herald/heraldlaw26.ScriptFrames" = some 5 by kernel_rfl).symm.trans hf) |>.symm
  obtain rfl : fn = Tryz.f5 := (Option.some.inj (Tryz.func5.symm.trans hfn)).symm
  refine ⟨by kernel_rfl, fun j t ht => ?_⟩
  rw [Tryz.params5] at ht
  rcases j with _ | j
  · obtain rfl : t = 55 := by simpa using ht.symm
    exact (show Tryz.prog.wantsStandIn 55 = false by kernel_rfl)
  · simp at ht
end PFrames

theorem scriptFramesUpto_holds : Rows.ScriptFramesUptoCardSaid :=
  Claim7.holds_tied_plain_at .later [] _ _ _ _ PFrames.said (fun _ h => by cases h) (by kernel_rfl) (fun _ h => by cases h) scriptFramesUpto_row_tie rfl ⟨rfl, rfl⟩ (by kernel_rfl) rfl PFrames.plain (by kernel_rfl)
end Go.Proofs.YtghppkfopglgaaaGreatDoor
