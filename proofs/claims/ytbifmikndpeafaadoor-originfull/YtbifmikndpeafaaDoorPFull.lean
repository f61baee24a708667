/- The row of OriginFull: its walk lifted to the given statement, and the card. -/
import Derived.Test.YtbifmikndpeafaaDoorP2
import Derived.Test.YtbifmikndpeafaaDoorH3
import Derived.SizedLaws
namespace Go.Proofs.YtbifmikndpeafaaDoor
namespace PFull
open Go.ChangeShapes Go.WideShapes Go.ChangeAt Go.RowKit
open Go.ChangeMaps (open_string shut_string)
set_option linter.unusedVariables false
set_option linter.unusedSimpArgs false

set_option maxRecDepth 100000 in
theorem contract (H : Type) (enc : TypeId × Value → H) (W : World) (base : Nat) (args : Array Value) (ds gs : List (DataW H)) (before : List MemPlace)
    (hval : ∀ (j : Nat) t v, Tryd.f5.params[j]? = some t → args[j]? = some v → Value.okWide Tryd.prog W .any base t v)
    (hW : DataW.Whole enc Tryd.prog Tryd.f5.params.toList Rows.originFullSpec.vars false W args.toList ds gs before) (hsz0 : (DataW.weightsEach Tryd.prog (Tryd.f5.params.toList ++ (OpenSpec.ofChange Rows.originFullSpec).bare.plain.varTypes Tryd.prog) (ds ++ gs)).all (· ≤ reachBytes) = true) (hL : laidMetH Tryd.prog Rows.originFullRow.laid W) (hsh : W.ShapedOpen Tryd.prog) :
    Calls Tryd.prog 5 args W fun e W' => ∃ v, e = .returned v ∧ Rows.originFullSpec.post enc Tryd.prog Tryd.f5 false true false false W args v W' := by
  have hW' := hW
  obtain ⟨p, q, hA0, hV, rfl, hfz, hnd⟩ := hW
  have hA : DataW.TrodAll enc Tryd.prog W 0 (fun _ => true) true Tryd.f5.params.toList args.toList ds p := hA0
  have hsz := hsz0
  rw [Tryd.params5] at hA hval hsz
  obtain ⟨v0, vs0, d0, ds0, p0, q0, hargs, rfl, rfl, h0, r0⟩ := trodAll_cons hA
  obtain ⟨v1, vs1, d1, ds1, p1, q1, rfl, rfl, rfl, h1, r1⟩ := trodAll_cons r0
  obtain ⟨rfl, rfl, rfl⟩ := trodAll_nil r1
  obtain rfl : args = #[v0, v1] := by cases args; simp_all
  obtain ⟨rfl, rfl⟩ := trodVars_none hV
  obtain ⟨o0, rfl, hz0, hs0, hh0⟩ := open_origin (hval 0 23 v0 rfl rfl) h0 (weights_of hsz (j := 0) rfl rfl)
  have hlt0 : ∀ x ∈ p0, x.block < W.heap.size := fun x hx => hW'.lt x (by simp [hx])
  obtain ⟨a1, rfl, rfl, rfl, w1⟩ := open_int Tryd.underlying3 (hval 1 3 v1 rfl rfl) h1
  have hL0 : laidMet Tryd.prog _ W := hL
  have hE : Env W := env_of hL0 hsh
  clear hA0
  have hcall : Calls Tryd.prog 5 #[.agg (ogv o0), .int .i64 a1] W (fun e w' => e = .returned (.bool true) ∧ Below W.heap.size W w') := by exact originFull_any o0 a1 W hE hz0 (wf_i64 w1).1 (wf_i64 w1).2
  refine hcall.mono ?_
  rintro e W' ⟨rfl, bel⟩
  refine ⟨_, rfl, _, _, _, [], (p0 ++ ([] ++ [])), [], hW', ?_, ?_, ?_, bel.frame _, fun h => by cases h⟩
  · exact trodAll_mk1 (shut_bool Tryd.underlying4 _)
  · exact ⟨p0, _, Below.trod laidOut (by kernel_rfl) (of_decide_eq_true (by kernel_rfl)) h0 bel hlt0, ⟨[], _, shut_int Tryd.underlying3 w1, trodAll_mk0, rfl⟩, rfl⟩
  · rfl

theorem laid_met (os : Os) (L : World) (hL : L = { World.holding Tryd.prog os ⟨#[], #[], []⟩ with heap := (((((((((World.holding Tryd.prog os ⟨#[], #[], []⟩).heap.modify 1 fun
      | .cells _ t frozen => .cells cPow t frozen
      | o => o).modify 2 fun
      | .cells _ t frozen => .cells cSyn t frozen
      | o => o).modify 3 fun
      | .cells _ t frozen => .cells cRng t frozen
      | o => o).modify 4 fun
      | .cells _ t frozen => .cells c32 t frozen
      | o => o).modify 5 fun
      | .cells _ t frozen => .cells c64 t frozen
      | o => o)).push (.cells #[.string synS] 104)).push (.cells #[.string rngS] 104)) }) : laidMet Tryd.prog Rows.originFullRow.laid ((L.forCall (fun _ _ => 0) ⟨#[], #[.agg #[.string ⟨#[]⟩, .string ⟨#[]⟩, .int .i64 0], .int .i64 0], []⟩).memory) := by
  subst hL
  exact laidMet_of_run' 8 (by kernel_rfl) (by kernel_rfl)
theorem reads (os : Os) (L : World) (hL : L = { World.holding Tryd.prog os ⟨#[], #[], []⟩ with heap := (((((((((World.holding Tryd.prog os ⟨#[], #[], []⟩).heap.modify 1 fun
      | .cells _ t frozen => .cells cPow t frozen
      | o => o).modify 2 fun
      | .cells _ t frozen => .cells cSyn t frozen
      | o => o).modify 3 fun
      | .cells _ t frozen => .cells cRng t frozen
      | o => o).modify 4 fun
      | .cells _ t frozen => .cells c32 t frozen
      | o => o).modify 5 fun
      | .cells _ t frozen => .cells c64 t frozen
      | o => o)).push (.cells #[.string synS] 104)).push (.cells #[.string rngS] 104)) }) {H : Type} (enc : TypeId × Value → H) : ∃ places, DataW.whole enc Tryd.prog ((L.forCall (fun _ _ => 0) ⟨#[], #[.agg #[.string ⟨#[]⟩, .string ⟨#[]⟩, .int .i64 0], .int .i64 0], []⟩).memory) Tryd.f5.params.toList Rows.originFullSpec.vars false #[Value.agg #[.string ⟨#[]⟩, .string ⟨#[]⟩, .int .i64 0], .int .i64 0].toList 8 = some ([.agg [.lit (.string []), .lit (.string []), .lit (.int .i64 0)], .lit (.int .i64 0)], [], places) := by
  subst hL
  exact ⟨[], by kernel_rfl⟩

set_option maxRecDepth 100000 in
theorem lifted (os : Os) (started : os.Started) (H : Type) (enc : TypeId × Value → H) (F : Stop.Interp) :
    ReturnsInHanded {} Tryd.checked os 5 .any ((OpenSpec.ofChange Rows.originFullSpec).preRow enc Tryd.prog Tryd.f5 Rows.originFullRow.domain false Rows.originFullRow.laid) (((OpenSpec.ofChange Rows.originFullSpec).at F).post enc Tryd.prog Tryd.f5 false true false false) := by
  obtain ⟨places, hx⟩ := reads os _ rfl enc
  refine returnsInHanded_of_row (C := Tryd.checked) (s := OpenSpec.ofChange Rows.originFullSpec) own started (by kernel_rfl) Tryd.func5
    (witness_row_at (enc := enc) (C := Tryd.checked) false ({ World.holding Tryd.prog os ⟨#[], #[], []⟩ with heap := (((((((((World.holding Tryd.prog os ⟨#[], #[], []⟩).heap.modify 1 fun
      | .cells _ t frozen => .cells cPow t frozen
      | o => o).modify 2 fun
      | .cells _ t frozen => .cells cSyn t frozen
      | o => o).modify 3 fun
      | .cells _ t frozen => .cells cRng t frozen
      | o => o).modify 4 fun
      | .cells _ t frozen => .cells c32 t frozen
      | o => o).modify 5 fun
      | .cells _ t frozen => .cells c64 t frozen
      | o => o)).push (.cells #[.string synS] 104)).push (.cells #[.string rngS] 104)) }) #[.agg #[.string ⟨#[]⟩, .string ⟨#[]⟩, .int .i64 0], .int .i64 0] rfl (by kernel_rfl) (by kernel_rfl) (by kernel_rfl)
      (OpenSpec.preRow_of_cond 8 hx (by kernel_rfl) (fun k hk => by cases hk) (by kernel_rfl) (laid_met os _ rfl))) ?_
  intro W base args ds gs before hval hW _ _ hsz hL hsh _
  exact contract H enc W base args ds gs before hval hW hsz hL hsh

theorem said : Rows.OriginFullSaid :=
  OpenClaim.holds_of_cond 5 Tryd.f5 rfl rfl rfl rfl rfl rfl rfl ⟨rfl, rfl, rfl, rfl, rfl⟩ rfl rfl rfl rfl rfl (by kernel_rfl) Tryd.func5 (by kernel_rfl)
    (of_decide_eq_true (by kernel_rfl)) (by unfold Func.isWrapper; first | (rw [if_pos (by decide +kernel)]; kernel_rfl) | (rw [if_neg (by decide +kernel)]; exact ⟨rfl, rfl⟩))
    (fun os started H enc _ F => by rw [OpenClaim.pre_eq_preRow]; exact lifted os started H enc F)

theorem plain (f : FuncId) (fn : Func) (hf : Tryd.pinned.checked.prog.funcNamed "herald/heraldlaw15.OriginFull" = some f) (hfn : Tryd.pinned.checked.prog.funcs[f]? = some fn) :
    true = Tryd.pinned.checked.prog.looks [] ∧ ∀ (j : Nat) t, fn.params[j]? = some t → Tryd.pinned.checked.prog.wantsStandIn t = false := by
  obtain rfl : f = 5 := Option.some.inj ((show Tryd.prog.funcNamed "herald/heraldlaw15.OriginFull" = some 5 by kernel_rfl).symm.trans hf) |>.symm
  obtain rfl : fn = Tryd.f5 := (Option.some.inj (Tryd.func5.symm.trans hfn)).symm
  refine ⟨by kernel_rfl, fun j t ht => ?_⟩
  rw [Tryd.params5] at ht
  rcases j with _ | _ | j
  · obtain rfl : t = 23 := by simpa using ht.symm
    exact (show Tryd.prog.wantsStandIn 23 = false by kernel_rfl)
  · obtain rfl : t = 3 := by simpa using ht.symm
    exact (show Tryd.prog.wantsStandIn 3 = false by kernel_rfl)
  · simp at ht
end PFull

theorem originFull_holds : Rows.OriginFullCardSaid :=
  Claim7.holds_tied_plain_at .later [] _ _ _ _ PFull.said (fun _ h => by cases h) (by kernel_rfl) (fun _ h => by cases h) originFull_row_tie rfl ⟨rfl, rfl⟩ (by kernel_rfl) rfl PFull.plain (by kernel_rfl)
end Go.Proofs.YtbifmikndpeafaaDoor
