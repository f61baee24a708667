/- The row of OriginParses: its walk lifted to the given statement, and the card. -/
import Derived.Test.YtbifmikndpeafaaDoorP1
import Derived.Test.YtbifmikndpeafaaDoorE2
import Derived.SizedLaws
namespace Go.Proofs.YtbifmikndpeafaaDoor
namespace PParses
open Go.ChangeShapes Go.WideShapes Go.ChangeAt Go.RowKit
open Go.ChangeMaps (open_string shut_string)
set_option linter.unusedVariables false
set_option linter.unusedSimpArgs false

set_option maxRecDepth 100000 in
theorem contract (H : Type) (enc : TypeId × Value → H) (W : World) (base : Nat) (args : Array Value) (ds gs : List (DataW H)) (before : List MemPlace)
    (hval : ∀ (j : Nat) t v, Tryd.f7.params[j]? = some t → args[j]? = some v → Value.okWide Tryd.prog W .any base t v)
    (hW : DataW.Whole enc Tryd.prog Tryd.f7.params.toList Rows.originParsesSpec.vars false W args.toList ds gs before) (hsz0 : (DataW.weightsEach Tryd.prog (Tryd.f7.params.toList ++ (OpenSpec.ofChange Rows.originParsesSpec).bare.plain.varTypes Tryd.prog) (ds ++ gs)).all (· ≤ reachBytes) = true) (hL : laidMetH Tryd.prog Rows.originParsesRow.laid W) (hsh : W.ShapedOpen Tryd.prog) (hk : Rows.uptoSmall H (ds ++ gs) = true) :
    Calls Tryd.prog 7 args W fun e W' => ∃ v, e = .returned v ∧ Rows.originParsesSpec.post enc Tryd.prog Tryd.f7 false true false false W args v W' := by
  have hW' := hW
  obtain ⟨p, q, hA0, hV, rfl, hfz, hnd⟩ := hW
  have hA : DataW.TrodAll enc Tryd.prog W 0 (fun _ => true) true Tryd.f7.params.toList args.toList ds p := hA0
  have hsz := hsz0
  rw [Tryd.params7] at hA hval hsz
  obtain ⟨v0, vs0, d0, ds0, p0, q0, hargs, rfl, rfl, h0, r0⟩ := trodAll_cons hA
  obtain ⟨rfl, rfl, rfl⟩ := trodAll_nil r0
  obtain rfl : args = #[v0] := by cases args; simp_all
  obtain ⟨rfl, rfl⟩ := trodVars_none hV
  obtain ⟨a0, rfl, rfl, rfl, w0⟩ := open_string Tryd.underlying9 (hval 0 9 v0 rfl rfl) h0
  have hz0 : a0.size ≤ 140737488351232 := by have := weights_of hsz (j := 0) rfl rfl a0.size (by simp [DataW.weights]); simpa [reachBytes] using this
  have hb0 : a0.size ≤ 1048576 := by
    have hb := of_decide_eq_true hk
    simp only [Rows.uptoBulkAll, Rows.uptoBulk, List.cons_append, List.nil_append] at hb
    have h5 := Lib.size_eq a0
    omega
  have hL0 : laidMet Tryd.prog _ W := hL
  have hE : Env W := env_of hL0 hsh
  clear hA0
  have hcall : Calls Tryd.prog 7 #[.string a0] W (fun e w' => e = .returned (.bool true) ∧ Below W.heap.size W w') := by exact originParses_any a0 W hE (by omega)
  refine hcall.mono ?_
  rintro e W' ⟨rfl, bel⟩
  refine ⟨_, rfl, _, _, _, [], ([] ++ []), [], hW', ?_, ?_, ?_, bel.frame _, fun h => by cases h⟩
  · exact trodAll_mk1 (shut_bool Tryd.underlying4 _)
  · exact ⟨[], _, shut_string Tryd.underlying9 w0, trodAll_mk0, rfl⟩
  · rfl

theorem laid_met (os : Os) (L : World) (hL : L = { World.holding Tryd.prog os ⟨#[], #[], []⟩ with heap := (((((((((World.holding Tryd.prog os ⟨#[], #[], []⟩).heap.modify 1 fun
      | .cells _ t frozen => .cells cPow t frozen
      | o => o).modify 2 fun
      | .cells _ t frozen => .cells cSyn t frozen
      | o => o).modify 3 fun
      | .cells _ t frozen => .cells cRng t frozen
      | o => o).modify 4 fun
      | .cells _ t frozen => .cells c32 t frozen
      | o => o).modify 5 fun
      | .cells _ t frozen => .cells c64 t frozen
      | o => o)).push (.cells #[.string synS] 104)).push (.cells #[.string rngS] 104)) }) : laidMet Tryd.prog Rows.originParsesRow.laid ((L.forCall (fun _ _ => 0) ⟨#[], #[.string ⟨#[]⟩], []⟩).memory) := by
  subst hL
  exact laidMet_of_run' 8 (by kernel_rfl) (by kernel_rfl)
theorem reads (os : Os) (L : World) (hL : L = { World.holding Tryd.prog os ⟨#[], #[], []⟩ with heap := (((((((((World.holding Tryd.prog os ⟨#[], #[], []⟩).heap.modify 1 fun
      | .cells _ t frozen => .cells cPow t frozen
      | o => o).modify 2 fun
      | .cells _ t frozen => .cells cSyn t frozen
      | o => o).modify 3 fun
      | .cells _ t frozen => .cells cRng t frozen
      | o => o).modify 4 fun
      | .cells _ t frozen => .cells c32 t frozen
      | o => o).modify 5 fun
      | .cells _ t frozen => .cells c64 t frozen
      | o => o)).push (.cells #[.string synS] 104)).push (.cells #[.string rngS] 104)) }) {H : Type} (enc : TypeId × Value → H) : ∃ places, DataW.whole enc Tryd.prog ((L.forCall (fun _ _ => 0) ⟨#[], #[.string ⟨#[]⟩], []⟩).memory) Tryd.f7.params.toList Rows.originParsesSpec.vars false #[Value.string ⟨#[]⟩].toList 8 = some ([.lit (.string [])], [], places) := by
  subst hL
  exact ⟨[], by kernel_rfl⟩

set_option maxRecDepth 100000 in
theorem lifted (os : Os) (started : os.Started) (H : Type) (enc : TypeId × Value → H) (F : Stop.Interp) :
    ReturnsInHanded {} Tryd.checked os 7 .any ((Rows.OpenSpec.upto Rows.originParsesSpec).preRow enc Tryd.prog Tryd.f7 Rows.originParsesUptoRow.domain false Rows.originParsesUptoRow.laid) (((Rows.OpenSpec.upto Rows.originParsesSpec).at F).post enc Tryd.prog Tryd.f7 false true false false) := by
  obtain ⟨places, hx⟩ := reads os _ rfl enc
  refine returnsInHanded_of_row (C := Tryd.checked) (s := Rows.OpenSpec.upto Rows.originParsesSpec) own started (by kernel_rfl) Tryd.func7
    (witness_row_at (enc := enc) (C := Tryd.checked) false ({ World.holding Tryd.prog os ⟨#[], #[], []⟩ with heap := (((((((((World.holding Tryd.prog os ⟨#[], #[], []⟩).heap.modify 1 fun
      | .cells _ t frozen => .cells cPow t frozen
      | o => o).modify 2 fun
      | .cells _ t frozen => .cells cSyn t frozen
      | o => o).modify 3 fun
      | .cells _ t frozen => .cells cRng t frozen
      | o => o).modify 4 fun
      | .cells _ t frozen => .cells c32 t frozen
      | o => o).modify 5 fun
      | .cells _ t frozen => .cells c64 t frozen
      | o => o)).push (.cells #[.string synS] 104)).push (.cells #[.string rngS] 104)) }) #[.string ⟨#[]⟩] rfl (by kernel_rfl) (by kernel_rfl) (by kernel_rfl)
      (OpenSpec.preRow_of_cond 8 hx (by kernel_rfl) (fun k hk => by cases hk; kernel_rfl) (by kernel_rfl) (laid_met os _ rfl))) ?_
  intro W base args ds gs before hval hW _ hcond hsz hL hsh _
  exact contract H enc W base args ds gs before hval hW hsz hL hsh (hcond _ rfl)

theorem said : Rows.OriginParsesUptoSaid :=
  OpenClaim.holds_of_cond 7 Tryd.f7 rfl rfl rfl rfl rfl rfl rfl ⟨rfl, rfl, rfl, rfl, rfl⟩ rfl rfl rfl rfl rfl (by kernel_rfl) Tryd.func7 (by kernel_rfl)
    (of_decide_eq_true (by kernel_rfl)) (by unfold Func.isWrapper; first | (rw [if_pos (by decide +kernel)]; kernel_rfl) | (rw [if_neg (by decide +kernel)]; exact ⟨rfl, rfl⟩))
    (fun os started H enc _ F => by rw [OpenClaim.pre_eq_preRow]; exact lifted os started H enc F)

theorem plain (f : FuncId) (fn : Func) (hf : Tryd.pinned.checked.prog.funcNamed "herald/heraldlaw15.OriginParses" = some f) (hfn : Tryd.pinned.checked.prog.funcs[f]? = some fn) :
    true = Tryd.pinned.checked.prog.looks [] ∧ ∀ (j : Nat) t, fn.params[j]? = some t → Tryd.pinned.checked.prog.wantsStandIn t = false := by
  obtain rfl : f = 7 := Option.some.inj ((show Tryd.prog.funcNamed "herald/heraldlaw15.OriginParses" = some 7 by kernel_rfl).symm.trans hf) |>.symm
  obtain rfl : fn = Tryd.f7 := (Option.some.inj (Tryd.func7.symm.trans hfn)).symm
  refine ⟨by kernel_rfl, fun j t ht => ?_⟩
  rw [Tryd.params7] at ht
  rcases j with _ | j
  · obtain rfl : t = 9 := by simpa using ht.symm
    exact (show Tryd.prog.wantsStandIn 9 = false by kernel_rfl)
  · simp at ht
end PParses

theorem originParsesUpto_holds : Rows.OriginParsesUptoCardSaid :=
  Claim7.holds_tied_plain_at .later [] _ _ _ _ PParses.said (fun _ h => by cases h) (by kernel_rfl) (fun _ h => by cases h) originParsesUpto_row_tie rfl ⟨rfl, rfl⟩ (by kernel_rfl) rfl PParses.plain (by kernel_rfl)
end Go.Proofs.YtbifmikndpeafaaDoor
