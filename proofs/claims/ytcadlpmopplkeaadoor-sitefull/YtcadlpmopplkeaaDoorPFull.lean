/- The row of SiteFull: its walk lifted to the given statement, and the card. -/
import Derived.Test.YtcadlpmopplkeaaDoorP0
import Derived.Test.YtcadlpmopplkeaaDoorQ2
import Derived.SizedLaws
namespace Go.Proofs.YtcadlpmopplkeaaDoor
namespace PFull
open Go.ChangeShapes Go.WideShapes Go.ChangeAt Go.RowKit
open Go.ChangeMaps (open_string shut_string)
set_option linter.unusedVariables false
set_option linter.unusedSimpArgs false

theorem wf_i64 {n : Int} (h : (Lit.int .i64 n).wf = true) : -9223372036854775808 ≤ n ∧ n ≤ 9223372036854775807 := by
  simp [Lit.wf] at h
  have h1 : IntKind.i64.min = -9223372036854775808 := by decide
  rw [h1] at h
  exact h
set_option maxRecDepth 100000 in
theorem contract (H : Type) (enc : TypeId × Value → H) (W : World) (base : Nat) (args : Array Value) (ds gs : List (DataW H)) (before : List MemPlace)
    (hval : ∀ (j : Nat) t v, Tryd.f4.params[j]? = some t → args[j]? = some v → Value.okWide Tryd.prog W .any base t v)
    (hW : DataW.Whole enc Tryd.prog Tryd.f4.params.toList Rows.siteFullSpec.vars false W args.toList ds gs before) (hsz0 : (DataW.weightsEach Tryd.prog (Tryd.f4.params.toList ++ (OpenSpec.ofChange Rows.siteFullSpec).bare.plain.varTypes Tryd.prog) (ds ++ gs)).all (· ≤ reachBytes) = true) (hL : laidMetH Tryd.prog Rows.siteFullRow.laid W) :
    Calls Tryd.prog 4 args W fun e W' => ∃ v, e = .returned v ∧ Rows.siteFullSpec.post enc Tryd.prog Tryd.f4 false true false false W args v W' := by
  have hW' := hW
  obtain ⟨p, q, hA0, hV, rfl, hfz, hnd⟩ := hW
  have hA : DataW.TrodAll enc Tryd.prog W 0 (fun _ => true) true Tryd.f4.params.toList args.toList ds p := hA0
  have hsz := hsz0
  rw [Tryd.params4] at hA hval hsz
  obtain ⟨v0, vs0, d0, ds0, p0, q0, hargs, rfl, rfl, h0, r0⟩ := trodAll_cons hA
  obtain ⟨v1, vs1, d1, ds1, p1, q1, rfl, rfl, rfl, h1, r1⟩ := trodAll_cons r0
  obtain ⟨rfl, rfl, rfl⟩ := trodAll_nil r1
  obtain rfl : args = #[v0, v1] := by cases args; simp_all
  obtain ⟨rfl, rfl⟩ := trodVars_none hV
  obtain ⟨a0, rfl, rfl, rfl, w0⟩ := open_int Tryd.underlying3 (hval 0 3 v0 rfl rfl) h0
  obtain ⟨a1, rfl, rfl, rfl, w1⟩ := open_string Tryd.underlying9 (hval 1 9 v1 rfl rfl) h1
  have hz1 : a1.size ≤ 140737488351232 := by have := weights_of hsz (j := 1) rfl rfl a1.size (by simp [DataW.weights]); simpa [reachBytes] using this
  have hL0 : laidMet Tryd.prog _ W := hL
  have hT : Tab W := tab_of_laid hL0
  clear hA0
  have hcall : Calls Tryd.prog 4 #[.int .i64 a0, .string a1] W (fun e w' => e = .returned (.bool true) ∧ Below W.heap.size W w') := by exact siteFull_any a0 a1 W hT (wf_i64 w0).1 (wf_i64 w0).2 hz1
  refine hcall.mono ?_
  rintro e W' ⟨rfl, bel⟩
  refine ⟨_, rfl, _, _, _, [], ([] ++ ([] ++ [])), [], hW', ?_, ?_, ?_, bel.frame _, fun h => by cases h⟩
  · exact trodAll_mk1 (shut_bool Tryd.underlying4 _)
  · exact ⟨[], _, shut_int Tryd.underlying3 w0, ⟨[], _, shut_string Tryd.underlying9 w1, trodAll_mk0, rfl⟩, rfl⟩
  · rfl

theorem laid_met (os : Os) (L : World) (hL : L = { World.holding Tryd.prog os ⟨#[], #[], []⟩ with heap := ((((((World.holding Tryd.prog os ⟨#[], #[], []⟩).heap.modify 0 fun
      | .cells _ t frozen => .cells cPow t frozen
      | o => o).modify 1 fun
      | .cells _ t frozen => .cells c32 t frozen
      | o => o).modify 2 fun
      | .cells _ t frozen => .cells c64 t frozen
      | o => o).modify 4 fun
      | .cells _ t frozen => .cells cFirst t frozen
      | o => o).modify 5 fun
      | .cells _ t frozen => .cells cAccept t frozen
      | o => o) }) : laidMet Tryd.prog Rows.siteFullRow.laid ((L.forCall (fun _ _ => 0) ⟨#[], #[.int .i64 0, .string ⟨#[]⟩], []⟩).memory) := by
  subst hL
  exact laidMet_of_run' 8 (by kernel_rfl) (by kernel_rfl)
theorem reads (os : Os) (L : World) (hL : L = { World.holding Tryd.prog os ⟨#[], #[], []⟩ with heap := ((((((World.holding Tryd.prog os ⟨#[], #[], []⟩).heap.modify 0 fun
      | .cells _ t frozen => .cells cPow t frozen
      | o => o).modify 1 fun
      | .cells _ t frozen => .cells c32 t frozen
      | o => o).modify 2 fun
      | .cells _ t frozen => .cells c64 t frozen
      | o => o).modify 4 fun
      | .cells _ t frozen => .cells cFirst t frozen
      | o => o).modify 5 fun
      | .cells _ t frozen => .cells cAccept t frozen
      | o => o) }) {H : Type} (enc : TypeId × Value → H) : ∃ places, DataW.whole enc Tryd.prog ((L.forCall (fun _ _ => 0) ⟨#[], #[.int .i64 0, .string ⟨#[]⟩], []⟩).memory) Tryd.f4.params.toList Rows.siteFullSpec.vars false #[Value.int .i64 0, .string ⟨#[]⟩].toList 8 = some ([.lit (.int .i64 0), .lit (.string [])], [], places) := by
  subst hL
  exact ⟨[], by kernel_rfl⟩

set_option maxRecDepth 100000 in
theorem lifted (os : Os) (started : os.Started) (H : Type) (enc : TypeId × Value → H) (F : Stop.Interp) :
    ReturnsInHanded {} Tryd.checked os 4 .any ((OpenSpec.ofChange Rows.siteFullSpec).preRow enc Tryd.prog Tryd.f4 Rows.siteFullRow.domain false Rows.siteFullRow.laid) (((OpenSpec.ofChange Rows.siteFullSpec).at F).post enc Tryd.prog Tryd.f4 false true false false) := by
  obtain ⟨places, hx⟩ := reads os _ rfl enc
  refine returnsInHanded_of_row (C := Tryd.checked) (s := OpenSpec.ofChange Rows.siteFullSpec) own started (by kernel_rfl) Tryd.func4
    (witness_row_at (enc := enc) (C := Tryd.checked) false ({ World.holding Tryd.prog os ⟨#[], #[], []⟩ with heap := ((((((World.holding Tryd.prog os ⟨#[], #[], []⟩).heap.modify 0 fun
      | .cells _ t frozen => .cells cPow t frozen
      | o => o).modify 1 fun
      | .cells _ t frozen => .cells c32 t frozen
      | o => o).modify 2 fun
      | .cells _ t frozen => .cells c64 t frozen
      | o => o).modify 4 fun
      | .cells _ t frozen => .cells cFirst t frozen
      | o => o).modify 5 fun
      | .cells _ t frozen => .cells cAccept t frozen
      | o => o) }) #[.int .i64 0, .string ⟨#[]⟩] rfl (by kernel_rfl) (by kernel_rfl) (by kernel_rfl)
      (OpenSpec.preRow_of_cond 8 hx (by kernel_rfl) (fun k hk => by cases hk) (by kernel_rfl) (laid_met os _ rfl))) ?_
  intro W base args ds gs before hval hW _ _ hsz hL _ _
  exact contract H enc W base args ds gs before hval hW hsz hL

theorem said : Rows.SiteFullSaid :=
  OpenClaim.holds_of_cond 4 Tryd.f4 rfl rfl rfl rfl rfl rfl rfl ⟨rfl, rfl, rfl, rfl, rfl⟩ rfl rfl rfl rfl rfl (by kernel_rfl) Tryd.func4 (by kernel_rfl)
    (of_decide_eq_true (by kernel_rfl)) (by unfold Func.isWrapper; first | (rw [if_pos (by decide +kernel)]; kernel_rfl) | (rw [if_neg (by decide +kernel)]; exact ⟨rfl, rfl⟩))
    (fun os started H enc _ F => by rw [OpenClaim.pre_eq_preRow]; exact lifted os started H enc F)

theorem plain (f : FuncId) (fn : Func) (hf : Tryd.pinned.checked.prog.funcNamed "herald/heraldlaw17.SiteFull" = some f) (hfn : Tryd.pinned.checked.prog.funcs[f]? = some fn) :
    false = Tryd.pinned.checked.prog.looks [] ∧ ∀ (j : Nat) t, fn.params[j]? = some t → Tryd.pinned.checked.prog.wantsStandIn t = false := by
  obtain rfl : f = 4 := Option.some.inj ((show Tryd.prog.funcNamed "herald/heraldlaw17.SiteFull" = some 4 by kernel_rfl).symm.trans hf) |>.symm
  obtain rfl : fn = Tryd.f4 := (Option.some.inj (Tryd.func4.symm.trans hfn)).symm
  refine ⟨by kernel_rfl, fun j t ht => ?_⟩
  rw [Tryd.params4] at ht
  rcases j with _ | _ | j
  · obtain rfl : t = 3 := by simpa using ht.symm
    exact (show Tryd.prog.wantsStandIn 3 = false by kernel_rfl)
  · obtain rfl : t = 9 := by simpa using ht.symm
    exact (show Tryd.prog.wantsStandIn 9 = false by kernel_rfl)
  · simp at ht
end PFull

theorem siteFull_holds : Rows.SiteFullCardSaid :=
  Claim7.holds_tied_plain_at .later [] _ _ _ _ PFull.said (fun _ h => by cases h) (by kernel_rfl) (fun _ h => by cases h) siteFull_row_tie rfl ⟨rfl, rfl⟩ (by kernel_rfl) rfl PFull.plain (by kernel_rfl)
end Go.Proofs.YtcadlpmopplkeaaDoor
