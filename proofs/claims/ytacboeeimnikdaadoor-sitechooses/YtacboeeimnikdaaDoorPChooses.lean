/- The row of SiteChooses: its walk lifted to the given statement, and the card. -/
import Derived.Test.YtacboeeimnikdaaDoorP0
import Derived.Test.YtacboeeimnikdaaDoorG1
import Derived.SizedLaws
namespace Go.Proofs.YtacboeeimnikdaaDoor
namespace PChooses
open Go.ChangeShapes Go.WideShapes Go.ChangeAt Go.RowKit
open Go.ChangeMaps (open_string shut_string)
set_option linter.unusedVariables false
set_option linter.unusedSimpArgs false

theorem wf_i64 {n : Int} (h : (Lit.int .i64 n).wf = true) : -9223372036854775808 ≤ n ∧ n ≤ 9223372036854775807 := by
  simp [Lit.wf] at h
  have h1 : IntKind.i64.min = -9223372036854775808 := by decide
  rw [h1] at h
  exact h
set_option maxRecDepth 100000 in
theorem contract (H : Type) (enc : TypeId × Value → H) (W : World) (base : Nat) (args : Array Value) (ds gs : List (DataW H)) (before : List MemPlace)
    (hval : ∀ (j : Nat) t v, Tryd.f3.params[j]? = some t → args[j]? = some v → Value.okWide Tryd.prog W .any base t v)
    (hW : DataW.Whole enc Tryd.prog Tryd.f3.params.toList Rows.siteChoosesSpec.vars false W args.toList ds gs before) (hsz0 : (DataW.weightsEach Tryd.prog (Tryd.f3.params.toList ++ (OpenSpec.ofChange Rows.siteChoosesSpec).bare.plain.varTypes Tryd.prog) (ds ++ gs)).all (· ≤ reachBytes) = true) (hL : laidMetH Tryd.prog Rows.siteChoosesRow.laid W) :
    Calls Tryd.prog 3 args W fun e W' => ∃ v, e = .returned v ∧ Rows.siteChoosesSpec.post enc Tryd.prog Tryd.f3 false true false false W args v W' := by
  have hW' := hW
  obtain ⟨p, q, hA0, hV, rfl, hfz, hnd⟩ := hW
  have hA : DataW.TrodAll enc Tryd.prog W 0 (fun _ => true) true Tryd.f3.params.toList args.toList ds p := hA0
  have hsz := hsz0
  rw [Tryd.params3] at hA hval hsz
  obtain ⟨v0, vs0, d0, ds0, p0, q0, hargs, rfl, rfl, h0, r0⟩ := trodAll_cons hA
  obtain ⟨v1, vs1, d1, ds1, p1, q1, rfl, rfl, rfl, h1, r1⟩ := trodAll_cons r0
  obtain ⟨v2, vs2, d2, ds2, p2, q2, rfl, rfl, rfl, h2, r2⟩ := trodAll_cons r1
  obtain ⟨rfl, rfl, rfl⟩ := trodAll_nil r2
  obtain rfl : args = #[v0, v1, v2] := by cases args; simp_all
  obtain ⟨rfl, rfl⟩ := trodVars_none hV
  obtain ⟨fu0, hfu0⟩ := h0
  obtain ⟨sa0, sl0, sc0, rfl⟩ := okWide_slice Tryd.underlying22 (hval 0 22 v0 rfl rfl)
  obtain ⟨y0, l0, ev0, hI0⟩ := open_strs hfu0
  have hlt0 : ∀ x ∈ p0, x.block < W.heap.size := fun x hx => hW'.lt x (by simp [hx])
  obtain ⟨a1, rfl, rfl, rfl, w1⟩ := open_string Tryd.underlying9 (hval 1 9 v1 rfl rfl) h1
  have hz1 : a1.size ≤ 140737488351232 := by have := weights_of hsz (j := 1) rfl rfl a1.size (by simp [DataW.weights]); simpa [reachBytes] using this
  obtain ⟨a2, rfl, rfl, rfl, w2⟩ := open_string Tryd.underlying9 (hval 2 9 v2 rfl rfl) h2
  have hz2 : a2.size ≤ 140737488351232 := by have := weights_of hsz (j := 2) rfl rfl a2.size (by simp [DataW.weights]); simpa [reachBytes] using this
  have hL0 : laidMet Tryd.prog _ W := hL
  have hT : Tab W := tab_of_laid hL0
  clear hA0
  have hcall : Calls Tryd.prog 3 #[.slice sa0 sl0 sc0, .string a1, .string a2] W (fun e w' => e = .returned (.bool true) ∧ Below W.heap.size W w') := by rw [ev0]; exact siteChooses_any y0 l0 a1 a2 W hI0 hT
  refine hcall.mono ?_
  rintro e W' ⟨rfl, bel⟩
  refine ⟨_, rfl, _, _, _, [], (p0 ++ ([] ++ ([] ++ []))), [], hW', ?_, ?_, ?_, bel.frame _, fun h => by cases h⟩
  · exact trodAll_mk1 (shut_bool Tryd.underlying4 _)
  · exact ⟨p0, _, Below.trod laidOut (by kernel_rfl) (of_decide_eq_true (by kernel_rfl)) ⟨fu0, hfu0⟩ bel hlt0, ⟨[], _, shut_string Tryd.underlying9 w1, ⟨[], _, shut_string Tryd.underlying9 w2, trodAll_mk0, rfl⟩, rfl⟩, rfl⟩
  · rfl

theorem laid_met (os : Os) (L : World) (hL : L = { World.holding Tryd.prog os ⟨#[], #[], []⟩ with heap := ((((((World.holding Tryd.prog os ⟨#[], #[], []⟩).heap.modify 0 fun
      | .cells _ t frozen => .cells cPow t frozen
      | o => o).modify 1 fun
      | .cells _ t frozen => .cells c32 t frozen
      | o => o).modify 2 fun
      | .cells _ t frozen => .cells c64 t frozen
      | o => o).modify 4 fun
      | .cells _ t frozen => .cells cFirst t frozen
      | o => o).modify 5 fun
      | .cells _ t frozen => .cells cAccept t frozen
      | o => o) }) : laidMet Tryd.prog Rows.siteChoosesRow.laid ((L.forCall (fun _ _ => 0) ⟨#[], #[.slice none 0 0, .string ⟨#[]⟩, .string ⟨#[]⟩], []⟩).memory) := by
  subst hL
  exact laidMet_of_run' 8 (by kernel_rfl) (by kernel_rfl)
theorem reads (os : Os) (L : World) (hL : L = { World.holding Tryd.prog os ⟨#[], #[], []⟩ with heap := ((((((World.holding Tryd.prog os ⟨#[], #[], []⟩).heap.modify 0 fun
      | .cells _ t frozen => .cells cPow t frozen
      | o => o).modify 1 fun
      | .cells _ t frozen => .cells c32 t frozen
      | o => o).modify 2 fun
      | .cells _ t frozen => .cells c64 t frozen
      | o => o).modify 4 fun
      | .cells _ t frozen => .cells cFirst t frozen
      | o => o).modify 5 fun
      | .cells _ t frozen => .cells cAccept t frozen
      | o => o) }) {H : Type} (enc : TypeId × Value → H) : ∃ places, DataW.whole enc Tryd.prog ((L.forCall (fun _ _ => 0) ⟨#[], #[.slice none 0 0, .string ⟨#[]⟩, .string ⟨#[]⟩], []⟩).memory) Tryd.f3.params.toList Rows.siteChoosesSpec.vars false #[Value.slice none 0 0, .string ⟨#[]⟩, .string ⟨#[]⟩].toList 8 = some ([.nil, .lit (.string []), .lit (.string [])], [], places) := by
  subst hL
  exact ⟨[], by kernel_rfl⟩

set_option maxRecDepth 100000 in
theorem lifted (os : Os) (started : os.Started) (H : Type) (enc : TypeId × Value → H) (F : Stop.Interp) :
    ReturnsInHanded {} Tryd.checked os 3 .any ((OpenSpec.ofChange Rows.siteChoosesSpec).preRow enc Tryd.prog Tryd.f3 Rows.siteChoosesRow.domain false Rows.siteChoosesRow.laid) (((OpenSpec.ofChange Rows.siteChoosesSpec).at F).post enc Tryd.prog Tryd.f3 false true false false) := by
  obtain ⟨places, hx⟩ := reads os _ rfl enc
  refine returnsInHanded_of_row (C := Tryd.checked) (s := OpenSpec.ofChange Rows.siteChoosesSpec) own started (by kernel_rfl) Tryd.func3
    (witness_row_at (enc := enc) (C := Tryd.checked) false ({ World.holding Tryd.prog os ⟨#[], #[], []⟩ with heap := ((((((World.holding Tryd.prog os ⟨#[], #[], []⟩).heap.modify 0 fun
      | .cells _ t frozen => .cells cPow t frozen
      | o => o).modify 1 fun
      | .cells _ t frozen => .cells c32 t frozen
      | o => o).modify 2 fun
      | .cells _ t frozen => .cells c64 t frozen
      | o => o).modify 4 fun
      | .cells _ t frozen => .cells cFirst t frozen
      | o => o).modify 5 fun
      | .cells _ t frozen => .cells cAccept t frozen
      | o => o) }) #[.slice none 0 0, .string ⟨#[]⟩, .string ⟨#[]⟩] rfl (by kernel_rfl) (by kernel_rfl) (by kernel_rfl)
      (OpenSpec.preRow_of_cond 8 hx (by kernel_rfl) (fun k hk => by cases hk) (by kernel_rfl) (laid_met os _ rfl))) ?_
  intro W base args ds gs before hval hW _ _ hsz hL _ _
  exact contract H enc W base args ds gs before hval hW hsz hL

theorem said : Rows.SiteChoosesSaid :=
  OpenClaim.holds_of_cond 3 Tryd.f3 rfl rfl rfl rfl rfl rfl rfl ⟨rfl, rfl, rfl, rfl, rfl⟩ rfl rfl rfl rfl rfl (by kernel_rfl) Tryd.func3 (by kernel_rfl)
    (of_decide_eq_true (by kernel_rfl)) (by unfold Func.isWrapper; first | (rw [if_pos (by decide +kernel)]; kernel_rfl) | (rw [if_neg (by decide +kernel)]; exact ⟨rfl, rfl⟩))
    (fun os started H enc _ F => by rw [OpenClaim.pre_eq_preRow]; exact lifted os started H enc F)

theorem plain (f : FuncId) (fn : Func) (hf : Tryd.pinned.checked.prog.funcNamed "herald/heraldlaw17.SiteChooses" = some f) (hfn : Tryd.pinned.checked.prog.funcs[f]? = some fn) :
    false = Tryd.pinned.checked.prog.looks [] ∧ ∀ (j : Nat) t, fn.params[j]? = some t → Tryd.pinned.checked.prog.wantsStandIn t = false := by
  obtain rfl : f = 3 := Option.some.inj ((show Tryd.prog.funcNamed "herald/heraldlaw17.SiteChooses" = some 3 by kernel_rfl).symm.trans hf) |>.symm
  obtain rfl : fn = Tryd.f3 := (Option.some.inj (Tryd.func3.symm.trans hfn)).symm
  refine ⟨by kernel_rfl, fun j t ht => ?_⟩
  rw [Tryd.params3] at ht
  rcases j with _ | _ | _ | j
  · obtain rfl : t = 22 := by simpa using ht.symm
    exact (show Tryd.prog.wantsStandIn 22 = false by kernel_rfl)
  · obtain rfl : t = 9 := by simpa using ht.symm
    exact (show Tryd.prog.wantsStandIn 9 = false by kernel_rfl)
  · obtain rfl : t = 9 := by simpa using ht.symm
    exact (show Tryd.prog.wantsStandIn 9 = false by kernel_rfl)
  · simp at ht
end PChooses

theorem siteChooses_holds : Rows.SiteChoosesCardSaid :=
  Claim7.holds_tied_plain_at .later [] _ _ _ _ PChooses.said (fun _ h => by cases h) (by kernel_rfl) (fun _ h => by cases h) siteChooses_row_tie rfl ⟨rfl, rfl⟩ (by kernel_rfl) rfl PChooses.plain (by kernel_rfl)
end Go.Proofs.YtacboeeimnikdaaDoor
