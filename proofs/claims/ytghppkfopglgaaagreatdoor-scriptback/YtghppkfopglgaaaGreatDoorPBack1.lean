/- The row of ScriptBack: its walk lifted to the given statement, and the card. -/
import Derived.Test.YtghppkfopglgaaaGreatDoorKaf
import Derived.Test.YtghppkfopglgaaaGreatDoorKbb
import Derived.Test.YtghppkfopglgaaaGreatDoorE3
import Derived.SizedLaws
namespace Go.Proofs.YtghppkfopglgaaaGreatDoor
namespace PBack1
open Go.ChangeShapes Go.WideShapes Go.ChangeAt Go.RowKit
open Go.ChangeMaps (open_string shut_string)
set_option linter.unusedVariables false
set_option linter.unusedSimpArgs false

theorem wf_i64 {n : Int} (h : (Lit.int .i64 n).wf = true) : -9223372036854775808 ≤ n ∧ n ≤ 9223372036854775807 := by
  simp [Lit.wf] at h
  have h1 : IntKind.i64.min = -9223372036854775808 := by decide
  rw [h1] at h
  exact h
set_option maxRecDepth 100000 in
theorem contract (H : Type) (enc : TypeId × Value → H) (W : World) (base : Nat) (args : Array Value) (ds gs : List (DataW H)) (before : List MemPlace)
    (hval : ∀ (j : Nat) t v, Tryz.f8.params[j]? = some t → args[j]? = some v → Value.okWide Tryz.prog W .any base t v)
    (hW : DataW.Whole enc Tryz.prog Tryz.f8.params.toList Rows.scriptBackSpec.vars false W args.toList ds gs before) (hsz0 : (DataW.weightsEach Tryz.prog (Tryz.f8.params.toList ++ (OpenSpec.ofChange Rows.scriptBackSpec).bare.plain.varTypes Tryz.prog) (ds ++ gs)).all (· ≤ reachBytes) = true) (hL : laidMetH Tryz.prog Rows.scriptBackRow.laid W) :
    Calls Tryz.prog 8 args W fun e W' => ∃ v, e = .returned v ∧ Rows.scriptBackSpec.post enc Tryz.prog Tryz.f8 false true false false W args v W' := by
  have hW' := hW
  obtain ⟨p, q, hA0, hV, rfl, hfz, hnd⟩ := hW
  have hA : DataW.TrodAll enc Tryz.prog W 0 (fun _ => true) true Tryz.f8.params.toList args.toList ds p := hA0
  have hsz := hsz0
  rw [Tryz.params8] at hA hval hsz
  obtain ⟨v0, vs0, d0, ds0, p0, q0, hargs, rfl, rfl, h0, r0⟩ := trodAll_cons hA
  obtain ⟨v1, vs1, d1, ds1, p1, q1, rfl, rfl, rfl, h1, r1⟩ := trodAll_cons r0
  obtain ⟨rfl, rfl, rfl⟩ := trodAll_nil r1
  obtain rfl : args = #[v0, v1] := by cases args; simp_all
  obtain ⟨rfl, rfl⟩ := trodVars_none hV
  obtain ⟨fu0, hfu0⟩ := h0
  obtain ⟨sa0, sl0, sc0, rfl⟩ := okWide_slice Tryz.underlying71 (hval 0 71 v0 rfl rfl)
  obtain ⟨y0, l0, ev0, hI0, hC0, hl0⟩ := open_cmds (cs := [.slice sa0 sl0 sc0]) hfu0 (weights_of hsz (j := 0) rfl rfl)
  simp only [List.cons.injEq, and_true] at ev0
  have hlt0 : ∀ x ∈ p0, x.block < W.heap.size := fun x hx => hW'.lt x (by simp [hx])
  obtain ⟨a1, rfl, rfl, rfl, w1⟩ := open_string Tryz.underlying9 (hval 1 9 v1 rfl rfl) h1
  have hz1 : a1.size ≤ 140737488351232 := by have := weights_of hsz (j := 1) rfl rfl a1.size (by simp [DataW.weights]); simpa [reachBytes] using this
  have hL0 : laidMet Tryz.prog Rows.scriptBackRow.laid W := hL
  have hE : Env W := env_of_laid hL0 (by simp [Rows.scriptBackRow]) (by simp [Rows.scriptBackRow]) (by simp [Rows.scriptBackRow]) (by simp [Rows.scriptBackRow]) (by simp [Rows.scriptBackRow])
  clear hA0
  have hcall : Calls Tryz.prog 8 #[.slice sa0 sl0 sc0, .string a1] W (fun e w' => e = .returned (.bool true) ∧ Below W.heap.size W w') := by rw [ev0]; exact back_law y0.v l0 a1 W hE hI0 hl0 (fun x hx => ⟨(hC0 x hx).1, (hC0 x hx).2.1⟩) (fun x hx => (hC0 x hx).2.2) (by omega)
  refine hcall.mono ?_
  rintro e W' ⟨rfl, bel⟩
  refine ⟨_, rfl, _, _, _, [], (p0 ++ ([] ++ [])), [], hW', ?_, ?_, ?_, bel.frame _, fun h => by cases h⟩
  · exact trodAll_mk1 (shut_bool Tryz.underlying4 _)
  · exact ⟨p0, _, Below.trod laidOut (by kernel_rfl) (of_decide_eq_true (by kernel_rfl)) ⟨fu0, hfu0⟩ bel hlt0, ⟨[], _, shut_string Tryz.underlying9 w1, trodAll_mk0, rfl⟩, rfl⟩
  · rfl

theorem laid_met (os : Os) (L : World) (hL : L = { World.holding Tryz.prog os ⟨#[], #[], []⟩ with heap := (((((((((((World.holding Tryz.prog os ⟨#[], #[], []⟩).heap.modify 0 fun
      | .cells _ t frozen => .cells cKn t frozen
      | o => o).modify 1 fun
      | .cells _ t frozen => .cells cMn t frozen
      | o => o).modify 2 fun
      | .cells _ t frozen => .cells cPow t frozen
      | o => o).modify 4 fun
      | .cells _ t frozen => .cells c32 t frozen
      | o => o).modify 5 fun
      | .cells _ t frozen => .cells c64 t frozen
      | o => o).modify 6 fun
      | .cells _ t frozen => .cells cSyn t frozen
      | o => o).modify 7 fun
      | .cells _ t frozen => .cells cRng t frozen
      | o => o)).push (.cells #[.string synS] 199)).push (.cells #[.string rngS] 199)) }) : laidMet Tryz.prog Rows.scriptBackRow.laid ((L.forCall (fun _ _ => 0) ⟨#[], #[.slice none 0 0, .string ⟨#[]⟩], []⟩).memory) := by
  subst hL
  exact laidMet_of_run' 8 (by kernel_rfl) (by kernel_rfl)
theorem reads (os : Os) (L : World) (hL : L = { World.holding Tryz.prog os ⟨#[], #[], []⟩ with heap := (((((((((((World.holding Tryz.prog os ⟨#[], #[], []⟩).heap.modify 0 fun
      | .cells _ t frozen => .cells cKn t frozen
      | o => o).modify 1 fun
      | .cells _ t frozen => .cells cMn t frozen
      | o => o).modify 2 fun
      | .cells _ t frozen => .cells cPow t frozen
      | o => o).modify 4 fun
      | .cells _ t frozen => .cells c32 t frozen
      | o => o).modify 5 fun
      | .cells _ t frozen => .cells c64 t frozen
      | o => o).modify 6 fun
      | .cells _ t frozen => .cells cSyn t frozen
      | o => o).modify 7 fun
      | .cells _ t frozen => .cells cRng t frozen
      | o => o)).push (.cells #[.string synS] 199)).push (.cells #[.string rngS] 199)) }) {H : Type} (enc : TypeId × Value → H) : ∃ places, DataW.whole enc Tryz.prog ((L.forCall (fun _ _ => 0) ⟨#[], #[.slice none 0 0, .string ⟨#[]⟩], []⟩).memory) Tryz.f8.params.toList Rows.scriptBackSpec.vars false #[Value.slice none 0 0, .string ⟨#[]⟩].toList 8 = some ([.nil, .lit (.string [])], [], places) := by
  subst hL
  exact ⟨[], by kernel_rfl⟩

set_option maxRecDepth 100000 in
theorem lifted (os : Os) (started : os.Started) (H : Type) (enc : TypeId × Value → H) (F : Stop.Interp) :
    ReturnsInHanded {} Tryz.checked os 8 .any ((OpenSpec.ofChange Rows.scriptBackSpec).preRow enc Tryz.prog Tryz.f8 Rows.scriptBackRow.domain false Rows.scriptBackRow.laid) (((OpenSpec.ofChange Rows.scriptBackSpec).at F).post enc Tryz.prog Tryz.f8 false true false false) := by
  obtain ⟨places, hx⟩ := reads os _ rfl enc
  refine returnsInHanded_of_row (C := Tryz.checked) (s := OpenSpec.ofChange Rows.scriptBackSpec) own started (by kernel_rfl) Tryz.func8
    (witness_row_at (enc := enc) (C := Tryz.checked) false ({ World.holding Tryz.prog os ⟨#[], #[], []⟩ with heap := (((((((((((World.holding Tryz.prog os ⟨#[], #[], []⟩).heap.modify 0 fun
      | .cells _ t frozen => .cells cKn t frozen
      | o => o).modify 1 fun
      | .cells _ t frozen => .cells cMn t frozen
      | o => o).modify 2 fun
      | .cells _ t frozen => .cells cPow t frozen
      | o => o).modify 4 fun
      | .cells _ t frozen => .cells c32 t frozen
      | o => o).modify 5 fun
      | .cells _ t frozen => .cells c64 t frozen
      | o => o).modify 6 fun
      | .cells _ t frozen => .cells cSyn t frozen
      | o => o).modify 7 fun
      | .cells _ t frozen => .cells cRng t frozen
      | o => o)).push (.cells #[.string synS] 199)).push (.cells #[.string rngS] 199)) }) #[.slice none 0 0, .string ⟨#[]⟩] rfl (by kernel_rfl) (by kernel_rfl) (by kernel_rfl)
      (OpenSpec.preRow_of_cond 8 hx (by kernel_rfl) (fun k hk => by cases hk) (by kernel_rfl) (laid_met os _ rfl))) ?_
  intro W base args ds gs before hval hW _ _ hsz hL _ _
  exact contract H enc W base args ds gs before hval hW hsz hL

theorem said : Rows.ScriptBackSaid :=
  OpenClaim.holds_of_cond 8 Tryz.f8 rfl rfl rfl rfl rfl rfl rfl ⟨rfl, rfl, rfl, rfl, rfl⟩ rfl rfl rfl rfl rfl (by kernel_rfl) Tryz.func8 (by kernel_rfl)
    (of_decide_eq_true (by kernel_rfl)) (by unfold Func.isWrapper; first | (rw [if_pos (by decide +kernel)]; kernel_rfl) | (rw [if_neg (by decide +kernel)]; exact ⟨rfl, rfl⟩))
    (fun os started H enc _ F => by rw [OpenClaim.pre_eq_preRow]; exact lifted os started H enc F)

theorem plain (f : FuncId) (fn : Func) (hf : Tryz.pinned.checked.prog.funcNamed "herald/heraldlaw26.ScriptBack" = some f) (hfn : Tryz.pinned.checked.prog.funcs[f]? = some fn) :
    true = Tryz.pinned.checked.prog.looks [] ∧ ∀ (j : Nat) t, fn.params[j]? = some t → Tryz.pinned.checked.prog.wantsStandIn t = false := by
  obtain rfl : f = 8 := Option.some.inj ((show Tryz.prog.funcNamed "herald/heraldlaw26.ScriptBack" = some 8 by kernel_rfl).symm.trans hf) |>.symm
  obtain rfl : fn = Tryz.f8 := (Option.some.inj (Tryz.func8.symm.trans hfn)).symm
  refine ⟨by kernel_rfl, fun j t ht => ?_⟩
  rw [Tryz.params8] at ht
  rcases j with _ | _ | j
  · obtain rfl : t = 71 := by simpa using ht.symm
    exact (show Tryz.prog.wantsStandIn 71 = false by kernel_rfl)
  · obtain rfl : t = 9 := by simpa using ht.symm
    exact (show Tryz.prog.wantsStandIn 9 = false by kernel_rfl)
  · simp at ht
end PBack1

theorem scriptBack_holds : Rows.ScriptBackCardSaid :=
  Claim7.holds_tied_plain_at .later [] _ _ _ _ PBack1.said (fun _ h => by cases h) (by kernel_rfl) (fun _ h => by cases h) scriptBack_row_tie rfl ⟨rfl, rfl⟩ (by kernel_rfl) rfl PBack1.plain (by kernel_rfl)
end Go.Proofs.YtghppkfopglgaaaGreatDoor
