/- The row of OriginSets: its walk lifted to the given statement, and the card. -/
import Derived.Test.YtbifmikndpeafaaDoorP2
import Derived.Test.YtbifmikndpeafaaDoorL3
import Derived.SizedLaws
namespace Go.Proofs.YtbifmikndpeafaaDoor
namespace PSets
open Go.ChangeShapes Go.WideShapes Go.ChangeAt Go.RowKit
open Go.ChangeMaps (open_string shut_string)
set_option linter.unusedVariables false
set_option linter.unusedSimpArgs false

set_option maxRecDepth 100000 in
theorem contract (H : Type) (enc : TypeId × Value → H) (W : World) (base : Nat) (args : Array Value) (ds gs : List (DataW H)) (before : List MemPlace)
    (hval : ∀ (j : Nat) t v, Tryd.f8.params[j]? = some t → args[j]? = some v → Value.okWide Tryd.prog W .any base t v)
    (hW : DataW.Whole enc Tryd.prog Tryd.f8.params.toList Rows.originSetsSpec.vars false W args.toList ds gs before) (hsz0 : (DataW.weightsEach Tryd.prog (Tryd.f8.params.toList ++ (OpenSpec.ofChange Rows.originSetsSpec).bare.plain.varTypes Tryd.prog) (ds ++ gs)).all (· ≤ reachBytes) = true) (hL : laidMetH Tryd.prog Rows.originSetsRow.laid W) (hsh : W.ShapedOpen Tryd.prog) :
    Calls Tryd.prog 8 args W fun e W' => ∃ v, e = .returned v ∧ Rows.originSetsSpec.post enc Tryd.prog Tryd.f8 false true false false W args v W' := by
  have hW' := hW
  obtain ⟨p, q, hA0, hV, rfl, hfz, hnd⟩ := hW
  have hA : DataW.TrodAll enc Tryd.prog W 0 (fun _ => true) true Tryd.f8.params.toList args.toList ds p := hA0
  have hsz := hsz0
  rw [Tryd.params8] at hA hval hsz
  obtain ⟨v0, vs0, d0, ds0, p0, q0, hargs, rfl, rfl, h0, r0⟩ := trodAll_cons hA
  obtain ⟨v1, vs1, d1, ds1, p1, q1, rfl, rfl, rfl, h1, r1⟩ := trodAll_cons r0
  obtain ⟨rfl, rfl, rfl⟩ := trodAll_nil r1
  obtain rfl : args = #[v0, v1] := by cases args; simp_all
  obtain ⟨rfl, rfl⟩ := trodVars_none hV
  obtain ⟨fu0, hfu0⟩ := h0
  obtain ⟨sa0, sl0, sc0, rfl⟩ := okWide_slice Tryd.underlying35 (hval 0 35 v0 rfl rfl)
  obtain ⟨y0, l0, ev0, hI0, hz0, hn0⟩ := open_origins hfu0 (weights_of hsz (j := 0) rfl rfl)
  have hlt0 : ∀ x ∈ p0, x.block < W.heap.size := fun x hx => hW'.lt x (by simp [hx])
  obtain ⟨fu1, hfu1⟩ := h1
  obtain ⟨sa1, sl1, sc1, rfl⟩ := okWide_slice Tryd.underlying45 (hval 1 45 v1 rfl rfl)
  obtain ⟨y1, l1, ev1, hI1, hz1⟩ := open_asked hfu1 (weights_of hsz (j := 1) rfl rfl)
  have hlt1 : ∀ x ∈ p1, x.block < W.heap.size := fun x hx => hW'.lt x (by simp [hx])
  have hL0 : laidMet Tryd.prog _ W := hL
  have hE : Env W := env_of hL0 hsh
  clear hA0
  have hcall : Calls Tryd.prog 8 #[.slice sa0 sl0 sc0, .slice sa1 sl1 sc1] W (fun e w' => e = .returned (.bool true) ∧ Below W.heap.size W w') := by rw [ev0]; rw [ev1]; exact (originSets_any y0 l0 y1 l1 W hE hI0 (fun z hz => (hz0 z hz).1) hn0 hI1 hz1)
  refine hcall.mono ?_
  rintro e W' ⟨rfl, bel⟩
  refine ⟨_, rfl, _, _, _, [], (p0 ++ (p1 ++ [])), [], hW', ?_, ?_, ?_, bel.frame _, fun h => by cases h⟩
  · exact trodAll_mk1 (shut_bool Tryd.underlying4 _)
  · exact ⟨p0, _, Below.trod laidOut (by kernel_rfl) (of_decide_eq_true (by kernel_rfl)) ⟨fu0, hfu0⟩ bel hlt0, ⟨p1, _, Below.trod laidOut (by kernel_rfl) (of_decide_eq_true (by kernel_rfl)) ⟨fu1, hfu1⟩ bel hlt1, trodAll_mk0, rfl⟩, rfl⟩
  · rfl

theorem laid_met (os : Os) (L : World) (hL : L = { World.holding Tryd.prog os ⟨#[], #[], []⟩ with heap := (((((((((World.holding Tryd.prog os ⟨#[], #[], []⟩).heap.modify 1 fun
      | .cells _ t frozen => .cells cPow t frozen
      | o => o).modify 2 fun
      | .cells _ t frozen => .cells cSyn t frozen
      | o => o).modify 3 fun
      | .cells _ t frozen => .cells cRng t frozen
      | o => o).modify 4 fun
      | .cells _ t frozen => .cells c32 t frozen
      | o => o).modify 5 fun
      | .cells _ t frozen => .cells c64 t frozen
      | o => o)).push (.cells #[.string synS] 104)).push (.cells #[.string rngS] 104)) }) : laidMet Tryd.prog Rows.originSetsRow.laid ((L.forCall (fun _ _ => 0) ⟨#[], #[.slice none 0 0, .slice none 0 0], []⟩).memory) := by
  subst hL
  exact laidMet_of_run' 8 (by kernel_rfl) (by kernel_rfl)
theorem reads (os : Os) (L : World) (hL : L = { World.holding Tryd.prog os ⟨#[], #[], []⟩ with heap := (((((((((World.holding Tryd.prog os ⟨#[], #[], []⟩).heap.modify 1 fun
      | .cells _ t frozen => .cells cPow t frozen
      | o => o).modify 2 fun
      | .cells _ t frozen => .cells cSyn t frozen
      | o => o).modify 3 fun
      | .cells _ t frozen => .cells cRng t frozen
      | o => o).modify 4 fun
      | .cells _ t frozen => .cells c32 t frozen
      | o => o).modify 5 fun
      | .cells _ t frozen => .cells c64 t frozen
      | o => o)).push (.cells #[.string synS] 104)).push (.cells #[.string rngS] 104)) }) {H : Type} (enc : TypeId × Value → H) : ∃ places, DataW.whole enc Tryd.prog ((L.forCall (fun _ _ => 0) ⟨#[], #[.slice none 0 0, .slice none 0 0], []⟩).memory) Tryd.f8.params.toList Rows.originSetsSpec.vars false #[Value.slice none 0 0, .slice none 0 0].toList 8 = some ([.nil, .nil], [], places) := by
  subst hL
  exact ⟨[], by kernel_rfl⟩

set_option maxRecDepth 100000 in
theorem lifted (os : Os) (started : os.Started) (H : Type) (enc : TypeId × Value → H) (F : Stop.Interp) :
    ReturnsInHanded {} Tryd.checked os 8 .any ((OpenSpec.ofChange Rows.originSetsSpec).preRow enc Tryd.prog Tryd.f8 Rows.originSetsRow.domain false Rows.originSetsRow.laid) (((OpenSpec.ofChange Rows.originSetsSpec).at F).post enc Tryd.prog Tryd.f8 false true false false) := by
  obtain ⟨places, hx⟩ := reads os _ rfl enc
  refine returnsInHanded_of_row (C := Tryd.checked) (s := OpenSpec.ofChange Rows.originSetsSpec) own started (by kernel_rfl) Tryd.func8
    (witness_row_at (enc := enc) (C := Tryd.checked) false ({ World.holding Tryd.prog os ⟨#[], #[], []⟩ with heap := (((((((((World.holding Tryd.prog os ⟨#[], #[], []⟩).heap.modify 1 fun
      | .cells _ t frozen => .cells cPow t frozen
      | o => o).modify 2 fun
      | .cells _ t frozen => .cells cSyn t frozen
      | o => o).modify 3 fun
      | .cells _ t frozen => .cells cRng t frozen
      | o => o).modify 4 fun
      | .cells _ t frozen => .cells c32 t frozen
      | o => o).modify 5 fun
      | .cells _ t frozen => .cells c64 t frozen
      | o => o)).push (.cells #[.string synS] 104)).push (.cells #[.string rngS] 104)) }) #[.slice none 0 0, .slice none 0 0] rfl (by kernel_rfl) (by kernel_rfl) (by kernel_rfl)
      (OpenSpec.preRow_of_cond 8 hx (by kernel_rfl) (fun k hk => by cases hk) (by kernel_rfl) (laid_met os _ rfl))) ?_
  intro W base args ds gs before hval hW _ _ hsz hL hsh _
  exact contract H enc W base args ds gs before hval hW hsz hL hsh

theorem said : Rows.OriginSetsSaid :=
  OpenClaim.holds_of_cond 8 Tryd.f8 rfl rfl rfl rfl rfl rfl rfl ⟨rfl, rfl, rfl, rfl, rfl⟩ rfl rfl rfl rfl rfl (by kernel_rfl) Tryd.func8 (by kernel_rfl)
    (of_decide_eq_true (by kernel_rfl)) (by unfold Func.isWrapper; first | (rw [if_pos (by decide +kernel)]; kernel_rfl) | (rw [if_neg (by decide +kernel)]; exact ⟨rfl, rfl⟩))
    (fun os started H enc _ F => by rw [OpenClaim.pre_eq_preRow]; exact lifted os started H enc F)

theorem plain (f : FuncId) (fn : Func) (hf : Tryd.pinned.checked.prog.funcNamed "herald/heraldlaw15.OriginSets" = some f) (hfn : Tryd.pinned.checked.prog.funcs[f]? = some fn) :
    true = Tryd.pinned.checked.prog.looks [] ∧ ∀ (j : Nat) t, fn.params[j]? = some t → Tryd.pinned.checked.prog.wantsStandIn t = false := by
  obtain rfl : f = 8 := Option.some.inj ((show Tryd.prog.funcNamed "herald/heraldlaw15.OriginSets" = some 8 by kernel_rfl).symm.trans hf) |>.symm
  obtain rfl : fn = Tryd.f8 := (Option.some.inj (Tryd.func8.symm.trans hfn)).symm
  refine ⟨by kernel_rfl, fun j t ht => ?_⟩
  rw [Tryd.params8] at ht
  rcases j with _ | _ | j
  · obtain rfl : t = 35 := by simpa using ht.symm
    exact (show Tryd.prog.wantsStandIn 35 = false by kernel_rfl)
  · obtain rfl : t = 45 := by simpa using ht.symm
    exact (show Tryd.prog.wantsStandIn 45 = false by kernel_rfl)
  · simp at ht
end PSets

theorem originSets_holds : Rows.OriginSetsCardSaid :=
  Claim7.holds_tied_plain_at .later [] _ _ _ _ PSets.said (fun _ h => by cases h) (by kernel_rfl) (fun _ h => by cases h) originSets_row_tie rfl ⟨rfl, rfl⟩ (by kernel_rfl) rfl PSets.plain (by kernel_rfl)
end Go.Proofs.YtbifmikndpeafaaDoor
