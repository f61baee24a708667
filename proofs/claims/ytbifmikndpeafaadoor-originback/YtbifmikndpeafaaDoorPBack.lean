/- The row of OriginBack: its walk lifted to the given statement, and the card. -/
import Derived.Test.YtbifmikndpeafaaDoorP2
import Derived.Test.YtbifmikndpeafaaDoorH1
import Derived.SizedLaws
namespace Go.Proofs.YtbifmikndpeafaaDoor
namespace PBack
open Go.ChangeShapes Go.WideShapes Go.ChangeAt Go.RowKit
open Go.ChangeMaps (open_string shut_string)
set_option linter.unusedVariables false
set_option linter.unusedSimpArgs false

set_option maxRecDepth 100000 in
theorem contract (H : Type) (enc : TypeId × Value → H) (W : World) (base : Nat) (args : Array Value) (ds gs : List (DataW H)) (before : List MemPlace)
    (hval : ∀ (j : Nat) t v, Tryd.f3.params[j]? = some t → args[j]? = some v → Value.okWide Tryd.prog W .any base t v)
    (hW : DataW.Whole enc Tryd.prog Tryd.f3.params.toList Rows.originBackSpec.vars false W args.toList ds gs before) (hsz0 : (DataW.weightsEach Tryd.prog (Tryd.f3.params.toList ++ (OpenSpec.ofChange Rows.originBackSpec).bare.plain.varTypes Tryd.prog) (ds ++ gs)).all (· ≤ reachBytes) = true) (hL : laidMetH Tryd.prog Rows.originBackRow.laid W) (hsh : W.ShapedOpen Tryd.prog) :
    Calls Tryd.prog 3 args W fun e W' => ∃ v, e = .returned v ∧ Rows.originBackSpec.post enc Tryd.prog Tryd.f3 false true false false W args v W' := by
  have hW' := hW
  obtain ⟨p, q, hA0, hV, rfl, hfz, hnd⟩ := hW
  have hA : DataW.TrodAll enc Tryd.prog W 0 (fun _ => true) true Tryd.f3.params.toList args.toList ds p := hA0
  have hsz := hsz0
  rw [Tryd.params3] at hA hval hsz
  obtain ⟨v0, vs0, d0, ds0, p0, q0, hargs, rfl, rfl, h0, r0⟩ := trodAll_cons hA
  obtain ⟨v1, vs1, d1, ds1, p1, q1, rfl, rfl, rfl, h1, r1⟩ := trodAll_cons r0
  obtain ⟨v2, vs2, d2, ds2, p2, q2, rfl, rfl, rfl, h2, r2⟩ := trodAll_cons r1
  obtain ⟨v3, vs3, d3, ds3, p3, q3, rfl, rfl, rfl, h3, r3⟩ := trodAll_cons r2
  obtain ⟨rfl, rfl, rfl⟩ := trodAll_nil r3
  obtain rfl : args = #[v0, v1, v2, v3] := by cases args; simp_all
  obtain ⟨rfl, rfl⟩ := trodVars_none hV
  obtain ⟨o0, rfl, hz0, hs0, hh0⟩ := open_origin (hval 0 23 v0 rfl rfl) h0 (weights_of hsz (j := 0) rfl rfl)
  have hlt0 : ∀ x ∈ p0, x.block < W.heap.size := fun x hx => hW'.lt x (by simp [hx])
  obtain ⟨a1, rfl, rfl, rfl, w1⟩ := open_int Tryd.underlying24 (hval 1 24 v1 rfl rfl) h1
  obtain ⟨a2, rfl, rfl, rfl⟩ := open_bool Tryd.underlying4 (hval 2 4 v2 rfl rfl) h2
  obtain ⟨a3, rfl, rfl, rfl, w3⟩ := open_int Tryd.underlying5 (hval 3 5 v3 rfl rfl) h3
  have hL0 : laidMet Tryd.prog _ W := hL
  have hE : Env W := env_of hL0 hsh
  clear hA0
  have hcall : Calls Tryd.prog 3 #[.agg (ogv o0), .int .u64 a1, .bool a2, .int .u8 a3] W (fun e w' => e = .returned (.bool true) ∧ Below W.heap.size W w') := by exact (by obtain ⟨x, rfl⟩ := u8_of w3; exact originBack_any o0 a1 a2 x W hE hz0 (wf_u64 w1).1 (wf_u64 w1).2)
  refine hcall.mono ?_
  rintro e W' ⟨rfl, bel⟩
  refine ⟨_, rfl, _, _, _, [], (p0 ++ ([] ++ ([] ++ ([] ++ [])))), [], hW', ?_, ?_, ?_, bel.frame _, fun h => by cases h⟩
  · exact trodAll_mk1 (shut_bool Tryd.underlying4 _)
  · exact ⟨p0, _, Below.trod laidOut (by kernel_rfl) (of_decide_eq_true (by kernel_rfl)) h0 bel hlt0, ⟨[], _, shut_int Tryd.underlying24 w1, ⟨[], _, shut_bool Tryd.underlying4 _, ⟨[], _, shut_int Tryd.underlying5 w3, trodAll_mk0, rfl⟩, rfl⟩, rfl⟩, rfl⟩
  · rfl

theorem laid_met (os : Os) (L : World) (hL : L = { World.holding Tryd.prog os ⟨#[], #[], []⟩ with heap := (((((((((World.holding Tryd.prog os ⟨#[], #[], []⟩).heap.modify 1 fun
      | .cells _ t frozen => .cells cPow t frozen
      | o => o).modify 2 fun
      | .cells _ t frozen => .cells cSyn t frozen
      | o => o).modify 3 fun
      | .cells _ t frozen => .cells cRng t frozen
      | o => o).modify 4 fun
      | .cells _ t frozen => .cells c32 t frozen
      | o => o).modify 5 fun
      | .cells _ t frozen => .cells c64 t frozen
      | o => o)).push (.cells #[.string synS] 104)).push (.cells #[.string rngS] 104)) }) : laidMet Tryd.prog Rows.originBackRow.laid ((L.forCall (fun _ _ => 0) ⟨#[], #[.agg #[.string ⟨#[]⟩, .string ⟨#[]⟩, .int .i64 0], .int .u64 0, .bool false, .int .u8 0], []⟩).memory) := by
  subst hL
  exact laidMet_of_run' 8 (by kernel_rfl) (by kernel_rfl)
theorem reads (os : Os) (L : World) (hL : L = { World.holding Tryd.prog os ⟨#[], #[], []⟩ with heap := (((((((((World.holding Tryd.prog os ⟨#[], #[], []⟩).heap.modify 1 fun
      | .cells _ t frozen => .cells cPow t frozen
      | o => o).modify 2 fun
      | .cells _ t frozen => .cells cSyn t frozen
      | o => o).modify 3 fun
      | .cells _ t frozen => .cells cRng t frozen
      | o => o).modify 4 fun
      | .cells _ t frozen => .cells c32 t frozen
      | o => o).modify 5 fun
      | .cells _ t frozen => .cells c64 t frozen
      | o => o)).push (.cells #[.string synS] 104)).push (.cells #[.string rngS] 104)) }) {H : Type} (enc : TypeId × Value → H) : ∃ places, DataW.whole enc Tryd.prog ((L.forCall (fun _ _ => 0) ⟨#[], #[.agg #[.string ⟨#[]⟩, .string ⟨#[]⟩, .int .i64 0], .int .u64 0, .bool false, .int .u8 0], []⟩).memory) Tryd.f3.params.toList Rows.originBackSpec.vars false #[Value.agg #[.string ⟨#[]⟩, .string ⟨#[]⟩, .int .i64 0], .int .u64 0, .bool false, .int .u8 0].toList 8 = some ([.agg [.lit (.string []), .lit (.string []), .lit (.int .i64 0)], .lit (.int .u64 0), .lit (.bool false), .lit (.int .u8 0)], [], places) := by
  subst hL
  exact ⟨[], by kernel_rfl⟩

set_option maxRecDepth 100000 in
theorem lifted (os : Os) (started : os.Started) (H : Type) (enc : TypeId × Value → H) (F : Stop.Interp) :
    ReturnsInHanded {} Tryd.checked os 3 .any ((OpenSpec.ofChange Rows.originBackSpec).preRow enc Tryd.prog Tryd.f3 Rows.originBackRow.domain false Rows.originBackRow.laid) (((OpenSpec.ofChange Rows.originBackSpec).at F).post enc Tryd.prog Tryd.f3 false true false false) := by
  obtain ⟨places, hx⟩ := reads os _ rfl enc
  refine returnsInHanded_of_row (C := Tryd.checked) (s := OpenSpec.ofChange Rows.originBackSpec) own started (by kernel_rfl) Tryd.func3
    (witness_row_at (enc := enc) (C := Tryd.checked) false ({ World.holding Tryd.prog os ⟨#[], #[], []⟩ with heap := (((((((((World.holding Tryd.prog os ⟨#[], #[], []⟩).heap.modify 1 fun
      | .cells _ t frozen => .cells cPow t frozen
      | o => o).modify 2 fun
      | .cells _ t frozen => .cells cSyn t frozen
      | o => o).modify 3 fun
      | .cells _ t frozen => .cells cRng t frozen
      | o => o).modify 4 fun
      | .cells _ t frozen => .cells c32 t frozen
      | o => o).modify 5 fun
      | .cells _ t frozen => .cells c64 t frozen
      | o => o)).push (.cells #[.string synS] 104)).push (.cells #[.string rngS] 104)) }) #[.agg #[.string ⟨#[]⟩, .string ⟨#[]⟩, .int .i64 0], .int .u64 0, .bool false, .int .u8 0] rfl (by kernel_rfl) (by kernel_rfl) (by kernel_rfl)
      (OpenSpec.preRow_of_cond 8 hx (by kernel_rfl) (fun k hk => by cases hk) (by kernel_rfl) (laid_met os _ rfl))) ?_
  intro W base args ds gs before hval hW _ _ hsz hL hsh _
  exact contract H enc W base args ds gs before hval hW hsz hL hsh

theorem said : Rows.OriginBackSaid :=
  OpenClaim.holds_of_cond 3 Tryd.f3 rfl rfl rfl rfl rfl rfl rfl ⟨rfl, rfl, rfl, rfl, rfl⟩ rfl rfl rfl rfl rfl (by kernel_rfl) Tryd.func3 (by kernel_rfl)
    (of_decide_eq_true (by kernel_rfl)) (by unfold Func.isWrapper; first | (rw [if_pos (by decide +kernel)]; kernel_rfl) | (rw [if_neg (by decide +kernel)]; exact ⟨rfl, rfl⟩))
    (fun os started H enc _ F => by rw [OpenClaim.pre_eq_preRow]; exact lifted os started H enc F)

theorem plain (f : FuncId) (fn : Func) (hf : Tryd.pinned.checked.prog.funcNamed "herald/heraldlaw15.OriginBack" = some f) (hfn : Tryd.pinned.checked.prog.funcs[f]? = some fn) :
    true = Tryd.pinned.checked.prog.looks [] ∧ ∀ (j : Nat) t, fn.params[j]? = some t → Tryd.pinned.checked.prog.wantsStandIn t = false := by
  obtain rfl : f = 3 := Option.some.inj ((show Tryd.prog.funcNamed "herald/heraldlaw15.OriginBack" = some 3 by kernel_rfl).symm.trans hf) |>.symm
  obtain rfl : fn = Tryd.f3 := (Option.some.inj (Tryd.func3.symm.trans hfn)).symm
  refine ⟨by kernel_rfl, fun j t ht => ?_⟩
  rw [Tryd.params3] at ht
  rcases j with _ | _ | _ | _ | j
  · obtain rfl : t = 23 := by simpa using ht.symm
    exact (show Tryd.prog.wantsStandIn 23 = false by kernel_rfl)
  · obtain rfl : t = 24 := by simpa using ht.symm
    exact (show Tryd.prog.wantsStandIn 24 = false by kernel_rfl)
  · obtain rfl : t = 4 := by simpa using ht.symm
    exact (show Tryd.prog.wantsStandIn 4 = false by kernel_rfl)
  · obtain rfl : t = 5 := by simpa using ht.symm
    exact (show Tryd.prog.wantsStandIn 5 = false by kernel_rfl)
  · simp at ht
end PBack

theorem originBack_holds : Rows.OriginBackCardSaid :=
  Claim7.holds_tied_plain_at .later [] _ _ _ _ PBack.said (fun _ h => by cases h) (by kernel_rfl) (fun _ h => by cases h) originBack_row_tie rfl ⟨rfl, rfl⟩ (by kernel_rfl) rfl PBack.plain (by kernel_rfl)
end Go.Proofs.YtbifmikndpeafaaDoor
