/- The row of FrameOne: its walk lifted to the given statement, and the card. -/
import Derived.Test.YtjigjckclpccmaaDoorL1
import Derived.Test.YtjigjckclpccmaaDoorE4
import Derived.Test.YtjigjckclpccmaaDoorG6
import Derived.SizedLaws
namespace Go.Proofs.YtjigjckclpccmaaDoor
set_option linter.unusedVariables false

open Go.RowKit in
theorem frameOne_any (b : ByteArray) (most : Int) (w : World) (hw : 1 ≤ w.heap.size) (hK : Kinds w) (hS : b.size ≤ 140737488355328) :
    Calls Tryd.prog 6 #[.string b, .int .i64 most] w fun e w' => e = .returned (.bool true) ∧ Below w.heap.size w w' := by
  rcases read_cases b most with h | ⟨N, hN, hb, hN5, hm, hn, ⟨h0, hp⟩ | ⟨hc, hx, h3⟩⟩
  · exact one_none b most w hw hK hS h
  · obtain ⟨⟨⟨f, ps⟩, n, cx⟩, hr⟩ : ∃ res, readS b most = res := ⟨_, rfl⟩
    rw [hr] at hn h0 hp
    replace hn : n = ((9 + N : Nat) : Int) := hn
    replace h0 : cx = (0, 0) := h0
    subst hn
    subst h0
    by_cases hd : f.data = ⟨#[]⟩
    · exact one_empty b most w hw hK hS f ps N hN hb hN5 hm hr hp hd
    · exact one_full b most w hw hK hS f ps N hN hb hN5 hm hr hp hd
  · exact one_fault b most w hw hK hS N hb hn hc hx h3

namespace POne
open Go.ChangeShapes Go.WideShapes Go.ChangeAt Go.RowKit
open Go.ChangeMaps (open_string shut_string)
set_option linter.unusedVariables false
set_option linter.unusedSimpArgs false

set_option maxRecDepth 100000 in
theorem contract (H : Type) (enc : TypeId × Value → H) (W : World) (base : Nat) (args : Array Value) (ds gs : List (DataW H)) (before : List MemPlace)
    (hval : ∀ (j : Nat) t v, Tryd.f6.params[j]? = some t → args[j]? = some v → Value.okWide Tryd.prog W .any base t v)
    (hW : DataW.Whole enc Tryd.prog Tryd.f6.params.toList Rows.frameOneSpec.vars false W args.toList ds gs before) (hsz0 : (DataW.weightsEach Tryd.prog (Tryd.f6.params.toList ++ (OpenSpec.ofChange Rows.frameOneSpec).bare.plain.varTypes Tryd.prog) (ds ++ gs)).all (· ≤ reachBytes) = true) (hL : laidMetH Tryd.prog Rows.frameOneRow.laid W) :
    Calls Tryd.prog 6 args W fun e W' => ∃ v, e = .returned v ∧ Rows.frameOneSpec.post enc Tryd.prog Tryd.f6 false true false false W args v W' := by
  have hW' := hW
  obtain ⟨p, q, hA0, hV, rfl, hfz, hnd⟩ := hW
  have hA : DataW.TrodAll enc Tryd.prog W 0 (fun _ => true) true Tryd.f6.params.toList args.toList ds p := hA0
  have hsz := hsz0
  rw [Tryd.params6] at hA hval hsz
  obtain ⟨v0, vs0, d0, ds0, p0, q0, hargs, rfl, rfl, h0, r0⟩ := trodAll_cons hA
  obtain ⟨v1, vs1, d1, ds1, p1, q1, rfl, rfl, rfl, h1, r1⟩ := trodAll_cons r0
  obtain ⟨rfl, rfl, rfl⟩ := trodAll_nil r1
  obtain rfl : args = #[v0, v1] := by cases args; simp_all
  obtain ⟨rfl, rfl⟩ := trodVars_none hV
  obtain ⟨a0, rfl, rfl, rfl, w0⟩ := open_string Tryd.underlying9 (hval 0 9 v0 rfl rfl) h0
  have hz0 : a0.size ≤ 140737488351232 := by have := weights_of hsz (j := 0) rfl rfl a0.size (by simp [DataW.weights]); simpa [reachBytes] using this
  obtain ⟨a1, rfl, rfl, rfl, w1⟩ := open_int Tryd.underlying2 (hval 1 2 v1 rfl rfl) h1
  clear hA0
  have hK : Kinds W := kinds_of_laid hL
  have hw : 1 ≤ W.heap.size := by
    obtain ⟨t, ht⟩ := hK
    exact (Array.getElem?_eq_some_iff.1 ht).1
  refine (frameOne_any a0 a1 W hw hK (by omega)).mono ?_
  rintro e W' ⟨rfl, bel⟩
  refine ⟨_, rfl, _, _, _, [], ([] ++ ([] ++ [])), [], hW', ?_, ?_, ?_, bel.frame _, fun h => by cases h⟩
  · exact trodAll_mk1 (shut_bool Tryd.underlying4 _)
  · exact ⟨[], _, shut_string Tryd.underlying9 w0, ⟨[], _, shut_int Tryd.underlying2 w1, trodAll_mk0, rfl⟩, rfl⟩
  · rfl

theorem laid_met (os : Os) (L : World) (hL : L = { World.holding Tryd.prog os ⟨#[], #[], []⟩ with heap := (World.holding Tryd.prog os ⟨#[], #[], []⟩).heap.modify 0 fun
      | .cells _ t frozen => .cells kindCells t frozen
      | o => o }) : laidMet Tryd.prog Rows.frameOneRow.laid ((L.forCall (fun _ _ => 0) ⟨#[], #[.string ⟨#[]⟩, .int .i64 0], []⟩).memory) := by
  subst hL
  exact laidMet_of_run' 8 (by kernel_rfl) (by kernel_rfl)
theorem reads (os : Os) (L : World) (hL : L = { World.holding Tryd.prog os ⟨#[], #[], []⟩ with heap := (World.holding Tryd.prog os ⟨#[], #[], []⟩).heap.modify 0 fun
      | .cells _ t frozen => .cells kindCells t frozen
      | o => o }) {H : Type} (enc : TypeId × Value → H) : ∃ places, DataW.whole enc Tryd.prog ((L.forCall (fun _ _ => 0) ⟨#[], #[.string ⟨#[]⟩, .int .i64 0], []⟩).memory) Tryd.f6.params.toList Rows.frameOneSpec.vars false #[Value.string ⟨#[]⟩, .int .i64 0].toList 8 = some ([.lit (.string []), .lit (.int .i64 0)], [], places) := by
  subst hL
  exact ⟨[], by kernel_rfl⟩

set_option maxRecDepth 100000 in
theorem lifted (os : Os) (started : os.Started) (H : Type) (enc : TypeId × Value → H) (F : Stop.Interp) :
    ReturnsInHanded {} Tryd.checked os 6 .any ((OpenSpec.ofChange Rows.frameOneSpec).preRow enc Tryd.prog Tryd.f6 Rows.frameOneRow.domain false Rows.frameOneRow.laid) (((OpenSpec.ofChange Rows.frameOneSpec).at F).post enc Tryd.prog Tryd.f6 false true false false) := by
  obtain ⟨places, hx⟩ := reads os _ rfl enc
  refine returnsInHanded_of_row (C := Tryd.checked) (s := OpenSpec.ofChange Rows.frameOneSpec) own started (by kernel_rfl) Tryd.func6
    (witness_row_at (enc := enc) (C := Tryd.checked) false ({ World.holding Tryd.prog os ⟨#[], #[], []⟩ with heap := (World.holding Tryd.prog os ⟨#[], #[], []⟩).heap.modify 0 fun
      | .cells _ t frozen => .cells kindCells t frozen
      | o => o }) #[.string ⟨#[]⟩, .int .i64 0] rfl (by kernel_rfl) (by kernel_rfl) (by kernel_rfl)
      (OpenSpec.preRow_of_cond 8 hx (by kernel_rfl) (fun k hk => by cases hk) (by kernel_rfl) (laid_met os _ rfl))) ?_
  intro W base args ds gs before hval hW _ _ hsz hL _ _
  exact contract H enc W base args ds gs before hval hW hsz hL

theorem said : Rows.FrameOneSaid :=
  OpenClaim.holds_of_cond 6 Tryd.f6 rfl rfl rfl rfl rfl rfl rfl ⟨rfl, rfl, rfl, rfl, rfl⟩ rfl rfl rfl rfl rfl (by kernel_rfl) Tryd.func6 (by kernel_rfl)
    (of_decide_eq_true (by kernel_rfl)) (by unfold Func.isWrapper; first | (rw [if_pos (by decide +kernel)]; kernel_rfl) | (rw [if_neg (by decide +kernel)]; exact ⟨rfl, rfl⟩))
    (fun os started H enc _ F => by rw [OpenClaim.pre_eq_preRow]; exact lifted os started H enc F)

theorem plain (f : FuncId) (fn : Func) (hf : Tryd.pinned.checked.prog.funcNamed "herald/heraldlaw06.FrameOne" = some f) (hfn : Tryd.pinned.checked.prog.funcs[f]? = some fn) :
    false = Tryd.pinned.checked.prog.looks [] ∧ ∀ (j : Nat) t, fn.params[j]? = some t → Tryd.pinned.checked.prog.wantsStandIn t = false := by
  obtain rfl : f = 6 := Option.some.inj ((show Tryd.prog.funcNamed "herald/heraldlaw06.FrameOne" = some 6 by kernel_rfl).symm.trans hf) |>.symm
  obtain rfl : fn = Tryd.f6 := (Option.some.inj (Tryd.func6.symm.trans hfn)).symm
  refine ⟨by kernel_rfl, fun j t ht => ?_⟩
  rw [Tryd.params6] at ht
  rcases j with _ | _ | j
  · obtain rfl : t = 9 := by simpa using ht.symm
    exact (show Tryd.prog.wantsStandIn 9 = false by kernel_rfl)
  · obtain rfl : t = 2 := by simpa using ht.symm
    exact (show Tryd.prog.wantsStandIn 2 = false by kernel_rfl)
  · simp at ht
end POne

theorem frameOne_holds : Rows.FrameOneCardSaid :=
  Claim7.holds_tied_plain_at .later [] _ _ _ _ POne.said (fun _ h => by cases h) (by kernel_rfl) (fun _ h => by cases h) frameOne_row_tie rfl ⟨rfl, rfl⟩ (by kernel_rfl) rfl POne.plain (by kernel_rfl)
end Go.Proofs.YtjigjckclpccmaaDoor
