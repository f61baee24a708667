/- The row of FeedPlays: its walk lifted to the given statement, and the card. -/
import Derived.Test.YtmhbaaemihljjaaDoorL1
import Derived.Test.YtmhbaaemihljjaaDoorE0
import Derived.Test.YtmhbaaemihljjaaDoorQ8
import Derived.SizedLaws
namespace Go.Proofs.YtmhbaaemihljjaaDoor
namespace PPlays
open Go.ChangeShapes Go.WideShapes Go.ChangeAt Go.RowKit
open Go.ChangeMaps (open_string shut_string)
set_option linter.unusedVariables false
set_option linter.unusedSimpArgs false

set_option maxRecDepth 100000 in
theorem contract (H : Type) (enc : TypeId × Value → H) (W : World) (base : Nat) (args : Array Value) (ds gs : List (DataW H)) (before : List MemPlace)
    (hval : ∀ (j : Nat) t v, Tryd.f8.params[j]? = some t → args[j]? = some v → Value.okWide Tryd.prog W .any base t v)
    (hW : DataW.Whole enc Tryd.prog Tryd.f8.params.toList Rows.feedPlaysSpec.vars false W args.toList ds gs before) (hsz0 : (DataW.weightsEach Tryd.prog (Tryd.f8.params.toList ++ (OpenSpec.ofChange Rows.feedPlaysSpec).bare.plain.varTypes Tryd.prog) (ds ++ gs)).all (· ≤ reachBytes) = true) (hL : laidMetH Tryd.prog Rows.feedPlaysRow.laid W) (hk : Rows.uptoSmall H (ds ++ gs) = true) :
    Calls Tryd.prog 8 args W fun e W' => ∃ v, e = .returned v ∧ Rows.feedPlaysSpec.post enc Tryd.prog Tryd.f8 false true false false W args v W' := by
  have hW' := hW
  obtain ⟨p, q, hA0, hV, rfl, hfz, hnd⟩ := hW
  have hA : DataW.TrodAll enc Tryd.prog W 0 (fun _ => true) true Tryd.f8.params.toList args.toList ds p := hA0
  have hsz := hsz0
  rw [Tryd.params8] at hA hval hsz
  obtain ⟨v0, vs0, d0, ds0, p0, q0, hargs, rfl, rfl, h0, r0⟩ := trodAll_cons hA
  obtain ⟨v1, vs1, d1, ds1, p1, q1, rfl, rfl, rfl, h1, r1⟩ := trodAll_cons r0
  obtain ⟨v2, vs2, d2, ds2, p2, q2, rfl, rfl, rfl, h2, r2⟩ := trodAll_cons r1
  obtain ⟨rfl, rfl, rfl⟩ := trodAll_nil r2
  obtain rfl : args = #[v0, v1, v2] := by cases args; simp_all
  obtain ⟨rfl, rfl⟩ := trodVars_none hV
  obtain ⟨x0, y0, rfl⟩ := open_two_bools (hval 0 57 v0 rfl rfl) h0
  have hlt0 : ∀ x ∈ p0, x.block < W.heap.size := fun x hx => hW'.lt x (by simp [hx])
  obtain ⟨x1, y1, rfl⟩ := open_two_ints (hval 1 58 v1 rfl rfl) h1
  have hlt1 : ∀ x ∈ p1, x.block < W.heap.size := fun x hx => hW'.lt x (by simp [hx])
  obtain ⟨sa2, sl2, sc2, rfl⟩ := okWide_slice Tryd.underlying59 (hval 2 59 v2 rfl rfl)
  have hb2 : Rows.uptoBulk d2 ≤ 1048576 := by
    have hb := of_decide_eq_true hk
    simp only [Rows.uptoBulkAll, List.cons_append, List.nil_append] at hb
    omega
  obtain ⟨os2, hl2, hc2, hn2, hs2⟩ := open_script h2 hb2
  have hlt2 : ∀ x ∈ p2, x.block < W.heap.size := fun x hx => hW'.lt x (by simp [hx])
  clear hA0
  have hK : Kinds W := kinds_of_laid hL
  have hw : 1 ≤ W.heap.size := by
    obtain ⟨t, ht⟩ := hK
    exact (Array.getElem?_eq_some_iff.1 ht).1
  refine (feedPlays_walk x0 y0 x1 y1 sa2 sl2 sc2 os2 hl2 W hc2 hn2 hs2 hK hw).mono ?_
  rintro e W' ⟨rfl, bel⟩
  refine ⟨_, rfl, _, _, _, [], (p0 ++ (p1 ++ (p2 ++ []))), [], hW', ?_, ?_, ?_, bel.frame _, fun h => by cases h⟩
  · exact trodAll_mk1 (shut_bool Tryd.underlying4 _)
  · exact ⟨p0, _, Below.trod laidOut (by kernel_rfl) (of_decide_eq_true (by kernel_rfl)) h0 bel hlt0, ⟨p1, _, Below.trod laidOut (by kernel_rfl) (of_decide_eq_true (by kernel_rfl)) h1 bel hlt1, ⟨p2, _, Below.trod laidOut (by kernel_rfl) (of_decide_eq_true (by kernel_rfl)) h2 bel hlt2, trodAll_mk0, rfl⟩, rfl⟩, rfl⟩
  · rfl

theorem laid_met (os : Os) (L : World) (hL : L = { World.holding Tryd.prog os ⟨#[], #[], []⟩ with heap := (World.holding Tryd.prog os ⟨#[], #[], []⟩).heap.modify 0 fun
      | .cells _ t frozen => .cells kindCells t frozen
      | o => o }) : laidMet Tryd.prog Rows.feedPlaysRow.laid ((L.forCall (fun _ _ => 0) ⟨#[], #[.agg #[.bool false, .bool false], .agg #[.int .i64 0, .int .i64 0], .slice none 0 0], []⟩).memory) := by
  subst hL
  exact laidMet_of_run' 8 (by kernel_rfl) (by kernel_rfl)
theorem reads (os : Os) (L : World) (hL : L = { World.holding Tryd.prog os ⟨#[], #[], []⟩ with heap := (World.holding Tryd.prog os ⟨#[], #[], []⟩).heap.modify 0 fun
      | .cells _ t frozen => .cells kindCells t frozen
      | o => o }) {H : Type} (enc : TypeId × Value → H) : ∃ places, DataW.whole enc Tryd.prog ((L.forCall (fun _ _ => 0) ⟨#[], #[.agg #[.bool false, .bool false], .agg #[.int .i64 0, .int .i64 0], .slice none 0 0], []⟩).memory) Tryd.f8.params.toList Rows.feedPlaysSpec.vars false #[Value.agg #[.bool false, .bool false], .agg #[.int .i64 0, .int .i64 0], .slice none 0 0].toList 8 = some ([.agg [.lit (.bool false), .lit (.bool false)], .agg [.lit (.int .i64 0), .lit (.int .i64 0)], .nil], [], places) := by
  subst hL
  exact ⟨[], by kernel_rfl⟩

set_option maxRecDepth 100000 in
theorem lifted (os : Os) (started : os.Started) (H : Type) (enc : TypeId × Value → H) (F : Stop.Interp) :
    ReturnsInHanded {} Tryd.checked os 8 .any ((Rows.OpenSpec.upto Rows.feedPlaysSpec).preRow enc Tryd.prog Tryd.f8 Rows.feedPlaysUptoRow.domain false Rows.feedPlaysUptoRow.laid) (((Rows.OpenSpec.upto Rows.feedPlaysSpec).at F).post enc Tryd.prog Tryd.f8 false true false false) := by
  obtain ⟨places, hx⟩ := reads os _ rfl enc
  refine returnsInHanded_of_row (C := Tryd.checked) (s := Rows.OpenSpec.upto Rows.feedPlaysSpec) own started (by kernel_rfl) Tryd.func8
    (witness_row_at (enc := enc) (C := Tryd.checked) false ({ World.holding Tryd.prog os ⟨#[], #[], []⟩ with heap := (World.holding Tryd.prog os ⟨#[], #[], []⟩).heap.modify 0 fun
      | .cells _ t frozen => .cells kindCells t frozen
      | o => o }) #[.agg #[.bool false, .bool false], .agg #[.int .i64 0, .int .i64 0], .slice none 0 0] rfl (by kernel_rfl) (by kernel_rfl) (by kernel_rfl)
      (OpenSpec.preRow_of_cond 8 hx (by kernel_rfl) (fun k hk => by cases hk; kernel_rfl) (by kernel_rfl) (laid_met os _ rfl))) ?_
  intro W base args ds gs before hval hW _ hcond hsz hL _ _
  exact contract H enc W base args ds gs before hval hW hsz hL (hcond _ rfl)

theorem said : Rows.FeedPlaysUptoSaid :=
  OpenClaim.holds_of_cond 8 Tryd.f8 rfl rfl rfl rfl rfl rfl rfl ⟨rfl, rfl, rfl, rfl, rfl⟩ rfl rfl rfl rfl rfl (by kernel_rfl) Tryd.func8 (by kernel_rfl)
    (of_decide_eq_true (by kernel_rfl)) (by unfold Func.isWrapper; first | (rw [if_pos (by decide +kernel)]; kernel_rfl) | (rw [if_neg (by decide +kernel)]; exact ⟨rfl, rfl⟩))
    (fun os started H enc _ F => by rw [OpenClaim.pre_eq_preRow]; exact lifted os started H enc F)

theorem plain (f : FuncId) (fn : Func) (hf : Tryd.pinned.checked.prog.funcNamed "herald/heraldlaw07.FeedPlays" = some f) (hfn : Tryd.pinned.checked.prog.funcs[f]? = some fn) :
    false = Tryd.pinned.checked.prog.looks [] ∧ ∀ (j : Nat) t, fn.params[j]? = some t → Tryd.pinned.checked.prog.wantsStandIn t = false := by
  obtain rfl : f = 8 := Option.some.inj ((show Tryd.prog.funcNamed "herald/heraldlaw07.FeedPlays" = some 8 by kernel_rfl).symm.trans hf) |>.symm
  obtain rfl : fn = Tryd.f8 := (Option.some.inj (Tryd.func8.symm.trans hfn)).symm
  refine ⟨by kernel_rfl, fun j t ht => ?_⟩
  rw [Tryd.params8] at ht
  rcases j with _ | _ | _ | j
  · obtain rfl : t = 57 := by simpa using ht.symm
    exact (show Tryd.prog.wantsStandIn 57 = false by kernel_rfl)
  · obtain rfl : t = 58 := by simpa using ht.symm
    exact (show Tryd.prog.wantsStandIn 58 = false by kernel_rfl)
  · obtain rfl : t = 59 := by simpa using ht.symm
    exact (show Tryd.prog.wantsStandIn 59 = false by kernel_rfl)
  · simp at ht
end PPlays

theorem feedPlaysUpto_holds : Rows.FeedPlaysUptoCardSaid :=
  Claim7.holds_tied_plain_at .later [] _ _ _ _ PPlays.said (fun _ h => by cases h) (by kernel_rfl) (fun _ h => by cases h) feedPlaysUpto_row_tie rfl ⟨rfl, rfl⟩ (by kernel_rfl) rfl PPlays.plain (by kernel_rfl)
end Go.Proofs.YtmhbaaemihljjaaDoor
