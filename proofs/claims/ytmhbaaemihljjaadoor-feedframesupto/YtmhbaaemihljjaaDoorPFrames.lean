/- The row of FeedFrames: its walk lifted to the given statement, and the card. -/
import Derived.Test.YtmhbaaemihljjaaDoorL1
import Derived.Test.YtmhbaaemihljjaaDoorE0
import Derived.Test.YtmhbaaemihljjaaDoorY8
import Derived.SizedLaws
namespace Go.Proofs.YtmhbaaemihljjaaDoor
namespace PFrames
open Go.ChangeShapes Go.WideShapes Go.ChangeAt Go.RowKit
open Go.ChangeMaps (open_string shut_string)
set_option linter.unusedVariables false
set_option linter.unusedSimpArgs false

set_option maxRecDepth 100000 in
theorem contract (H : Type) (enc : TypeId × Value → H) (W : World) (base : Nat) (args : Array Value) (ds gs : List (DataW H)) (before : List MemPlace)
    (hval : ∀ (j : Nat) t v, Tryd.f7.params[j]? = some t → args[j]? = some v → Value.okWide Tryd.prog W .any base t v)
    (hW : DataW.Whole enc Tryd.prog Tryd.f7.params.toList Rows.feedFramesSpec.vars false W args.toList ds gs before) (hsz0 : (DataW.weightsEach Tryd.prog (Tryd.f7.params.toList ++ (OpenSpec.ofChange Rows.feedFramesSpec).bare.plain.varTypes Tryd.prog) (ds ++ gs)).all (· ≤ reachBytes) = true) (hL : laidMetH Tryd.prog Rows.feedFramesRow.laid W) (hk : Rows.uptoSmall H (ds ++ gs) = true) :
    Calls Tryd.prog 7 args W fun e W' => ∃ v, e = .returned v ∧ Rows.feedFramesSpec.post enc Tryd.prog Tryd.f7 false true false false W args v W' := by
  have hW' := hW
  obtain ⟨p, q, hA0, hV, rfl, hfz, hnd⟩ := hW
  have hA : DataW.TrodAll enc Tryd.prog W 0 (fun _ => true) true Tryd.f7.params.toList args.toList ds p := hA0
  have hsz := hsz0
  rw [Tryd.params7] at hA hval hsz
  obtain ⟨v0, vs0, d0, ds0, p0, q0, hargs, rfl, rfl, h0, r0⟩ := trodAll_cons hA
  obtain ⟨v1, vs1, d1, ds1, p1, q1, rfl, rfl, rfl, h1, r1⟩ := trodAll_cons r0
  obtain ⟨v2, vs2, d2, ds2, p2, q2, rfl, rfl, rfl, h2, r2⟩ := trodAll_cons r1
  obtain ⟨v3, vs3, d3, ds3, p3, q3, rfl, rfl, rfl, h3, r3⟩ := trodAll_cons r2
  obtain ⟨rfl, rfl, rfl⟩ := trodAll_nil r3
  obtain rfl : args = #[v0, v1, v2, v3] := by cases args; simp_all
  obtain ⟨rfl, rfl⟩ := trodVars_none hV
  obtain ⟨a0, rfl, rfl, rfl⟩ := open_bool Tryd.underlying4 (hval 0 4 v0 rfl rfl) h0
  have hb1 : Rows.uptoBulk d1 ≤ 1048576 := by
    have hb := of_decide_eq_true hk
    simp only [Rows.uptoBulkAll, List.cons_append, List.nil_append] at hb
    omega
  obtain ⟨sa1, sl1, sc1, rfl⟩ := okWide_slice Tryd.underlying54 (hval 1 54 v1 rfl rfl)
  obtain ⟨l1, hn1, hI1, hp1, hN1⟩ := Y8.open_frames h1 hb1
  have hlt1 : ∀ x ∈ p1, x.block < W.heap.size := fun x hx => hW'.lt x (by simp [hx])
  have hb2 : Rows.uptoBulk d2 ≤ 1048576 := by
    have hb := of_decide_eq_true hk
    simp only [Rows.uptoBulkAll, List.cons_append, List.nil_append] at hb
    omega
  obtain ⟨f2, pb2, pl2, pc2, ps2, rfl, hP2, hl2⟩ := Y8.open_frame (hval 2 28 v2 rfl rfl) h2 hb2
  have hlt2 : ∀ x ∈ p2, x.block < W.heap.size := fun x hx => hW'.lt x (by simp [hx])
  obtain ⟨a3, rfl, rfl, rfl, w3⟩ := open_int Tryd.underlying3 (hval 3 3 v3 rfl rfl) h3
  clear hA0
  have hK : Kinds W := kinds_of_laid hL
  have hw : 1 ≤ W.heap.size := by
    obtain ⟨t, ht⟩ := hK
    exact (Array.getElem?_eq_some_iff.1 ht).1
  refine (feedFrames_any a0 sa1 sl1 sc1 l1 hn1 f2 pb2 pl2 pc2 ps2 a3 W hw hK hI1 hp1 hP2 hl2 hN1 (Y8.wf_i64 w3).1 (Y8.wf_i64 w3).2).mono ?_
  rintro e W' ⟨rfl, bel⟩
  refine ⟨_, rfl, _, _, _, [], ([] ++ (p1 ++ (p2 ++ ([] ++ [])))), [], hW', ?_, ?_, ?_, bel.frame _, fun h => by cases h⟩
  · exact trodAll_mk1 (shut_bool Tryd.underlying4 _)
  · exact ⟨[], _, shut_bool Tryd.underlying4 a0, ⟨p1, _, Below.trod laidOut (by kernel_rfl) (of_decide_eq_true (by kernel_rfl)) h1 bel hlt1, ⟨p2, _, Below.trod laidOut (by kernel_rfl) (of_decide_eq_true (by kernel_rfl)) h2 bel hlt2, ⟨[], _, shut_int Tryd.underlying3 w3, trodAll_mk0, rfl⟩, rfl⟩, rfl⟩, rfl⟩
  · rfl

theorem laid_met (os : Os) (L : World) (hL : L = { World.holding Tryd.prog os ⟨#[], #[], []⟩ with heap := (World.holding Tryd.prog os ⟨#[], #[], []⟩).heap.modify 0 fun
      | .cells _ t frozen => .cells kindCells t frozen
      | o => o }) : laidMet Tryd.prog Rows.feedFramesRow.laid ((L.forCall (fun _ _ => 0) ⟨#[], #[.bool false, .slice none 0 0, .agg (fv Fr.zero (.slice none 0 0)), .int .i64 0], []⟩).memory) := by
  subst hL
  exact laidMet_of_run' 8 (by kernel_rfl) (by kernel_rfl)
theorem reads (os : Os) (L : World) (hL : L = { World.holding Tryd.prog os ⟨#[], #[], []⟩ with heap := (World.holding Tryd.prog os ⟨#[], #[], []⟩).heap.modify 0 fun
      | .cells _ t frozen => .cells kindCells t frozen
      | o => o }) {H : Type} (enc : TypeId × Value → H) : ∃ places, DataW.whole enc Tryd.prog ((L.forCall (fun _ _ => 0) ⟨#[], #[.bool false, .slice none 0 0, .agg (fv Fr.zero (.slice none 0 0)), .int .i64 0], []⟩).memory) Tryd.f7.params.toList Rows.feedFramesSpec.vars false #[Value.bool false, .slice none 0 0, .agg (fv Fr.zero (.slice none 0 0)), .int .i64 0].toList 8 = some ([.lit (.bool false), .nil, .agg [.lit (.int .i64 0), .lit (.int .i64 0), .lit (.int .i64 0), .lit (.string []), .lit (.int .i64 0), .lit (.int .i64 0), .lit (.bool false), .lit (.int .i64 0), .lit (.int .i64 0), .lit (.int .i64 0), .nil], .lit (.int .i64 0)], [], places) := by
  subst hL
  exact ⟨[], by kernel_rfl⟩

set_option maxRecDepth 100000 in
theorem lifted (os : Os) (started : os.Started) (H : Type) (enc : TypeId × Value → H) (F : Stop.Interp) :
    ReturnsInHanded {} Tryd.checked os 7 .any ((Rows.OpenSpec.upto Rows.feedFramesSpec).preRow enc Tryd.prog Tryd.f7 Rows.feedFramesUptoRow.domain false Rows.feedFramesUptoRow.laid) (((Rows.OpenSpec.upto Rows.feedFramesSpec).at F).post enc Tryd.prog Tryd.f7 false true false false) := by
  obtain ⟨places, hx⟩ := reads os _ rfl enc
  refine returnsInHanded_of_row (C := Tryd.checked) (s := Rows.OpenSpec.upto Rows.feedFramesSpec) own started (by kernel_rfl) Tryd.func7
    (witness_row_at (enc := enc) (C := Tryd.checked) false ({ World.holding Tryd.prog os ⟨#[], #[], []⟩ with heap := (World.holding Tryd.prog os ⟨#[], #[], []⟩).heap.modify 0 fun
      | .cells _ t frozen => .cells kindCells t frozen
      | o => o }) #[.bool false, .slice none 0 0, .agg (fv Fr.zero (.slice none 0 0)), .int .i64 0] rfl (by kernel_rfl) (by kernel_rfl) (by kernel_rfl)
      (OpenSpec.preRow_of_cond 8 hx (by kernel_rfl) (fun k hk => by cases hk; kernel_rfl) (by kernel_rfl) (laid_met os _ rfl))) ?_
  intro W base args ds gs before hval hW _ hcond hsz hL _ _
  exact contract H enc W base args ds gs before hval hW hsz hL (hcond _ rfl)

theorem said : Rows.FeedFramesUptoSaid :=
  OpenClaim.holds_of_cond 7 Tryd.f7 rfl rfl rfl rfl rfl rfl rfl ⟨rfl, rfl, rfl, rfl, rfl⟩ rfl rfl rfl rfl rfl (by kernel_rfl) Tryd.func7 (by kernel_rfl)
    (of_decide_eq_true (by kernel_rfl)) (by unfold Func.isWrapper; first | (rw [if_pos (by decide +kernel)]; kernel_rfl) | (rw [if_neg (by decide +kernel)]; exact ⟨rfl, rfl⟩))
    (fun os started H enc _ F => by rw [OpenClaim.pre_eq_preRow]; exact lifted os started H enc F)

theorem plain (f : FuncId) (fn : Func) (hf : Tryd.pinned.checked.prog.funcNamed "herald/heraldlaw07.FeedFrames" = some f) (hfn : Tryd.pinned.checked.prog.funcs[f]? = some fn) :
    false = Tryd.pinned.checked.prog.looks [] ∧ ∀ (j : Nat) t, fn.params[j]? = some t → Tryd.pinned.checked.prog.wantsStandIn t = false := by
  obtain rfl : f = 7 := Option.some.inj ((show Tryd.prog.funcNamed "herald/heraldlaw07.FeedFrames" = some 7 by kernel_rfl).symm.trans hf) |>.symm
  obtain rfl : fn = Tryd.f7 := (Option.some.inj (Tryd.func7.symm.trans hfn)).symm
  refine ⟨by kernel_rfl, fun j t ht => ?_⟩
  rw [Tryd.params7] at ht
  rcases j with _ | _ | _ | _ | j
  · obtain rfl : t = 4 := by simpa using ht.symm
    exact (show Tryd.prog.wantsStandIn 4 = false by kernel_rfl)
  · obtain rfl : t = 54 := by simpa using ht.symm
    exact (show Tryd.prog.wantsStandIn 54 = false by kernel_rfl)
  · obtain rfl : t = 28 := by simpa using ht.symm
    exact (show Tryd.prog.wantsStandIn 28 = false by kernel_rfl)
  · obtain rfl : t = 3 := by simpa using ht.symm
    exact (show Tryd.prog.wantsStandIn 3 = false by kernel_rfl)
  · simp at ht
end PFrames

theorem feedFramesUpto_holds : Rows.FeedFramesUptoCardSaid :=
  Claim7.holds_tied_plain_at .later [] _ _ _ _ PFrames.said (fun _ h => by cases h) (by kernel_rfl) (fun _ h => by cases h) feedFramesUpto_row_tie rfl ⟨rfl, rfl⟩ (by kernel_rfl) rfl PFrames.plain (by kernel_rfl)
end Go.Proofs.YtmhbaaemihljjaaDoor
