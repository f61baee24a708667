/- The row of FeedChunks: its walk lifted to the given statement, and the card. -/
import Derived.Test.YtmhbaaemihljjaaDoorL1
import Derived.Test.YtmhbaaemihljjaaDoorE0
import Derived.Test.YtmhbaaemihljjaaDoorN7
import Derived.SizedLaws
namespace Go.Proofs.YtmhbaaemihljjaaDoor
namespace PChunks
open Go.ChangeShapes Go.WideShapes Go.ChangeAt Go.RowKit
open Go.ChangeMaps (open_string shut_string)
set_option linter.unusedVariables false
set_option linter.unusedSimpArgs false

set_option maxRecDepth 100000 in
theorem contract (H : Type) (enc : TypeId × Value → H) (W : World) (base : Nat) (args : Array Value) (ds gs : List (DataW H)) (before : List MemPlace)
    (hval : ∀ (j : Nat) t v, Tryd.f5.params[j]? = some t → args[j]? = some v → Value.okWide Tryd.prog W .any base t v)
    (hW : DataW.Whole enc Tryd.prog Tryd.f5.params.toList Rows.feedChunksSpec.vars false W args.toList ds gs before) (hsz0 : (DataW.weightsEach Tryd.prog (Tryd.f5.params.toList ++ (OpenSpec.ofChange Rows.feedChunksSpec).bare.plain.varTypes Tryd.prog) (ds ++ gs)).all (· ≤ reachBytes) = true) (hL : laidMetH Tryd.prog Rows.feedChunksRow.laid W) (hk : Rows.uptoSmall H (ds ++ gs) = true) :
    Calls Tryd.prog 5 args W fun e W' => ∃ v, e = .returned v ∧ Rows.feedChunksSpec.post enc Tryd.prog Tryd.f5 false true false false W args v W' := by
  have hW' := hW
  obtain ⟨p, q, hA0, hV, rfl, hfz, hnd⟩ := hW
  have hA : DataW.TrodAll enc Tryd.prog W 0 (fun _ => true) true Tryd.f5.params.toList args.toList ds p := hA0
  have hsz := hsz0
  rw [Tryd.params5] at hA hval hsz
  obtain ⟨v0, vs0, d0, ds0, p0, q0, hargs, rfl, rfl, h0, r0⟩ := trodAll_cons hA
  obtain ⟨v1, vs1, d1, ds1, p1, q1, rfl, rfl, rfl, h1, r1⟩ := trodAll_cons r0
  obtain ⟨v2, vs2, d2, ds2, p2, q2, rfl, rfl, rfl, h2, r2⟩ := trodAll_cons r1
  obtain ⟨v3, vs3, d3, ds3, p3, q3, rfl, rfl, rfl, h3, r3⟩ := trodAll_cons r2
  obtain ⟨v4, vs4, d4, ds4, p4, q4, rfl, rfl, rfl, h4, r4⟩ := trodAll_cons r3
  obtain ⟨rfl, rfl, rfl⟩ := trodAll_nil r4
  obtain rfl : args = #[v0, v1, v2, v3, v4] := by cases args; simp_all
  obtain ⟨rfl, rfl⟩ := trodVars_none hV
  obtain ⟨a0, rfl, rfl, rfl⟩ := open_bool Tryd.underlying4 (hval 0 4 v0 rfl rfl) h0
  obtain ⟨a1, rfl, rfl, rfl, w1⟩ := open_int Tryd.underlying2 (hval 1 2 v1 rfl rfl) h1
  obtain ⟨a2, rfl, rfl, rfl, w2⟩ := open_string Tryd.underlying9 (hval 2 9 v2 rfl rfl) h2
  have hz2 : a2.size ≤ 140737488351232 := by have := weights_of hsz (j := 2) rfl rfl a2.size (by simp [DataW.weights]); simpa [reachBytes] using this
  obtain ⟨fu3, hfu3⟩ := h3
  obtain ⟨sa3, sl3, sc3, rfl⟩ := okWide_slice Tryd.underlying41 (hval 3 41 v3 rfl rfl)
  obtain ⟨ss3, hl3, hc3, hs3, hn3⟩ := open_nums hfu3 (weights_of hsz (j := 3) rfl rfl)
  have hlt3 : ∀ x ∈ p3, x.block < W.heap.size := fun x hx => hW'.lt x (by simp [hx])
  obtain ⟨a4, rfl, rfl, rfl⟩ := open_bool Tryd.underlying4 (hval 4 4 v4 rfl rfl) h4
  have hb := of_decide_eq_true hk
  simp only [Rows.uptoBulkAll, Rows.uptoBulk, List.cons_append, List.nil_append] at hb
  have hu2 : a2.size ≤ 1048576 := (by have hq : a2.data.toList.length = a2.size := (by simp); omega)
  clear hA0
  have hK : Kinds W := kinds_of_laid hL
  have hw : 1 ≤ W.heap.size := by
    obtain ⟨t, ht⟩ := hK
    exact (Array.getElem?_eq_some_iff.1 ht).1
  refine (feedChunks_walk a0 a4 a1 a2 sa3 sl3 sc3 ss3 hl3 W hK hw hc3 hn3 hu2).mono ?_
  rintro e W' ⟨rfl, bel⟩
  refine ⟨_, rfl, _, _, _, [], ([] ++ ([] ++ ([] ++ (p3 ++ ([] ++ []))))), [], hW', ?_, ?_, ?_, bel.frame _, fun h => by cases h⟩
  · exact trodAll_mk1 (shut_bool Tryd.underlying4 _)
  · exact ⟨[], _, shut_bool Tryd.underlying4 a0, ⟨[], _, shut_int Tryd.underlying2 w1, ⟨[], _, shut_string Tryd.underlying9 w2, ⟨p3, _, Below.trod laidOut (by kernel_rfl) (of_decide_eq_true (by kernel_rfl)) ⟨fu3, hfu3⟩ bel hlt3, ⟨[], _, shut_bool Tryd.underlying4 a4, trodAll_mk0, rfl⟩, rfl⟩, rfl⟩, rfl⟩, rfl⟩
  · rfl

theorem laid_met (os : Os) (L : World) (hL : L = { World.holding Tryd.prog os ⟨#[], #[], []⟩ with heap := (World.holding Tryd.prog os ⟨#[], #[], []⟩).heap.modify 0 fun
      | .cells _ t frozen => .cells kindCells t frozen
      | o => o }) : laidMet Tryd.prog Rows.feedChunksRow.laid ((L.forCall (fun _ _ => 0) ⟨#[], #[.bool false, .int .i64 0, .string ⟨#[]⟩, .slice none 0 0, .bool false], []⟩).memory) := by
  subst hL
  exact laidMet_of_run' 8 (by kernel_rfl) (by kernel_rfl)
theorem reads (os : Os) (L : World) (hL : L = { World.holding Tryd.prog os ⟨#[], #[], []⟩ with heap := (World.holding Tryd.prog os ⟨#[], #[], []⟩).heap.modify 0 fun
      | .cells _ t frozen => .cells kindCells t frozen
      | o => o }) {H : Type} (enc : TypeId × Value → H) : ∃ places, DataW.whole enc Tryd.prog ((L.forCall (fun _ _ => 0) ⟨#[], #[.bool false, .int .i64 0, .string ⟨#[]⟩, .slice none 0 0, .bool false], []⟩).memory) Tryd.f5.params.toList Rows.feedChunksSpec.vars false #[Value.bool false, .int .i64 0, .string ⟨#[]⟩, .slice none 0 0, .bool false].toList 8 = some ([.lit (.bool false), .lit (.int .i64 0), .lit (.string []), .nil, .lit (.bool false)], [], places) := by
  subst hL
  exact ⟨[], by kernel_rfl⟩

set_option maxRecDepth 100000 in
theorem lifted (os : Os) (started : os.Started) (H : Type) (enc : TypeId × Value → H) (F : Stop.Interp) :
    ReturnsInHanded {} Tryd.checked os 5 .any ((Rows.OpenSpec.upto Rows.feedChunksSpec).preRow enc Tryd.prog Tryd.f5 Rows.feedChunksUptoRow.domain false Rows.feedChunksUptoRow.laid) (((Rows.OpenSpec.upto Rows.feedChunksSpec).at F).post enc Tryd.prog Tryd.f5 false true false false) := by
  obtain ⟨places, hx⟩ := reads os _ rfl enc
  refine returnsInHanded_of_row (C := Tryd.checked) (s := Rows.OpenSpec.upto Rows.feedChunksSpec) own started (by kernel_rfl) Tryd.func5
    (witness_row_at (enc := enc) (C := Tryd.checked) false ({ World.holding Tryd.prog os ⟨#[], #[], []⟩ with heap := (World.holding Tryd.prog os ⟨#[], #[], []⟩).heap.modify 0 fun
      | .cells _ t frozen => .cells kindCells t frozen
      | o => o }) #[.bool false, .int .i64 0, .string ⟨#[]⟩, .slice none 0 0, .bool false] rfl (by kernel_rfl) (by kernel_rfl) (by kernel_rfl)
      (OpenSpec.preRow_of_cond 8 hx (by kernel_rfl) (fun k hk => by cases hk; kernel_rfl) (by kernel_rfl) (laid_met os _ rfl))) ?_
  intro W base args ds gs before hval hW _ hcond hsz hL _ _
  exact contract H enc W base args ds gs before hval hW hsz hL (hcond _ rfl)

theorem said : Rows.FeedChunksUptoSaid :=
  OpenClaim.holds_of_cond 5 Tryd.f5 rfl rfl rfl rfl rfl rfl rfl ⟨rfl, rfl, rfl, rfl, rfl⟩ rfl rfl rfl rfl rfl (by kernel_rfl) Tryd.func5 (by kernel_rfl)
    (of_decide_eq_true (by kernel_rfl)) (by unfold Func.isWrapper; first | (rw [if_pos (by decide +kernel)]; kernel_rfl) | (rw [if_neg (by decide +kernel)]; exact ⟨rfl, rfl⟩))
    (fun os started H enc _ F => by rw [OpenClaim.pre_eq_preRow]; exact lifted os started H enc F)

theorem plain (f : FuncId) (fn : Func) (hf : Tryd.pinned.checked.prog.funcNamed "herald/heraldlaw07.FeedChunks" = some f) (hfn : Tryd.pinned.checked.prog.funcs[f]? = some fn) :
    false = Tryd.pinned.checked.prog.looks [] ∧ ∀ (j : Nat) t, fn.params[j]? = some t → Tryd.pinned.checked.prog.wantsStandIn t = false := by
  obtain rfl : f = 5 := Option.some.inj ((show Tryd.prog.funcNamed "herald/heraldlaw07.FeedChunks" = some 5 by kernel_rfl).symm.trans hf) |>.symm
  obtain rfl : fn = Tryd.f5 := (Option.some.inj (Tryd.func5.symm.trans hfn)).symm
  refine ⟨by kernel_rfl, fun j t ht => ?_⟩
  rw [Tryd.params5] at ht
  rcases j with _ | _ | _ | _ | _ | j
  · obtain rfl : t = 4 := by simpa using ht.symm
    exact (show Tryd.prog.wantsStandIn 4 = false by kernel_rfl)
  · obtain rfl : t = 2 := by simpa using ht.symm
    exact (show Tryd.prog.wantsStandIn 2 = false by kernel_rfl)
  · obtain rfl : t = 9 := by simpa using ht.symm
    exact (show Tryd.prog.wantsStandIn 9 = false by kernel_rfl)
  · obtain rfl : t = 41 := by simpa using ht.symm
    exact (show Tryd.prog.wantsStandIn 41 = false by kernel_rfl)
  · obtain rfl : t = 4 := by simpa using ht.symm
    exact (show Tryd.prog.wantsStandIn 4 = false by kernel_rfl)
  · simp at ht
end PChunks

theorem feedChunksUpto_holds : Rows.FeedChunksUptoCardSaid :=
  Claim7.holds_tied_plain_at .later [] _ _ _ _ PChunks.said (fun _ h => by cases h) (by kernel_rfl) (fun _ h => by cases h) feedChunksUpto_row_tie rfl ⟨rfl, rfl⟩ (by kernel_rfl) rfl PChunks.plain (by kernel_rfl)
end Go.Proofs.YtmhbaaemihljjaaDoor
