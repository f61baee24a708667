/- The row of CachePlays: its walk lifted to the given statement, and the card. -/
import Derived.Test.YtfponcdhaefkdaaDoorE4
import Derived.Test.YtfponcdhaefkdaaDoorVe
import Derived.Test.YtfponcdhaefkdaaDoorVi
import Derived.Test.YtfponcdhaefkdaaDoorL2
import Derived.SizedLaws
namespace Go.Proofs.YtfponcdhaefkdaaDoor
namespace PPlays
open Go.ChangeShapes Go.WideShapes Go.ChangeAt Go.RowKit
open Go.ChangeMaps (open_string shut_string)
set_option linter.unusedVariables false
set_option linter.unusedSimpArgs false

theorem wf_i64 {n : Int} (h : (Lit.int .i64 n).wf = true) : -9223372036854775808 ≤ n ∧ n ≤ 9223372036854775807 := by
  simp [Lit.wf] at h
  have h1 : IntKind.i64.min = -9223372036854775808 := by decide
  rw [h1] at h
  exact h
set_option maxRecDepth 100000 in
theorem contract (H : Type) (enc : TypeId × Value → H) (W : World) (base : Nat) (args : Array Value) (ds gs : List (DataW H)) (before : List MemPlace)
    (hval : ∀ (j : Nat) t v, Tryd.f6.params[j]? = some t → args[j]? = some v → Value.okWide Tryd.prog W .any base t v)
    (hW : DataW.Whole enc Tryd.prog Tryd.f6.params.toList Rows.cachePlaysSpec.vars false W args.toList ds gs before) (hsz0 : (DataW.weightsEach Tryd.prog (Tryd.f6.params.toList ++ (OpenSpec.ofChange Rows.cachePlaysSpec).bare.plain.varTypes Tryd.prog) (ds ++ gs)).all (· ≤ reachBytes) = true) (hL : laidMetH Tryd.prog Rows.cachePlaysRow.laid W) (hk : Rows.uptoSmall H (ds ++ gs) = true) :
    Calls Tryd.prog 6 args W fun e W' => ∃ v, e = .returned v ∧ Rows.cachePlaysSpec.post enc Tryd.prog Tryd.f6 false true false false W args v W' := by
  have hW' := hW
  obtain ⟨p, q, hA0, hV, rfl, hfz, hnd⟩ := hW
  have hA : DataW.TrodAll enc Tryd.prog W 0 (fun _ => true) true Tryd.f6.params.toList args.toList ds p := hA0
  have hsz := hsz0
  rw [Tryd.params6] at hA hval hsz
  obtain ⟨v0, vs0, d0, ds0, p0, q0, hargs, rfl, rfl, h0, r0⟩ := trodAll_cons hA
  obtain ⟨v1, vs1, d1, ds1, p1, q1, rfl, rfl, rfl, h1, r1⟩ := trodAll_cons r0
  obtain ⟨v2, vs2, d2, ds2, p2, q2, rfl, rfl, rfl, h2, r2⟩ := trodAll_cons r1
  obtain ⟨rfl, rfl, rfl⟩ := trodAll_nil r2
  obtain rfl : args = #[v0, v1, v2] := by cases args; simp_all
  obtain ⟨rfl, rfl⟩ := trodVars_none hV
  obtain ⟨ca0, cb0, cc0, cd0, rfl⟩ := open_conf (hval 0 36 v0 rfl rfl) h0
  have hlt0 : ∀ x ∈ p0, x.block < W.heap.size := fun x hx => hW'.lt x (by simp [hx])
  obtain ⟨ca1, cb1, cc1, cd1, rfl⟩ := open_conf (hval 1 36 v1 rfl rfl) h1
  have hlt1 : ∀ x ∈ p1, x.block < W.heap.size := fun x hx => hW'.lt x (by simp [hx])
  have hb2 : Rows.uptoBulk d2 ≤ 1048576 := by
    have hb := of_decide_eq_true hk
    simp only [Rows.uptoBulkAll, List.cons_append, List.nil_append] at hb
    omega
  obtain ⟨fu2, hfu2⟩ := h2
  obtain ⟨sa2, sl2, sc2, rfl⟩ := okWide_slice Tryd.underlying53 (hval 2 53 v2 rfl rfl)
  obtain ⟨y2, l2, ev2, hI2, ho2, hn2⟩ := open_scriptV hfu2 (weights_of hsz (j := 2) rfl rfl) hb2
  have hlt2 : ∀ x ∈ p2, x.block < W.heap.size := fun x hx => hW'.lt x (by simp [hx])
  clear hA0
  obtain ⟨mn, mv, mb, mt, hM⟩ := mark_of_laidP hL
  have hcall : Calls Tryd.prog 6 #[.agg #[.int .i64 ca0, .int .i64 cb0, .int .i64 cc0, .int .i64 cd0], .agg #[.int .i64 ca1, .int .i64 cb1, .int .i64 cc1, .int .i64 cd1], .slice sa2 sl2 sc2] W (fun e w' => e = .returned (.bool true) ∧ Below W.heap.size W w') := by rw [ev2]; exact cachePlays_any ca0 cb0 cc0 cd0 ca1 cb1 cc1 cd1 y2 l2 W hI2 ho2 ⟨mn, mv, mb⟩ mt hM
  refine hcall.mono ?_
  rintro e W' ⟨rfl, bel⟩
  refine ⟨_, rfl, _, _, _, [], (p0 ++ (p1 ++ (p2 ++ []))), [], hW', ?_, ?_, ?_, bel.frame _, fun h => by cases h⟩
  · exact trodAll_mk1 (shut_bool Tryd.underlying4 _)
  · exact ⟨p0, _, Below.trod laidOut (by kernel_rfl) (of_decide_eq_true (by kernel_rfl)) h0 bel hlt0, ⟨p1, _, Below.trod laidOut (by kernel_rfl) (of_decide_eq_true (by kernel_rfl)) h1 bel hlt1, ⟨p2, _, Below.trod laidOut (by kernel_rfl) (of_decide_eq_true (by kernel_rfl)) ⟨fu2, hfu2⟩ bel hlt2, trodAll_mk0, rfl⟩, rfl⟩, rfl⟩
  · rfl

theorem laid_met (os : Go.Os) (L : World) (hL : L = { World.holding Tryd.prog os ⟨#[], #[], []⟩ with heap := ((((World.holding Tryd.prog os ⟨#[], #[], []⟩).heap.modify 0 fun
      | .cells _ t frozen => .cells #[.string ⟨#[109, 97, 114, 107]⟩, .string ⟨#[109, 97, 114, 107]⟩, .bool false] t frozen
      | o => o).modify 1 fun
      | .cells _ t frozen => .cells cFirst t frozen
      | o => o).modify 2 fun
      | .cells _ t frozen => .cells cAccept t frozen
      | o => o) }) : laidMet Tryd.prog Rows.cachePlaysRow.laid ((L.forCall (fun _ _ => 0) ⟨#[], #[.agg #[.int .i64 0, .int .i64 0, .int .i64 0, .int .i64 0], .agg #[.int .i64 0, .int .i64 0, .int .i64 0, .int .i64 0], .slice none 0 0], []⟩).memory) := by
  subst hL
  exact laidMet_of_run' 8 (by kernel_rfl) (by kernel_rfl)
theorem reads (os : Go.Os) (L : World) (hL : L = { World.holding Tryd.prog os ⟨#[], #[], []⟩ with heap := ((((World.holding Tryd.prog os ⟨#[], #[], []⟩).heap.modify 0 fun
      | .cells _ t frozen => .cells #[.string ⟨#[109, 97, 114, 107]⟩, .string ⟨#[109, 97, 114, 107]⟩, .bool false] t frozen
      | o => o).modify 1 fun
      | .cells _ t frozen => .cells cFirst t frozen
      | o => o).modify 2 fun
      | .cells _ t frozen => .cells cAccept t frozen
      | o => o) }) {H : Type} (enc : TypeId × Value → H) : ∃ places, DataW.whole enc Tryd.prog ((L.forCall (fun _ _ => 0) ⟨#[], #[.agg #[.int .i64 0, .int .i64 0, .int .i64 0, .int .i64 0], .agg #[.int .i64 0, .int .i64 0, .int .i64 0, .int .i64 0], .slice none 0 0], []⟩).memory) Tryd.f6.params.toList Rows.cachePlaysSpec.vars false #[Value.agg #[.int .i64 0, .int .i64 0, .int .i64 0, .int .i64 0], .agg #[.int .i64 0, .int .i64 0, .int .i64 0, .int .i64 0], .slice none 0 0].toList 8 = some ([.agg [.lit (.int .i64 0), .lit (.int .i64 0), .lit (.int .i64 0), .lit (.int .i64 0)], .agg [.lit (.int .i64 0), .lit (.int .i64 0), .lit (.int .i64 0), .lit (.int .i64 0)], .nil], [], places) := by
  subst hL
  exact ⟨[], by kernel_rfl⟩

set_option maxRecDepth 100000 in
theorem lifted (os : Go.Os) (started : os.Started) (H : Type) (enc : TypeId × Value → H) (F : Stop.Interp) :
    ReturnsInHanded {} Tryd.checked os 6 .any ((Rows.OpenSpec.upto Rows.cachePlaysSpec).preRow enc Tryd.prog Tryd.f6 Rows.cachePlaysUptoRow.domain false Rows.cachePlaysUptoRow.laid) (((Rows.OpenSpec.upto Rows.cachePlaysSpec).at F).post enc Tryd.prog Tryd.f6 false true false false) := by
  obtain ⟨places, hx⟩ := reads os _ rfl enc
  refine returnsInHanded_of_row (C := Tryd.checked) (s := Rows.OpenSpec.upto Rows.cachePlaysSpec) own started (by kernel_rfl) Tryd.func6
    (witness_row_at (enc := enc) (C := Tryd.checked) false ({ World.holding Tryd.prog os ⟨#[], #[], []⟩ with heap := ((((World.holding Tryd.prog os ⟨#[], #[], []⟩).heap.modify 0 fun
      | .cells _ t frozen => .cells #[.string ⟨#[109, 97, 114, 107]⟩, .string ⟨#[109, 97, 114, 107]⟩, .bool false] t frozen
      | o => o).modify 1 fun
      | .cells _ t frozen => .cells cFirst t frozen
      | o => o).modify 2 fun
      | .cells _ t frozen => .cells cAccept t frozen
      | o => o) }) #[.agg #[.int .i64 0, .int .i64 0, .int .i64 0, .int .i64 0], .agg #[.int .i64 0, .int .i64 0, .int .i64 0, .int .i64 0], .slice none 0 0] rfl (by kernel_rfl) (by kernel_rfl) (by kernel_rfl)
      (OpenSpec.preRow_of_cond 8 hx (by kernel_rfl) (fun k hk => by cases hk; kernel_rfl) (by kernel_rfl) (laid_met os _ rfl))) ?_
  intro W base args ds gs before hval hW _ hcond hsz hL _ _
  exact contract H enc W base args ds gs before hval hW hsz hL (hcond _ rfl)

theorem said : Rows.CachePlaysUptoSaid :=
  OpenClaim.holds_of_cond 6 Tryd.f6 rfl rfl rfl rfl rfl rfl rfl ⟨rfl, rfl, rfl, rfl, rfl⟩ rfl rfl rfl rfl rfl (by kernel_rfl) Tryd.func6 (by kernel_rfl)
    (of_decide_eq_true (by kernel_rfl)) (by unfold Func.isWrapper; first | (rw [if_pos (by decide +kernel)]; kernel_rfl) | (rw [if_neg (by decide +kernel)]; exact ⟨rfl, rfl⟩))
    (fun os started H enc _ F => by rw [OpenClaim.pre_eq_preRow]; exact lifted os started H enc F)

theorem plain (f : FuncId) (fn : Func) (hf : Tryd.pinned.checked.prog.funcNamed "herald/heraldlaw19.CachePlays" = some f) (hfn : Tryd.pinned.checked.prog.funcs[f]? = some fn) :
    false = Tryd.pinned.checked.prog.looks [] ∧ ∀ (j : Nat) t, fn.params[j]? = some t → Tryd.pinned.checked.prog.wantsStandIn t = false := by
  obtain rfl : f = 6 := Option.some.inj ((show Tryd.prog.funcNamed "herald/heraldlaw19.CachePlays" = some 6 by kernel_rfl).symm.trans hf) |>.symm
  obtain rfl : fn = Tryd.f6 := (Option.some.inj (Tryd.func6.symm.trans hfn)).symm
  refine ⟨by kernel_rfl, fun j t ht => ?_⟩
  rw [Tryd.params6] at ht
  rcases j with _ | _ | _ | j
  · obtain rfl : t = 36 := by simpa using ht.symm
    exact (show Tryd.prog.wantsStandIn 36 = false by kernel_rfl)
  · obtain rfl : t = 36 := by simpa using ht.symm
    exact (show Tryd.prog.wantsStandIn 36 = false by kernel_rfl)
  · obtain rfl : t = 53 := by simpa using ht.symm
    exact (show Tryd.prog.wantsStandIn 53 = false by kernel_rfl)
  · simp at ht
end PPlays

theorem cachePlaysUpto_holds : Rows.CachePlaysUptoCardSaid :=
  Claim7.holds_tied_plain_at .later [] _ _ _ _ PPlays.said (fun _ h => by cases h) (by kernel_rfl) (fun _ h => by cases h) cachePlaysUpto_row_tie rfl ⟨rfl, rfl⟩ (by kernel_rfl) rfl PPlays.plain (by kernel_rfl)
end Go.Proofs.YtfponcdhaefkdaaDoor
