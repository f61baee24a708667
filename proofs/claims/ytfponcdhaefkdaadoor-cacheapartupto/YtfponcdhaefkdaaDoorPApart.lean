/- The row of CacheApart: its walk lifted to the given statement, and the card. -/
import Derived.Test.YtfponcdhaefkdaaDoorE4
import Derived.Test.YtfponcdhaefkdaaDoorE6
import Derived.Test.YtfponcdhaefkdaaDoorF4
import Derived.SizedLaws
namespace Go.Proofs.YtfponcdhaefkdaaDoor
namespace PApart
open Go.ChangeShapes Go.WideShapes Go.ChangeAt Go.RowKit
open Go.ChangeMaps (open_string shut_string)
set_option linter.unusedVariables false
set_option linter.unusedSimpArgs false

theorem wf_i64 {n : Int} (h : (Lit.int .i64 n).wf = true) : -9223372036854775808 ≤ n ∧ n ≤ 9223372036854775807 := by
  simp [Lit.wf] at h
  have h1 : IntKind.i64.min = -9223372036854775808 := by decide
  rw [h1] at h
  exact h
set_option maxRecDepth 100000 in
theorem contract (H : Type) (enc : TypeId × Value → H) (W : World) (base : Nat) (args : Array Value) (ds gs : List (DataW H)) (before : List MemPlace)
    (hval : ∀ (j : Nat) t v, Tryd.f4.params[j]? = some t → args[j]? = some v → Value.okWide Tryd.prog W .any base t v)
    (hW : DataW.Whole enc Tryd.prog Tryd.f4.params.toList Rows.cacheApartSpec.vars false W args.toList ds gs before) (hsz0 : (DataW.weightsEach Tryd.prog (Tryd.f4.params.toList ++ (OpenSpec.ofChange Rows.cacheApartSpec).bare.plain.varTypes Tryd.prog) (ds ++ gs)).all (· ≤ reachBytes) = true) (hL : laidMetH Tryd.prog Rows.cacheApartRow.laid W) (hk : Rows.uptoSmall H (ds ++ gs) = true) :
    Calls Tryd.prog 4 args W fun e W' => ∃ v, e = .returned v ∧ Rows.cacheApartSpec.post enc Tryd.prog Tryd.f4 false true false false W args v W' := by
  have hW' := hW
  obtain ⟨p, q, hA0, hV, rfl, hfz, hnd⟩ := hW
  have hA : DataW.TrodAll enc Tryd.prog W 0 (fun _ => true) true Tryd.f4.params.toList args.toList ds p := hA0
  have hsz := hsz0
  rw [Tryd.params4] at hA hval hsz
  obtain ⟨v0, vs0, d0, ds0, p0, q0, hargs, rfl, rfl, h0, r0⟩ := trodAll_cons hA
  obtain ⟨v1, vs1, d1, ds1, p1, q1, rfl, rfl, rfl, h1, r1⟩ := trodAll_cons r0
  obtain ⟨rfl, rfl, rfl⟩ := trodAll_nil r1
  obtain rfl : args = #[v0, v1] := by cases args; simp_all
  obtain ⟨rfl, rfl⟩ := trodVars_none hV
  obtain ⟨m0, s0, a0, q0_, b0, y0, l0, rfl, hI0, hz0, hn0, hs0⟩ := open_requestC (hval 0 24 v0 rfl rfl) h0 (weights_of hsz (j := 0) rfl rfl)
  have hb0 : Rows.uptoBulk d0 ≤ 1048576 := by
    have hb := of_decide_eq_true hk
    simp only [Rows.uptoBulkAll, List.cons_append, List.nil_append] at hb
    omega
  have hlt0 : ∀ x ∈ p0, x.block < W.heap.size := fun x hx => hW'.lt x (by simp [hx])
  obtain ⟨n1, b1, y1, l1, rfl, hI1, hz1, hn1, hs1, hv1⟩ := open_responseC (hval 1 26 v1 rfl rfl) h1 (weights_of hsz (j := 1) rfl rfl)
  have hb1 : Rows.uptoBulk d1 ≤ 1048576 := by
    have hb := of_decide_eq_true hk
    simp only [Rows.uptoBulkAll, List.cons_append, List.nil_append] at hb
    omega
  have hlt1 : ∀ x ∈ p1, x.block < W.heap.size := fun x hx => hW'.lt x (by simp [hx])
  clear hA0
  obtain ⟨mn, mv, mb, mt, hM⟩ := mark_of_laid hL
  have hzz : b1.size + szL l1 ≤ 1073741824 := by have h5 := resp_body h1; have h6 := szL_tot l1; have h7 := Nat.le_trans hv1 hb1; omega
  have hcall : Calls Tryd.prog 4 #[.agg (rqv ⟨m0, s0, a0, q0_, y0, b0⟩), .agg (rsv n1 (sv y1) b1)] W (fun e w' => e = .returned (.bool true) ∧ Below W.heap.size W w') := by exact cacheApart_any ⟨m0, s0, a0, q0_, y0, b0⟩ l0 n1 y1 b1 l1 mn mv mb mt W hI0 hI1 (az_of ⟨hs0.1, hs0.2.1, hs0.2.2.1, hs0.2.2.2.1⟩ hz0 (Nat.le_trans hs0.2.2.2.2.2 hb0) hz1 (Nat.le_trans hv1 hb1) hs1) hzz hM
  refine hcall.mono ?_
  rintro e W' ⟨rfl, bel⟩
  refine ⟨_, rfl, _, _, _, [], (p0 ++ (p1 ++ [])), [], hW', ?_, ?_, ?_, bel.frame _, fun h => by cases h⟩
  · exact trodAll_mk1 (shut_bool Tryd.underlying4 _)
  · exact ⟨p0, _, Below.trod laidOut (by kernel_rfl) (of_decide_eq_true (by kernel_rfl)) h0 bel hlt0, ⟨p1, _, Below.trod laidOut (by kernel_rfl) (of_decide_eq_true (by kernel_rfl)) h1 bel hlt1, trodAll_mk0, rfl⟩, rfl⟩
  · rfl

theorem laid_met (os : Os) (L : World) (hL : L = { World.holding Tryd.prog os ⟨#[], #[], []⟩ with heap := ((((World.holding Tryd.prog os ⟨#[], #[], []⟩).heap.modify 0 fun
      | .cells _ t frozen => .cells #[.string ⟨#[109, 97, 114, 107]⟩, .string ⟨#[109, 97, 114, 107]⟩, .bool false] t frozen
      | o => o).modify 1 fun
      | .cells _ t frozen => .cells cFirst t frozen
      | o => o).modify 2 fun
      | .cells _ t frozen => .cells cAccept t frozen
      | o => o) }) : laidMet Tryd.prog Rows.cacheApartRow.laid ((L.forCall (fun _ _ => 0) ⟨#[], #[.agg #[.string ⟨#[]⟩, .string ⟨#[]⟩, .string ⟨#[]⟩, .string ⟨#[]⟩, .slice none 0 0, .string ⟨#[]⟩], .agg #[.int .i64 0, .slice none 0 0, .string ⟨#[]⟩]], []⟩).memory) := by
  subst hL
  exact laidMet_of_run' 8 (by kernel_rfl) (by kernel_rfl)
theorem reads (os : Os) (L : World) (hL : L = { World.holding Tryd.prog os ⟨#[], #[], []⟩ with heap := ((((World.holding Tryd.prog os ⟨#[], #[], []⟩).heap.modify 0 fun
      | .cells _ t frozen => .cells #[.string ⟨#[109, 97, 114, 107]⟩, .string ⟨#[109, 97, 114, 107]⟩, .bool false] t frozen
      | o => o).modify 1 fun
      | .cells _ t frozen => .cells cFirst t frozen
      | o => o).modify 2 fun
      | .cells _ t frozen => .cells cAccept t frozen
      | o => o) }) {H : Type} (enc : TypeId × Value → H) : ∃ places, DataW.whole enc Tryd.prog ((L.forCall (fun _ _ => 0) ⟨#[], #[.agg #[.string ⟨#[]⟩, .string ⟨#[]⟩, .string ⟨#[]⟩, .string ⟨#[]⟩, .slice none 0 0, .string ⟨#[]⟩], .agg #[.int .i64 0, .slice none 0 0, .string ⟨#[]⟩]], []⟩).memory) Tryd.f4.params.toList Rows.cacheApartSpec.vars false #[Value.agg #[.string ⟨#[]⟩, .string ⟨#[]⟩, .string ⟨#[]⟩, .string ⟨#[]⟩, .slice none 0 0, .string ⟨#[]⟩], .agg #[.int .i64 0, .slice none 0 0, .string ⟨#[]⟩]].toList 8 = some ([.agg [.lit (.string []), .lit (.string []), .lit (.string []), .lit (.string []), .nil, .lit (.string [])], .agg [.lit (.int .i64 0), .nil, .lit (.string [])]], [], places) := by
  subst hL
  exact ⟨[], by kernel_rfl⟩

set_option maxRecDepth 100000 in
theorem lifted (os : Os) (started : os.Started) (H : Type) (enc : TypeId × Value → H) (F : Stop.Interp) :
    ReturnsInHanded {} Tryd.checked os 4 .any ((Rows.OpenSpec.upto Rows.cacheApartSpec).preRow enc Tryd.prog Tryd.f4 Rows.cacheApartUptoRow.domain false Rows.cacheApartUptoRow.laid) (((Rows.OpenSpec.upto Rows.cacheApartSpec).at F).post enc Tryd.prog Tryd.f4 false true false false) := by
  obtain ⟨places, hx⟩ := reads os _ rfl enc
  refine returnsInHanded_of_row (C := Tryd.checked) (s := Rows.OpenSpec.upto Rows.cacheApartSpec) own started (by kernel_rfl) Tryd.func4
    (witness_row_at (enc := enc) (C := Tryd.checked) false ({ World.holding Tryd.prog os ⟨#[], #[], []⟩ with heap := ((((World.holding Tryd.prog os ⟨#[], #[], []⟩).heap.modify 0 fun
      | .cells _ t frozen => .cells #[.string ⟨#[109, 97, 114, 107]⟩, .string ⟨#[109, 97, 114, 107]⟩, .bool false] t frozen
      | o => o).modify 1 fun
      | .cells _ t frozen => .cells cFirst t frozen
      | o => o).modify 2 fun
      | .cells _ t frozen => .cells cAccept t frozen
      | o => o) }) #[.agg #[.string ⟨#[]⟩, .string ⟨#[]⟩, .string ⟨#[]⟩, .string ⟨#[]⟩, .slice none 0 0, .string ⟨#[]⟩], .agg #[.int .i64 0, .slice none 0 0, .string ⟨#[]⟩]] rfl (by kernel_rfl) (by kernel_rfl) (by kernel_rfl)
      (OpenSpec.preRow_of_cond 8 hx (by kernel_rfl) (fun k hk => by cases hk; kernel_rfl) (by kernel_rfl) (laid_met os _ rfl))) ?_
  intro W base args ds gs before hval hW _ hcond hsz hL _ _
  exact contract H enc W base args ds gs before hval hW hsz hL (hcond _ rfl)

theorem said : Rows.CacheApartUptoSaid :=
  OpenClaim.holds_of_cond 4 Tryd.f4 rfl rfl rfl rfl rfl rfl rfl ⟨rfl, rfl, rfl, rfl, rfl⟩ rfl rfl rfl rfl rfl (by kernel_rfl) Tryd.func4 (by kernel_rfl)
    (of_decide_eq_true (by kernel_rfl)) (by unfold Func.isWrapper; first | (rw [if_pos (by decide +kernel)]; kernel_rfl) | (rw [if_neg (by decide +kernel)]; exact ⟨rfl, rfl⟩))
    (fun os started H enc _ F => by rw [OpenClaim.pre_eq_preRow]; exact lifted os started H enc F)

theorem plain (f : FuncId) (fn : Func) (hf : Tryd.pinned.checked.prog.funcNamed "herald/heraldlaw19.CacheApart" = some f) (hfn : Tryd.pinned.checked.prog.funcs[f]? = some fn) :
    false = Tryd.pinned.checked.prog.looks [] ∧ ∀ (j : Nat) t, fn.params[j]? = some t → Tryd.pinned.checked.prog.wantsStandIn t = false := by
  obtain rfl : f = 4 := Option.some.inj ((show Tryd.prog.funcNamed "herald/heraldlaw19.CacheApart" = some 4 by kernel_rfl).symm.trans hf) |>.symm
  obtain rfl : fn = Tryd.f4 := (Option.some.inj (Tryd.func4.symm.trans hfn)).symm
  refine ⟨by kernel_rfl, fun j t ht => ?_⟩
  rw [Tryd.params4] at ht
  rcases j with _ | _ | j
  · obtain rfl : t = 24 := by simpa using ht.symm
    exact (show Tryd.prog.wantsStandIn 24 = false by kernel_rfl)
  · obtain rfl : t = 26 := by simpa using ht.symm
    exact (show Tryd.prog.wantsStandIn 26 = false by kernel_rfl)
  · simp at ht
end PApart

theorem cacheApartUpto_holds : Rows.CacheApartUptoCardSaid :=
  Claim7.holds_tied_plain_at .later [] _ _ _ _ PApart.said (fun _ h => by cases h) (by kernel_rfl) (fun _ h => by cases h) cacheApartUpto_row_tie rfl ⟨rfl, rfl⟩ (by kernel_rfl) rfl PApart.plain (by kernel_rfl)
end Go.Proofs.YtfponcdhaefkdaaDoor
