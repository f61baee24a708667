/- The row of TraceRight: its walk lifted to the given statement, and the card. -/
import Derived.Test.YtfmljlflnpmceaaGreatDoorVzp
import Derived.Test.YtfmljlflnpmceaaGreatDoorU7
import Derived.SizedLaws
namespace Go.Proofs.YtfmljlflnpmceaaGreatDoor
namespace PRight
open Go.ChangeShapes Go.WideShapes Go.ChangeAt Go.RowKit
open Go.ChangeMaps (open_string shut_string)
set_option linter.unusedVariables false
set_option linter.unusedSimpArgs false

set_option maxRecDepth 100000 in
theorem contract (H : Type) (enc : TypeId × Value → H) (W : World) (base : Nat) (args : Array Value) (ds gs : List (DataW H)) (before : List MemPlace)
    (hval : ∀ (j : Nat) t v, Tryz.f5.params[j]? = some t → args[j]? = some v → Value.okWide Tryz.prog W .any base t v)
    (hW : DataW.Whole enc Tryz.prog Tryz.f5.params.toList Rows.traceRightSpec.vars false W args.toList ds gs before) (hsz0 : (DataW.weightsEach Tryz.prog (Tryz.f5.params.toList ++ (OpenSpec.ofChange Rows.traceRightSpec).bare.plain.varTypes Tryz.prog) (ds ++ gs)).all (· ≤ reachBytes) = true) (hL : laidMetH Tryz.prog Rows.traceRightRow.laid W) (hk : Rows.uptoSmall H (ds ++ gs) = true) :
    Calls Tryz.prog 5 args W fun e W' => ∃ v, e = .returned v ∧ Rows.traceRightSpec.post enc Tryz.prog Tryz.f5 false true false false W args v W' := by
  have hW' := hW
  obtain ⟨p, q, hA0, hV, rfl, hfz, hnd⟩ := hW
  have hA : DataW.TrodAll enc Tryz.prog W 0 (fun _ => true) true Tryz.f5.params.toList args.toList ds p := hA0
  have hsz := hsz0
  rw [Tryz.params5] at hA hval hsz
  obtain ⟨v0, vs0, d0, ds0, p0, q0, hargs, rfl, rfl, h0, r0⟩ := trodAll_cons hA
  obtain ⟨v1, vs1, d1, ds1, p1, q1, rfl, rfl, rfl, h1, r1⟩ := trodAll_cons r0
  obtain ⟨rfl, rfl, rfl⟩ := trodAll_nil r1
  obtain rfl : args = #[v0, v1] := by cases args; simp_all
  obtain ⟨rfl, rfl⟩ := trodVars_none hV
  have hb := of_decide_eq_true hk
  simp only [Rows.uptoBulkAll, List.cons_append, List.nil_append] at hb
  obtain ⟨sa0, sl0, sc0, rfl⟩ := okWide_slice Tryz.underlying22 (hval 0 22 v0 rfl rfl)
  obtain ⟨l0, hn0, hI0, hN0⟩ := P1.open_log h0 (by omega)
  have hlt0 : ∀ x ∈ p0, x.block < W.heap.size := fun x hx => hW'.lt x (by simp [hx])
  obtain ⟨a1, rfl, rfl, rfl⟩ := open_bool Tryz.underlying4 (hval 1 4 v1 rfl rfl) h1
  clear hA0
  have hL' : laidMet Tryz.prog Rows.traceRightRow.laid W := hL
  have hK : Fm.Kinds W := kinds_of_laid hL' (List.mem_cons_of_mem _ List.mem_cons_self)
  have hS : Std W := std_of_laid hL' List.mem_cons_self
  have hw : 2 ≤ W.heap.size := by
    obtain ⟨t, ht⟩ := hK
    have := (Array.getElem?_eq_some_iff.1 ht).1
    omega
  refine (right_any l0 _ a1 W hI0 hS hK hw (by omega)).mono ?_
  rintro e W' ⟨rfl, bel⟩
  refine ⟨_, rfl, _, _, _, [], (p0 ++ ([] ++ [])), [], hW', ?_, ?_, ?_, bel.frame _, fun h => by cases h⟩
  · exact trodAll_mk1 (shut_bool Tryz.underlying4 _)
  · exact ⟨p0, _, Below.trod laidOut (by kernel_rfl) (of_decide_eq_true (by kernel_rfl)) h0 bel hlt0, ⟨[], _, shut_bool Tryz.underlying4 a1, trodAll_mk0, rfl⟩, rfl⟩
  · rfl

def setK (c : Array Value) : Obj → Obj
  | .cells _ t frozen => .cells c t frozen
  | o => o
def laidHeap (h : Array Obj) : Array Obj := (h.modify 0 (setK St.dfl.a)).modify 1 (setK Fm.kindCells)
theorem laid_met (os : Os) (L : World) (hL : L = { World.holding Tryz.prog os ⟨#[], #[], []⟩ with heap := laidHeap (World.holding Tryz.prog os ⟨#[], #[], []⟩).heap }) : laidMet Tryz.prog Rows.traceRightRow.laid ((L.forCall (fun _ _ => 0) ⟨#[], #[.slice none 0 0, .bool false], []⟩).memory) := by
  subst hL
  exact laidMet_of_run' 8 (by kernel_rfl) (by kernel_rfl)
theorem reads (os : Os) (L : World) (hL : L = { World.holding Tryz.prog os ⟨#[], #[], []⟩ with heap := laidHeap (World.holding Tryz.prog os ⟨#[], #[], []⟩).heap }) {H : Type} (enc : TypeId × Value → H) : ∃ places, DataW.whole enc Tryz.prog ((L.forCall (fun _ _ => 0) ⟨#[], #[.slice none 0 0, .bool false], []⟩).memory) Tryz.f5.params.toList Rows.traceRightSpec.vars false #[Value.slice none 0 0, .bool false].toList 8 = some ([.nil, .lit (.bool false)], [], places) := by
  subst hL
  exact ⟨[], by kernel_rfl⟩

set_option maxRecDepth 100000 in
theorem lifted (os : Os) (started : os.Started) (H : Type) (enc : TypeId × Value → H) (F : Stop.Interp) :
    ReturnsInHanded {} Tryz.checked os 5 .any ((Rows.OpenSpec.upto Rows.traceRightSpec).preRow enc Tryz.prog Tryz.f5 Rows.traceRightUptoRow.domain false Rows.traceRightUptoRow.laid) (((Rows.OpenSpec.upto Rows.traceRightSpec).at F).post enc Tryz.prog Tryz.f5 false true false false) := by
  obtain ⟨places, hx⟩ := reads os _ rfl enc
  refine returnsInHanded_of_row (C := Tryz.checked) (s := Rows.OpenSpec.upto Rows.traceRightSpec) own started (by kernel_rfl) Tryz.func5
    (witness_row_at (enc := enc) (C := Tryz.checked) false ({ World.holding Tryz.prog os ⟨#[], #[], []⟩ with heap := laidHeap (World.holding Tryz.prog os ⟨#[], #[], []⟩).heap }) #[.slice none 0 0, .bool false] rfl (by kernel_rfl) (by kernel_rfl) (by kernel_rfl)
      (OpenSpec.preRow_of_cond 8 hx (by kernel_rfl) (fun k hk => by cases hk; kernel_rfl) (by kernel_rfl) (laid_met os _ rfl))) ?_
  intro W base args ds gs before hval hW _ hcond hsz hL _ _
  exact contract H enc W base args ds gs before hval hW hsz hL (hcond _ rfl)

theorem said : Rows.TraceRightUptoSaid :=
  OpenClaim.holds_of_cond 5 Tryz.f5 rfl rfl rfl rfl rfl rfl rfl ⟨rfl, rfl, rfl, rfl, rfl⟩ rfl rfl rfl rfl rfl (by kernel_rfl) Tryz.func5 (by kernel_rfl)
    (of_decide_eq_true (by kernel_rfl)) (by unfold Func.isWrapper; first | (rw [if_pos (by decide +kernel)]; kernel_rfl) | (rw [if_neg (by decide +kernel)]; exact ⟨rfl, rfl⟩))
    (fun os started H enc _ F => by rw [OpenClaim.pre_eq_preRow]; exact lifted os started H enc F)

theorem plain (f : FuncId) (fn : Func) (hf : Tryz.pinned.checked.prog.funcNamed "herald/heraldlaw24.TraceRight" = some f) (hfn : Tryz.pinned.checked.prog.funcs[f]? = some fn) :
    false = Tryz.pinned.checked.prog.looks [] ∧ ∀ (j : Nat) t, fn.params[j]? = some t → Tryz.pinned.checked.prog.wantsStandIn t = false := by
  obtain rfl : f = 5 := Option.some.inj ((show Tryz.prog.funcNamed "herald/heraldlaw24.TraceRight" = some 5 by kernel_rfl).symm.trans hf) |>.symm
  obtain rfl : fn = Tryz.f5 := (Option.some.inj (Tryz.func5.symm.trans hfn)).symm
  refine ⟨by kernel_rfl, fun j t ht => ?_⟩
  rw [Tryz.params5] at ht
  rcases j with _ | _ | j
  · obtain rfl : t = 22 := by simpa using ht.symm
    exact (show Tryz.prog.wantsStandIn 22 = false by kernel_rfl)
  · obtain rfl : t = 4 := by simpa using ht.symm
    exact (show Tryz.prog.wantsStandIn 4 = false by kernel_rfl)
  · simp at ht
end PRight

theorem traceRightUpto_holds : Rows.TraceRightUptoCardSaid :=
  Claim7.holds_tied_plain_at .later [] _ _ _ _ PRight.said (fun _ h => by cases h) (by kernel_rfl) (fun _ h => by cases h) traceRightUpto_row_tie rfl ⟨rfl, rfl⟩ (by kernel_rfl) rfl PRight.plain (by kernel_rfl)
end Go.Proofs.YtfmljlflnpmceaaGreatDoor
