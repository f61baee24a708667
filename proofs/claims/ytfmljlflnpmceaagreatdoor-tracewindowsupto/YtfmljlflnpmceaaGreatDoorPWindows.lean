/- The row of TraceWindows: its walk lifted to the given statement, and the card. -/
import Derived.Test.YtfmljlflnpmceaaGreatDoorVzp
import Derived.Test.YtfmljlflnpmceaaGreatDoorUh
import Derived.SizedLaws
namespace Go.Proofs.YtfmljlflnpmceaaGreatDoor
namespace PWindows
open Go.ChangeShapes Go.WideShapes Go.ChangeAt Go.RowKit
open Go.ChangeMaps (open_string shut_string)
set_option linter.unusedVariables false
set_option linter.unusedSimpArgs false

set_option maxRecDepth 100000 in
theorem contract (H : Type) (enc : TypeId × Value → H) (W : World) (base : Nat) (args : Array Value) (ds gs : List (DataW H)) (before : List MemPlace)
    (hval : ∀ (j : Nat) t v, Tryz.f6.params[j]? = some t → args[j]? = some v → Value.okWide Tryz.prog W .any base t v)
    (hW : DataW.Whole enc Tryz.prog Tryz.f6.params.toList Rows.traceWindowsSpec.vars false W args.toList ds gs before) (hsz0 : (DataW.weightsEach Tryz.prog (Tryz.f6.params.toList ++ (OpenSpec.ofChange Rows.traceWindowsSpec).bare.plain.varTypes Tryz.prog) (ds ++ gs)).all (· ≤ reachBytes) = true) (hL : laidMetH Tryz.prog Rows.traceWindowsRow.laid W) (hk : Rows.uptoSmall H (ds ++ gs) = true) :
    Calls Tryz.prog 6 args W fun e W' => ∃ v, e = .returned v ∧ Rows.traceWindowsSpec.post enc Tryz.prog Tryz.f6 false true false false W args v W' := by
  have hW' := hW
  obtain ⟨p, q, hA0, hV, rfl, hfz, hnd⟩ := hW
  have hA : DataW.TrodAll enc Tryz.prog W 0 (fun _ => true) true Tryz.f6.params.toList args.toList ds p := hA0
  have hsz := hsz0
  rw [Tryz.params6] at hA hval hsz
  obtain ⟨v0, vs0, d0, ds0, p0, q0, hargs, rfl, rfl, h0, r0⟩ := trodAll_cons hA
  obtain ⟨v1, vs1, d1, ds1, p1, q1, rfl, rfl, rfl, h1, r1⟩ := trodAll_cons r0
  obtain ⟨v2, vs2, d2, ds2, p2, q2, rfl, rfl, rfl, h2, r2⟩ := trodAll_cons r1
  obtain ⟨rfl, rfl, rfl⟩ := trodAll_nil r2
  obtain rfl : args = #[v0, v1, v2] := by cases args; simp_all
  obtain ⟨rfl, rfl⟩ := trodVars_none hV
  have hb := of_decide_eq_true hk
  simp only [Rows.uptoBulkAll, List.cons_append, List.nil_append] at hb
  obtain ⟨a0, rfl, rfl, rfl, wz0⟩ := open_int Tryz.underlying3 (hval 0 3 v0 rfl rfl) h0
  obtain ⟨a1, rfl, rfl, rfl, wz1⟩ := open_int Tryz.underlying3 (hval 1 3 v1 rfl rfl) h1
  obtain ⟨a2, rfl, rfl, rfl, wz2⟩ := open_int Tryz.underlying3 (hval 2 3 v2 rfl rfl) h2
  clear hA0
  have hL' : laidMet Tryz.prog Rows.traceWindowsRow.laid W := hL
  have hK : Fm.Kinds W := kinds_of_laid hL' (List.mem_cons_of_mem _ List.mem_cons_self)
  have hS : Std W := std_of_laid hL' List.mem_cons_self
  have hw : 2 ≤ W.heap.size := by
    obtain ⟨t, ht⟩ := hK
    have := (Array.getElem?_eq_some_iff.1 ht).1
    omega
  refine (windows_any a0 a1 a2 W hS hK hw).mono ?_
  rintro e W' ⟨rfl, bel⟩
  refine ⟨_, rfl, _, _, _, [], ([] ++ ([] ++ ([] ++ []))), [], hW', ?_, ?_, ?_, bel.frame _, fun h => by cases h⟩
  · exact trodAll_mk1 (shut_bool Tryz.underlying4 _)
  · exact ⟨[], _, shut_int Tryz.underlying3 wz0, ⟨[], _, shut_int Tryz.underlying3 wz1, ⟨[], _, shut_int Tryz.underlying3 wz2, trodAll_mk0, rfl⟩, rfl⟩, rfl⟩
  · rfl

def setK (c : Array Value) : Obj → Obj
  | .cells _ t frozen => .cells c t frozen
  | o => o
def laidHeap (h : Array Obj) : Array Obj := (h.modify 0 (setK St.dfl.a)).modify 1 (setK Fm.kindCells)
theorem laid_met (os : Os) (L : World) (hL : L = { World.holding Tryz.prog os ⟨#[], #[], []⟩ with heap := laidHeap (World.holding Tryz.prog os ⟨#[], #[], []⟩).heap }) : laidMet Tryz.prog Rows.traceWindowsRow.laid ((L.forCall (fun _ _ => 0) ⟨#[], #[.int .i64 0, .int .i64 0, .int .i64 0], []⟩).memory) := by
  subst hL
  exact laidMet_of_run' 8 (by kernel_rfl) (by kernel_rfl)
theorem reads (os : Os) (L : World) (hL : L = { World.holding Tryz.prog os ⟨#[], #[], []⟩ with heap := laidHeap (World.holding Tryz.prog os ⟨#[], #[], []⟩).heap }) {H : Type} (enc : TypeId × Value → H) : ∃ places, DataW.whole enc Tryz.prog ((L.forCall (fun _ _ => 0) ⟨#[], #[.int .i64 0, .int .i64 0, .int .i64 0], []⟩).memory) Tryz.f6.params.toList Rows.traceWindowsSpec.vars false #[Value.int .i64 0, .int .i64 0, .int .i64 0].toList 8 = some ([.lit (.int .i64 0), .lit (.int .i64 0), .lit (.int .i64 0)], [], places) := by
  subst hL
  exact ⟨[], by kernel_rfl⟩

set_option maxRecDepth 100000 in
theorem lifted (os : Os) (started : os.Started) (H : Type) (enc : TypeId × Value → H) (F : Stop.Interp) :
    ReturnsInHanded {} Tryz.checked os 6 .any ((Rows.OpenSpec.upto Rows.traceWindowsSpec).preRow enc Tryz.prog Tryz.f6 Rows.traceWindowsUptoRow.domain false Rows.traceWindowsUptoRow.laid) (((Rows.OpenSpec.upto Rows.traceWindowsSpec).at F).post enc Tryz.prog Tryz.f6 false true false false) := by
  obtain ⟨places, hx⟩ := reads os _ rfl enc
  refine returnsInHanded_of_row (C := Tryz.checked) (s := Rows.OpenSpec.upto Rows.traceWindowsSpec) own started (by kernel_rfl) Tryz.func6
    (witness_row_at (enc := enc) (C := Tryz.checked) false ({ World.holding Tryz.prog os ⟨#[], #[], []⟩ with heap := laidHeap (World.holding Tryz.prog os ⟨#[], #[], []⟩).heap }) #[.int .i64 0, .int .i64 0, .int .i64 0] rfl (by kernel_rfl) (by kernel_rfl) (by kernel_rfl)
      (OpenSpec.preRow_of_cond 8 hx (by kernel_rfl) (fun k hk => by cases hk; kernel_rfl) (by kernel_rfl) (laid_met os _ rfl))) ?_
  intro W base args ds gs before hval hW _ hcond hsz hL _ _
  exact contract H enc W base args ds gs before hval hW hsz hL (hcond _ rfl)

theorem said : Rows.TraceWindowsUptoSaid :=
  OpenClaim.holds_of_cond 6 Tryz.f6 rfl rfl rfl rfl rfl rfl rfl ⟨rfl, rfl, rfl, rfl, rfl⟩ rfl rfl rfl rfl rfl (by kernel_rfl) Tryz.func6 (by kernel_rfl)
    (of_decide_eq_true (by kernel_rfl)) (by unfold Func.isWrapper; first | (rw [if_pos (by decide +kernel)]; kernel_rfl) | (rw [if_neg (by decide +kernel)]; exact ⟨rfl, rfl⟩))
    (fun os started H enc _ F => by rw [OpenClaim.pre_eq_preRow]; exact lifted os started H enc F)

theorem plain (f : FuncId) (fn : Func) (hf : Tryz.pinned.checked.prog.funcNamed "herald/heraldlaw24.TraceWindows" = some f) (hfn : Tryz.pinned.checked.prog.funcs[f]? = some fn) :
    false = Tryz.pinned.checked.prog.looks [] ∧ ∀ (j : Nat) t, fn.params[j]? = some t → Tryz.pinned.checked.prog.wantsStandIn t = false := by
  obtain rfl : f = 6 := Option.some.inj ((show Tryz.prog.funcNamed "herald/heraldlaw24.TraceWindows" = some 6 by kernel_rfl).symm.trans hf) |>.symm
  obtain rfl : fn = Tryz.f6 := (Option.some.inj (Tryz.func6.symm.trans hfn)).symm
  refine ⟨by kernel_rfl, fun j t ht => ?_⟩
  rw [Tryz.params6] at ht
  rcases j with _ | _ | _ | j
  · obtain rfl : t = 3 := by simpa using ht.symm
    exact (show Tryz.prog.wantsStandIn 3 = false by kernel_rfl)
  · obtain rfl : t = 3 := by simpa using ht.symm
    exact (show Tryz.prog.wantsStandIn 3 = false by kernel_rfl)
  · obtain rfl : t = 3 := by simpa using ht.symm
    exact (show Tryz.prog.wantsStandIn 3 = false by kernel_rfl)
  · simp at ht
end PWindows

theorem traceWindowsUpto_holds : Rows.TraceWindowsUptoCardSaid :=
  Claim7.holds_tied_plain_at .later [] _ _ _ _ PWindows.said (fun _ h => by cases h) (by kernel_rfl) (fun _ h => by cases h) traceWindowsUpto_row_tie rfl ⟨rfl, rfl⟩ (by kernel_rfl) rfl PWindows.plain (by kernel_rfl)
end Go.Proofs.YtfmljlflnpmceaaGreatDoor
