/- site: at's closure. -/
import Derived.Test.YtacboeeimnikdaaDoorD6
import Derived.Deep.RegionHeld3
namespace Go.Proofs.YtacboeeimnikdaaDoor
open Go.RowKit Go.Maps
open Go.Shelf
set_option linter.unusedVariables false
set_option linter.unusedSimpArgs false

theorem In.ed {w : World} {v : Value} {l : List Ed} (h : In EEd w v l) (k : Nat) (hk : k < l.length) : ∃ B off cap, v = .slice (some ⟨B, off, none⟩) l.length cap ∧ ∀ W, Below w.heap.size w W → W.cell? ⟨B, off + k * 4, none⟩ = some (.int .i64 l[k].s) ∧ W.cell? ⟨B, off + k * 4 + 1, none⟩ = some (.int .i64 l[k].n) ∧ W.cell? ⟨B, off + k * 4 + 2, none⟩ = some (.string l[k].v) ∧ W.cell? ⟨B, off + k * 4 + 3, none⟩ = some (sv l[k].y) := by
  obtain ⟨B, off, cap, e, hB, hc⟩ := h.get okEd k hk
  refine ⟨B, off, cap, e, fun W hW => ?_⟩
  have c0 := hc 0 (.int .i64 l[k].s) rfl
  have c1 := hc 1 (.int .i64 l[k].n) rfl
  have c2 := hc 2 (.string l[k].v) rfl
  have c3 := hc 3 (sv l[k].y) rfl
  exact ⟨(hW.cell hB).trans c0, (hW.cell hB).trans c1, (hW.cell hB).trans c2, (hW.cell hB).trans c3⟩
theorem en58 : ∀ args W, (callFunc 58 args).run Tryd.prog W = .ok (.enter 58 args) W := enters_of Tryd.func58 (by kernel_rfl) rfl
set_option maxHeartbeats 4000000 in
theorem at1_any (x : SV) (l : List Ed) (v : Int) (q p k : Nat) (w : World) (hI : In EEd w (sv x) l) (hk : k < l.length) (hq : w.cell? ⟨q, 0, none⟩ = some (sv x)) (hp : w.cell? ⟨p, 0, none⟩ = some (.int .i64 v)) :
    Calls Tryd.prog 58 #[.int .i64 (k : Int), .pointer (some ⟨q, 0, none⟩), .pointer (some ⟨p, 0, none⟩)] w fun e w' => e = .returned (.bool (decide (v < l[k].s))) ∧ Below w.heap.size w w' := by
  obtain ⟨B, off, cap, e, hc⟩ := hI.ed k hk
  rw [e] at hq
  have c0 := (hc w.drew (Below.refl _ _).drew).1
  have hB : Hid (Below w.heap.size w w.drew) := (Below.refl _ _).drew
  have hlq := World.block_lt_of_cell? _ _ hq
  have hlp := World.block_lt_of_cell? _ _ hp
  have c1 := (hB.out.cell hlq).trans hq
  have c2 := (hB.out.cell hlp).trans hp
  have h0 : (0 : Int) ≤ (k : Int) := by omega
  have h1 : (k : Int) < (l.length : Int) := by omega
  obtain ⟨s, hs⟩ : ∃ s, l[k].s = s := ⟨_, rfl⟩
  rw [hs] at c0 ⊢
  clear hc e hI hq hp hlq hlp hs
  go_enter Tryd.func58, Tryd.ntmps58
  go_wp2_with fail
  go_region
  all_goals (go_wp2_with fail)
  all_goals (refine bodyPost_ret (results_tmp rfl _ _ _) rfl ?_)
  all_goals exact ⟨rfl, hB.out⟩
end Go.Proofs.YtacboeeimnikdaaDoor
