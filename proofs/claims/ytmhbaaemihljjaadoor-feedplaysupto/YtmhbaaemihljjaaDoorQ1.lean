/- The document's feed in memory: New, Push, SetMost, Waiting, breaks. -/
import Derived.Test.YtmhbaaemihljjaaDoorK9
namespace Go.Proofs.YtmhbaaemihljjaaDoor
open Go.RowKit
set_option linter.unusedVariables false
set_option linter.unusedSimpArgs false

/-- the document's feed -/
structure Rs where
  greets : Bool
  most : Int
  b : ByteArray
  code : Int

def rfv (R : Rs) : Array Value := #[.bool R.greets, .int .i64 R.most, .string R.b, .int .i64 R.code, .int .i64 0]
def RF (w : World) (g : Nat) (R : Rs) : Prop := w.heap[g]? = some (.cells (rfv R) 76 (0, 0))
theorem RF.lt {w : World} {g : Nat} {R : Rs} (h : RF w g R) : g < w.heap.size := (Array.getElem?_eq_some_iff.1 h).1
theorem RF.cells {w : World} {g : Nat} {R : Rs} (h : RF w g R) : w.cell? ⟨g, 0, none⟩ = some (.bool R.greets) ∧ w.cell? ⟨g, 1, none⟩ = some (.int .i64 R.most) ∧ w.cell? ⟨g, 2, none⟩ = some (.string R.b) ∧ w.cell? ⟨g, 3, none⟩ = some (.int .i64 R.code) ∧ w.cell? ⟨g, 4, none⟩ = some (.int .i64 0) := by
  refine ⟨?_, ?_, ?_, ?_, ?_⟩ <;> (rw [cell_of_row _ _ _ _ _ _ h]; rfl)
theorem RF.frozen {w : World} {g : Nat} {R : Rs} (h : RF w g R) (i : Nat) : w.frozen? ⟨g, i, none⟩ = false := frozen_row h i

set_option maxRecDepth 100000 in
set_option maxHeartbeats 1000000 in
theorem rnew_any (server : Bool) (most : Int) (w : World) :
    Calls Tryd.prog 20 #[.bool server, .int .i64 most] w fun e w' => e = .returned (.pointer (some ⟨w.heap.size, 0, none⟩)) ∧ RF w' w.heap.size ⟨server, most, ⟨#[]⟩, 0⟩ ∧ Below w.heap.size w w' ∧ w'.heap.size = w.heap.size + 1 := by
  go_enter Tryd.func20, Tryd.ntmps20
  go_wp2
  go_ret
  exact ⟨rfl, heap_alloc_new w _, (Below.refl _ w).alloc (Nat.le_refl _) _, by simp⟩

def rpushS (R : Rs) (s : ByteArray) : Rs := if R.code = 0 then { R with b := R.b ++ s } else R

set_option maxRecDepth 100000 in
set_option maxHeartbeats 1000000 in
theorem rpush_any (w : World) (g : Nat) (R : Rs) (h : RF w g R) (s : ByteArray) (hlen : R.b.size + s.size ≤ 140737488355328) :
    Calls Tryd.prog 22 #[.pointer (some ⟨g, 0, none⟩), .string s] w fun e w' => e = .returned (.tuple #[]) ∧ RF w' g (rpushS R s) ∧ Kp g w w' := by
  obtain ⟨c0, c1, c2, c3, c4⟩ := h.cells
  have f2 := h.frozen 2
  unfold rpushS
  by_cases hc : R.code = 0
  · rw [if_pos hc]
    have hcb : (R.code == 0) = true := by simpa using hc
    have hfin : Hid (RF (w.setCell ⟨g, 2, none⟩ (.string (R.b ++ s))) g { R with b := R.b ++ s } ∧ Kp g w (w.setCell ⟨g, 2, none⟩ (.string (R.b ++ s)))) :=
      ⟨by unfold RF; rw [setCell_block _ _ _ _ _ _ _ h]; rfl, Kp.setCell _ _ _ _⟩
    clear h hc
    go_enter Tryd.func22, Tryd.ntmps22
    go_wp2
    go_end0
    exact ⟨rfl, hfin.out⟩
  · rw [if_neg hc]
    have hcb : (R.code == 0) = false := by simpa using hc
    go_enter Tryd.func22, Tryd.ntmps22
    go_wp2
    go_end0
    exact ⟨rfl, h, Kp.refl _ _⟩

set_option maxRecDepth 100000 in
set_option maxHeartbeats 1000000 in
theorem rmost_any (w : World) (g : Nat) (R : Rs) (h : RF w g R) (n : Int) :
    Calls Tryd.prog 24 #[.pointer (some ⟨g, 0, none⟩), .int .i64 n] w fun e w' => e = .returned (.tuple #[]) ∧ RF w' g { R with most := n } ∧ Kp g w w' := by
  obtain ⟨c0, c1, c2, c3, c4⟩ := h.cells
  have f1 := h.frozen 1
  have hfin : Hid (RF (w.setCell ⟨g, 1, none⟩ (.int .i64 n)) g { R with most := n } ∧ Kp g w (w.setCell ⟨g, 1, none⟩ (.int .i64 n))) :=
    ⟨by unfold RF; rw [setCell_block _ _ _ _ _ _ _ h]; rfl, Kp.setCell _ _ _ _⟩
  clear h
  go_enter Tryd.func24, Tryd.ntmps24
  go_wp2
  go_end0
  exact ⟨rfl, hfin.out⟩

set_option maxRecDepth 100000 in
set_option maxHeartbeats 1000000 in
theorem rwait_any (w : World) (g : Nat) (R : Rs) (h : RF w g R) :
    Calls Tryd.prog 25 #[.pointer (some ⟨g, 0, none⟩)] w fun e w' => e = .returned (.int .i64 (R.b.size : Int)) ∧ w' = w := by
  obtain ⟨c0, c1, c2, c3, c4⟩ := h.cells
  clear h
  go_enter Tryd.func25, Tryd.ntmps25
  go_wp2
  go_ret
  exact ⟨rfl, rfl⟩

def rdead (R : Rs) (c : Int) : Rs := { R with b := ⟨#[]⟩, code := c }

/-- the document's feed and two results are written -/
theorem rfin (w W0 : World) (g B : Nat) (R R' : Rs) (gl : List (Nat × Value)) (f : Fr) (pb : Option Addr) (pl pc : Nat) (ps : List (Int × Int)) (c x : Int) (hg : g < w.heap.size) (hB : w.heap.size ≤ B) (hk : Kp g w W0) (h : RF W0 g R) (hfold : gl.foldl (fun c x => c.setIfInBounds x.1 x.2) (rfv R) = rfv R')
    (z0 : W0.heap[B]? = some (.cells #[.int .i64 0, .int .i64 0, .int .i64 0, .string ⟨#[]⟩, .int .i64 0, .int .i64 0, .bool false, .int .i64 0, .int .i64 0, .int .i64 0, .slice none 0 0] 28 (0, 0))) (z1 : W0.heap[B + 1]? = some (.cells #[.int .i64 0, .int .i64 0] 30 (0, 0))) (hP : PRow W0 (.slice pb pl pc) ps)
    (w2 : World) (e1 : w2.heap = (sets (sets (sets W0 g gl) B (fsets f (.slice pb pl pc))) (B + 1) [(0, .int .i64 c), (1, .int .i64 x)]).heap) (e2 : w2.os = (sets (sets (sets W0 g gl) B (fsets f (.slice pb pl pc))) (B + 1) [(0, .int .i64 c), (1, .int .i64 x)]).os) (e3 : w2.tape = (sets (sets (sets W0 g gl) B (fsets f (.slice pb pl pc))) (B + 1) [(0, .int .i64 c), (1, .int .i64 x)]).tape) (e4 : w2.output = (sets (sets (sets W0 g gl) B (fsets f (.slice pb pl pc))) (B + 1) [(0, .int .i64 c), (1, .int .i64 x)]).output) :
    w2.heap[B]? = some (.cells (fv f (.slice pb pl pc)) 28 (0, 0)) ∧ w2.heap[B + 1]? = some (.cells #[.int .i64 c, .int .i64 x] 30 (0, 0)) ∧ PRow w2 (.slice pb pl pc) ps ∧ RF w2 g R' ∧ Kp g w w2 := by
  have hb := ((sets_below g 0 (Nat.zero_le _) gl W0).trans (sets_below B 0 (Nat.zero_le _) (fsets f (.slice pb pl pc)) _)).trans (sets_below (B + 1) 0 (Nat.zero_le _) [(0, .int .i64 c), (1, .int .i64 x)] _)
  replace e2 := e2.trans hb.os
  replace e3 := e3.trans hb.tape
  replace e4 := e4.trans hb.output
  refine ⟨?_, ?_, hP.below fun k hk' _ => ?_, ?_, e2.trans hk.os, e3.trans hk.tape, e4.trans hk.output, by rw [e1, sets_size, sets_size, sets_size]; exact hk.size, fun k hk' hne => ?_⟩
  · rw [e1, sets_other _ _ (by omega), sets_block _ _ _ _ _ _ ((sets_other _ _ (by omega) _ _).trans z0)]
    simp only [fsets, fv, List.foldl_cons, List.foldl_nil, List.setIfInBounds_toArray, List.set_cons_zero, List.set_cons_succ]
  · rw [e1, sets_block _ _ _ _ _ _ ((sets_other _ _ (by omega) _ _).trans ((sets_other _ _ (by omega) _ _).trans z1))]
    simp only [List.foldl_cons, List.foldl_nil, List.setIfInBounds_toArray, List.set_cons_zero, List.set_cons_succ]
  · obtain ⟨cur, hc⟩ := hP.type k hk'
    have h' : W0.heap[g]? = some (.cells (rfv R) 76 (0, 0)) := h
    have n1 : k ≠ B := fun e => by rw [e, z0] at hc; simp at hc
    have n2 : k ≠ B + 1 := fun e => by rw [e, z1] at hc; simp at hc
    have n3 : k ≠ g := fun e => by rw [e, h'] at hc; simp at hc
    rw [e1, sets_other _ _ n2, sets_other _ _ n1, sets_other _ _ n3]
  · unfold RF
    rw [e1, sets_other _ _ (by omega), sets_other _ _ (by omega), sets_block _ _ _ _ _ _ h, hfold]
  · rw [e1, sets_other _ _ (by omega), sets_other _ _ (by omega), sets_other _ _ hne]
    exact hk.block k hk' hne

set_option maxRecDepth 100000 in
set_option maxHeartbeats 2000000 in
theorem breaks_any (w : World) (g : Nat) (R : Rs) (h : RF w g R) (c : Int) :
    Calls Tryd.prog 33 #[.pointer (some ⟨g, 0, none⟩), .agg #[.int .i64 c, .int .i64 0]] w fun e w' => e = .returned (.tuple #[.agg #[.int .i64 0, .int .i64 0, .int .i64 0, .string ⟨#[]⟩, .int .i64 0, .int .i64 0, .bool false, .int .i64 0, .int .i64 0, .int .i64 0, .slice none 0 0], .bool false, .agg #[.int .i64 c, .int .i64 0]]) ∧ RF w' g (rdead R c) ∧ Kp g w w' := by
  have hg := h.lt
  have hne : ¬ g = w.heap.size := by omega
  have hne1 : ¬ g = w.heap.size + 1 := by omega
  have hne2 : ¬ g = w.heap.size + 1 + 1 := by omega
  obtain ⟨W0, hW0⟩ : ∃ W0, W0 = ((w.alloc (.cells #[.int .i64 c, .int .i64 0] 30)).alloc (.cells #[.int .i64 0, .int .i64 0, .int .i64 0, .string ⟨#[]⟩, .int .i64 0, .int .i64 0, .bool false, .int .i64 0, .int .i64 0, .int .i64 0, .slice none 0 0] 28)).alloc (.cells #[.int .i64 0, .int .i64 0] 30) := ⟨_, rfl⟩
  have hb : Below w.heap.size w W0 := by
    rw [hW0]
    exact (((Below.refl _ w).alloc (Nat.le_refl _) _).alloc (by simp) _).alloc (by simp; omega) _
  have h' : RF W0 g R := (hb.block g hg).trans h
  obtain ⟨c0, c1, c2, c3, c4⟩ := h'.cells
  obtain ⟨f2, f3, f4⟩ : W0.frozen? ⟨g, 2, none⟩ = false ∧ W0.frozen? ⟨g, 3, none⟩ = false ∧ W0.frozen? ⟨g, 4, none⟩ = false := ⟨h'.frozen 2, h'.frozen 3, h'.frozen 4⟩
  have z0 : W0.heap[w.heap.size + 1]? = some (.cells #[.int .i64 0, .int .i64 0, .int .i64 0, .string ⟨#[]⟩, .int .i64 0, .int .i64 0, .bool false, .int .i64 0, .int .i64 0, .int .i64 0, .slice none 0 0] 28 (0, 0)) := by
    rw [hW0]
    simp only [heap_al, size_al]
    rw [if_neg (by omega), if_pos trivial]
  have z1 : W0.heap[w.heap.size + 1 + 1]? = some (.cells #[.int .i64 0, .int .i64 0] 30 (0, 0)) := by
    rw [hW0]
    simp only [heap_al, size_al]
    rw [if_pos trivial]
  have hfin0 := rfin w W0 g (w.heap.size + 1) R (rdead R c) [(3, .int .i64 c), (4, .int .i64 0), (2, .string ⟨#[]⟩)] Fr.zero none 0 0 [] c 0 hg (by omega) (Kp.of_below hb) h' rfl z0 z1 (PRow.nil _)
  simp only [sets, fsets, Fr.zero, List.foldl_cons, List.foldl_nil] at hfin0
  rw [hW0] at c0 c1 c2 c3 c4 f2 f3 f4 hfin0
  have hfin : Hid _ := hfin0
  clear hfin0 z0 z1 h h' hb hW0
  go_enter Tryd.func33, Tryd.ntmps33
  go_wp2_with fail
  go_region
  all_goals
    go_wp2_with fail
    generalize hW2 : World.drew _ = w2
    obtain ⟨t1, t2, t3, t4, t5⟩ := hfin.out w2 (by rw [← hW2]; exact drew_heap _) (by rw [← hW2]; exact drew_os _) (by rw [← hW2]; exact drew_tape _) (by rw [← hW2]; exact drew_output _)
    clear hW2
    exact bodyPost_ret (results_three (p := 4) (ty := 28) (r := 5) (q := 6) (tz := 30) rfl _ _ (w.heap.size + 1) (w.heap.size + 1 + 1) 28 30 _ _ (0, 0) (0, 0) _ _ rfl t1 Tryd.underlying28 rfl (by kernel_rfl) rfl t2 Tryd.underlying30 rfl (by kernel_rfl)) rfl ⟨rfl, t4, t5⟩
end Go.Proofs.YtmhbaaemihljjaaDoor
