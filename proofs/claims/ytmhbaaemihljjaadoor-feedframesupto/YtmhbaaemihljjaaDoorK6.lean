/- Next: what is done behind its return. -/
import Derived.Test.YtmhbaaemihljjaaDoorK5
import Derived.Defers
import Derived.Recover
namespace Go.Proofs.YtmhbaaemihljjaaDoor
open Go.RowKit
set_option linter.unusedVariables false
set_option linter.unusedSimpArgs false

/-- Behind w lie the box of the feed's address and the three results. -/
structure Nd (w W : World) (g : Nat) (v : Value) (S : St) (f : Fr) (pb : Option Addr) (pl pc : Nat) (ps : List (Int × Int)) (ok : Bool) (c x : Int) : Prop where
  b0 : W.heap[w.heap.size]? = some (.cells #[.pointer (some ⟨g, 0, none⟩)] 23 (0, 0))
  b1 : FB W (w.heap.size + 1) f (.slice pb pl pc)
  b2 : W.heap[w.heap.size + 1 + 1]? = some (.cells #[.bool ok] 4 (0, 0))
  b3 : W.heap[w.heap.size + 1 + 1 + 1]? = some (.cells #[.int .i64 c, .int .i64 x] 30 (0, 0))
  fd : Fd W g v S
  pr : PRow W (.slice pb pl pc) ps
  kp : Kp g w W
  lt : g < w.heap.size

/-- a broken feed -/
def deadS (c : Int) : St := ⟨⟨#[]⟩, [], 0, c⟩

theorem closeF (w W : World) (g : Nat) (v : Value) (S : St) (f : Fr) (pb : Option Addr) (pl pc : Nat) (ps : List (Int × Int)) (ok : Bool) (c x : Int) (h : Nd w W g v S f pb pl pc ps ok c x) (k : Int) (w2 : World)
    (e1 : w2.heap = (sets (sets (sets (sets W g [(0, .string ⟨#[]⟩), (1, .slice none 0 0), (2, .int .i64 0), (3, .int .i64 k), (4, .int .i64 0)]) (w.heap.size + 1) (fsets Fr.zero (.slice none 0 0))) (w.heap.size + 1 + 1) [(0, .bool false)]) (w.heap.size + 1 + 1 + 1) [(0, .int .i64 k), (1, .int .i64 0)]).heap)
    (e2 : w2.os = (sets (sets (sets (sets W g [(0, .string ⟨#[]⟩), (1, .slice none 0 0), (2, .int .i64 0), (3, .int .i64 k), (4, .int .i64 0)]) (w.heap.size + 1) (fsets Fr.zero (.slice none 0 0))) (w.heap.size + 1 + 1) [(0, .bool false)]) (w.heap.size + 1 + 1 + 1) [(0, .int .i64 k), (1, .int .i64 0)]).os)
    (e3 : w2.tape = (sets (sets (sets (sets W g [(0, .string ⟨#[]⟩), (1, .slice none 0 0), (2, .int .i64 0), (3, .int .i64 k), (4, .int .i64 0)]) (w.heap.size + 1) (fsets Fr.zero (.slice none 0 0))) (w.heap.size + 1 + 1) [(0, .bool false)]) (w.heap.size + 1 + 1 + 1) [(0, .int .i64 k), (1, .int .i64 0)]).tape)
    (e4 : w2.output = (sets (sets (sets (sets W g [(0, .string ⟨#[]⟩), (1, .slice none 0 0), (2, .int .i64 0), (3, .int .i64 k), (4, .int .i64 0)]) (w.heap.size + 1) (fsets Fr.zero (.slice none 0 0))) (w.heap.size + 1 + 1) [(0, .bool false)]) (w.heap.size + 1 + 1 + 1) [(0, .int .i64 k), (1, .int .i64 0)]).output) :
    Nd w w2 g (.slice none 0 0) (deadS k) Fr.zero none 0 0 [] false k 0 := by
  have hg := h.lt
  have hb := (((sets_below g 0 (Nat.zero_le _) [(0, .string ⟨#[]⟩), (1, .slice none 0 0), (2, .int .i64 0), (3, .int .i64 k), (4, .int .i64 0)] W).trans (sets_below (w.heap.size + 1) 0 (Nat.zero_le _) (fsets Fr.zero (.slice none 0 0)) _)).trans (sets_below (w.heap.size + 1 + 1) 0 (Nat.zero_le _) [(0, .bool false)] _)).trans (sets_below (w.heap.size + 1 + 1 + 1) 0 (Nat.zero_le _) [(0, .int .i64 k), (1, .int .i64 0)] _)
  replace e2 := e2.trans hb.os
  replace e3 := e3.trans hb.tape
  replace e4 := e4.trans hb.output
  refine ⟨?_, ?_, ?_, ?_, ⟨?_, .inl ⟨rfl, rfl⟩, by simp [Value.ownBlock]⟩, PRow.nil _, ⟨e2.trans h.kp.os, e3.trans h.kp.tape, e4.trans h.kp.output, by rw [e1, sets_size, sets_size, sets_size, sets_size]; exact h.kp.size, fun i hi hne => ?_⟩, hg⟩
  · rw [e1, sets_other _ _ (by omega), sets_other _ _ (by omega), sets_other _ _ (by omega), sets_other _ _ (by omega)]
    exact h.b0
  · unfold FB
    rw [e1, sets_other _ _ (by omega), sets_other _ _ (by omega), sets_block _ _ _ _ _ _ ((sets_other _ _ (by omega) _ _).trans h.b1)]
    simp only [fsets, fv, List.foldl_cons, List.foldl_nil, List.setIfInBounds_toArray, List.set_cons_zero, List.set_cons_succ]
  · rw [e1, sets_other _ _ (by omega), sets_block _ _ _ _ _ _ ((sets_other _ _ (by omega) _ _).trans ((sets_other _ _ (by omega) _ _).trans h.b2))]
    simp only [List.foldl_cons, List.foldl_nil, List.setIfInBounds_toArray, List.set_cons_zero]
  · rw [e1, sets_block _ _ _ _ _ _ ((sets_other _ _ (by omega) _ _).trans ((sets_other _ _ (by omega) _ _).trans ((sets_other _ _ (by omega) _ _).trans h.b3)))]
    simp only [List.foldl_cons, List.foldl_nil, List.setIfInBounds_toArray, List.set_cons_zero, List.set_cons_succ]
  · rw [e1, sets_other _ _ (by omega), sets_other _ _ (by omega), sets_other _ _ (by omega), sets_block _ _ _ _ _ _ h.fd.blk]
    simp only [fdv, deadS, List.foldl_cons, List.foldl_nil, List.setIfInBounds_toArray, List.set_cons_zero, List.set_cons_succ]
  · rw [e1, sets_other _ _ (by omega), sets_other _ _ (by omega), sets_other _ _ (by omega), sets_other _ _ hne]
    exact h.kp.block i hi hne

set_option maxRecDepth 100000 in
set_option maxHeartbeats 4000000 in
theorem close_any (w W : World) (g : Nat) (v : Value) (S : St) (f : Fr) (pb : Option Addr) (pl pc : Nat) (ps : List (Int × Int)) (ok : Bool) (c x : Int) (u : FrameMode) (h : Nd w W g v S f pb pl pc ps ok c x) :
    CallsD Tryd.prog 27 #[.pointer (some ⟨w.heap.size, 0, none⟩), .pointer (some ⟨w.heap.size + 1, 0, none⟩), .pointer (some ⟨w.heap.size + 1 + 1, 0, none⟩), .pointer (some ⟨w.heap.size + 1 + 1 + 1, 0, none⟩)] u W
      fun e u' w' => u' = u ∧ (e = .returned (.tuple #[]) ∧ (S.code = 0 → w' = W) ∧ (S.code ≠ 0 → Nd w w' g (.slice none 0 0) (deadS S.code) Fr.zero none 0 0 [] false S.code 0)) := by
  obtain ⟨c0, c1, c2, c3, c4⟩ := h.fd.cells
  have r0 := cell_of_row _ _ 0 _ _ _ h.b0
  simp only [List.getElem?_toArray, List.getElem?_cons_succ, List.getElem?_cons_zero] at r0
  have hib := isBroken_any W g S.code c3 c4
  by_cases hc : S.code = 0
  · have hb0 : (S.code != 0) = false := by simpa using hc
    rw [hb0] at hib
    have hfin : Hid (S.code ≠ 0 → Nd w W g (.slice none 0 0) (deadS S.code) Fr.zero none 0 0 [] false S.code 0) := fun e => absurd hc e
    go_enter_d Tryd.func27, Tryd.ntmps27
    go_wp2_with (first | (go_at_call 26; refine hib.mono ?_; rintro e W ⟨rfl, rfl⟩))
    go_end0
    exact ⟨rfl, fun _ => rfl, hfin.out⟩
  · have hb0 : (S.code != 0) = true := by simpa using hc
    rw [hb0] at hib
    obtain ⟨f0, f1, f2, f3, f4⟩ : W.frozen? ⟨g, 0, none⟩ = false ∧ W.frozen? ⟨g, 1, none⟩ = false ∧ W.frozen? ⟨g, 2, none⟩ = false ∧ W.frozen? ⟨g, 3, none⟩ = false ∧ W.frozen? ⟨g, 4, none⟩ = false := ⟨h.fd.frozen 0, h.fd.frozen 1, h.fd.frozen 2, h.fd.frozen 3, h.fd.frozen 4⟩
    have hgB := h.lt
    have n1 : ¬ g = w.heap.size := by omega
    have n2 : ¬ g = w.heap.size + 1 := by omega
    have n3 : ¬ g = w.heap.size + 1 + 1 := by omega
    have n4 : ¬ g = w.heap.size + 1 + 1 + 1 := by omega
    obtain ⟨d0, d1, d2, d3, d4, d5, d6, d7, d8, d9, d10⟩ := h.b1.cells
    obtain ⟨y0, y1, y2, y3, y4, y5, y6, y7, y8, y9, y10⟩ := h.b1.frozens
    have q0 := cell_of_row _ _ 0 _ _ _ h.b2
    have q1 := cell_of_row _ _ 0 _ _ _ h.b3
    have q2 := cell_of_row _ _ 1 _ _ _ h.b3
    have q3 : W.frozen? ⟨w.heap.size + 1 + 1, 0, none⟩ = false := frozen_row h.b2 0
    have q4 : W.frozen? ⟨w.heap.size + 1 + 1 + 1, 0, none⟩ = false := frozen_row h.b3 0
    have q5 : W.frozen? ⟨w.heap.size + 1 + 1 + 1, 1, none⟩ = false := frozen_row h.b3 1
    simp only [List.getElem?_toArray, List.getElem?_cons_succ, List.getElem?_cons_zero] at q0 q1 q2
    obtain ⟨vb, vc, rfl⟩ := h.fd.row.slice
    have hfin0 := closeF w W g _ S f pb pl pc ps ok c x h S.code
    simp only [sets, fsets, Fr.zero, List.foldl_cons, List.foldl_nil] at hfin0
    have hfin : Hid _ := hfin0
    have HC : Hid _ := hc
    clear h hc hb0 hfin0
    go_enter_d Tryd.func27, Tryd.ntmps27
    go_wp2_with (first | (go_at_call 26; refine hib.mono ?_; rintro e W ⟨rfl, rfl⟩))
    go_region
    all_goals
      go_wp2_with fail
      go_end0
      generalize hW2 : World.drew _ = w2
      have hh := hfin.out w2 (by rw [← hW2]; exact drew_heap _) (by rw [← hW2]; exact drew_os _) (by rw [← hW2]; exact drew_tape _) (by rw [← hW2]; exact drew_output _)
      exact ⟨rfl, fun e => absurd e HC.out, fun _ => hh⟩
end Go.Proofs.YtmhbaaemihljjaaDoor
