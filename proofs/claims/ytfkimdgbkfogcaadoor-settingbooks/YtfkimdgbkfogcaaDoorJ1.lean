/- The document's book in memory; its NewBook, Waiting. -/
import Derived.Test.YtfkimdgbkfogcaaDoorC1
import Derived.Test.YtfkimdgbkfogcaaDoorD3
namespace Go.Proofs.YtfkimdgbkfogcaaDoor
open Go.RowKit
set_option linter.unusedVariables false
set_option linter.unusedSimpArgs false

/-- Block r is the document's book: its kind, the lists that were sent (each in a row of its own), how many are acknowledged. -/
structure Rb (w : World) (r : Nat) (c : Bool) (sx : SV) (xs : List SV) (ls : List (List (Int × Int))) (d : Nat) : Prop where
  blk : w.heap[r]? = some (.cells #[.bool c, sv sx, .int .i64 (d : Int)] 72 (0, 0))
  row : R EL w (sv sx) xs
  len : xs.length = ls.length
  lists : ∀ i (h : i < xs.length), R EP w (sv xs[i]) (ls[i]'(by omega))
  done : d ≤ ls.length
section
variable {w w' : World} {r : Nat} {c : Bool} {sx : SV} {xs : List SV} {ls : List (List (Int × Int))} {d : Nat}
theorem Rb.lt (h : Rb w r c sx xs ls d) : r < w.heap.size := heap_lt h.blk
theorem Rb.below (h : Rb w r c sx xs ls d) (hb : Below w.heap.size w w') : Rb w' r c sx xs ls d :=
  ⟨(hb.block _ h.lt).trans h.blk, h.row.below hb, h.len, fun i hi => (h.lists i hi).below hb, h.done⟩
/-- blocks of the types 72, 30 and 46 that have not turned -/
theorem Rb.kept {A : Nat → Prop} (h : Rb w r c sx xs ls d) (hk : Ks A w w') (hA : ∀ k cs t, A k → w.heap[k]? = some (.cells cs t (0, 0)) → t ≠ 72 ∧ t ≠ 30 ∧ t ≠ 46) : Rb w' r c sx xs ls d := by
  refine ⟨(hk.block _ h.lt fun e => (hA _ _ _ e h.blk).1 rfl).trans h.blk, h.row.stays fun k e hl => hk.block k hl fun e2 => ?_, h.len, fun i hi => (h.lists i hi).stays fun k e hl => hk.block k hl fun e2 => ?_, h.done⟩
  · obtain ⟨cs, hc⟩ := h.row.ty k e
    exact (hA _ _ _ e2 hc).2.1 rfl
  · obtain ⟨cs, hc⟩ := (h.lists i hi).ty k e
    exact (hA _ _ _ e2 hc).2.2 rfl
theorem Rb.cells (h : Rb w r c sx xs ls d) : w.cell? ⟨r, 0, none⟩ = some (.bool c) ∧ w.cell? ⟨r, 1, none⟩ = some (sv sx) ∧ w.cell? ⟨r, 2, none⟩ = some (.int .i64 (d : Int)) := ⟨cell_blk h.blk 0, cell_blk h.blk 1, cell_blk h.blk 2⟩
theorem Rb.frozen (h : Rb w r c sx xs ls d) (i : Nat) : w.frozen? ⟨r, i, none⟩ = false := frozen_blk h.blk i
theorem Rb.slice (h : Rb w r c sx xs ls d) : ∃ b cap, sx = (b, xs.length, cap) ∧ xs.length ≤ cap ∧ cap ≤ 9223372036854775807 := by
  obtain ⟨b, cap, e, h1, h2⟩ := h.row.slice
  obtain ⟨x1, x2, x3⟩ := sx
  simp only [sv] at e
  injection e with e1 e2 e3
  exact ⟨b, cap, by rw [e1, e2, e3], h1, h2⟩
end

set_option maxRecDepth 100000 in
set_option maxHeartbeats 1000000 in
theorem rnew_any (c : Bool) (w : World) :
    Calls Tryd.prog 32 #[.bool c] w fun e w' => e = .returned (.pointer (some ⟨w.heap.size, 0, none⟩)) ∧ Rb w' w.heap.size c (none, 0, 0) [] [] 0 ∧ Below w.heap.size w w' := by
  go_enter Tryd.func32, Tryd.ntmps32
  go_wp2
  go_ret
  exact ⟨rfl, ⟨heap_alloc_new _ _, R.nil _ _, rfl, fun i hi => absurd hi (by simp), by simp⟩, bel1 _ _⟩

set_option maxRecDepth 100000 in
set_option maxHeartbeats 1000000 in
theorem rwaiting_any (w : World) (r : Nat) (c : Bool) (sx : SV) (xs : List SV) (ls : List (List (Int × Int))) (d : Nat) (h : Rb w r c sx xs ls d) :
    Calls Tryd.prog 46 #[.pointer (some ⟨r, 0, none⟩)] w fun e w' => e = .returned (.int .i64 ((ls.length - d : Nat) : Int)) ∧ Below w.heap.size w w' := by
  obtain ⟨c0, c1, c2⟩ := h.cells
  obtain ⟨b, cap, rfl, h1, h2⟩ := h.slice
  have hd := h.done
  rw [h.len] at c1 h1
  obtain ⟨n, hn⟩ : ∃ n, ls.length = n := ⟨_, rfl⟩
  rw [hn] at c1 h1 hd ⊢
  simp only [sv] at c1
  obtain ⟨m, hm⟩ : ∃ m, n - d = m := ⟨_, rfl⟩
  have hsub : (n : Int) - (d : Int) = (m : Int) := by omega
  rw [hm]
  clear h hn hm
  go_enter Tryd.func46, Tryd.ntmps46
  go_wp2_with fail
  go_region
  all_goals
    go_wp2_with fail
    go_ret
    exact ⟨rfl, (Below.refl _ _).drew⟩

/-- what is acknowledged, by all lists -/
def allS (c : Bool) (ls : List (List (Int × Int))) : St := ls.foldl (fun s l => (applyS s l c).1) St.dfl
theorem allS_succ (c : Bool) (ls : List (List (Int × Int))) (k : Nat) (hk : k < ls.length) : allS c (ls.take (k + 1)) = (applyS (allS c (ls.take k)) ls[k] c).1 := by
  unfold allS
  rw [List.take_succ_eq_append_getElem hk, List.foldl_append]
  rfl
end Go.Proofs.YtfkimdgbkfogcaaDoor
