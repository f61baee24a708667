/- parse. -/
import Derived.Test.YtmhbaaemihljjaaDoorA3
import Derived.Deep.RegionLaw
import Derived.Deep.RegionHeld3
import Derived.Deep.Cut
import Derived.Deep.CutRange
namespace Go.Proofs.YtmhbaaemihljjaaDoor
open Go.RowKit
set_option linter.unusedVariables false
set_option linter.unusedSimpArgs false

/-- the table of kinds -/
def kflags (i : Nat) : Int := ([9, 45, 0, 0, 1, 12, 1, 0, 0, 4, 255] : List Int).getD i 0
def kfrom (i : Nat) : Int := ([1, 1, 1, 1, 0, 1, 0, 0, 0, 1, 0] : List Int).getD i 0
def kto (i : Nat) : Int := ([2147483647, 2147483647, 2147483647, 2147483647, 0, 2147483647, 0, 0, 2147483647, 2147483647, 2147483647] : List Int).getD i 0

/-- The package's table is laid. -/
def kindCells : Array Value := ((List.range 11).flatMap fun i => [.int .i64 (kflags i), .int .i64 (kfrom i), .int .i64 (kto i)]).toArray
def Kinds (w : World) : Prop := ∃ t, w.heap[0]? = some (.cells kindCells t (0, 0))
theorem Kinds.of_eq {w w' : World} (h : Kinds w) (e : w'.heap[0]? = w.heap[0]?) : Kinds w' := by
  obtain ⟨t, ht⟩ := h
  exact ⟨t, e.trans ht⟩

theorem Kinds.cell {w : World} (h : Kinds w) (i : Nat) (hi : i < 11) : w.cell? ⟨0, i * 3, none⟩ = some (.int .i64 (kflags i)) ∧ w.cell? ⟨0, i * 3 + 1, none⟩ = some (.int .i64 (kfrom i)) ∧ w.cell? ⟨0, i * 3 + 2, none⟩ = some (.int .i64 (kto i)) := by
  obtain ⟨t, h⟩ := h
  rw [cell_of_row _ _ _ _ _ _ h, cell_of_row _ _ _ _ _ _ h, cell_of_row _ _ _ _ _ _ h]
  obtain rfl | rfl | rfl | rfl | rfl | rfl | rfl | rfl | rfl | rfl | rfl : i = 0 ∨ i = 1 ∨ i = 2 ∨ i = 3 ∨ i = 4 ∨ i = 5 ∨ i = 6 ∨ i = 7 ∨ i = 8 ∨ i = 9 ∨ i = 10 := by omega
  all_goals exact ⟨rfl, rfl, rfl⟩

theorem kblock (wc : World) (a : Addr) (v : Value) (o : Obj) : ((wc.setCell a v).alloc o).drew.heap[wc.heap.size]? = some o := by
  have h : (wc.setCell a v).heap.size = wc.heap.size := by simp [World.setCell]
  show ((wc.setCell a v).alloc o).heap[wc.heap.size]? = some o
  rw [← h]
  exact heap_alloc_new _ _

theorem heap_al (w : World) (o : Obj) (k : Nat) : (w.alloc o).heap[k]? = if k = w.heap.size then some o else w.heap[k]? := by
  show (w.heap.push o)[k]? = _
  rw [Array.getElem?_push]
theorem heap_dr (w : World) (k : Nat) : w.drew.heap[k]? = w.heap[k]? := rfl
theorem size_al (w : World) (o : Obj) : (w.alloc o).heap.size = w.heap.size + 1 := by simp
theorem size_dr (w : World) : w.drew.heap.size = w.heap.size := rfl

/-- two results in cells -/
theorem results_two {P : Program} {fn : Func} {p q : Tmp} {ty tz : TypeId} (h : fn.results = #[.cell p ty, .cell q tz]) (tmps : Array Value) (w : World) (g k : Nat) (t u : TypeId) (cs ds : Array Value) (fr fs : Nat × Nat) (d e : TypeDesc)
    (hp : tmps.getD p undef = .pointer (some ⟨g, 0, none⟩)) (hg : w.heap[g]? = some (.cells cs t fr)) (hu : P.underlying ty = some d) (hd : (match d with | .struct _ | .array _ _ => true | _ => false) = true) (hi : (P.info? ty).map (·.size) = some cs.size)
    (hq : tmps.getD q undef = .pointer (some ⟨k, 0, none⟩)) (hk : w.heap[k]? = some (.cells ds u fs)) (hv : P.underlying tz = some e) (he : (match e with | .struct _ | .array _ _ => true | _ => false) = true) (hj : (P.info? tz).map (·.size) = some ds.size) :
    (results fn tmps).run P w = .ok (.tuple #[.agg cs, .agg ds]) w := by
  have hp' : tmps[p]?.getD undef = .pointer (some ⟨g, 0, none⟩) := by simpa using hp
  have hq' : tmps[q]?.getD undef = .pointer (some ⟨k, 0, none⟩) := by simpa using hq
  simp [results, h, hp', hq', asAddr, run_loadVar_row w g t ty cs fr d hg hu hd hi, run_loadVar_row w k u tz ds fs e hk hv he hj]

/-- three results, the second in a slot -/
theorem results_three {P : Program} {fn : Func} {p r q : Tmp} {ty tz : TypeId} (h : fn.results = #[.cell p ty, .tmp r, .cell q tz]) (tmps : Array Value) (w : World) (g k : Nat) (t u : TypeId) (cs ds : Array Value) (fr fs : Nat × Nat) (d e : TypeDesc)
    (hp : tmps.getD p undef = .pointer (some ⟨g, 0, none⟩)) (hg : w.heap[g]? = some (.cells cs t fr)) (hu : P.underlying ty = some d) (hd : (match d with | .struct _ | .array _ _ => true | _ => false) = true) (hi : (P.info? ty).map (·.size) = some cs.size)
    (hq : tmps.getD q undef = .pointer (some ⟨k, 0, none⟩)) (hk : w.heap[k]? = some (.cells ds u fs)) (hv : P.underlying tz = some e) (he : (match e with | .struct _ | .array _ _ => true | _ => false) = true) (hj : (P.info? tz).map (·.size) = some ds.size) :
    (results fn tmps).run P w = .ok (.tuple #[.agg cs, tmps.getD r undef, .agg ds]) w := by
  have hp' : tmps[p]?.getD undef = .pointer (some ⟨g, 0, none⟩) := by simpa using hp
  have hq' : tmps[q]?.getD undef = .pointer (some ⟨k, 0, none⟩) := by simpa using hq
  simp [results, h, hp', hq', asAddr, run_loadVar_row w g t ty cs fr d hg hu hd hi, run_loadVar_row w k u tz ds fs e hk hv he hj]
end Go.Proofs.YtmhbaaemihljjaaDoor
