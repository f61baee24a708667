/- The entry with an index; At. -/
import Derived.Test.YtlfbnhdcgldopaaA3
import Derived.Deep.RegionHeld3
namespace Go.Proofs.Ytlfbnhdcgldopaa
open Go.RowKit

theorem info64 : (Try.prog.info? 64).map (fun i => (i.zero, i.size, i.bytes)) = some (some (.agg #[.string ⟨#[]⟩, .string ⟨#[]⟩]), 2, 32) := by kernel_rfl

theorem extract2 (l : List E) (k : Nat) (e : E) (he : l[k]? = some e) : (cellsOf l).toArray.extract (k * 2) (k * 2 + 2) = #[.string e.1, .string e.2] := by
  obtain ⟨hk, rfl⟩ := List.getElem?_eq_some_iff.1 he
  obtain ⟨h1, h2⟩ := cellsOf_get l k hk
  have hl := length_cellsOf l
  apply Array.ext_getElem?
  intro i
  rw [Array.getElem?_extract]
  rcases i with _ | _ | i
  · simp [h1]; omega
  · simp [h2]; omega
  · simp; omega

theorem setCell_block (w : World) (b off : Nat) (v : Value) (c : Array Value) (t : TypeId) (fz : Nat × Nat) (h : w.heap[b]? = some (.cells c t fz)) :
    (w.setCell ⟨b, off, none⟩ v).heap[b]? = some (.cells (c.setIfInBounds off v) t fz) := by
  simp [World.setCell, Array.getElem?_modify, h]

theorem setCell_other (w : World) (b k off : Nat) (v : Value) (h : k ≠ b) : (w.setCell ⟨b, off, none⟩ v).heap[k]? = w.heap[k]? := by
  simp [World.setCell, Array.getElem?_modify, Ne.symm h]

theorem run_index_arr (C : Array Value) (k : Nat) (e : E) (hx : C.extract (k * 2) (k * 2 + 2) = #[.string e.1, .string e.2]) (hk : k < 61) (w : World) :
    (Instr.index 80 (.agg C) (.int .i64 (k : Int))).run Try.prog w = .ok (.agg #[.string e.1, .string e.2]) w := by
  simp [Instr.index, asIntOf, run_underlying Try.underlying80, part, Try.isAgg64, Try.sizeOf64, hk, hx]

theorem run_index_fixed (k : Nat) (e : E) (he : fixedL[k]? = some e) (hk : k < 61) (w : World) :
    (Instr.index 80 Fixed (.int .i64 (k : Int))).run Try.prog w = .ok (.agg #[.string e.1, .string e.2]) w :=
  run_index_arr _ k e (extract2 fixedL k e he) hk w

set_option maxRecDepth 100000 in
set_option maxHeartbeats 400000 in
theorem entry_fixed (w : World) (b : Nat) (i : Nat) (e : E) (h1 : 1 ≤ i) (h2 : i < 62) (he : fixedL[i - 1]? = some e) :
    Calls Try.prog 32 #[.pointer (some ⟨b, 0, none⟩), .int .i64 (i : Int)] w fun r w' => r = .returned (.agg #[.string e.1, .string e.2]) ∧ Below w.heap.size w w' := by
  have hi : (i : Int) - 1 = ((i - 1 : Nat) : Int) := by omega
  have hx := run_index_fixed (i - 1) e he (by omega)
  go_enter Try.func32, Try.ntmps32
  go_wp2_with (go_at_call 47; refine (fixed_any _).mono ?_; rintro e' w' ⟨rfl, hb⟩; have hn : w'.heap[w.heap.size]? = some (.cells #[.string ⟨#[]⟩, .string ⟨#[]⟩] 64 (0, 0)) := (hb.block _ (by simp)).trans (heap_alloc_new _ _); have hc0 : w'.cell? ⟨w.heap.size, 0, none⟩ = some (.string ⟨#[]⟩) := (by simp [World.cell?, hn]); have hc1 : w'.cell? ⟨w.heap.size, 1, none⟩ = some (.string ⟨#[]⟩) := (by simp [World.cell?, hn]); have hf0 : w'.frozen? ⟨w.heap.size, 0, none⟩ = false := (by simp [World.frozen?, hn]); have hf1 : w'.frozen? ⟨w.heap.size, 1, none⟩ = false := (by simp [World.frozen?, hn]); replace hn : Hid (w'.heap[w.heap.size]? = some (.cells #[.string ⟨#[]⟩, .string ⟨#[]⟩] 64 (0, 0))) := hn)
  refine bodyPost_ret (results_cell_row (p := 4) (ty := 64) rfl _ _ w.heap.size 64 #[.string e.1, .string e.2] (0, 0) _ rfl (by rw [setCell_block _ _ _ _ _ _ _ (setCell_block _ _ _ _ _ _ _ hn.out)]; rfl) Try.underlying64 rfl (by kernel_rfl)) rfl ⟨rfl, ?_⟩
  exact ((((Below.refl _ w).alloc (Nat.le_refl _) _).trans (hb.mono (by simp))).setCell (Nat.le_refl _) _).setCell (Nat.le_refl _) _

set_option maxRecDepth 100000 in
set_option maxHeartbeats 400000 in
theorem entry_moving (w : World) (b mx : Nat) (es : List E) (v : Value) (h : Tab w b mx es v) (i : Nat) (e : E) (h2 : 62 ≤ i) (he : es[i - 62]? = some e) :
    Calls Try.prog 32 #[.pointer (some ⟨b, 0, none⟩), .int .i64 (i : Int)] w fun r w' => r = .returned (.agg #[.string e.1, .string e.2]) ∧ Below w.heap.size w w' := by
  have hi : (i : Int) - 62 = ((i - 62 : Nat) : Int) := by omega
  obtain ⟨hl, hel⟩ := List.getElem?_eq_some_iff.1 he
  have hlt := h.len
  obtain ⟨_, _, hc, _⟩ := h.cells
  have hb := h.lt
  have hown := h.2.2.2
  rcases h.2.2.2.2 with ⟨rfl, hn⟩ | ⟨g, cap, cur, rfl, _, hg, _⟩
  · omega
  have hgl : g < w.heap.size := (Array.getElem?_eq_some_iff.1 hg).1
  have hce := hown.cells (g := g) rfl
  obtain ⟨hg1, hg2⟩ := cellsOf_get es (i - 62) hl
  have hd1 := hce _ _ hg1
  have hd2 := hce _ _ hg2
  rw [Addr.add_lit, Nat.zero_add, hel] at hd1 hd2
  clear hce hg1 hg2 hown h hg hel he
  go_enter Try.func32, Try.ntmps32
  go_wp2
  refine bodyPost_ret (results_cell_row (p := 4) (ty := 64) rfl _ _ w.heap.size 64 #[.string e.1, .string e.2] (0, 0) _ rfl (heap_alloc_new _ _) Try.underlying64 rfl (by kernel_rfl)) rfl ⟨rfl, ?_⟩
  exact (Below.refl _ w).alloc (Nat.le_refl _) _

theorem entry_any (w : World) (b mx : Nat) (es : List E) (v : Value) (h : Tab w b mx es v) (i : Nat) (e : E) (h1 : 1 ≤ i) (he : (fixedL ++ es)[i - 1]? = some e) :
    Calls Try.prog 32 #[.pointer (some ⟨b, 0, none⟩), .int .i64 (i : Int)] w fun r w' => r = .returned (.agg #[.string e.1, .string e.2]) ∧ Below w.heap.size w w' := by
  have hf : fixedL.length = 61 := rfl
  by_cases h2 : i < 62
  · rw [List.getElem?_append_left (by omega)] at he
    exact entry_fixed w b i e h1 h2 he
  · rw [List.getElem?_append_right (by omega), hf] at he
    exact entry_moving w b mx es v h i e (by omega) (by rwa [show i - 62 = i - 1 - 61 by omega])

theorem at_step {x y : Addr} {e1 e2 : Value} {B : Nat} {w0 w w' : World} (h : w.cell? x = some e1 ∧ w.cell? y = some e2 ∧ Below B w0 w) (hb : Below w.heap.size w w') (hB : B ≤ w0.heap.size) :
    w'.cell? x = some e1 ∧ w'.cell? y = some e2 ∧ Below B w0 w' :=
  ⟨(hb.cell (World.block_lt_of_cell? _ _ h.1)).trans h.1, (hb.cell (World.block_lt_of_cell? _ _ h.2.1)).trans h.2.1, h.2.2.trans (hb.mono (Nat.le_trans hB h.2.2.size))⟩

set_option maxRecDepth 100000 in
set_option maxHeartbeats 1000000 in
theorem at_good (w : World) (b mx : Nat) (es : List E) (v : Value) (h : Tab w b mx es v) (i : Nat) (e : E) (h1 : 1 ≤ i) (he : (fixedL ++ es)[i - 1]? = some e) (hs1 : e.1.size ≤ 281474976710656) (hs2 : e.2.size ≤ 281474976710656) :
    Calls Try.prog 13 #[.pointer (some ⟨b, 0, none⟩), .int .i64 (i : Int)] w fun r w' => r = .returned (.tuple #[.string e.1, .string e.2, .int .i64 0]) ∧ Below w.heap.size w w' := by
  have hf : fixedL.length = 61 := rfl
  have hl : i - 1 < 61 + es.length := by
    have := (List.getElem?_eq_some_iff.1 he).1
    rwa [List.length_append, hf] at this
  have hlen := h.len
  obtain ⟨base, cap, rfl⟩ := h.slice
  obtain ⟨_, _, hc, _⟩ := h.cells
  have hd1 : ¬ (i : Int) < 1 := by omega
  have hd2 : ¬ (62 : Int) + (es.length : Int) ≤ (i : Int) := by omega
  have HC := fun w h => entry_any w b mx es (.slice base es.length cap) h i e h1 he
  have H : Hid (Tab w b mx es (.slice base es.length cap)) := h
  replace HC : Hid (∀ w, Tab w b mx es (.slice base es.length cap) → Calls Try.prog 32 #[.pointer (some ⟨b, 0, none⟩), .int .i64 (i : Int)] w fun r w' => r = .returned (.agg #[.string e.1, .string e.2]) ∧ Below w.heap.size w w') := HC
  clear h he hl hf
  go_enter Try.func13, Try.ntmps13
  go_wp2_with (go_at_call 32; refine (HC.out _ H.out).mono ?_; rintro e' w1 ⟨rfl, hb⟩)
  have hx0 : (w1.alloc (.cells #[.string e.1, .string e.2] 64)).cell? ⟨w1.heap.size, 0, none⟩ = some (.string e.1) := by rw [cell_of_row _ _ _ _ _ _ (heap_alloc_new _ _)]; rfl
  have hx1 : (w1.alloc (.cells #[.string e.1, .string e.2] 64)).cell? ⟨w1.heap.size, 1, none⟩ = some (.string e.2) := by rw [cell_of_row _ _ _ _ _ _ (heap_alloc_new _ _)]; rfl
  have hB : Below w.heap.size w (w1.alloc (.cells #[.string e.1, .string e.2] 64)) := hb.alloc hb.size _
  generalize w1.alloc (.cells #[.string e.1, .string e.2] 64) = W2 at hx0 hx1 hB ⊢
  generalize w1.heap.size = k at hx0 hx1 ⊢
  clear hb hc HC H
  go_region_held3 (fun w' => w'.cell? ⟨k, 0, none⟩ = some (.string e.1) ∧ w'.cell? ⟨k, 1, none⟩ = some (.string e.2) ∧ Below w.heap.size w w') (first | exact ⟨hx0, hx1, hB.drew⟩ | exact at_step (by assumption) (by assumption) (Nat.le_refl _)) (first | (go_at_call 30; refine (clone_any e.1 _ hs1).mono ?_; rintro e' w2 ⟨rfl, hb2⟩) | (go_at_call 30; refine (clone_any e.2 _ hs2).mono ?_; rintro e' w3 ⟨rfl, hb3⟩))
  all_goals
    go_wp2
    go_ret3
    refine ⟨rfl, ?_⟩
    rename_i hS
    exact hS.2.2

set_option maxRecDepth 100000 in
set_option maxHeartbeats 400000 in
theorem at_bad (w : World) (b mx : Nat) (es : List E) (v : Value) (h : Tab w b mx es v) (i : Int) (hi : i < 1 ∨ 62 + (es.length : Int) ≤ i) :
    Calls Try.prog 13 #[.pointer (some ⟨b, 0, none⟩), .int .i64 i] w fun r w' => r = .returned (.tuple #[.string ⟨#[]⟩, .string ⟨#[]⟩, .int .i64 5]) ∧ w' = w := by
  have hlen := h.len
  obtain ⟨base, cap, rfl⟩ := h.slice
  obtain ⟨_, _, hc, _⟩ := h.cells
  clear h
  by_cases h1 : i < 1
  · clear hi
    go_enter Try.func13, Try.ntmps13
    go_wp2
    go_ret3
    exact ⟨rfl, rfl⟩
  · replace hi : 62 + (es.length : Int) ≤ i := by omega
    go_enter Try.func13, Try.ntmps13
    go_wp2
    go_ret3
    exact ⟨rfl, rfl⟩

end Go.Proofs.Ytlfbnhdcgldopaa
