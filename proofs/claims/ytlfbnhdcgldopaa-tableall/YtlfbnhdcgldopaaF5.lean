/- The document's fixed entries, At. -/
import Derived.Test.YtlfbnhdcgldopaaF4
namespace Go.Proofs.Ytlfbnhdcgldopaa
open Go.RowKit

theorem wp_act {P : Program} {c : Code} {Q : Exit → Act → World → Prop} {a a2 : Act} {w : World} (h : a = a2) (hw : Code.wp P c Q a2 w) : Code.wp P c Q a w := h ▸ hw

def rxs (j : Nat) : Value := (fixedL.map encE ++ [Fixed]).getD j undef

theorem z89 : ∃ Z : Array Value, Z.size = 122 ∧ ∀ w, (zeroValue 89).run Try.prog w = .ok (.agg Z) w :=
  ⟨Array.replicate 122 (.string ⟨#[]⟩), by simp, fun w => by kernel_rfl⟩

section
variable {ops : Array Oper} {Q : Exit → Act → World → Prop} {w : World} {rest : List Oper}

def rbuildOp (x : E × Nat) : Oper := { dst := some (x.2 + 4), op := Op.build 82 #[(0, Operand.const (.string x.1.1)), (1, Operand.const (.string x.1.2))], type := 82, pos := "ref.go:20", after := #[], guard := none }

def rputAll : List (E × Nat) → Act → Act
  | [], a => a
  | x :: r, a => rputAll r (a.put (some (x.2 + 4)) (encE x.1))

theorem wpL_rbuilds (l : List (E × Nat)) : ∀ (a : Act), wpList Try.prog ops Q rest (rputAll l a) w → wpList Try.prog ops Q (l.map rbuildOp ++ rest) a w := by
  induction l with
  | nil => intro a h; exact h
  | cons x r ih =>
    intro a h
    refine wpL_val rfl (encE x.1) w ?_ (ih _ h)
    have h1 := Try.zeroValue82 w
    have h2 := Try.underlying82
    simp [rbuildOp, execOp, encE]
    go_simp
    done
end

theorem ex_alloc (t : TypeId) (Z : Array Value) (ev : Operand → Value) (W : World) (o : Oper) (ho : o.op = .alloc t) (hz : (zeroValue t).run Try.prog W = .ok (.agg Z) W) :
    (execOp ev o).run Try.prog W = .ok (.value (.pointer (some ⟨W.heap.size, 0, none⟩))) (W.alloc (.cells Z t)) := by
  simp [execOp, ho, Instr.alloc, hz, newVar, newRow, Value.cells, newObj, Sem.run]
  done

set_option maxRecDepth 100000 in
set_option maxHeartbeats 4000000 in
theorem rstatic_any (w : World) (i : Nat) (e : E) (h1 : 1 ≤ i) (h2 : i < 62) (he : fixedL[i - 1]? = some e) :
    Calls Try.prog 51 #[.int .i64 (i : Int)] w fun r w' => r = .returned (.agg #[.string e.1, .string e.2]) ∧ Below w.heap.size w w' := by
  obtain ⟨Z, hZs, hz⟩ := z89
  go_enter Try.func51, Try.ntmps51
  refine wp_seq (wp_region_lit (wpL_val rfl (.pointer (some ⟨w.heap.size, 0, none⟩)) (w.alloc (.cells #[.string ⟨#[]⟩, .string ⟨#[]⟩] 82)) (ex_alloc 82 _ _ w _ rfl (Try.zeroValue82 w)) (wpList_nil (then_normal ?_))))
  have hB : Below w.heap.size w (w.alloc (.cells #[.string ⟨#[]⟩, .string ⟨#[]⟩] 82)) := (Below.refl _ w).alloc (Nat.le_refl _) _
  have hN : (w.alloc (.cells #[.string ⟨#[]⟩, .string ⟨#[]⟩] 82)).heap[w.heap.size]? = some (.cells #[.string ⟨#[]⟩, .string ⟨#[]⟩] 82 (0, 0)) := heap_alloc_new _ _
  have hlt : w.heap.size < (w.alloc (.cells #[.string ⟨#[]⟩, .string ⟨#[]⟩] 82)).heap.size := (Array.getElem?_eq_some_iff.1 hN).1
  have hNb : w.heap.size ≤ w.heap.size := Nat.le_refl _
  generalize w.alloc (.cells #[.string ⟨#[]⟩, .string ⟨#[]⟩] 82) = W1 at hB hN hlt ⊢
  generalize hbe : w.heap.size = b at hN hlt hNb ⊢
  refine wp_seq (wp_region_lit (wpL_split 61 (fixedL.zipIdx.map rbuildOp) ?hl (wpL_rbuilds _ _ ?_)))
  case hl => kernel_rfl
  simp only [List.drop_succ_cons, List.drop_zero]
  refine wpL_val rfl Fixed W1 ?hb ?_
  case hb => kernel_rfl
  refine wpL_val rfl (.pointer (some ⟨W1.heap.size, 0, none⟩)) (W1.alloc (.cells Z 89)) (ex_alloc 89 _ _ W1 _ rfl (hz W1)) ?_
  refine wpL_store rfl 89 (.tmp 3) (.tmp 65) rfl (pv := .pointer (some ⟨W1.heap.size, 0, none⟩)) (xv := Fixed) ?hp ?hx (run_storeAt_new (P := Try.prog) W1 89 Z (cellsOf fixedL).toArray (by kernel_rfl) (by rw [hZs]; kernel_rfl) (by kernel_rfl)) (wpList_nil (then_normal ?_))
  case hp => kernel_rfl
  case hx => kernel_rfl
  have hg : (W1.alloc (.cells (cellsOf fixedL).toArray 89)).heap[W1.heap.size]? = some (.cells (cellsOf fixedL).toArray 89 (0, 0)) := heap_alloc_new _ _
  have hN2 : (W1.alloc (.cells (cellsOf fixedL).toArray 89)).heap[b]? = some (.cells #[.string ⟨#[]⟩, .string ⟨#[]⟩] 82 (0, 0)) := (((Below.refl _ W1).alloc (Nat.le_refl _) _).block b hlt).trans hN
  have hB2 : Below b w (W1.alloc (.cells (cellsOf fixedL).toArray 89)) := by rw [← hbe]; exact hB.alloc hB.size _
  obtain ⟨hkl, hke⟩ := List.getElem?_eq_some_iff.1 he
  obtain ⟨hg1, hg2⟩ := cellsOf_get fixedL (i - 1) hkl
  have hd1 : (W1.alloc (.cells (cellsOf fixedL).toArray 89)).cell? ⟨W1.heap.size, (i - 1) * 2, none⟩ = some (.string e.1) := by rw [cell_of_row _ _ _ _ _ _ hg, List.getElem?_toArray, hg1, hke]
  have hd2 : (W1.alloc (.cells (cellsOf fixedL).toArray 89)).cell? ⟨W1.heap.size, (i - 1) * 2 + 1, none⟩ = some (.string e.2) := by rw [cell_of_row _ _ _ _ _ _ hg, List.getElem?_toArray, hg2, hke]
  clear hg hz hZs hg1 hg2 hke hkl he hB hN hbe
  generalize W1.alloc (.cells (cellsOf fixedL).toArray 89) = W at hN2 hB2 hd1 hd2 ⊢
  generalize W1.heap.size = g at hlt hd1 hd2 ⊢
  clear W1
  have hc0 : W.cell? ⟨b, 0, none⟩ = some (.string ⟨#[]⟩) := by simp [World.cell?, hN2]
  have hc1 : W.cell? ⟨b, 1, none⟩ = some (.string ⟨#[]⟩) := by simp [World.cell?, hN2]
  have hf0 : W.frozen? ⟨b, 0, none⟩ = false := by simp [World.frozen?, hN2]
  have hf1 : W.frozen? ⟨b, 1, none⟩ = false := by simp [World.frozen?, hN2]
  replace hN2 : Hid (W.heap[b]? = some (.cells #[.string ⟨#[]⟩, .string ⟨#[]⟩] 82 (0, 0))) := hN2
  have hi : (i : Int) - 1 = ((i - 1 : Nat) : Int) := by omega
  refine wp_act (a2 := ⟨#[.int .i64 (i : Int), undef, .pointer (some ⟨b, 0, none⟩), .pointer (some ⟨g, 0, none⟩), rxs 0, rxs 1, rxs 2, rxs 3, rxs 4, rxs 5, rxs 6, rxs 7, rxs 8, rxs 9, rxs 10, rxs 11, rxs 12, rxs 13, rxs 14, rxs 15, rxs 16, rxs 17, rxs 18, rxs 19, rxs 20, rxs 21, rxs 22, rxs 23, rxs 24, rxs 25, rxs 26, rxs 27, rxs 28, rxs 29, rxs 30, rxs 31, rxs 32, rxs 33, rxs 34, rxs 35, rxs 36, rxs 37, rxs 38, rxs 39, rxs 40, rxs 41, rxs 42, rxs 43, rxs 44, rxs 45, rxs 46, rxs 47, rxs 48, rxs 49, rxs 50, rxs 51, rxs 52, rxs 53, rxs 54, rxs 55, rxs 56, rxs 57, rxs 58, rxs 59, rxs 60, rxs 61, undef, undef, undef, undef], []⟩) (by kernel_rfl) ?_
  go_wp2
  refine bodyPost_ret (results_cell_row (p := 2) (ty := 82) rfl _ _ b 82 #[.string e.1, .string e.2] (0, 0) _ rfl (by rw [setCell_block _ _ _ _ _ _ _ (setCell_block _ _ _ _ _ _ _ hN2.out)]; rfl) Try.underlying82 rfl (by kernel_rfl)) rfl ⟨rfl, ?_⟩
  exact (hB2.setCell (Nat.le_refl _) _).setCell (Nat.le_refl _) _

theorem RTab.moving {w : World} {b mx : Nat} {es : List E} {v : Value} (h : RTab w b mx es v) (k : Nat) (e : E) (he : es[k]? = some e) : ∃ g cap, v = .slice (some ⟨g, 0, none⟩) es.length cap ∧ k < es.length ∧ es.length ≤ cap ∧ cap ≤ 9223372036854775807 ∧ w.cell? ⟨g, k * 2, none⟩ = some (.string e.1) ∧ w.cell? ⟨g, k * 2 + 1, none⟩ = some (.string e.2) := by
  obtain ⟨hl, hel⟩ := List.getElem?_eq_some_iff.1 he
  obtain ⟨base, cap, rfl⟩ := h.slice
  obtain ⟨g, rfl, h1, h2, h3, h4⟩ := (rents_of_row h.2.2.2).at k hl
  rw [hel] at h3 h4
  exact ⟨g, cap, rfl, hl, h1, h2, h3, h4⟩

set_option maxRecDepth 100000 in
set_option maxHeartbeats 1000000 in
theorem rat_fixed (w : World) (b mx : Nat) (es : List E) (v : Value) (h : RTab w b mx es v) (i : Nat) (e : E) (h1 : 1 ≤ i) (h2 : i < 62) (he : fixedL[i - 1]? = some e) :
    Calls Try.prog 38 #[.pointer (some ⟨b, 0, none⟩), .int .i64 (i : Int)] w fun r w' => r = .returned (.tuple #[.string e.1, .string e.2, .int .i64 0]) ∧ Below w.heap.size w w' := by
  have hlen := h.len
  obtain ⟨base, cap, rfl⟩ := h.slice
  obtain ⟨_, hc, _⟩ := rtab_cells h.2.2.1
  have hd1 : ¬ (i : Int) < 1 := by omega
  have hd2 : ¬ (61 : Int) + (es.length : Int) < (i : Int) := by omega
  have hd3 : (i : Int) ≤ 61 := by omega
  have HC : ∀ W, Hid (Calls Try.prog 51 #[.int .i64 (i : Int)] W fun r w' => r = .returned (.agg #[.string e.1, .string e.2]) ∧ Below W.heap.size W w') := fun W => rstatic_any W i e h1 h2 he
  replace HC : Hid _ := HC
  clear h he
  go_enter Try.func38, Try.ntmps38
  go_wp2_with (go_at_call 51; refine (HC.out _).out.mono ?_; rintro e' w' ⟨rfl, hb⟩; have hn : w'.heap[w.heap.size]? = some (.cells #[.string ⟨#[]⟩, .string ⟨#[]⟩] 82 (0, 0)) := (hb.block _ (by simp)).trans (heap_alloc_new _ _); have hc0 : w'.cell? ⟨w.heap.size, 0, none⟩ = some (.string ⟨#[]⟩) := (by simp [World.cell?, hn]); have hc1 : w'.cell? ⟨w.heap.size, 1, none⟩ = some (.string ⟨#[]⟩) := (by simp [World.cell?, hn]); have hf0 : w'.frozen? ⟨w.heap.size, 0, none⟩ = false := (by simp [World.frozen?, hn]); have hf1 : w'.frozen? ⟨w.heap.size, 1, none⟩ = false := (by simp [World.frozen?, hn]); replace hn : Hid (w'.heap[w.heap.size]? = some (.cells #[.string ⟨#[]⟩, .string ⟨#[]⟩] 82 (0, 0))) := hn)
  have hN2 : ((w'.setCell ⟨w.heap.size, 0, none⟩ (.string e.1)).setCell ⟨w.heap.size, 1, none⟩ (.string e.2)).heap[w.heap.size]? = some (.cells #[.string e.1, .string e.2] 82 (0, 0)) := by rw [setCell_block _ _ _ _ _ _ _ (setCell_block _ _ _ _ _ _ _ hn.out)]; rfl
  have hB : Below w.heap.size w ((w'.setCell ⟨w.heap.size, 0, none⟩ (.string e.1)).setCell ⟨w.heap.size, 1, none⟩ (.string e.2)) := ((((Below.refl _ w).alloc (Nat.le_refl _) _).trans (hb.mono (by simp))).setCell (Nat.le_refl _) _).setCell (Nat.le_refl _) _
  clear hn hb hc0 hc1 hf0 hf1
  generalize (w'.setCell ⟨w.heap.size, 0, none⟩ (.string e.1)).setCell ⟨w.heap.size, 1, none⟩ (.string e.2) = W2 at hN2 hB ⊢
  have hx0 : W2.cell? ⟨w.heap.size, 0, none⟩ = some (.string e.1) := by rw [cell_of_row _ _ _ _ _ _ hN2]; rfl
  have hx1 : W2.cell? ⟨w.heap.size, 1, none⟩ = some (.string e.2) := by rw [cell_of_row _ _ _ _ _ _ hN2]; rfl
  clear hN2 hc HC
  replace hB : Hid _ := hB
  generalize w.heap.size = k at hx0 hx1 ⊢
  go_region
  all_goals
    go_wp2
    go_ret3
    exact ⟨rfl, hB.out.drew⟩

set_option maxRecDepth 100000 in
set_option maxHeartbeats 1000000 in
theorem rat_moving (w : World) (b mx : Nat) (es : List E) (v : Value) (h : RTab w b mx es v) (i : Nat) (e : E) (h2 : 62 ≤ i) (he : es[i - 62]? = some e) :
    Calls Try.prog 38 #[.pointer (some ⟨b, 0, none⟩), .int .i64 (i : Int)] w fun r w' => r = .returned (.tuple #[.string e.1, .string e.2, .int .i64 0]) ∧ Below w.heap.size w w' := by
  have hlen := h.len
  obtain ⟨_, hc, _⟩ := rtab_cells h.2.2.1
  have hb := h.lt
  obtain ⟨g, cap, rfl, hl, hc1, hc2, hd1, hd2⟩ := h.moving _ _ he
  have hg := World.block_lt_of_cell? _ _ hd1
  have hi : (i : Int) - 61 - 1 = ((i - 62 : Nat) : Int) := by omega
  have ht1 : ¬ (i : Int) < 1 := by omega
  have ht2 : ¬ (61 : Int) + (es.length : Int) < (i : Int) := by omega
  have ht3 : ¬ (i : Int) ≤ 61 := by omega
  clear h he
  go_enter Try.func38, Try.ntmps38
  go_wp2
  have hN2 : (w.alloc (.cells #[.string e.1, .string e.2] 82)).heap[w.heap.size]? = some (.cells #[.string e.1, .string e.2] 82 (0, 0)) := heap_alloc_new _ _
  have hB : Below w.heap.size w (w.alloc (.cells #[.string e.1, .string e.2] 82)) := (Below.refl _ w).alloc (Nat.le_refl _) _
  clear hb hg hc hd1 hd2
  generalize w.alloc (.cells #[.string e.1, .string e.2] 82) = W2 at hN2 hB ⊢
  have hx0 : W2.cell? ⟨w.heap.size, 0, none⟩ = some (.string e.1) := by rw [cell_of_row _ _ _ _ _ _ hN2]; rfl
  have hx1 : W2.cell? ⟨w.heap.size, 1, none⟩ = some (.string e.2) := by rw [cell_of_row _ _ _ _ _ _ hN2]; rfl
  clear hN2
  replace hB : Hid _ := hB
  generalize w.heap.size = k at hx0 hx1 ⊢
  go_region
  all_goals
    go_wp2
    go_ret3
    exact ⟨rfl, hB.out.drew⟩

theorem rat_good (w : World) (b mx : Nat) (es : List E) (v : Value) (h : RTab w b mx es v) (i : Nat) (e : E) (h1 : 1 ≤ i) (he : (fixedL ++ es)[i - 1]? = some e) :
    Calls Try.prog 38 #[.pointer (some ⟨b, 0, none⟩), .int .i64 (i : Int)] w fun r w' => r = .returned (.tuple #[.string e.1, .string e.2, .int .i64 0]) ∧ Below w.heap.size w w' := by
  have hf : fixedL.length = 61 := rfl
  by_cases h2 : i < 62
  · rw [List.getElem?_append_left (by omega)] at he
    exact rat_fixed w b mx es v h i e h1 h2 he
  · rw [List.getElem?_append_right (by omega), hf] at he
    exact rat_moving w b mx es v h i e (by omega) (by rwa [show i - 62 = i - 1 - 61 by omega])

set_option maxRecDepth 100000 in
set_option maxHeartbeats 400000 in
theorem rat_bad (w : World) (b mx : Nat) (es : List E) (v : Value) (h : RTab w b mx es v) (i : Int) (hi : i < 1 ∨ 62 + (es.length : Int) ≤ i) :
    Calls Try.prog 38 #[.pointer (some ⟨b, 0, none⟩), .int .i64 i] w fun r w' => r = .returned (.tuple #[.string ⟨#[]⟩, .string ⟨#[]⟩, .int .i64 5]) ∧ w' = w := by
  have hlen := h.len
  obtain ⟨base, cap, rfl⟩ := h.slice
  obtain ⟨_, hc, _⟩ := rtab_cells h.2.2.1
  clear h
  by_cases h1 : i < 1
  · clear hi
    go_enter Try.func38, Try.ntmps38
    go_wp2
    go_ret3
    exact ⟨rfl, rfl⟩
  · have hi2 : 61 + (es.length : Int) < i := by omega
    clear hi
    go_enter Try.func38, Try.ntmps38
    go_wp2
    go_ret3
    exact ⟨rfl, rfl⟩

end Go.Proofs.Ytlfbnhdcgldopaa
