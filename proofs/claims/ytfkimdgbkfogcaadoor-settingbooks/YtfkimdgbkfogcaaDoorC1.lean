/- Lists that wait: a slice of slices, appended to and cut ahead; the sets that lists make. -/
import Derived.Test.YtfkimdgbkfogcaaDoorB5
import Derived.ArgAppend
namespace Go.Proofs.YtfkimdgbkfogcaaDoor
open Go.RowKit
set_option linter.unusedVariables false
set_option linter.unusedSimpArgs false

/-- a slice, by its three parts -/
abbrev SV := Option Addr × Nat × Nat
def sv (x : SV) : Value := .slice x.1 x.2.1 x.2.2
def EL : El SV := ⟨29, 30, 1, 24, fun x => [sv x]⟩
theorem okL : EL.Ok := ⟨Tryd.underlying29, by kernel_rfl, by decide, by decide, fun _ => rfl, fun a u hu => by
  simp only [EL, List.mem_cons, List.not_mem_nil, or_false] at hu
  subst hu; rfl⟩
/-- a step of a script -/
abbrev OP := Int × Bool × SV
def EO : El OP := ⟨22, 32, 3, 40, fun x => [.int .i64 x.1, .bool x.2.1, sv x.2.2]⟩
theorem okO : EO.Ok := ⟨Tryd.underlying22, by kernel_rfl, by decide, by decide, fun _ => rfl, fun a u hu => by
  simp only [EO, List.mem_cons, List.not_mem_nil, or_false] at hu
  rcases hu with rfl | rfl | rfl <;> rfl⟩
theorem In.op {w : World} {v : Value} {l : List OP} (h : In EO w v l) (k : Nat) (hk : k < l.length) : ∃ B off cap, v = .slice (some ⟨B, off, none⟩) l.length cap ∧ B < w.heap.size ∧ w.cell? ⟨B, off + k * 3, none⟩ = some (.int .i64 l[k].1) ∧ w.cell? ⟨B, off + k * 3 + 1, none⟩ = some (.bool l[k].2.1) ∧ w.cell? ⟨B, off + k * 3 + 2, none⟩ = some (sv l[k].2.2) := by
  obtain ⟨B, off, cap, h1, h2, h3⟩ := h.get okO k hk
  exact ⟨B, off, cap, h1, h2, h3 0 _ rfl, h3 1 _ rfl, h3 2 _ rfl⟩

/-- The slice holds these slices; behind them, up to its capacity, there is room. -/
def WRow (w : World) (v : Value) (l : List SV) : Prop :=
  (v = .slice none 0 0 ∧ l = []) ∨ ∃ g off cap cur, v = .slice (some ⟨g, off, none⟩) l.length cap ∧ w.heap[g]? = some (.cells cur 30 (0, 0)) ∧ l.length ≤ cap ∧ cap ≤ 9223372036854775807 ∧ off + cap ≤ cur.size ∧ (cur.toList.drop off).take l.length = EL.cs l
theorem WRow.slice {w : World} {v : Value} {l : List SV} (h : WRow w v l) : ∃ base cap, v = .slice base l.length cap ∧ l.length ≤ cap ∧ cap ≤ 9223372036854775807 := by
  rcases h with ⟨rfl, rfl⟩ | ⟨g, off, cap, cur, rfl, _, h1, h2, _⟩
  · exact ⟨none, 0, rfl, Nat.le_refl _, by omega⟩
  · exact ⟨_, cap, rfl, h1, h2⟩
theorem WRow.lt {w : World} {v : Value} {l : List SV} (h : WRow w v l) : ∀ k, v.ownBlock = some k → k < w.heap.size ∧ ∃ c, w.heap[k]? = some (.cells c 30 (0, 0)) := by
  rcases h with ⟨rfl, rfl⟩ | ⟨g, off, cap, cur, rfl, hg, _⟩
  · intro k hk; simp [Value.ownBlock] at hk
  · intro k hk
    simp [Value.ownBlock] at hk
    subst hk
    exact ⟨heap_lt hg, _, hg⟩
theorem WRow.same {w w' : World} {v : Value} {l : List SV} (h : WRow w v l) (hb : ∀ k, v.ownBlock = some k → w'.heap[k]? = w.heap[k]?) : WRow w' v l := by
  rcases h with h | ⟨g, off, cap, cur, rfl, hg, rest⟩
  · exact .inl h
  · exact .inr ⟨g, off, cap, cur, rfl, (hb g rfl).trans hg, rest⟩
theorem WRow.below {w w' : World} {v : Value} {l : List SV} (h : WRow w v l) (hb : Below w.heap.size w w') : WRow w' v l := h.same fun k hk => hb.block k (h.lt k hk).1
theorem sv_cell {cur : Array Value} {off : Nat} {l : List SV} (h : (cur.toList.drop off).take l.length = EL.cs l) (j : Nat) (hj : j < l.length) : cur[off + j]? = some (sv l[j]) := by
  have h1 : ((cur.toList.drop off).take l.length)[j]? = (EL.cs l)[j]? := by rw [h]
  rw [List.getElem?_take, if_pos hj, List.getElem?_drop] at h1
  have h2 := okL.get l j 0 hj (by decide)
  simp only [EL, Nat.mul_one, Nat.add_zero] at h2
  rw [← Array.getElem?_toList, h1]
  exact h2

/-- the first of them, and the others -/
theorem WRow.first {w : World} {v : Value} {x : SV} {l : List SV} (h : WRow w v (x :: l)) : ∃ g off cap, v = .slice (some ⟨g, off, none⟩) (l.length + 1) cap ∧ l.length + 1 ≤ cap ∧ cap ≤ 9223372036854775807 ∧ w.cell? ⟨g, off, none⟩ = some (sv x) ∧ g < w.heap.size ∧
    (cap = 1 → WRow w (.slice (some ⟨g, off, none⟩) l.length (cap - 1)) l) ∧ (cap ≠ 1 → WRow w (.slice (some ⟨g, off + 1, none⟩) l.length (cap - 1)) l) := by
  rcases h with ⟨_, h0⟩ | ⟨g, off, cap, cur, rfl, hg, h1, h2, h3, h4⟩
  · cases h0
  · have hc := sv_cell h4 0 (by simp)
    simp only [List.length_cons] at h1 h4
    refine ⟨g, off, cap, rfl, h1, h2, (cell_blk hg off).trans hc, heap_lt hg, fun e => ?_, fun e => ?_⟩
    · have hl : l = [] := List.eq_nil_of_length_eq_zero (by omega)
      subst hl
      exact .inr ⟨g, off, cap - 1, cur, rfl, hg, by simp, by omega, by omega, rfl⟩
    · refine .inr ⟨g, off + 1, cap - 1, cur, rfl, hg, by omega, by omega, by omega, ?_⟩
      have e1 : EL.cs (x :: l) = sv x :: EL.cs l := rfl
      rw [e1] at h4
      have h5 := congrArg (List.drop 1) h4
      rw [List.drop_take, List.drop_drop] at h5
      simpa using h5

/-- append of one -/
theorem wrow_push (w : World) (v : Value) (l : List SV) (hR : WRow w v l) (x : SV) (B : Nat) (hB : w.heap[B]? = some (.cells #[sv x] 30 (0, 0))) (hlen : l.length ≤ 1000) :
    ∃ b c w', (Builtin.append_ #[29, 29] 29 #[v, .slice (some ⟨B, 0, none⟩) 1 1]).run Tryd.prog w = .ok (.slice b (l.length + 1) c) w' ∧ WRow w' (.slice b (l.length + 1) c) (l ++ [x]) ∧ Gr w w' v (.slice b (l.length + 1) c) := by
  obtain ⟨i0, z, hi0, hz0, hz1, hz2, hz3⟩ := info_z okL
  have hz1' : i0.size = 1 := hz1
  have hz2' : i0.bytes = 24 := hz2
  have hz3' : z.cells.size = 1 := hz3
  have hone : ∀ u ∈ ([sv x] : List Value), u.oneCell' = true := by intro u hu; simp at hu; subst hu; rfl
  have hcell : ∀ j u, ([sv x] : List Value)[j]? = some u → w.cell? ((⟨B, 0, none⟩ : Addr).add j) = some u := by
    intro j u hj
    rw [Addr.add_lit, cell_blk hB, Nat.zero_add]
    simpa using hj
  have hcsx : EL.cs [x] = [sv x] := rfl
  have hll : (l ++ [x]).length = l.length + 1 := by simp
  have hclen : (EL.cs l).length = l.length := by rw [okL.length]; exact Nat.mul_one _
  have fin : ∀ (c0 : Nat) (D : Array Value) (hD : D.toList.take (l.length + 1) = EL.cs l ++ [sv x]) (hDs : D.size = c0) (hc : l.length + 1 ≤ c0) (hm : c0 ≤ maxLen),
      WRow (w.drew.alloc (.cells D 30)) (.slice (some ⟨w.heap.size, 0, none⟩) (l.length + 1) c0) (l ++ [x]) ∧ Gr w (w.drew.alloc (.cells D 30)) v (.slice (some ⟨w.heap.size, 0, none⟩) (l.length + 1) c0) := by
    intro c0 D hD hDs hc hm
    refine ⟨.inr ⟨w.heap.size, 0, c0, D, by rw [hll], heap_alloc_new w.drew _, by rw [hll]; exact hc, by unfold maxLen at hm; omega, by omega, ?_⟩, rfl, rfl, rfl, by simp, fun k hk _ => heap_alloc_old w.drew _ hk, fun k hk => by simp [Value.ownBlock] at hk; exact .inr (by omega)⟩
    rw [hll, List.drop_zero, El.cs_append, hcsx]
    exact hD
  rcases hR with ⟨rfl, rfl⟩ | ⟨g, off, cap, cur, rfl, hg, h1, h2, h3, h4⟩
  · have hr := run_append_nil (P := Tryd.prog) w 29 29 30 i0 z Tryd.underlying29 hi0 hz0 ⟨B, 0, none⟩ 1 1 [sv x] (by rw [hz1']; rfl) hcell (by omega) (by omega) (by rw [hz2']; omega)
    have hge := grownCap_ge w 1 0 30
    have hF := fin (grownCap w 1 0 30) ([sv x].toArray ++ Builtin.zeroCells z.cells (grownCap w 1 0 30 - 1)) (by simp [El.cs]) (by simp [size_zeroCells, hz3']; omega) (by simpa using hge) (grownCap_le_maxLen w 1 0 30 (by unfold maxLen; omega))
    exact ⟨_, _, _, hr, hF.1, hF.2⟩
  · by_cases hroom : l.length + 1 ≤ cap
    · have hr := run_append_room_cells (P := Tryd.prog) w 29 29 30 i0 Tryd.underlying29 hi0 g off l.length cap ⟨B, 0, none⟩ 1 1 [sv x] (by rw [hz1']; rfl) hcell hone hroom (by
        intro j hj
        simp at hj
        subst hj
        rw [cell_blk hg, hz1']
        simp
        omega) (fun j _ => frozen_blk hg _)
      rw [hz1', Nat.mul_one] at hr
      have hsc : w.setCells g (off + l.length) [sv x] = w.setCell ⟨g, off + l.length, none⟩ (sv x) := by simp [World.setCells]
      rw [hsc] at hr
      refine ⟨_, _, _, hr, .inr ⟨g, off, cap, _, by rw [hll], setCell_block _ _ _ _ _ _ _ hg, by rw [hll]; exact hroom, h2, by simpa using h3, ?_⟩, rfl, rfl, rfl, by simp [World.setCell], fun k _ hk => setCell_other _ _ _ _ _ (fun e => hk (by rw [e]; rfl)), fun k hk => .inl hk⟩
      rw [hll, El.cs_append, hcsx, ← h4, Array.toList_setIfInBounds]
      apply List.ext_getElem?
      intro j
      rw [List.getElem?_take, List.getElem?_drop, List.getElem?_set]
      by_cases hj : j < l.length
      · rw [if_pos (by omega), if_neg (by omega), List.getElem?_append_left (by simp; omega), List.getElem?_take, if_pos hj, List.getElem?_drop]
      · by_cases hj2 : j = l.length
        · subst hj2
          rw [if_pos (by omega), if_pos rfl, if_pos (by have hh : cur.toList.length = cur.size := Array.length_toList; omega), List.getElem?_append_right (by simp; omega)]
          have e : ((cur.toList.drop off).take l.length).length = l.length := by simp; omega
          rw [e, Nat.sub_self]
          rfl
        · rw [if_neg (by omega), List.getElem?_eq_none (by simp; omega)]
    · have hr := run_append_grow (P := Tryd.prog) w 29 29 30 i0 z Tryd.underlying29 hi0 hz0 ⟨g, off, none⟩ l.length cap (EL.cs l) (by rw [hz1', hclen, Nat.mul_one]) (by
        intro j u hu
        have hj : j < l.length := by
          have := (List.getElem?_eq_some_iff.1 hu).1
          omega
        rw [Addr.add_lit, cell_blk hg, sv_cell h4 j hj]
        have h5 := okL.get l j 0 hj (by decide)
        simp only [EL, Nat.mul_one, Nat.add_zero] at h5
        exact h5.symm.trans hu) ⟨B, 0, none⟩ 1 1 [sv x] (by rw [hz1']; rfl) hcell (by omega) (by omega) (growslice_fits (by omega) (by rw [hz2']; omega))
      have hge := grownCap_ge w (l.length + 1) cap 30
      have hF := fin (grownCap w (l.length + 1) cap 30) ((EL.cs l).toArray ++ [sv x].toArray ++ Builtin.zeroCells z.cells (grownCap w (l.length + 1) cap 30 - (l.length + 1))) (by
        simp only [Array.toList_append, List.toList_toArray]
        exact List.take_left' (by simp [hclen])) (by simp [size_zeroCells, hz3', hclen]; omega) hge (grownCap_le_maxLen w _ cap 30 (by unfold maxLen; omega))
      exact ⟨_, _, _, hr, hF.1, hF.2⟩

/-- the sets that lists make, one behind the other -/
def chain (c : Bool) : St → List (List (Int × Int)) → List St
  | _, [] => []
  | s, l :: r => (applyS s l c).1 :: chain c (applyS s l c).1 r
theorem chain_length (c : Bool) (s : St) (ls : List (List (Int × Int))) : (chain c s ls).length = ls.length := by
  induction ls generalizing s with
  | nil => rfl
  | cons l r ih => simp [chain, ih]
theorem chain_append (c : Bool) (s : St) (ls : List (List (Int × Int))) (l : List (Int × Int)) : chain c s (ls ++ [l]) = chain c s ls ++ [(applyS (lastS s (chain c s ls)) l c).1] := by
  induction ls generalizing s with
  | nil => rfl
  | cons k r ih =>
    simp only [List.cons_append, chain, ih]
    congr 3
    unfold lastS
    cases h : chain c (applyS s k c).1 r with
    | nil => rfl
    | cons a b =>
      have e : ∀ x y : St, (a :: b).getLastD x = (a :: b).getLastD y := fun x y => by simp only [List.getLastD_cons]
      simp only [List.getLastD_cons]
theorem code_indep (s t : St) (l : List (Int × Int)) (c : Bool) : (applyS s l c).2 = (applyS t l c).2 := by
  induction l generalizing s t with
  | nil => rfl
  | cons q r ih =>
    simp only [applyS]
    split
    · exact ih _ _
    · rfl
end Go.Proofs.YtfkimdgbkfogcaaDoor
