/- Three rows of params, written over and made longer. -/
import Derived.Test.YtjigjckclpccmaaDoorI1
namespace Go.Proofs.YtjigjckclpccmaaDoor
open Go.RowKit
set_option linter.unusedVariables false
set_option linter.unusedSimpArgs false

/-- three rows, and the array of them -/
structure Rws (w W : World) (E : Nat) (s : Nat → Value) (L : Nat → List (Int × Int)) : Prop where
  row : ∀ i, i < 3 → PRow W (s i) (L i)
  apart : ∀ i j, i < 3 → j < 3 → i ≠ j → ∀ k, (s i).ownBlock = some k → (s j).ownBlock ≠ some k
  new : ∀ i, i < 3 → ∀ k, (s i).ownBlock = some k → w.heap.size ≤ k ∧ k ≠ E
  arr : W.heap[E]? = some (.cells #[s 0, s 1, s 2] 35 (0, 0))
  hE : w.heap.size ≤ E
  bel : Below w.heap.size w W

theorem Rws.below {w W W' : World} {E : Nat} {s : Nat → Value} {L : Nat → List (Int × Int)} (h : Rws w W E s L) (hb : Below W.heap.size W W') : Rws w W' E s L :=
  ⟨fun i hi => (h.row i hi).below fun k _ hk => hb.block k hk, h.apart, h.new, (hb.block _ (Array.getElem?_eq_some_iff.1 h.arr).1).trans h.arr, h.hE, h.bel.trans (hb.mono h.bel.size)⟩
theorem Rws.congr {w W : World} {E : Nat} {s : Nat → Value} {L L' : Nat → List (Int × Int)} (h : Rws w W E s L) (e : ∀ i, i < 3 → L i = L' i) : Rws w W E s L' :=
  ⟨fun i hi => e i hi ▸ h.row i hi, h.apart, h.new, h.arr, h.hE, h.bel⟩
theorem Rws.cell {w W : World} {E : Nat} {s : Nat → Value} {L : Nat → List (Int × Int)} (h : Rws w W E s L) (i : Nat) (hi : i < 3) : W.cell? ⟨E, i, none⟩ = some (s i) := by
  rw [cell_of_row _ _ _ _ _ _ h.arr]
  rcases (by omega : i = 0 ∨ i = 1 ∨ i = 2) with rfl | rfl | rfl <;> rfl
theorem Rws.slice {w W : World} {E : Nat} {s : Nat → Value} {L : Nat → List (Int × Int)} (h : Rws w W E s L) (i : Nat) (hi : i < 3) : ∃ b c, s i = .slice b (L i).length c := (h.row i hi).slice

/-- a place of one of them set anew -/
theorem Rws.set {w W : World} {E : Nat} {s : Nat → Value} {L : Nat → List (Int × Int)} (h : Rws w W E s L) (i j : Nat) (hi : i < 3) (hj : j < (L i).length) (x y : Int) : ∃ g cap, s i = .slice (some ⟨g, 0, none⟩) (L i).length cap ∧ (L i).length ≤ cap ∧ cap ≤ 9223372036854775807 ∧ g < W.heap.size ∧
    (∃ u, W.cell? ⟨g, j * 2, none⟩ = some u) ∧ (∃ u, W.cell? ⟨g, j * 2 + 1, none⟩ = some u) ∧ W.frozen? ⟨g, j * 2, none⟩ = false ∧ W.frozen? ⟨g, j * 2 + 1, none⟩ = false ∧
    Rws w ((W.setCell ⟨g, j * 2, none⟩ (.int .i64 x)).setCell ⟨g, j * 2 + 1, none⟩ (.int .i64 y)) E s (fun r => if r = i then (L i).set j (x, y) else L r) := by
  obtain ⟨g, cap, e, h1, h2, h3, h4, h5, h6, h7, h8⟩ := prow_set (h.row i hi) j hj x y
  have hown : (s i).ownBlock = some g := by rw [e]; rfl
  have hn := h.new i hi g hown
  refine ⟨g, cap, e, h1, h2, h3, h4, h5, h6, h7, fun r hr => ?_, h.apart, h.new, ?_, h.hE, ?_⟩
  · by_cases hri : r = i
    · subst hri
      rw [if_pos rfl]
      exact h8
    · rw [if_neg hri]
      refine (h.row r hr).below fun k hk _ => ?_
      have hne : k ≠ g := fun e' => h.apart r i hr hi hri k hk (e' ▸ hown)
      rw [setCell_other _ _ _ _ _ hne, setCell_other _ _ _ _ _ hne]
  · rw [setCell_other _ _ _ _ _ (fun e' => hn.2 e'.symm), setCell_other _ _ _ _ _ (fun e' => hn.2 e'.symm)]
    exact h.arr
  · exact h.bel.trans (((Below.refl _ W).setCell (p := ⟨g, j * 2, none⟩) hn.1 _).setCell (p := ⟨g, j * 2 + 1, none⟩) hn.1 _)

def fill (i n : Nat) : List (Int × Int) := (List.range n).map fun j : Nat => (100 + (i : Int), (j : Int))
theorem fill_length (i n : Nat) : (fill i n).length = n := by simp [fill]
theorem fill_get (i n j : Nat) (h : j < n) : (fill i n)[j]'(by rw [fill_length]; exact h) = (100 + (i : Int), (j : Int)) := by simp [fill]
def fillAt (L0 : Nat → List (Int × Int)) (i j r : Nat) : List (Int × Int) := if r < i then fill r (L0 r).length else if r = i then fill r j ++ (L0 r).drop j else L0 r
theorem fillAt_length (L0 : Nat → List (Int × Int)) (i j r : Nat) (h : j ≤ (L0 i).length) : (fillAt L0 i j r).length = (L0 r).length := by
  unfold fillAt
  by_cases h1 : r < i
  · rw [if_pos h1, fill_length]
  · rw [if_neg h1]
    by_cases h2 : r = i
    · subst h2
      rw [if_pos rfl, List.length_append, fill_length, List.length_drop]
      omega
    · rw [if_neg h2]
theorem fillAt_start (L0 : Nat → List (Int × Int)) (r : Nat) : fillAt L0 0 0 r = L0 r := by
  unfold fillAt
  rw [if_neg (by omega)]
  split
  · simp [fill]
  · rfl
theorem fillAt_next (L0 : Nat → List (Int × Int)) (i r : Nat) : fillAt L0 i (L0 i).length r = fillAt L0 (i + 1) 0 r := by
  unfold fillAt
  by_cases h1 : r < i
  · rw [if_pos h1, if_pos (by omega)]
  · rw [if_neg h1]
    by_cases h2 : r = i
    · subst h2
      rw [if_pos rfl, if_pos (by omega), List.drop_of_length_le (Nat.le_refl _), List.append_nil]
    · rw [if_neg h2, if_neg (by omega)]
      split
      · simp [fill]
      · rfl
theorem fillAt_step (L0 : Nat → List (Int × Int)) (i j r : Nat) (hj : j < (L0 i).length) : (if r = i then (fillAt L0 i j i).set j (100 + (i : Int), (j : Int)) else fillAt L0 i j r) = fillAt L0 i (j + 1) r := by
  by_cases h2 : r = i
  · subst h2
    rw [if_pos rfl]
    unfold fillAt
    rw [if_neg (by omega), if_pos rfl, if_neg (by omega), if_pos rfl]
    rw [List.set_append_right _ _ (by rw [fill_length]; omega), fill_length, Nat.sub_self, List.drop_eq_getElem_cons hj, List.set_cons_zero]
    have e : fill r (j + 1) = fill r j ++ [(100 + (r : Int), (j : Int))] := by simp [fill, List.range_succ]
    rw [e, List.append_assoc]
    rfl
  · rw [if_neg h2]
    unfold fillAt
    by_cases h1 : r < i
    · rw [if_pos h1, if_pos h1]
    · rw [if_neg h1, if_neg h1, if_neg h2, if_neg h2]

/-- append of one param: what is told, and what it was appended to -/
theorem prow_append_both (w : World) (o : Value) (l : List (Int × Int)) (hR : PRow w o l) (B : Nat) (x y : Int) (hc : w.heap[B]? = some (.cells #[.int .i64 x, .int .i64 y] 37 (0, 0)))
    (hlen : (l.length + 1) * 16 ≤ 140737488355328) :
    ∃ base cap w', (Builtin.append_ #[22, 22] 22 #[o, .slice (some ⟨B, 0, none⟩) 1 1]).run Tryd.prog w = .ok (.slice base (l.length + 1) cap) w' ∧ PRow w' (.slice base (l.length + 1) cap) (l ++ [(x, y)]) ∧ PRow w' o l ∧ Gr w w' o (.slice base (l.length + 1) cap) := by
  obtain ⟨base, cap, w', hrun, hP, hG⟩ := prow_append w o l hR B x y hc hlen
  refine ⟨base, cap, w', hrun, hP, ?_, hG⟩
  rcases hR.2 with ⟨rfl, h0⟩ | ⟨g, cap0, cur, rfl, _, hgg, hnc, _, hcs, _⟩
  · obtain rfl := List.eq_nil_of_length_eq_zero h0
    exact PRow.nil _
  · obtain ⟨i0, hi0, hz0, hz1, hz2⟩ := info_parts info37
    have hcell : ∀ j u, ([.int .i64 x, .int .i64 y] : List Value)[j]? = some u → w.cell? ((⟨B, 0, none⟩ : Addr).add j) = some u := by
      intro j u hj
      rw [Addr.add_lit, cell_of_row _ _ _ _ _ _ hc, Nat.zero_add]
      simpa using hj
    have hone : ∀ u ∈ ([.int .i64 x, .int .i64 y] : List Value), u.oneCell' = true := by simp [Value.oneCell']
    by_cases hroom : l.length + 1 ≤ cap0
    · have hr := run_append_room (P := Tryd.prog) w 22 22 37 i0 Tryd.underlying22 hi0 g l.length cap0 cur hgg ⟨B, 0, none⟩ 1 1 [.int .i64 x, .int .i64 y] (by rw [hz1]; rfl) hcell hone hroom (by rw [hcs, hz1]; simp; omega)
      rw [hrun] at hr
      injection hr with hr _
      injection hr with e1 e2 e3
      subst e1
      subst e3
      exact prow_prefix (n := 0) hP
    · have hr := run_append_grow (P := Tryd.prog) w 22 22 37 i0 _ Tryd.underlying22 hi0 hz0 ⟨g, 0, none⟩ l.length cap0 (pcells l) (by rw [pcells_length, hz1]) (World.ownsRow.cells hR (g := g) rfl) ⟨B, 0, none⟩ 1 1 [.int .i64 x, .int .i64 y] (by rw [hz1]; rfl) hcell (by omega) (by omega) (growslice_fits (by omega) (by rw [hz2]; omega))
      rw [hrun] at hr
      injection hr with hr hw
      subst hw
      refine hR.below fun k hk hlt => ?_
      rw [heap_al, if_neg (by rw [size_dr]; omega), heap_dr]

/-- three rows, and three longer ones, of which so many are made -/
structure Lng (w W : World) (E G : Nat) (s t : Nat → Value) (F : Nat → List (Int × Int)) (i : Nat) : Prop where
  base : Rws w W E s F
  arr2 : W.heap[G]? = some (.cells #[if 0 < i then t 0 else .slice none 0 0, if 1 < i then t 1 else .slice none 0 0, if 2 < i then t 2 else .slice none 0 0] 35 (0, 0))
  rows : ∀ r, r < i → PRow W (t r) (F r ++ [(200 + (r : Int), 0)])
  own : ∀ r, r < i → ∀ k, (t r).ownBlock = some k → w.heap.size ≤ k ∧ k ≠ E ∧ k ≠ G ∧ (∀ q, q < 3 → q ≠ r → (s q).ownBlock ≠ some k)
  own2 : ∀ r q, r < i → q < i → q ≠ r → ∀ k, (t r).ownBlock = some k → (t q).ownBlock ≠ some k
  newG : ∀ q, q < 3 → (s q).ownBlock ≠ some G
  hG : w.heap.size ≤ G
  hGE : G ≠ E

theorem Lng.below {w W W' : World} {E G : Nat} {s t : Nat → Value} {F : Nat → List (Int × Int)} {i : Nat} (h : Lng w W E G s t F i) (hb : Below W.heap.size W W') : Lng w W' E G s t F i :=
  ⟨h.base.below hb, (hb.block _ (Array.getElem?_eq_some_iff.1 h.arr2).1).trans h.arr2, fun r hr => (h.rows r hr).below fun k _ hk => hb.block k hk, h.own, h.own2, h.newG, h.hG, h.hGE⟩
theorem Lng.cell2 {w W : World} {E G : Nat} {s t : Nat → Value} {F : Nat → List (Int × Int)} (h : Lng w W E G s t F 3) (i : Nat) (hi : i < 3) : W.cell? ⟨G, i, none⟩ = some (t i) := by
  rw [cell_of_row _ _ _ _ _ _ h.arr2]
  rcases (by omega : i = 0 ∨ i = 1 ∨ i = 2) with rfl | rfl | rfl <;> rfl

/-- the first longer row -/
theorem Lng.start {w W : World} {E : Nat} {s : Nat → Value} {F : Nat → List (Int × Int)} (h : Rws w W E s F) (t : Nat → Value) : Lng w (W.alloc (.cells #[.slice none 0 0, .slice none 0 0, .slice none 0 0] 35)) E W.heap.size s t F 0 := by
  have hb : Below W.heap.size W (W.alloc (.cells #[.slice none 0 0, .slice none 0 0, .slice none 0 0] 35)) := (Below.refl _ W).alloc (Nat.le_refl _) _
  have hlt : ∀ q, q < 3 → (s q).ownBlock ≠ some W.heap.size := fun q hq e => by have := (h.row q hq).lt _ e; omega
  exact ⟨h.below hb, heap_alloc_new W _, fun r hr => by omega, fun r hr => by omega, fun r q hr => by omega, hlt, h.bel.size, fun e => by have := (Array.getElem?_eq_some_iff.1 h.arr).1; omega⟩

/-- one more of them -/
theorem Lng.more {w W : World} {E G : Nat} {s t : Nat → Value} {F : Nat → List (Int × Int)} {i : Nat} (h : Lng w W E G s t F i) (hi : i < 3) (hlen : ((F i).length + 1) * 16 ≤ 140737488355328) : ∃ base cap w',
    (Builtin.append_ #[22, 22] 22 #[s i, .slice (some ⟨W.heap.size, 0, none⟩) 1 1]).run Tryd.prog (W.alloc (.cells #[.int .i64 (200 + (i : Int)), .int .i64 0] 37)) = .ok (.slice base ((F i).length + 1) cap) w' ∧
    G < w'.heap.size ∧ (∃ u, w'.cell? ⟨G, i, none⟩ = some u) ∧ w'.frozen? ⟨G, i, none⟩ = false ∧ Lng w (w'.setCell ⟨G, i, none⟩ (.slice base ((F i).length + 1) cap)) E G s (fun r => if r = i then .slice base ((F i).length + 1) cap else t r) F (i + 1) := by
  have hba : Below W.heap.size W (W.alloc (.cells #[.int .i64 (200 + (i : Int)), .int .i64 0] 37)) := (Below.refl _ W).alloc (Nat.le_refl _) _
  have h1 := h.below hba
  obtain ⟨base, cap, w', hrun, hP, hO, hG⟩ := prow_append_both _ (s i) (F i) (h1.base.row i hi) W.heap.size (200 + (i : Int)) 0 (heap_alloc_new W _) hlen
  have hlt : ∀ q, q < 3 → ∀ k, (s q).ownBlock = some k → k < (W.alloc (.cells #[.int .i64 (200 + (i : Int)), .int .i64 0] 37)).heap.size := fun q hq k hk => (h1.base.row q hq).lt k hk
  have hElt := (Array.getElem?_eq_some_iff.1 h1.base.arr).1
  have hGlt := (Array.getElem?_eq_some_iff.1 h1.arr2).1
  have hsG : (s i).ownBlock ≠ some G := h.newG i hi
  have hsE : (s i).ownBlock ≠ some E := fun e => (h.base.new i hi E e).2 rfl
  have hA' : w'.heap[G]? = some (.cells #[if 0 < i then t 0 else .slice none 0 0, if 1 < i then t 1 else .slice none 0 0, if 2 < i then t 2 else .slice none 0 0] 35 (0, 0)) := (hG.block G hGlt hsG).trans h1.arr2
  have hE' : w'.heap[E]? = some (.cells #[s 0, s 1, s 2] 35 (0, 0)) := (hG.block E hElt hsE).trans h1.base.arr
  have hbel : Below w.heap.size w w' := h1.base.bel.trans ⟨hG.os, hG.tape, hG.output, hG.size, fun k hk => hG.block k (Nat.lt_of_lt_of_le hk h1.base.bel.size) fun e => by have := (h.base.new i hi k e).1; omega⟩
  have hrow : ∀ q, q < 3 → PRow w' (s q) (F q) := fun q hq => by
    by_cases hqi : q = i
    · subst hqi; exact hO
    · exact (h1.base.row q hq).below fun k hk hlt => hG.block k hlt (h.base.apart q i hq hi hqi k hk)
  have htr : ∀ r, r < i → PRow w' (t r) (F r ++ [(200 + (r : Int), 0)]) := fun r hr => (h1.rows r hr).below fun k hk hlt => hG.block k hlt ((h.own r hr k hk).2.2.2 i hi (by omega))
  obtain ⟨N, hN⟩ : ∃ N, N = Value.slice base ((F i).length + 1) cap := ⟨_, rfl⟩
  have hNown : ∀ k, N.ownBlock = some k → (s i).ownBlock = some k ∨ (W.alloc (.cells #[.int .i64 (200 + (i : Int)), .int .i64 0] 37)).heap.size ≤ k := fun k hk => hG.own k (hN ▸ hk)
  have hN1 : ∀ k, N.ownBlock = some k → w.heap.size ≤ k ∧ k ≠ E ∧ k ≠ G ∧ (∀ q, q < 3 → q ≠ i → (s q).ownBlock ≠ some k) := fun k hk => by
    rcases hNown k hk with hh | hh
    · exact ⟨(h.base.new i hi k hh).1, (h.base.new i hi k hh).2, fun e => hsG (e ▸ hh), fun q hq hqi => h.base.apart i q hi hq (fun e => hqi e.symm) k hh⟩
    · have := h1.base.bel.size
      exact ⟨by omega, by omega, by omega, fun q hq _ e => by have := hlt q hq k e; omega⟩
  refine ⟨base, cap, w', hrun, (Array.getElem?_eq_some_iff.1 hA').1, ?_, by simp [World.frozen?, hA'], ?_⟩
  · rw [cell_of_row _ _ _ _ _ _ hA']
    rcases (by omega : i = 0 ∨ i = 1 ∨ i = 2) with rfl | rfl | rfl <;> exact ⟨_, rfl⟩
  · rw [← hN] at hP ⊢
    have hset : ∀ k, k ≠ G → (w'.setCell ⟨G, i, none⟩ N).heap[k]? = w'.heap[k]? := fun k hk => setCell_other _ _ _ _ _ hk
    have hbs : Below w'.heap.size w' w' := Below.refl _ _
    refine ⟨⟨fun q hq => (hrow q hq).below fun k hk _ => hset k fun e => h.newG q hq (e ▸ hk), h.base.apart, h.base.new, (hset E (Ne.symm h.hGE)).trans hE', h.base.hE, hbel.trans ((Below.refl _ w').setCell (p := ⟨G, i, none⟩) h.hG _)⟩, ?_, ?_, ?_, ?_, h.newG, h.hG, h.hGE⟩
    · rw [setCell_block _ _ _ _ _ _ _ hA']
      rcases (by omega : i = 0 ∨ i = 1 ∨ i = 2) with rfl | rfl | rfl <;> simp
    · intro r hr
      by_cases hri : r = i
      · subst hri
        rw [if_pos rfl]
        exact hP.below fun k hk _ => hset k (hN1 k hk).2.2.1
      · rw [if_neg hri]
        exact (htr r (by omega)).below fun k hk _ => hset k (h.own r (by omega) k hk).2.2.1
    · intro r hr k hk
      by_cases hri : r = i
      · subst hri
        rw [if_pos rfl] at hk
        exact hN1 k hk
      · rw [if_neg hri] at hk
        exact h.own r (by omega) k hk
    · intro r q hr hq hqr k hk
      by_cases hri : r = i
      · subst hri
        rw [if_pos rfl] at hk
        rw [if_neg hqr]
        intro e
        rcases hNown k hk with hh | hh
        · exact (h.own q (by omega) k e).2.2.2 r hi (fun e' => hqr e'.symm) hh
        · have := (h1.rows q (by omega)).lt k e
          omega
      · rw [if_neg hri] at hk
        by_cases hqi : q = i
        · subst hqi
          rw [if_pos rfl]
          intro e
          rcases hNown k e with hh | hh
          · exact (h.own r (by omega) k hk).2.2.2 q hi (fun e' => hri e'.symm) hh
          · have := (h1.rows r (by omega)).lt k hk
            omega
        · rw [if_neg hqi]
          exact h.own2 r q (by omega) (by omega) hqr k hk
end Go.Proofs.YtjigjckclpccmaaDoor
