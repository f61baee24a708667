/- Rows of params: a part, a place set anew, made longer. -/
import Derived.Test.YtmhbaaemihljjaaDoorK9
import Derived.Test.YtmhbaaemihljjaaDoorN4
namespace Go.Proofs.YtmhbaaemihljjaaDoor
open Go.RowKit
set_option linter.unusedVariables false
set_option linter.unusedSimpArgs false

/-- Params that an argument holds. -/
def PIn (w : World) (v : Value) (l : List (Int × Int)) : Prop :=
  (∃ b cap, v = .slice b 0 cap ∧ l = []) ∨ ∃ B off cap, v = .slice (some ⟨B, off, none⟩) l.length cap ∧ l.length ≤ cap ∧ cap ≤ 9223372036854775807 ∧ B < w.heap.size ∧
    ∀ k (h : k < l.length), w.cell? ⟨B, off + k * 2, none⟩ = some (.int .i64 l[k].1) ∧ w.cell? ⟨B, off + k * 2 + 1, none⟩ = some (.int .i64 l[k].2)
theorem PIn.below {w w' : World} {v : Value} {l : List (Int × Int)} (h : PIn w v l) (hb : Below w.heap.size w w') : PIn w' v l := by
  rcases h with h | ⟨B, off, cap, h1, h2, h3, h4, h5⟩
  · exact .inl h
  · refine .inr ⟨B, off, cap, h1, h2, h3, Nat.lt_of_lt_of_le h4 hb.size, fun k hk => ?_⟩
    have := h5 k hk
    exact ⟨(hb.cell h4).trans this.1, (hb.cell h4).trans this.2⟩

theorem prow_prefix {w : World} {base : Option Addr} {n cap : Nat} {l : List (Int × Int)} {x : Int × Int} (h : PRow w (.slice base (l.length + 1) cap) (l ++ [x])) : PRow w (.slice base l.length cap) l := by
  obtain ⟨h1, h2⟩ := h
  refine ⟨by rw [pcells_length], ?_⟩
  rcases h2 with ⟨_, h0⟩ | ⟨g, cap', cur, hv, hb, hg, hn, hm, hs, ht⟩
  · simp at h0
  · injection hv with e1 e2 e3
    subst e1
    subst e3
    rw [List.length_append] at hn ht
    simp only [List.length_cons, List.length_nil] at hn ht
    refine .inr ⟨g, cap, cur, rfl, hb, hg, by omega, hm, hs, ?_⟩
    have e : cur.toList.take (l.length * 2) = (cur.toList.take ((l.length + (0 + 1)) * 2)).take (l.length * 2) := by rw [List.take_take, Nat.min_eq_left (by omega)]
    rw [e, ht, pcells_append, List.take_append_of_le_length (by rw [pcells_length]; omega), List.take_of_length_le (by rw [pcells_length]; omega)]

theorem pcells_set (l : List (Int × Int)) (j : Nat) (x y : Int) (h : j < l.length) : pcells (l.set j (x, y)) = ((pcells l).set (j * 2) (.int .i64 x)).set (j * 2 + 1) (.int .i64 y) := by
  induction l generalizing j with
  | nil => exact absurd h (by simp)
  | cons a r ih =>
    cases j with
    | zero => rfl
    | succ j =>
      have e : (j + 1) * 2 = j * 2 + 1 + 1 := by omega
      have := ih j (by simpa using h)
      rw [e]
      simp only [List.set_cons_succ]
      show pcells (a :: r.set j (x, y)) = _
      have e2 : ∀ (b : Int × Int) (s : List (Int × Int)), pcells (b :: s) = .int .i64 b.1 :: .int .i64 b.2 :: pcells s := fun b s => rfl
      rw [e2, e2, this]
      rfl

/-- a place set anew -/
theorem prow_set {w : World} {v : Value} {l : List (Int × Int)} (h : PRow w v l) (j : Nat) (hj : j < l.length) (x y : Int) : ∃ g cap, v = .slice (some ⟨g, 0, none⟩) l.length cap ∧ l.length ≤ cap ∧ cap ≤ 9223372036854775807 ∧ g < w.heap.size ∧
    (∃ u, w.cell? ⟨g, j * 2, none⟩ = some u) ∧ (∃ u, w.cell? ⟨g, j * 2 + 1, none⟩ = some u) ∧ w.frozen? ⟨g, j * 2, none⟩ = false ∧ w.frozen? ⟨g, j * 2 + 1, none⟩ = false ∧
    PRow ((w.setCell ⟨g, j * 2, none⟩ (.int .i64 x)).setCell ⟨g, j * 2 + 1, none⟩ (.int .i64 y)) v (l.set j (x, y)) := by
  obtain ⟨g, cap, e, h1, h2, d1, d2⟩ := h.at j hj
  obtain ⟨h3, h4⟩ := h
  rcases h4 with ⟨hv, h0⟩ | ⟨g', cap', cur, hv, hb, hg, hn, hm, hs, ht⟩
  · omega
  · rw [hv] at e
    injection e with e1 e2 e3
    injection e1 with e1
    injection e1 with e1
    subst e1
    subst e3
    subst hv
    refine ⟨g', cap', rfl, hn, by unfold maxLen at hm; omega, (Array.getElem?_eq_some_iff.1 hg).1, ⟨_, d1⟩, ⟨_, d2⟩, by simp [World.frozen?, hg], by simp [World.frozen?, hg], by rw [pcells_length], .inr ⟨g', cap', (cur.setIfInBounds (j * 2) (.int .i64 x)).setIfInBounds (j * 2 + 1) (.int .i64 y), by rw [List.length_set], hb, ?_, by rw [List.length_set]; exact hn, hm, by simp [hs], ?_⟩⟩
    · exact setCell_block _ _ _ _ _ _ _ (setCell_block _ _ _ _ _ _ _ hg)
    · rw [List.length_set, pcells_set l j x y hj, ← ht]
      simp only [Array.toList_setIfInBounds, List.take_set]

/-- append of one param: what is told, and what it was appended to -/
theorem prow_append_both (w : World) (o : Value) (l : List (Int × Int)) (hR : PRow w o l) (B : Nat) (x y : Int) (hc : w.heap[B]? = some (.cells #[.int .i64 x, .int .i64 y] 49 (0, 0)))
    (hlen : (l.length + 1) * 16 ≤ 140737488355328) :
    ∃ base cap w', (Builtin.append_ #[26, 26] 26 #[o, .slice (some ⟨B, 0, none⟩) 1 1]).run Tryd.prog w = .ok (.slice base (l.length + 1) cap) w' ∧ PRow w' (.slice base (l.length + 1) cap) (l ++ [(x, y)]) ∧ PRow w' o l ∧ Gr w w' o (.slice base (l.length + 1) cap) := by
  obtain ⟨base, cap, w', hrun, hP, hG⟩ := prow_append w o l hR B x y hc hlen
  refine ⟨base, cap, w', hrun, hP, ?_, hG⟩
  rcases hR.2 with ⟨rfl, h0⟩ | ⟨g, cap0, cur, rfl, _, hgg, hnc, _, hcs, _⟩
  · obtain rfl := List.eq_nil_of_length_eq_zero h0
    exact PRow.nil _
  · obtain ⟨i0, hi0, hz0, hz1, hz2⟩ := info_parts info37
    have hcell : ∀ j u, ([.int .i64 x, .int .i64 y] : List Value)[j]? = some u → w.cell? ((⟨B, 0, none⟩ : Addr).add j) = some u := by
      intro j u hj
      rw [Addr.add_lit, cell_of_row _ _ _ _ _ _ hc, Nat.zero_add]
      simpa using hj
    have hone : ∀ u ∈ ([.int .i64 x, .int .i64 y] : List Value), u.oneCell' = true := by simp [Value.oneCell']
    by_cases hroom : l.length + 1 ≤ cap0
    · have hr := run_append_room (P := Tryd.prog) w 26 26 49 i0 Tryd.underlying26 hi0 g l.length cap0 cur hgg ⟨B, 0, none⟩ 1 1 [.int .i64 x, .int .i64 y] (by rw [hz1]; rfl) hcell hone hroom (by rw [hcs, hz1]; simp; omega)
      rw [hrun] at hr
      injection hr with hr _
      injection hr with e1 e2 e3
      subst e1
      subst e3
      exact prow_prefix (n := 0) hP
    · have hr := run_append_grow (P := Tryd.prog) w 26 26 49 i0 _ Tryd.underlying26 hi0 hz0 ⟨g, 0, none⟩ l.length cap0 (pcells l) (by rw [pcells_length, hz1]) (World.ownsRow.cells hR (g := g) rfl) ⟨B, 0, none⟩ 1 1 [.int .i64 x, .int .i64 y] (by rw [hz1]; rfl) hcell (by omega) (by omega) (growslice_fits (by omega) (by rw [hz2]; omega))
      rw [hrun] at hr
      injection hr with hr hw
      subst hw
      refine hR.below fun k hk hlt => ?_
      rw [heap_al, if_neg (by rw [size_dr]; omega), heap_dr]


/-- one param in a row of its own -/
theorem prow_lit {w : World} {g : Nat} {x y : Int} (h : w.heap[g]? = some (.cells #[.int .i64 x, .int .i64 y] 49 (0, 0))) : PRow w (.slice (some ⟨g, 0, none⟩) 1 1) [(x, y)] :=
  ⟨by rw [pcells_length], .inr ⟨g, 1, _, rfl, Nat.zero_le _, h, Nat.le_refl _, by decide, rfl, rfl⟩⟩

def mk1 (q : Int × Int) : Int × Int := (q.1 % 65536, q.2 % 4294967296)
/-- the law's params -/
def apK (l : List (Int × Int)) (k : Nat) : List (Int × Int) := (4, 100) :: (l.take k).map mk1
theorem apK_length (l : List (Int × Int)) (k : Nat) (h : k ≤ l.length) : (apK l k).length = k + 1 := by simp [apK]; omega
theorem apK_succ (l : List (Int × Int)) (k : Nat) (h : k < l.length) : apK l (k + 1) = apK l k ++ [mk1 l[k]] := by
  unfold apK
  rw [List.take_succ_eq_append_getElem h, List.map_append]
  rfl
def fSet : Fr := ⟨4, 0, 0, ⟨#[]⟩, 0, 0, false, 0, 0, 0⟩
end Go.Proofs.YtmhbaaemihljjaaDoor
