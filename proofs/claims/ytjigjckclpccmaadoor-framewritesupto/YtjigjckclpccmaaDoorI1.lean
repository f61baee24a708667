/- Rows of params: a part, a place set anew, one behind another; lend. -/
import Derived.Test.YtjigjckclpccmaaDoorG2
namespace Go.Proofs.YtjigjckclpccmaaDoor
open Go.RowKit
set_option linter.unusedVariables false
set_option linter.unusedSimpArgs false

theorem prow_prefix {w : World} {base : Option Addr} {n cap : Nat} {l : List (Int × Int)} {x : Int × Int} (h : PRow w (.slice base (l.length + 1) cap) (l ++ [x])) : PRow w (.slice base l.length cap) l := by
  obtain ⟨h1, h2⟩ := h
  refine ⟨by rw [pcells_length], ?_⟩
  rcases h2 with ⟨_, h0⟩ | ⟨g, cap', cur, hv, hb, hg, hn, hm, hs, ht⟩
  · simp at h0
  · injection hv with e1 e2 e3
    subst e1
    subst e3
    rw [List.length_append] at hn ht
    simp only [List.length_cons, List.length_nil] at hn ht
    refine .inr ⟨g, cap, cur, rfl, hb, hg, by omega, hm, hs, ?_⟩
    have e : cur.toList.take (l.length * 2) = (cur.toList.take ((l.length + (0 + 1)) * 2)).take (l.length * 2) := by rw [List.take_take, Nat.min_eq_left (by omega)]
    rw [e, ht, pcells_append, List.take_append_of_le_length (by rw [pcells_length]; omega), List.take_of_length_le (by rw [pcells_length]; omega)]

theorem pcells_set (l : List (Int × Int)) (j : Nat) (x y : Int) (h : j < l.length) : pcells (l.set j (x, y)) = ((pcells l).set (j * 2) (.int .i64 x)).set (j * 2 + 1) (.int .i64 y) := by
  induction l generalizing j with
  | nil => exact absurd h (by simp)
  | cons a r ih =>
    cases j with
    | zero => rfl
    | succ j =>
      have e : (j + 1) * 2 = j * 2 + 1 + 1 := by omega
      have := ih j (by simpa using h)
      rw [e]
      simp only [List.set_cons_succ]
      show pcells (a :: r.set j (x, y)) = _
      have e2 : ∀ (b : Int × Int) (s : List (Int × Int)), pcells (b :: s) = .int .i64 b.1 :: .int .i64 b.2 :: pcells s := fun b s => rfl
      rw [e2, e2, this]
      rfl

/-- a place set anew -/
theorem prow_set {w : World} {v : Value} {l : List (Int × Int)} (h : PRow w v l) (j : Nat) (hj : j < l.length) (x y : Int) : ∃ g cap, v = .slice (some ⟨g, 0, none⟩) l.length cap ∧ l.length ≤ cap ∧ cap ≤ 9223372036854775807 ∧ g < w.heap.size ∧
    (∃ u, w.cell? ⟨g, j * 2, none⟩ = some u) ∧ (∃ u, w.cell? ⟨g, j * 2 + 1, none⟩ = some u) ∧ w.frozen? ⟨g, j * 2, none⟩ = false ∧ w.frozen? ⟨g, j * 2 + 1, none⟩ = false ∧
    PRow ((w.setCell ⟨g, j * 2, none⟩ (.int .i64 x)).setCell ⟨g, j * 2 + 1, none⟩ (.int .i64 y)) v (l.set j (x, y)) := by
  obtain ⟨g, cap, e, h1, h2, d1, d2⟩ := h.at j hj
  obtain ⟨h3, h4⟩ := h
  rcases h4 with ⟨hv, h0⟩ | ⟨g', cap', cur, hv, hb, hg, hn, hm, hs, ht⟩
  · omega
  · rw [hv] at e
    injection e with e1 e2 e3
    injection e1 with e1
    injection e1 with e1
    subst e1
    subst e3
    subst hv
    refine ⟨g', cap', rfl, hn, by unfold maxLen at hm; omega, (Array.getElem?_eq_some_iff.1 hg).1, ⟨_, d1⟩, ⟨_, d2⟩, by simp [World.frozen?, hg], by simp [World.frozen?, hg], by rw [pcells_length], .inr ⟨g', cap', (cur.setIfInBounds (j * 2) (.int .i64 x)).setIfInBounds (j * 2 + 1) (.int .i64 y), by rw [List.length_set], hb, ?_, by rw [List.length_set]; exact hn, hm, by simp [hs], ?_⟩⟩
    · exact setCell_block _ _ _ _ _ _ _ (setCell_block _ _ _ _ _ _ _ hg)
    · rw [List.length_set, pcells_set l j x y hj, ← ht]
      simp only [Array.toList_setIfInBounds, List.take_set]

/-- append of a whole row -/
theorem prow_append_row (w : World) (p : Value) (news : List (Int × Int)) (hp : PRow w p news) (hlen : news.length * 16 ≤ 140737488355328) :
    ∃ base cap w', (Builtin.append_ #[22, 22] 22 #[.slice none 0 0, p]).run Tryd.prog w = .ok (.slice base news.length cap) w' ∧ PRow w' (.slice base news.length cap) news ∧ Gr w w' (.slice none 0 0) (.slice base news.length cap) := by
  obtain ⟨i0, hi0, hz0, hz1, hz2⟩ := info_parts info37
  have hp' := hp
  rcases hp.2 with ⟨rfl, h0⟩ | ⟨g, cap, cur, rfl, _, hgg, hnc, _, hcs, _⟩
  · obtain rfl := List.eq_nil_of_length_eq_zero h0
    exact ⟨none, 0, w, run_append_owned_none (P := Tryd.prog) (w := w) 0 22 22 37 i0 2 Tryd.underlying22 hi0 (.slice none 0 0) 0 [] (World.ownsRow_nil w 0 37 2), hp', Gr.refl _ _⟩
  · have hc := World.ownsRow.cells hp' (g := g) rfl
    obtain ⟨v', w', hrun, ho, hg, hnil⟩ := run_append_own (P := Tryd.prog) w 0 22 22 37 i0 _ 2 16 Tryd.underlying22 hi0 hz0 hz1 hz2 rfl (by omega) (.slice none 0 0) 0 [] (World.ownsRow_nil w 0 37 2) ⟨g, 0, none⟩ news.length cap (pcells news) (by rw [pcells_length]) hc (pcells_one news) (by unfold maxLen; omega) (by omega) (Nat.zero_le _)
    have hP : PRow w' v' news := by
      unfold PRow
      rw [Nat.zero_add, List.nil_append] at ho
      exact ho
    obtain ⟨base, cap', rfl⟩ := hP.slice
    refine ⟨base, cap', w', hrun, hP, hg.os, hg.tape, hg.output, hg.size, fun k hk hne => hg.block k hk (fun e => hne e.symm), fun k hk => ?_⟩
    by_cases hm : news.length = 0
    · have := hnil.2 ⟨rfl, hm⟩
      rw [this] at hk
      simp [Value.ownBlock] at hk
    · have hr := run_append_nil (P := Tryd.prog) w 22 22 37 i0 _ Tryd.underlying22 hi0 hz0 ⟨g, 0, none⟩ news.length cap (pcells news) (by rw [pcells_length, hz1]) hc (by omega) (by omega) (by rw [hz2]; omega)
      rw [hrun] at hr
      injection hr with hr _
      rw [hr] at hk
      simp [Value.ownBlock] at hk
      exact .inr (by omega)

set_option maxRecDepth 100000 in
set_option maxHeartbeats 2000000 in
theorem lend_any (w : World) (v : Value) (l : List (Int × Int)) (hv : PRow w v l) (hlen : (l.length + 1) * 16 ≤ 140737488355328) :
    Calls Tryd.prog 10 #[v] w fun e w' => ∃ o, e = .returned o ∧ PRow w' o l ∧ (∀ k, o.ownBlock = some k → w.heap.size ≤ k) ∧ Below w.heap.size w w' := by
  obtain ⟨base, cap, w1, hrun1, hP1, hG1⟩ := prow_append_row w v l hv (by omega)
  obtain ⟨vb, vc, rfl⟩ := hv.slice
  have hb1 := hG1.fresh
  have hn1 := hG1.new
  have hBk : (w1.alloc (.cells #[.int .i64 (-7), .int .i64 (-7)] 37)).heap[w1.heap.size]? = some (.cells #[.int .i64 (-7), .int .i64 (-7)] 37 (0, 0)) := heap_alloc_new w1 _
  have hba : Below w1.heap.size w1 (w1.alloc (.cells #[.int .i64 (-7), .int .i64 (-7)] 37)) := (Below.refl _ w1).alloc (Nat.le_refl _) _
  obtain ⟨base2, cap2, w2, hrun2, hP2, hG2⟩ := prow_append _ _ l (hP1.below (w' := w1.alloc (.cells #[.int .i64 (-7), .int .i64 (-7)] 37)) fun k _ hk => hba.block k hk) w1.heap.size (-7) (-7) hBk hlen
  have hP3 := prow_prefix (n := 0) hP2
  have hfin : Hid (PRow w2 (.slice base2 l.length cap2) l ∧ (∀ k, (Value.slice base2 l.length cap2).ownBlock = some k → w.heap.size ≤ k) ∧ Below w.heap.size w w2) := by
    refine ⟨hP3, fun k hk => ?_, ?_⟩
    · have e : (Value.slice base2 (l.length + 1) cap2).ownBlock = some k := by
        cases base2 with
        | none => simp [Value.ownBlock] at hk
        | some a => simpa [Value.ownBlock] using hk
      rcases hG2.own k e with h | h
      · exact hn1 k h
      · have := hb1.size
        rw [size_al] at h
        omega
    · refine (hb1.trans (hba.mono hb1.size)).trans ⟨hG2.os, hG2.tape, hG2.output, hG2.size, fun j hj => hG2.block j (by rw [size_al]; have := hb1.size; omega) fun e => ?_⟩
      have := hn1 j e
      omega
  have hc2 : l.length ≤ cap2 := by
    rcases hP2.2 with ⟨_, h0⟩ | ⟨g, cap', cur, hv, _, _, hn, _⟩
    · simp at h0
    · injection hv with _ _ e3
      rw [List.length_append] at hn
      omega
  have hc3 : cap2 ≤ 9223372036854775807 := by
    rcases hP2.2 with ⟨_, h0⟩ | ⟨g, cap', cur, hv, _, _, hn, hm, _⟩
    · simp at h0
    · injection hv with _ _ e3
      unfold maxLen at hm
      omega
  obtain ⟨n, hn⟩ : ∃ n, l.length = n := ⟨_, rfl⟩
  rw [hn] at hrun1 hrun2 hfin hc2 ⊢
  obtain ⟨n1, hn1'⟩ : ∃ n1, n + 1 = n1 := ⟨_, rfl⟩
  rw [hn1'] at hrun2
  have hle : (n : Int) ≤ (cap2 : Int) := by omega
  have hle2 : (n : Int) ≤ (n1 : Int) := by omega
  replace hrun1 : Hid _ := hrun1
  replace hrun2 : Hid _ := hrun2
  clear hP1 hG1 hP2 hG2 hP3 hb1 hba hBk hv hn hlen
  go_enter Tryd.func10, Tryd.ntmps10
  go_wp2_with (at_builtin; first | refine Lib.wpList_append_run _ rfl (.tmp 4) (.tmp 5) 22 22 rfl _ _ rfl rfl _ _ hrun1.out ?_ | refine Lib.wpList_append_run _ rfl (.tmp 7) (.tmp 9) 22 22 rfl _ _ rfl rfl _ _ hrun2.out ?_)
  go_ret
  exact ⟨_, rfl, hfin.out⟩
end Go.Proofs.YtjigjckclpccmaaDoor
