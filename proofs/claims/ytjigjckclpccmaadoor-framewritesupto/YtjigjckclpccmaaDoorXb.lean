/- lend with its mark, of params that are read alone; sameParams and kept. -/
import Derived.Test.YtjigjckclpccmaaDoorXa
import Derived.Test.YtjigjckclpccmaaDoorD1
namespace Go.Proofs.YtjigjckclpccmaaDoor
open Go.RowKit
set_option linter.unusedVariables false
set_option linter.unusedSimpArgs false

theorem prow_prefix {w : World} {base : Option Addr} {n cap : Nat} {l : List (Int × Int)} {x : Int × Int} (h : PRow w (.slice base (l.length + 1) cap) (l ++ [x])) : PRow w (.slice base l.length cap) l := by
  obtain ⟨h1, h2⟩ := h
  refine ⟨by rw [pcells_length], ?_⟩
  rcases h2 with ⟨_, h0⟩ | ⟨g, cap', cur, hv, hb, hg, hn, hm, hs, ht⟩
  · simp at h0
  · injection hv with e1 e2 e3
    subst e1
    subst e3
    rw [List.length_append] at hn ht
    simp only [List.length_cons, List.length_nil] at hn ht
    refine .inr ⟨g, cap, cur, rfl, hb, hg, by omega, hm, hs, ?_⟩
    have e : cur.toList.take (l.length * 2) = (cur.toList.take ((l.length + (0 + 1)) * 2)).take (l.length * 2) := by rw [List.take_take, Nat.min_eq_left (by omega)]
    rw [e, ht, pcells_append, List.take_append_of_le_length (by rw [pcells_length]; omega), List.take_of_length_le (by rw [pcells_length]; omega)]

theorem pcells_set (l : List (Int × Int)) (j : Nat) (x y : Int) (h : j < l.length) : pcells (l.set j (x, y)) = ((pcells l).set (j * 2) (.int .i64 x)).set (j * 2 + 1) (.int .i64 y) := by
  induction l generalizing j with
  | nil => exact absurd h (by simp)
  | cons a r ih =>
    cases j with
    | zero => rfl
    | succ j =>
      have e : (j + 1) * 2 = j * 2 + 1 + 1 := by omega
      have := ih j (by simpa using h)
      rw [e]
      simp only [List.set_cons_succ]
      show pcells (a :: r.set j (x, y)) = _
      have e2 : ∀ (b : Int × Int) (s : List (Int × Int)), pcells (b :: s) = .int .i64 b.1 :: .int .i64 b.2 :: pcells s := fun b s => rfl
      rw [e2, e2, this]
      rfl


/-- an empty slice is the zero one, or has a base -/
def PZ (v : Value) : Prop := v = .slice none 0 0 ∨ ∃ a n c, v = .slice (some a) n c

theorem pin_cells {w : World} {a : Addr} {n c : Nat} {l : List (Int × Int)} (h : PIn w (.slice (some a) n c) l) : n = l.length ∧ ∀ j u, (pcells l)[j]? = some u → w.cell? (a.add j) = some u := by
  rcases h with ⟨b, cap, e, rfl⟩ | ⟨B, off, cap, e, h1, h2, h3, h4⟩
  · injection e with e1 e2 e3
    exact ⟨e2, fun j u hj => by simp [pcells] at hj⟩
  · injection e with e1 e2 e3
    injection e1 with e1
    subst e1
    refine ⟨e2, fun j u hj => ?_⟩
    have hjl : j < l.length * 2 := by
      have := (List.getElem?_eq_some_iff.1 hj).1
      rw [pcells_length] at this
      exact this
    rw [Addr.add_lit]
    obtain ⟨k, e⟩ : ∃ k, j = k * 2 ∨ j = k * 2 + 1 := ⟨j / 2, by omega⟩
    rcases e with rfl | rfl
    · have hk : k < l.length := by omega
      rw [(pcells_get l k hk).1] at hj
      injection hj with hj
      rw [← hj]
      exact (h4 k hk).1
    · have hk : k < l.length := by omega
      rw [(pcells_get l k hk).2] at hj
      injection hj with hj
      rw [← hj, ← Nat.add_assoc]
      exact (h4 k hk).2

/-- append of params to none -/
theorem prow_append_in (w : World) (p : Value) (news : List (Int × Int)) (hp : PIn w p news) (hz : PZ p) (hlen : news.length * 16 ≤ 140737488355328) :
    ∃ base cap w', (Builtin.append_ #[22, 22] 22 #[.slice none 0 0, p]).run Tryd.prog w = .ok (.slice base news.length cap) w' ∧ PRow w' (.slice base news.length cap) news ∧ Gr w w' (.slice none 0 0) (.slice base news.length cap) := by
  obtain ⟨i0, hi0, hz0, hz1, hz2⟩ := info_parts info37
  rcases hz with rfl | ⟨a, n, c, rfl⟩
  · obtain rfl : news = [] := by
      rcases hp with ⟨_, _, _, h⟩ | ⟨B, off, cap, e, _⟩
      · exact h
      · injection e with e1 e2 e3
        cases e1
    exact ⟨none, 0, w, run_append_owned_none (P := Tryd.prog) (w := w) 0 22 22 37 i0 2 Tryd.underlying22 hi0 (.slice none 0 0) 0 [] (World.ownsRow_nil w 0 37 2), PRow.nil _, Gr.refl _ _⟩
  · obtain ⟨rfl, hc⟩ := pin_cells hp
    obtain ⟨v', w', hrun, ho, hg, hnil⟩ := run_append_own (P := Tryd.prog) w 0 22 22 37 i0 _ 2 16 Tryd.underlying22 hi0 hz0 hz1 hz2 rfl (by omega) (.slice none 0 0) 0 [] (World.ownsRow_nil w 0 37 2) a news.length c (pcells news) (by rw [pcells_length]) hc (pcells_one news) (by unfold maxLen; omega) (by omega) (Nat.zero_le _)
    have hP : PRow w' v' news := by
      unfold PRow
      rw [Nat.zero_add, List.nil_append] at ho
      exact ho
    obtain ⟨base, cap', rfl⟩ := hP.slice
    refine ⟨base, cap', w', hrun, hP, hg.os, hg.tape, hg.output, hg.size, fun k hk hne => hg.block k hk (fun e => hne e.symm), fun k hk => ?_⟩
    by_cases hm : news.length = 0
    · have := hnil.2 ⟨rfl, hm⟩
      rw [this] at hk
      simp [Value.ownBlock] at hk
    · have hr := run_append_nil (P := Tryd.prog) w 22 22 37 i0 _ Tryd.underlying22 hi0 hz0 a news.length c (pcells news) (by rw [pcells_length, hz1]) hc (by omega) (by omega) (by rw [hz2]; omega)
      rw [hrun] at hr
      injection hr with hr _
      rw [hr] at hk
      simp [Value.ownBlock] at hk
      exact .inr (by omega)

set_option maxRecDepth 100000 in
set_option maxHeartbeats 2000000 in
theorem lendm_any (w : World) (v : Value) (l : List (Int × Int)) (hv : PIn w v l) (hz : PZ v) (hlen : (l.length + 1) * 16 ≤ 140737488355328) :
    Calls Tryd.prog 10 #[v] w fun e w' => ∃ b c, e = .returned (.slice b l.length c) ∧ PRow w' (.slice b (l.length + 1) c) (l ++ [(-7, -7)]) ∧ (∀ k, (Value.slice b l.length c).ownBlock = some k → w.heap.size ≤ k) ∧ Below w.heap.size w w' := by
  obtain ⟨base, cap, w1, hrun1, hP1, hG1⟩ := prow_append_in w v l hv hz (by omega)
  obtain ⟨vb, vc, rfl⟩ := hv.sl
  have hb1 := hG1.fresh
  have hn1 := hG1.new
  have hBk : (w1.alloc (.cells #[.int .i64 (-7), .int .i64 (-7)] 37)).heap[w1.heap.size]? = some (.cells #[.int .i64 (-7), .int .i64 (-7)] 37 (0, 0)) := heap_alloc_new w1 _
  have hba : Below w1.heap.size w1 (w1.alloc (.cells #[.int .i64 (-7), .int .i64 (-7)] 37)) := (Below.refl _ w1).alloc (Nat.le_refl _) _
  obtain ⟨base2, cap2, w2, hrun2, hP2, hG2⟩ := prow_append _ _ l (hP1.below (w' := w1.alloc (.cells #[.int .i64 (-7), .int .i64 (-7)] 37)) fun k _ hk => hba.block k hk) w1.heap.size (-7) (-7) hBk hlen
  have hfin : Hid (PRow w2 (.slice base2 (l.length + 1) cap2) (l ++ [(-7, -7)]) ∧ (∀ k, (Value.slice base2 l.length cap2).ownBlock = some k → w.heap.size ≤ k) ∧ Below w.heap.size w w2) := by
    refine ⟨hP2, fun k hk => ?_, ?_⟩
    · have e : (Value.slice base2 (l.length + 1) cap2).ownBlock = some k := by
        cases base2 with
        | none => simp [Value.ownBlock] at hk
        | some a => simpa [Value.ownBlock] using hk
      rcases hG2.own k e with h | h
      · exact hn1 k h
      · have := hb1.size
        rw [size_al] at h
        omega
    · refine (hb1.trans (hba.mono hb1.size)).trans ⟨hG2.os, hG2.tape, hG2.output, hG2.size, fun j hj => hG2.block j (by rw [size_al]; have := hb1.size; omega) fun e => ?_⟩
      have := hn1 j e
      omega
  have hc2 : l.length ≤ cap2 := by
    rcases hP2.2 with ⟨_, h0⟩ | ⟨g, cap', cur, hv, _, _, hn, _⟩
    · simp at h0
    · injection hv with _ _ e3
      rw [List.length_append] at hn
      omega
  have hc3 : cap2 ≤ 9223372036854775807 := by
    rcases hP2.2 with ⟨_, h0⟩ | ⟨g, cap', cur, hv, _, _, hn, hm, _⟩
    · simp at h0
    · injection hv with _ _ e3
      unfold maxLen at hm
      omega
  obtain ⟨n, hn⟩ : ∃ n, l.length = n := ⟨_, rfl⟩
  rw [hn] at hrun1 hrun2 hfin hc2 ⊢
  obtain ⟨n1, hn1'⟩ : ∃ n1, n + 1 = n1 := ⟨_, rfl⟩
  rw [hn1'] at hrun2
  have hle : (n : Int) ≤ (cap2 : Int) := by omega
  have hle2 : (n : Int) ≤ (n1 : Int) := by omega
  replace hrun1 : Hid _ := hrun1
  replace hrun2 : Hid _ := hrun2
  clear hP1 hG1 hP2 hG2 hb1 hba hBk hv hz hn hlen
  go_enter Tryd.func10, Tryd.ntmps10
  go_wp2_with (at_builtin; first | refine Lib.wpList_append_run _ rfl (.tmp 4) (.tmp 5) 22 22 rfl _ _ rfl rfl _ _ hrun1.out ?_ | refine Lib.wpList_append_run _ rfl (.tmp 7) (.tmp 9) 22 22 rfl _ _ rfl rfl _ _ hrun2.out ?_)
  go_ret
  exact ⟨_, _, rfl, hfin.out⟩

set_option maxRecDepth 100000 in
set_option maxHeartbeats 2000000 in
theorem sameParams_in (w : World) (p q : Value) (l : List (Int × Int)) (hp : PRow w p l) (hq : PIn w q l) :
    Calls Tryd.prog 14 #[p, q] w fun e w' => e = .returned (.bool true) ∧ Below w.heap.size w w' := by
  obtain ⟨pb, pc, rfl⟩ := hp.slice
  obtain ⟨qb, qc, rfl⟩ := hq.sl
  have HP : Hid (PRow w (.slice pb l.length pc) l) := hp
  have HQ : Hid (PIn w (.slice qb l.length qc) l) := hq
  clear hp hq
  obtain ⟨n, hn⟩ : ∃ n, l.length = n := ⟨_, rfl⟩
  have HN : Hid (l.length = n) := hn
  rw [hn] at HP HQ ⊢
  clear hn
  go_enter Tryd.func14, Tryd.ntmps14
  go_wp2
  go_loopw [5] (fun i wr => ∃ k : Nat, k ≤ n ∧ i = .int .i64 (k : Int) ∧ Below w.heap.size w wr) (fun i _ => n - (intOf i).toNat)
  case atStart => exact ⟨0, by omega, rfl, Below.refl _ _⟩
  case round =>
    obtain ⟨k, hk, rfl, hb⟩ := hrel
    by_cases hlt : k < n
    · obtain ⟨x, y, g, g', off, hpb, hqb, h1, h2, h3, h4, d1, d2, e1, e2⟩ : ∃ (x y : Int) (g g' off : Nat), pb = some ⟨g, 0, none⟩ ∧ qb = some ⟨g', off, none⟩ ∧ n ≤ pc ∧ pc ≤ 9223372036854775807 ∧ n ≤ qc ∧ qc ≤ 9223372036854775807 ∧
          wr.cell? ⟨g, k * 2, none⟩ = some (.int .i64 x) ∧ wr.cell? ⟨g, k * 2 + 1, none⟩ = some (.int .i64 y) ∧ wr.cell? ⟨g', off + k * 2, none⟩ = some (.int .i64 x) ∧ wr.cell? ⟨g', off + k * 2 + 1, none⟩ = some (.int .i64 y) := by
        have hl := HN.out
        obtain ⟨g, cap, e, h1, h2, d1, d2⟩ := HP.out.at k (by omega)
        obtain ⟨g', off, e', _, h1', h2', _, d1', d2'⟩ := HQ.out.get k (by omega)
        cases e
        exact ⟨_, _, g, g', off, rfl, e', by omega, h2, by omega, h2', (hb.cell (World.block_lt_of_cell? _ _ d1)).trans d1, (hb.cell (World.block_lt_of_cell? _ _ d2)).trans d2, (hb.cell (World.block_lt_of_cell? _ _ d1')).trans d1', (hb.cell (World.block_lt_of_cell? _ _ d2')).trans d2'⟩
      subst hpb
      subst hqb
      go_wp2_with fail
      go_region
      all_goals
        go_wp2_with fail
        go_roundw
        case rel => exact ⟨k + 1, by omega, by simp, hb.drew⟩
        case measure => simp [intOf]; omega
    · obtain rfl : k = n := by omega
      go_wp2
      go_ret
      exact ⟨rfl, hb⟩


set_option maxRecDepth 100000 in
set_option maxHeartbeats 2000000 in
theorem keptm_any (w : World) (b : Option Addr) (c : Nat) (q : Value) (l : List (Int × Int)) (hp : PRow w (.slice b (l.length + 1) c) (l ++ [(-7, -7)])) (hq : PIn w q l) :
    Calls Tryd.prog 22 #[.slice b l.length c, q] w fun e w' => e = .returned (.bool true) ∧ Below w.heap.size w w' := by
  have h14 := sameParams_in w _ q l (prow_prefix (n := 0) hp) hq
  obtain ⟨g, cap, e, h1, h2, d1, d2⟩ := hp.at l.length (by simp)
  rw [List.length_append] at e h1
  simp only [List.length_cons, List.length_nil, Nat.zero_add] at e h1
  have eg : (l ++ [((-7 : Int), (-7 : Int))])[l.length]'(by simp) = (-7, -7) := by simp
  rw [eg] at d1 d2
  injection e with e1 e2 e3
  subst e1 e3
  obtain ⟨qb, qc, rfl⟩ := hq.sl
  obtain ⟨n, hn⟩ : ∃ n, l.length = n := ⟨_, rfl⟩
  rw [hn] at h14 d1 d2 h1 ⊢
  simp only at d1 d2
  have D : Hid (∀ W, Below w.heap.size w W → W.cell? ⟨g, n * 2, none⟩ = some (.int .i64 (-7)) ∧ W.cell? ⟨g, n * 2 + 1, none⟩ = some (.int .i64 (-7))) := fun W hb => ⟨(hb.cell (World.block_lt_of_cell? _ _ d1)).trans d1, (hb.cell (World.block_lt_of_cell? _ _ d2)).trans d2⟩
  obtain ⟨n1, hn1⟩ : ∃ n1, n + 1 = n1 := ⟨_, rfl⟩
  have hn1i : (n : Int) + 1 = (n1 : Int) := by omega
  have hle : (n1 : Int) ≤ (c : Int) := by omega
  have hlt : (n : Int) < (n1 : Int) := by omega
  clear hp hq eg e2 hn d1 d2 h1 hn1
  go_enter Tryd.func22, Tryd.ntmps22
  go_wp2_with fail
  refine h14.mono ?_
  rintro e w1 ⟨rfl, hb⟩
  obtain ⟨d1, d2⟩ := D.out _ hb
  clear D h14
  go_wp2
  go_ret
  exact ⟨rfl, hb⟩
end Go.Proofs.YtjigjckclpccmaaDoor
