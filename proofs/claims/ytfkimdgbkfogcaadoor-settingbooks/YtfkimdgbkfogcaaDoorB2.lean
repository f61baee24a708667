/- slices.Delete of the first set; Ack. -/
import Derived.Test.YtfkimdgbkfogcaaDoorB1
import Derived.Lib.SliceRun
import Derived.Laws.IdiomCopy
namespace Go.Proofs.YtfkimdgbkfogcaaDoor
open Go.RowKit
set_option linter.unusedVariables false
set_option linter.unusedSimpArgs false

def zero6 : List Value := [.int .i64 0, .int .i64 0, .int .i64 0, .int .i64 0, .int .i64 0, .int .i64 0]
theorem zero6_eq : (Builtin.zeroCells #[.int .i64 0, .int .i64 0, .int .i64 0, .int .i64 0, .int .i64 0, .int .i64 0] 1).toList = zero6 := by kernel_rfl

/-- clear of one set of a row -/
theorem run_clear_one (w : World) (g k c ty : Nat) (cur : Array Value) (hg : w.heap[g]? = some (.cells cur 27 (0, 0))) (hfit : k * 6 + 6 ≤ cur.size) :
    (Builtin.clear_ #[59] ty #[.slice (some ⟨g, k * 6, none⟩) 1 c]).run Tryd.prog w =
      .ok (.tuple #[]) (w.setRow g (cur.toList.take (k * 6) ++ zero6 ++ cur.toList.drop (k * 6 + 6)).toArray) := by
  have hst := run_storeCells_at Tryd.prog g (k * 6) 27 zero6 0 cur w hg (by simp [zero6]; omega) (by
    intro u hu
    simp only [zero6, List.mem_cons, List.not_mem_nil, or_false] at hu
    rcases hu with rfl | rfl | rfl | rfl | rfl | rfl <;> rfl)
  simp only [Nat.add_zero, show zero6.length = 6 from rfl] at hst
  simp [Builtin.clear_, run_underlying Tryd.underlying59, Tryd.zeroValue27, Value.cells, zero6_eq, hst]

theorem run_shift (w : World) (g cap : Nat) (x : St) (T : List St) (A : Addr) (c : Nat) (cur : Array Value) (hg : w.heap[g]? = some (.cells cur 27 (0, 0))) (hc : T.length + 1 ≤ cap) (hcs : cur.size = cap * 6) (ht : cur.toList.take ((T.length + 1) * 6) = ES.cs (x :: T)) (hA : T = [] ∨ A = ⟨g, 6, none⟩) :
    (Builtin.append_ #[59, 59] 59 #[.slice (some ⟨g, 0, none⟩) 0 cap, .slice (some A) T.length c]).run Tryd.prog w = .ok (.slice (some ⟨g, 0, none⟩) T.length cap) (w.setRow g (ES.cs T ++ cur.toList.drop (T.length * 6)).toArray) := by
  obtain ⟨i0, z, hi0, hz0, hz1, hz2, hz3⟩ := info_z okS
  have hcells : ∀ j u, (ES.cs T)[j]? = some u → w.cell? (A.add j) = some u := by
    intro j u hu
    rcases hA with rfl | rfl
    · simp [El.cs] at hu
    · rw [Addr.add_lit, cell_blk hg]
      have hj : j < T.length * 6 := by
        have := (List.getElem?_eq_some_iff.1 hu).1
        rw [okS.length] at this
        exact this
      have e : (ES.cs (x :: T))[6 + j]? = (ES.cs T)[j]? := by
        show (x.a.toList ++ ES.cs T)[6 + j]? = _
        rw [List.getElem?_append_right (by simp [St.a])]
        congr 1
        simp [St.a]
      rw [← Array.getElem?_toList, ← hu, ← e, ← ht, List.getElem?_take, if_pos (by omega)]
  have hr := run_append_room (P := Tryd.prog) w 59 59 27 i0 Tryd.underlying59 hi0 g 0 cap cur hg A T.length c (ES.cs T) (by rw [hz1]; exact okS.length T) hcells (okS.ones T) (by omega) (by
    rw [hcs, okS.length, Nat.zero_mul, Nat.zero_add]
    show T.length * 6 ≤ _
    omega)
  rw [hr]
  simp only [Nat.zero_mul, Nat.zero_add, List.take_zero, List.nil_append, okS.length]
  rfl

set_option maxRecDepth 100000 in
set_option maxHeartbeats 4000000 in
theorem delete_walk (w : World) (g k cap : Nat) (D : Array Value) (hk : k + 1 ≤ cap) (hc : cap ≤ 9223372036854775807)
    (hap : ∀ A : Addr, (k = 0 ∨ A = ⟨g, 6, none⟩) → Hid ((Builtin.append_ #[59, 59] 59 #[.slice (some ⟨g, 0, none⟩) 0 cap, .slice (some A) k (cap - 1)]).run Tryd.prog w.drew = .ok (.slice (some ⟨g, 0, none⟩) k cap) (w.drew.setRow g D)))
    (W2 : World) (hcl : ∀ ty, (Builtin.clear_ #[59] ty #[.slice (some ⟨g, k * 6, none⟩) 1 (cap - k)]).run Tryd.prog (w.drew.setRow g D) = .ok (.tuple #[]) W2) :
    Calls Tryd.prog 37 #[.slice (some ⟨g, 0, none⟩) (k + 1) cap, .int .i64 0, .int .i64 1] w fun e w' => e = .returned (.slice (some ⟨g, 0, none⟩) k cap) ∧ w' = W2 := by
  by_cases h1 : cap = 1
  · subst h1
    obtain rfl : k = 0 := by omega
    have hrun := hap ⟨g, 0, none⟩ (.inl rfl)
    clear hap
    simp only [Nat.sub_self, Nat.zero_mul, Nat.sub_zero, Nat.zero_add] at hrun hcl ⊢
    go_enter Tryd.func37, Tryd.ntmps37
    go_wp2_with fail
    go_region_law (refine step_append_run rfl (.tmp 22) (.tmp 25) 59 59 rfl hrun.out (by simp [Act.eval, Act.put]) (by simp [Act.eval, Act.put]) ?_)
    all_goals
      go_wp2
      go_ret
      exact ⟨rfl, rfl⟩
  · have hrun := hap ⟨g, 6, none⟩ (.inr rfl)
    clear hap
    obtain ⟨n, hn⟩ : ∃ n, k + 1 = n := ⟨_, rfl⟩
    have hnk : n - k = 1 := by omega
    have hnk' : (n : Int) - (k : Int) = 1 := by omega
    have hkn : (k : Int) ≤ (n : Int) := by omega
    have h1n : (1 : Int) ≤ (n : Int) := by omega
    have hnc : (n : Int) ≤ (cap : Int) := by omega
    have hk1 : n - 1 = k := by omega
    have h1c : (1 : Int) ≤ (cap : Int) := by omega
    have hc1 : ¬ (cap - 1 = 0) := by omega
    have hck : ¬ (cap - k = 0) := by omega
    have hck' : ¬ (cap = k) := by omega
    rw [hn] at hk ⊢
    clear hn
    go_enter Tryd.func37, Tryd.ntmps37
    go_wp2_with fail
    go_region_law (refine step_append_run rfl (.tmp 22) (.tmp 25) 59 59 rfl hrun.out (by simp [Act.eval, Act.put]) (by simp [Act.eval, Act.put]) ?_)
    all_goals
      go_wp2
      go_ret
      exact ⟨rfl, rfl⟩

theorem take_shift (cur : Array Value) (cap k : Nat) (X : List Value) (hX : X.length = k * 6) (hk : k + 1 ≤ cap) (hcs : cur.size = cap * 6) :
    let D := (X ++ cur.toList.drop (k * 6)).toArray
    let F := (D.toList.take (k * 6) ++ zero6 ++ D.toList.drop (k * 6 + 6)).toArray
    D.size = cap * 6 ∧ F.size = cap * 6 ∧ F.toList.take (k * 6) = X := by
  intro D F
  have hD : D.size = cap * 6 := by
    show (X ++ cur.toList.drop (k * 6)).toArray.size = _
    simp [hX, hcs]
    omega
  have hDt : D.toList.take (k * 6) = X := by
    show (X ++ cur.toList.drop (k * 6)).take (k * 6) = X
    rw [← hX, List.take_left']
    rfl
  refine ⟨hD, ?_, ?_⟩
  · show (D.toList.take (k * 6) ++ zero6 ++ D.toList.drop (k * 6 + 6)).toArray.size = _
    rw [hDt]
    simp only [List.size_toArray, List.length_append, List.length_drop, Array.length_toList, hD, hX]
    simp only [zero6, List.length_cons, List.length_nil]
    omega
  · show (D.toList.take (k * 6) ++ zero6 ++ D.toList.drop (k * 6 + 6)).take (k * 6) = X
    rw [hDt, List.append_assoc, ← hX, List.take_left']
    rfl

theorem delete_any (w : World) (v : Value) (x : St) (T : List St) (h : R ES w v (x :: T)) :
    Calls Tryd.prog 37 #[v, .int .i64 0, .int .i64 1] w fun e w' => ∃ v', e = .returned v' ∧ R ES w' v' T ∧ v'.ownBlock = v.ownBlock ∧ Ks (fun k => v.ownBlock = some k) w w' := by
  rcases h.2 with ⟨_, h0⟩ | ⟨g, cap, cur, rfl, hb, hg, hn, hm, hs, ht⟩
  · simp at h0
  · have hXl : (ES.cs T).length = T.length * 6 := okS.length T
    simp only [List.length_cons] at hn ht ⊢
    obtain ⟨hD, hF, hFt⟩ := take_shift cur cap T.length (ES.cs T) hXl hn hs
    have hg2 : (w.drew.setRow g (ES.cs T ++ cur.toList.drop (T.length * 6)).toArray).heap[g]? = some (.cells (ES.cs T ++ cur.toList.drop (T.length * 6)).toArray 27 (0, 0)) := setRow_heap _ _ cur _ 27 (0, 0) hg
    refine (delete_walk w g T.length cap _ hn (by unfold maxLen at hm; omega) (fun A hA => run_shift w.drew g cap x T A (cap - 1) cur hg hn hs ht (hA.imp (fun e => List.eq_nil_of_length_eq_zero e) id)) _ (fun ty => run_clear_one _ g T.length (cap - T.length) ty _ hg2 (by rw [hD]; omega))).mono ?_
    rintro e w' ⟨rfl, rfl⟩
    refine ⟨_, rfl, ⟨hXl, .inr ⟨g, cap, _, rfl, hb, setRow_heap _ _ _ _ 27 (0, 0) hg2, by omega, hm, hF, hFt⟩⟩, rfl, ⟨rfl, rfl, rfl, by simp, fun k _ hk => ?_⟩⟩
    rw [setRow_other _ _ _ _ (fun e => hk (by rw [e]; rfl)), setRow_other _ _ _ _ (fun e => hk (by rw [e]; rfl))]
    rfl

/-- the acknowledged set of a book, set anew -/
def setB (w : World) (g : Nat) (s : St) : World :=
  (((((w.setCell ⟨g, 1, none⟩ (.int .i64 s.tab)).setCell ⟨g, 2, none⟩ (.int .i64 s.psh)).setCell ⟨g, 3, none⟩ (.int .i64 s.str)).setCell ⟨g, 4, none⟩ (.int .i64 s.win)).setCell ⟨g, 5, none⟩ (.int .i64 s.frm)).setCell ⟨g, 6, none⟩ (.int .i64 s.lst)
theorem setB_blk {w : World} {g : Nat} {c : Bool} {x : St} {v : Value} {t : TypeId} {fz : Nat × Nat} (s : St) (h : w.heap[g]? = some (.cells (bcs c x v) t fz)) : (setB w g s).heap[g]? = some (.cells (bcs c s v) t fz) := by
  have h1 := setCell_block w g 1 (.int .i64 s.tab) _ t fz h
  have h2 := setCell_block _ g 2 (.int .i64 s.psh) _ t fz h1
  have h3 := setCell_block _ g 3 (.int .i64 s.str) _ t fz h2
  have h4 := setCell_block _ g 4 (.int .i64 s.win) _ t fz h3
  have h5 := setCell_block _ g 5 (.int .i64 s.frm) _ t fz h4
  have h6 := setCell_block _ g 6 (.int .i64 s.lst) _ t fz h5
  simp only [bcs, List.setIfInBounds_toArray, List.set_cons_zero, List.set_cons_succ] at h6
  exact h6
theorem setB_ks (w : World) (g : Nat) (s : St) : Ks (fun k => k = g) w (setB w g s) :=
  ((((((Ks.refl (fun k => k = g) w).set g 1 _ rfl).set g 2 _ rfl).set g 3 _ rfl).set g 4 _ rfl).set g 5 _ rfl).set g 6 _ rfl

set_option maxRecDepth 100000 in
set_option maxHeartbeats 1000000 in
theorem ack_none (w : World) (b : Nat) (c : Bool) (s : St) (v : Value) (h : Bk w b c s v []) :
    Calls Tryd.prog 13 #[.pointer (some ⟨b, 0, none⟩)] w fun e w' => e = .returned (.tuple #[.agg St.zero.a, .bool false]) ∧ Below w.heap.size w w' := by
  obtain ⟨c0, c1, c2, c3, c4, c5, c6, c7⟩ := h.cells
  have hl := h.lt
  obtain ⟨vb, vc, rfl, h1, h2⟩ := h.row.slice
  clear h
  simp only [List.length_nil] at c7
  go_enter Tryd.func13, Tryd.ntmps13
  go_wp2
  refine bodyPost_ret (results_ct (p := 2) (r := 3) (ty := 27) rfl _ _ w.heap.size 27 St.zero.a (0, 0) _ rfl (heap_alloc_new _ _) Tryd.underlying27 rfl (by kernel_rfl)) rfl ⟨rfl, bel1 _ _⟩

end Go.Proofs.YtfkimdgbkfogcaaDoor
