/- The document's Copy, Find. -/
import Derived.Test.YtlfbnhdcgldopaaF5
import Derived.Deep.RegionLaw
namespace Go.Proofs.Ytlfbnhdcgldopaa
open Go.RowKit

/-- append, as one step of a region that draws, by the equation of its run. -/
theorem step_append_run {P : Program} {ops : Array Oper} {o : Oper} {a : Act} {w : World} {K : Act → World → Prop} {Q : Exit → Act → World → Prop} {R : Prop}
    (hg : o.guard = none) (s x : Operand) (t : TypeId) (ho : o.op = .call { callee := .builtin .append, args := #[s, x], argTypes := #[t, t] })
    {vs vx v' : Value} {w' : World} (hr : (Builtin.append_ #[t, t] o.type #[vs, vx]).run P w = .ok v' w') (hs : a.eval s = vs) (hx : a.eval x = vx)
    (hK : K (a.put o.dst v') w') : if Region.wanted o (yielded ops a.tmps) = true then Oper.wp P o a w K Q else R := by
  have hw : Region.wanted o (yielded ops a.tmps) = true := by simp [Region.wanted, hg]
  rw [if_pos hw]
  exact Lib.wp_append_run w s x t t ho vs vx hs hx v' w' hr hK

set_option maxRecDepth 100000 in
set_option maxHeartbeats 1000000 in
theorem rcopy_any (w : World) (b mx : Nat) (es : List E) (v : Value) (h : RTab w b mx es v) :
    Calls Try.prog 22 #[.pointer (some ⟨b, 0, none⟩)] w fun r w' => ∃ c v', r = .returned (.pointer (some ⟨c, 0, none⟩)) ∧ w.heap.size ≤ c ∧ RTab w' c mx es v' ∧ (∀ k, v'.ownBlock = some k → w.heap.size ≤ k) ∧ Below w.heap.size w w' := by
  have hlen := h.len
  have hb := h.lt
  have hmx := h.1
  have htot := h.2.1
  obtain ⟨c0, c1, f0, f1⟩ := rtab_cells h.2.2.1
  obtain ⟨base, cap, rfl⟩ := h.slice
  obtain ⟨W1, hW1⟩ : ∃ W1, W1 = (w.alloc (.cells #[.int .i64 (mx : Int), .slice none 0 0] 75)).drew := ⟨_, rfl⟩
  have hN : W1.heap[w.heap.size]? = some (.cells #[.int .i64 (mx : Int), .slice none 0 0] 75 (0, 0)) := by rw [hW1]; exact heap_alloc_new w _
  have hB1 : Below w.heap.size w W1 := by rw [hW1]; exact ((Below.refl _ w).alloc (Nat.le_refl _) _).drew
  have hS1 : w.heap.size < W1.heap.size := (Array.getElem?_eq_some_iff.1 hN).1
  obtain ⟨bb, cc, w2, hrun, ho, hg⟩ := rappend_list W1 W1.heap.size (Nat.le_refl _) (.slice none 0 0) (.slice base es.length cap) [] es (World.ownsRow_nil _ _ _ _) (rents_of_row (h.below hB1).2.2.2) (by simp; omega)
  rw [List.nil_append] at hrun ho
  have hB2 : Below w.heap.size w w2 := hB1.grown hg hB1.size fun k hk => by cases hk
  have hN2 : w2.heap[w.heap.size]? = some (.cells #[.int .i64 (mx : Int), .slice none 0 0] 75 (0, 0)) := (((Below.refl W1.heap.size W1).grown hg (Nat.le_refl _) fun k hk => by cases hk).block _ hS1).trans hN
  obtain ⟨_, d1, _, g1⟩ := rtab_cells hN2
  have hfin : Hid (∃ c v', Ending.returned (.pointer (some ⟨w.heap.size, 0, none⟩)) = .returned (.pointer (some ⟨c, 0, none⟩)) ∧ w.heap.size ≤ c ∧ RTab (w2.setCell ⟨w.heap.size, 1, none⟩ (.slice bb es.length cc)) c mx es v' ∧ (∀ k, v'.ownBlock = some k → w.heap.size ≤ k) ∧ Below w.heap.size w (w2.setCell ⟨w.heap.size, 1, none⟩ (.slice bb es.length cc))) := by
    refine ⟨_, .slice bb es.length cc, rfl, Nat.le_refl _, ⟨hmx, htot, ?_, ?_⟩, fun k hk => by have := (ho.lt k hk).1; omega, hB2.setCell (Nat.le_refl _) _⟩
    · rw [setCell_block _ _ _ _ _ _ _ hN2]; rfl
    · refine row_stays (show w2.ownsRow 0 82 2 _ _ _ from ⟨ho.1, ho.2.imp id fun ⟨g, c, cu, h1, _, h3⟩ => ⟨g, c, cu, h1, Nat.zero_le _, h3⟩⟩) fun j hj _ => setCell_other _ _ _ _ _ fun e => ?_
      have := (ho.lt j hj).1
      omega
  rw [hW1] at hrun
  replace hrun : Hid _ := hrun
  clear h hN hN2 hB1 hB2 hg ho hW1 hS1
  go_enter Try.func22, Try.ntmps22
  go_wp2
  go_region_law (refine step_append_run rfl (.tmp 14) (.tmp 18) 73 rfl hrun.out (by simp [Act.eval]) (by simp [Act.eval]) ?_)
  all_goals
    go_wp2
    go_ret
    exact hfin.out

theorem same_stays (n x : ByteArray) (l : List E) (k : Nat) (h : ¬ sameOf n x (upto l k) = 0) (d : Nat) : sameOf n x (upto l (k + d)) = sameOf n x (upto l k) := by
  induction d with
  | zero => rfl
  | succ d ih => rw [← Nat.add_assoc, upto_succ, same_snoc_later _ _ _ _ (by rw [ih]; exact h), ih]

set_option maxRecDepth 100000 in
set_option maxHeartbeats 1000000 in
theorem rfind_any (w : World) (b mx : Nat) (es : List E) (v : Value) (h : RTab w b mx es v) (n x : ByteArray) :
    Calls Try.prog 39 #[.pointer (some ⟨b, 0, none⟩), .string n, .string x] w fun e w' => e = .returned (.tuple #[.int .i64 ((findS (fixedL ++ es) (61 + es.length) n x).1 : Int), .bool (findS (fixedL ++ es) (61 + es.length) n x).2]) ∧ Below w.heap.size w w' := by
  have hlen := h.len
  obtain ⟨base, cap, rfl⟩ := h.slice
  have H : Hid (∀ W, Below w.heap.size w W → RTab W b mx es (.slice base es.length cap)) := fun W hW => h.below hW
  have hcell : Hid (∀ W, Below w.heap.size w W → W.cell? ⟨b, 1, none⟩ = some (.slice base es.length cap)) := fun W hW => (rtab_cells (h.below hW).2.2.1).2.1
  clear h
  have hfl : (fixedL ++ es).length = 61 + es.length := by rw [List.length_append]; rfl
  obtain ⟨N, hN⟩ : ∃ N, N = 61 + es.length := ⟨_, rfl⟩
  rw [← hN] at hfl ⊢
  have hNi : (61 : Int) + (es.length : Int) = (N : Int) := by omega
  have hN1 : N ≤ 3000 := by omega
  replace hN : Hid (N = 61 + es.length) := hN
  replace hfl : Hid ((fixedL ++ es).length = N) := hfl
  obtain ⟨A, hA⟩ : ∃ A, findS (fixedL ++ es) N n x = A := ⟨_, rfl⟩
  rw [hA]
  replace hA : Hid (findS (fixedL ++ es) N n x = A) := hA
  go_enter Try.func39, Try.ntmps39
  go_wp2
  go_loopw [8, 9] (fun f i wr => ∃ k : Nat, k ≤ N ∧ f = .int .i64 (named n (upto (fixedL ++ es) k) : Int) ∧ sameOf n x (upto (fixedL ++ es) k) = 0 ∧ i = .int .i64 ((k : Int) + 1) ∧ Below w.heap.size w wr) (fun _ i _ => N + 1 - (intOf i).toNat)
  case atStart => exact ⟨0, by omega, rfl, rfl, rfl, Below.refl _ _⟩
  case round =>
    obtain ⟨k, hk, rfl, hS0, rfl, hB⟩ := hrel
    have hF := named_le n (upto (fixedL ++ es) k)
    have hc := hcell.out wr hB
    by_cases hlt : k < N
    · obtain ⟨e1, e2, he⟩ : ∃ e1 e2, (fixedL ++ es)[k]? = some (e1, e2) := ⟨_, _, List.getElem?_eq_getElem (by rw [hfl.out]; exact hlt)⟩
      have hat : Hid (Calls Try.prog 38 #[.pointer (some ⟨b, 0, none⟩), .int .i64 ((k : Int) + 1)] wr fun r w' => r = .returned (.tuple #[.string e1, .string e2, .int .i64 0]) ∧ Below w.heap.size w w') := by
        have h := rat_good wr b mx es _ (H.out wr hB) (k + 1) (e1, e2) (by omega) he
        rw [show ((k + 1 : Nat) : Int) = (k : Int) + 1 by omega] at h
        refine h.mono ?_
        rintro r w' ⟨rfl, hb⟩
        exact ⟨rfl, hB.trans (hb.mono hB.size)⟩
      have hi1 := it_index (fixedL ++ es) k (by omega)
      have hi2 := it_entry (fixedL ++ es) k _ he
      have hup := upto_succ (fixedL ++ es) k
      have hle : (k : Int) + 1 ≤ (N : Int) := by omega
      have hrel : ∀ F : Int, F = (named n (upto (fixedL ++ es) (k + 1)) : Int) → sameOf n x (upto (fixedL ++ es) (k + 1)) = 0 → Hid (∀ W, Below w.heap.size w W → ∃ k' : Nat, k' ≤ N ∧ Value.int .i64 F = .int .i64 (named n (upto (fixedL ++ es) k') : Int) ∧ sameOf n x (upto (fixedL ++ es) k') = 0 ∧ Value.int .i64 ((k : Int) + 1 + 1) = .int .i64 ((k' : Int) + 1) ∧ Below w.heap.size w W) :=
        fun F h1 h2 W hW => ⟨k + 1, by omega, by rw [h1], h2, by simp, hW⟩
      have hst := same_stays n x (fixedL ++ es) (k + 1)
      rw [hup] at hrel hst
      have hAn := hA.out
      rw [findS_same, show N = k + 1 + (N - (k + 1)) by omega] at hAn
      generalize upto (fixedL ++ es) k = P at hF hS0 hrel hst ⊢
      generalize it (fixedL ++ es) k = y at hi1 hi2 hrel hst
      clear hup he hB hA
      by_cases hn : e1 = n
      · have b1 := toList_eq_true hn
        have hyn : y.1.2.1 = n := by rw [hi2]; exact hn
        by_cases hx : e2 = x
        · have b2 := toList_eq_true hx
          have hyh : hit n x y = true := by simp [hit, hi2, hn, hx]
          have hsk := same_snoc_first n x P y hyh hS0
          rw [hst (by rw [hsk, hi1]; omega), hsk, hi1, if_neg (by omega)] at hAn
          subst hAn
          clear hrel hyn hi1 hi2 hst hsk hyh hn hx hS0 hF
          go_wp2_with (first | (go_at_call 38; refine hat.out.mono ?_; rintro e w2 ⟨rfl, hB2⟩))
          go_ret2
          exact ⟨by simp, hB2⟩
        · have b2 := toList_eq_false hx
          have hyh : ¬ hit n x y = true := by simp [hit, hi2, hx]
          have hs' := (same_snoc_same n x P y hyh).trans hS0
          by_cases hF0 : named n P = 0
          · have f0 : ((named n P : Int) == 0) = true := by simp [hF0]
            have hF' := named_snoc_first n P y hyn hF0
            have hfin := hrel ((k : Int) + 1) (by rw [hF', hi1]; simp) hs'
            clear hrel hyn hi1 hi2 hst hyh hn hx hS0 hF0 hF' hAn hs'
            go_wp2_with (first | (go_at_call 38; refine hat.out.mono ?_; rintro e w2 ⟨rfl, hB2⟩))
            exact ⟨hfin.out _ hB2, by simp [intOf]; omega⟩
          · have f0 : ((named n P : Int) == 0) = false := by simp; omega
            have hF' := named_snoc_later n P y hF0
            have hfin := hrel (named n P : Int) (by rw [hF']) hs'
            clear hrel hyn hi1 hi2 hst hyh hn hx hS0 hF0 hF' hAn hs'
            go_wp2_with (first | (go_at_call 38; refine hat.out.mono ?_; rintro e w2 ⟨rfl, hB2⟩))
            exact ⟨hfin.out _ hB2, by simp [intOf]; omega⟩
      · have b1 := toList_eq_false hn
        have hyn : ¬ y.1.2.1 = n := by rw [hi2]; exact hn
        have hyh : ¬ hit n x y = true := by simp [hit, hyn]
        have hs' := (same_snoc_same n x P y hyh).trans hS0
        have hfin := hrel (named n P : Int) (by rw [named_snoc_same n P y hyn]) hs'
        clear hrel hyn hi1 hi2 hst hyh hn hS0 hAn hs'
        go_wp2_with (first | (go_at_call 38; refine hat.out.mono ?_; rintro e w2 ⟨rfl, hB2⟩))
        exact ⟨hfin.out _ hB2, by simp [intOf]; omega⟩
    · obtain rfl : k = N := by omega
      have hle : ¬ ((k : Int) + 1 ≤ (k : Int)) := by omega
      have hAe := hA.out
      rw [findS_same, if_pos hS0] at hAe
      subst hAe
      clear hA hlt hS0
      go_wp2
      go_ret2
      exact ⟨by simp, hB⟩

end Go.Proofs.Ytlfbnhdcgldopaa
