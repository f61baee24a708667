/- The document's within, Take, Give, Shift. -/
import Derived.Test.YtoanmjnjpkbmiaaD1
namespace Go.Proofs.Ytoanmjnjpkbmiaa
open Go.RowKit
set_option linter.unusedVariables false
set_option linter.unusedSimpArgs false

set_option maxRecDepth 100000 in
set_option maxHeartbeats 2000000 in
theorem rwithin_any (w : World) (r : Nat) (f : Int) (v : Value) (ms : List Int) (n k : Int) (h : Rw w r f v ms n) :
    Calls Try.prog 22 #[.pointer (some ⟨r, 0, none⟩), .int .i64 k, .int .i64 (-2147483647)] w fun e w' => e = .returned (.bool (sf n k)) ∧ w' = w := by
  obtain ⟨i1, i2⟩ := h.in'
  by_cases h1 : 4294967294 < k
  · have hs : sf n k = false := by unfold sf; simp; omega
    rw [hs]
    clear hs
    go_enter Try.func22, Try.ntmps22
    go_wp2
    go_ret
    exact ⟨rfl, rfl⟩
  by_cases h2 : k < -4294967294
  · have hs : sf n k = false := by unfold sf; simp; omega
    rw [hs]
    clear hs
    go_enter Try.func22, Try.ntmps22
    go_wp2
    go_ret
    exact ⟨rfl, rfl⟩
  · have hs : sf n k = (decide (-2147483647 ≤ k + n) && decide (k + n ≤ 2147483647)) := by unfold sf; rw [Int.add_comm]
    rw [hs]
    clear hs
    obtain ⟨y, hy⟩ : ∃ y, k + n = y := ⟨_, rfl⟩
    have hy1 : -9223372036854775808 ≤ y := by omega
    have hy2 : y ≤ 9223372036854775807 := by omega
    rw [hy]
    by_cases h3 : -2147483647 ≤ y
    · by_cases h4 : y ≤ 2147483647
      · rw [decide_eq_true h3, decide_eq_true h4]
        go_enter Try.func22, Try.ntmps22
        go_wp2_with fail
        refine (rleft_any w r f v ms n h).mono ?_
        rintro e w1 ⟨rfl, rfl⟩
        go_wp2
        go_ret
        exact ⟨rfl, rfl⟩
      · rw [decide_eq_true h3, decide_eq_false h4]
        go_enter Try.func22, Try.ntmps22
        go_wp2_with fail
        refine (rleft_any w r f v ms n h).mono ?_
        rintro e w1 ⟨rfl, rfl⟩
        go_wp2
        go_ret
        refine ⟨?_, rfl⟩
        show Ending.returned (Value.bool (decide (y ≤ 2147483647))) = _
        rw [decide_eq_false (by omega : ¬ y ≤ 2147483647)]
        rfl
    · rw [decide_eq_false h3]
      go_enter Try.func22, Try.ntmps22
      go_wp2_with fail
      refine (rleft_any w r f v ms n h).mono ?_
      rintro e w1 ⟨rfl, rfl⟩
      go_wp2
      go_ret
      exact ⟨rfl, rfl⟩

/-- what an append of one number leaves -/
theorem Rw.app {w : World} {r : Nat} {f : Int} {v : Value} {ms : List Int} {n : Int} (h : Rw w r f v ms n) (d : Int) (hd : InB (n + d)) (hlen : (ms.length + 1) * 8 ≤ 140737488355328) (w1 : World) (B : Nat) (hB : w1.heap[B]? = some (.cells #[.int .i64 d] 2 (0, 0))) (hb : Below w.heap.size w w1) :
    ∃ base cap w2, (Builtin.append_ #[43, 43] 43 #[v, .slice (some ⟨B, 0, none⟩) 1 1]).run Try.prog w1 = .ok (.slice base (ms.length + 1) cap) w2 ∧ r < w2.heap.size ∧ w2.frozen? ⟨r, 1, none⟩ = false ∧ w2.cell? ⟨r, 1, none⟩ = some v ∧
      Rw (w2.setCell ⟨r, 1, none⟩ (.slice base (ms.length + 1) cap)) r f (.slice base (ms.length + 1) cap) (ms ++ [d]) (n + d) ∧ Ks (OwnR r v) w (w2.setCell ⟨r, 1, none⟩ (.slice base (ms.length + 1) cap)) ∧ (∀ k, OwnR r (.slice base (ms.length + 1) cap) k → OwnR r v k ∨ w.heap.size ≤ k) := by
  have h1 := h.below hb
  obtain ⟨base, cap, w2, hr, hR, hG⟩ := Ytoanmjnjpkbmiaa.app okI w1 v ms h1.row (.slice (some ⟨B, 0, none⟩) 1 1) [d] (in_one w1 B d _ _ _ hB rfl) (by simpa [EI] using hlen)
  have hne : v.ownBlock ≠ some r := fun e => by
    obtain ⟨c, hc⟩ := h1.row.ty r e
    rw [h1.blk] at hc
    simp [EI] at hc
  have hblk : w2.heap[r]? = some (.cells #[.int .i64 f, v] 45 (0, 0)) := (hG.block r h1.lt hne).trans h1.blk
  simp only [List.length_singleton] at hr hR hG
  have hne2 : (Value.slice base (ms.length + 1) cap).ownBlock ≠ some r := fun e => by
    rcases hG.own r e with e | e
    · exact hne e
    · have := h1.lt
      omega
  refine ⟨base, cap, w2, hr, heap_lt hblk, frozen_blk hblk 1, cell_blk hblk 1, ⟨setCell_block _ _ _ _ _ _ _ hblk, hR.stays fun k hk _ => setCell_other _ _ _ _ _ fun e => hne2 (e ▸ hk), ?_, ?_⟩, ?_, ?_⟩
  · rw [List.length_append, List.length_singleton, pre_all, h.sum]
  · intro k hk
    simp only [List.length_append, List.length_singleton] at hk
    by_cases hk' : k ≤ ms.length
    · rw [pre_left _ _ _ _ hk']
      exact h.inb k hk'
    · rw [show k = ms.length + 1 by omega, pre_all, h.sum]
      exact hd
  · refine ⟨(hG.os.trans hb.os : _), hG.tape.trans hb.tape, hG.output.trans hb.output, ?_, fun k hk hn => ?_⟩
    · have := hG.size
      have := hb.size
      simp [World.setCell]
      omega
    · rw [setCell_other _ _ _ _ _ (fun e => hn (.inl e)), hG.block k (Nat.lt_of_lt_of_le hk hb.size) (fun e => hn (.inr e)), hb.block k hk]
  · rintro k (e | e)
    · exact .inl (.inl e)
    · rcases hG.own k e with e | e
      · exact .inl (.inr e)
      · exact .inr (Nat.le_trans hb.size e)

set_option maxRecDepth 100000 in
set_option maxHeartbeats 2000000 in
theorem rshift_ok (w : World) (r : Nat) (f : Int) (v : Value) (ms : List Int) (n k : Int) (h : Rw w r f v ms n) (hs : sf n k = true) (hlen : (ms.length + 1) * 8 ≤ 140737488355328) :
    Calls Try.prog 21 #[.pointer (some ⟨r, 0, none⟩), .int .i64 k] w fun e w' => e = .returned (.int .i64 0) ∧ ∃ v', Rw w' r f v' (ms ++ [k]) (n + k) ∧ Ks (OwnR r v) w w' ∧ (∀ j, OwnR r v' j → OwnR r v j ∨ w.heap.size ≤ j) := by
  have hd : InB (n + k) := by unfold sf at hs; unfold InB; simpa using hs
  have hw := rwithin_any w r f v ms n k h
  rw [hs] at hw
  have c1 : w.cell? ⟨r, 1, none⟩ = some v := cell_blk h.blk 1
  have hl := h.lt
  have hA := h.app (k) hd hlen (w.alloc (.cells #[.int .i64 (k)] 2)) w.heap.size (heap_alloc_new _ _) (bel1 _ _)
  obtain ⟨vb, vc, hv, _⟩ := h.row.slice
  subst hv
  obtain ⟨base, cap, w2, hrun, g1, g2, g3, g4, g5, g6⟩ := hA
  have HF : Hid (Rw (w2.setCell ⟨r, 1, none⟩ (.slice base (ms.length + 1) cap)) r f (.slice base (ms.length + 1) cap) (ms ++ [k]) (n + k) ∧ Ks (OwnR r (.slice vb ms.length vc)) w (w2.setCell ⟨r, 1, none⟩ (.slice base (ms.length + 1) cap)) ∧ (∀ k, OwnR r (.slice base (ms.length + 1) cap) k → OwnR r (.slice vb ms.length vc) k ∨ w.heap.size ≤ k)) := ⟨g4, g5, g6⟩
  clear g4 g5 g6
  go_enter Try.func21, Try.ntmps21
  go_wp2_with fail
  refine hw.mono ?_
  rintro e w1 ⟨rfl, hw1⟩
  rw [hw1]
  clear hw1 w1
  go_wp2_with (at_builtin; refine Lib.wpList_append_run _ rfl (.tmp 13) (.tmp 15) 43 43 rfl _ _ rfl rfl _ _ hrun ?_; clear hrun)
  go_ret
  exact ⟨rfl, _, HF.out⟩

set_option maxRecDepth 100000 in
set_option maxHeartbeats 2000000 in
theorem rgive_ok (w : World) (r : Nat) (f : Int) (v : Value) (ms : List Int) (n k : Int) (h : Rw w r f v ms n) (hk : 1 ≤ k) (hs : sf n k = true) (hlen : (ms.length + 1) * 8 ≤ 140737488355328) :
    Calls Try.prog 20 #[.pointer (some ⟨r, 0, none⟩), .int .i64 k] w fun e w' => e = .returned (.int .i64 0) ∧ ∃ v', Rw w' r f v' (ms ++ [k]) (n + k) ∧ Ks (OwnR r v) w w' ∧ (∀ j, OwnR r v' j → OwnR r v j ∨ w.heap.size ≤ j) := by
  have hd : InB (n + k) := by unfold sf at hs; unfold InB; simpa using hs
  have hw := rwithin_any w r f v ms n k h
  rw [hs] at hw
  have c1 : w.cell? ⟨r, 1, none⟩ = some v := cell_blk h.blk 1
  have hl := h.lt
  have hA := h.app (k) hd hlen (w.alloc (.cells #[.int .i64 (k)] 2)) w.heap.size (heap_alloc_new _ _) (bel1 _ _)
  obtain ⟨vb, vc, hv, _⟩ := h.row.slice
  subst hv
  obtain ⟨base, cap, w2, hrun, g1, g2, g3, g4, g5, g6⟩ := hA
  have HF : Hid (Rw (w2.setCell ⟨r, 1, none⟩ (.slice base (ms.length + 1) cap)) r f (.slice base (ms.length + 1) cap) (ms ++ [k]) (n + k) ∧ Ks (OwnR r (.slice vb ms.length vc)) w (w2.setCell ⟨r, 1, none⟩ (.slice base (ms.length + 1) cap)) ∧ (∀ k, OwnR r (.slice base (ms.length + 1) cap) k → OwnR r (.slice vb ms.length vc) k ∨ w.heap.size ≤ k)) := ⟨g4, g5, g6⟩
  clear g4 g5 g6
  go_enter Try.func20, Try.ntmps20
  go_wp2_with fail
  refine hw.mono ?_
  rintro e w1 ⟨rfl, hw1⟩
  rw [hw1]
  clear hw1 w1
  go_wp2_with (at_builtin; refine Lib.wpList_append_run _ rfl (.tmp 15) (.tmp 17) 43 43 rfl _ _ rfl rfl _ _ hrun ?_; clear hrun)
  go_ret
  exact ⟨rfl, _, HF.out⟩

set_option maxRecDepth 100000 in
set_option maxHeartbeats 2000000 in
theorem rtake_ok (w : World) (r : Nat) (f : Int) (v : Value) (ms : List Int) (n k : Int) (h : Rw w r f v ms n) (hk : 0 < k) (hs : k ≤ n) (hlen : (ms.length + 1) * 8 ≤ 140737488355328) :
    Calls Try.prog 19 #[.pointer (some ⟨r, 0, none⟩), .int .i64 k] w fun e w' => e = .returned (.bool true) ∧ ∃ v', Rw w' r f v' (ms ++ [-k]) (n + -k) ∧ Ks (OwnR r v) w w' ∧ (∀ j, OwnR r v' j → OwnR r v j ∨ w.heap.size ≤ j) := by
  obtain ⟨i1, i2⟩ := h.in'
  have hd : InB (n + -k) := ⟨by omega, by omega⟩
  have hw := rleft_any w r f v ms n h
  have c1 : w.cell? ⟨r, 1, none⟩ = some v := cell_blk h.blk 1
  have hl := h.lt
  have hA := h.app (-k) hd hlen (w.alloc (.cells #[.int .i64 (-k)] 2)) w.heap.size (heap_alloc_new _ _) (bel1 _ _)
  obtain ⟨vb, vc, hv, _⟩ := h.row.slice
  subst hv
  obtain ⟨base, cap, w2, hrun, g1, g2, g3, g4, g5, g6⟩ := hA
  have HF : Hid (Rw (w2.setCell ⟨r, 1, none⟩ (.slice base (ms.length + 1) cap)) r f (.slice base (ms.length + 1) cap) (ms ++ [-k]) (n + -k) ∧ Ks (OwnR r (.slice vb ms.length vc)) w (w2.setCell ⟨r, 1, none⟩ (.slice base (ms.length + 1) cap)) ∧ (∀ k, OwnR r (.slice base (ms.length + 1) cap) k → OwnR r (.slice vb ms.length vc) k ∨ w.heap.size ≤ k)) := ⟨g4, g5, g6⟩
  clear g4 g5 g6
  go_enter Try.func19, Try.ntmps19
  go_wp2_with fail
  refine hw.mono ?_
  rintro e w1 ⟨rfl, hw1⟩
  rw [hw1]
  clear hw1 w1
  go_wp2_with (at_builtin; refine Lib.wpList_append_run _ rfl (.tmp 17) (.tmp 20) 43 43 rfl _ _ rfl rfl _ _ hrun ?_; clear hrun)
  go_ret
  exact ⟨rfl, _, HF.out⟩

set_option maxRecDepth 100000 in
set_option maxHeartbeats 2000000 in
theorem rshift_no (w : World) (r : Nat) (f : Int) (v : Value) (ms : List Int) (n k : Int) (h : Rw w r f v ms n) (hs : sf n k = false) :
    Calls Try.prog 21 #[.pointer (some ⟨r, 0, none⟩), .int .i64 k] w fun e w' => e = .returned (.int .i64 3) ∧ w' = w := by
  have hw := rwithin_any w r f v ms n k h
  rw [hs] at hw
  go_enter Try.func21, Try.ntmps21
  go_wp2_with fail
  refine hw.mono ?_
  rintro e w1 ⟨rfl, hw1⟩
  rw [hw1]
  clear hw1 w1
  go_wp2
  go_ret
  exact ⟨rfl, rfl⟩

set_option maxRecDepth 100000 in
set_option maxHeartbeats 2000000 in
theorem rgive_no (w : World) (r : Nat) (f : Int) (v : Value) (ms : List Int) (n k : Int) (h : Rw w r f v ms n) (hk : 1 ≤ k) (hs : sf n k = false) :
    Calls Try.prog 20 #[.pointer (some ⟨r, 0, none⟩), .int .i64 k] w fun e w' => e = .returned (.int .i64 3) ∧ w' = w := by
  have hw := rwithin_any w r f v ms n k h
  rw [hs] at hw
  go_enter Try.func20, Try.ntmps20
  go_wp2_with fail
  refine hw.mono ?_
  rintro e w1 ⟨rfl, hw1⟩
  rw [hw1]
  clear hw1 w1
  go_wp2
  go_ret
  exact ⟨rfl, rfl⟩

set_option maxRecDepth 100000 in
set_option maxHeartbeats 2000000 in
theorem rgive_low (w : World) (r : Nat) (f : Int) (v : Value) (ms : List Int) (n k : Int) (h : Rw w r f v ms n) (hk : k < 1) :
    Calls Try.prog 20 #[.pointer (some ⟨r, 0, none⟩), .int .i64 k] w fun e w' => e = .returned (.int .i64 1) ∧ w' = w := by
  go_enter Try.func20, Try.ntmps20
  go_wp2
  go_ret
  exact ⟨rfl, rfl⟩

set_option maxRecDepth 100000 in
set_option maxHeartbeats 2000000 in
theorem rtake_neg (w : World) (r : Nat) (f : Int) (v : Value) (ms : List Int) (n k : Int) (h : Rw w r f v ms n) (hk : k < 0) :
    Calls Try.prog 19 #[.pointer (some ⟨r, 0, none⟩), .int .i64 k] w fun e w' => e = .returned (.bool false) ∧ w' = w := by
  have e1 : (k == 0) = false := by simp; omega
  go_enter Try.func19, Try.ntmps19
  go_wp2
  go_ret
  exact ⟨rfl, rfl⟩

set_option maxRecDepth 100000 in
set_option maxHeartbeats 2000000 in
theorem rtake_no (w : World) (r : Nat) (f : Int) (v : Value) (ms : List Int) (n k : Int) (h : Rw w r f v ms n) (hk : 0 < k) (hs : n < k) :
    Calls Try.prog 19 #[.pointer (some ⟨r, 0, none⟩), .int .i64 k] w fun e w' => e = .returned (.bool false) ∧ w' = w := by
  have hw := rleft_any w r f v ms n h
  go_enter Try.func19, Try.ntmps19
  go_wp2_with fail
  refine hw.mono ?_
  rintro e w1 ⟨rfl, hw1⟩
  rw [hw1]
  clear hw1 w1
  go_wp2
  go_ret
  exact ⟨rfl, rfl⟩

set_option maxRecDepth 100000 in
set_option maxHeartbeats 2000000 in
theorem rtake_zero (w : World) (r : Nat) : Calls Try.prog 19 #[.pointer (some ⟨r, 0, none⟩), .int .i64 0] w fun e w' => e = .returned (.bool true) ∧ w' = w := by
  go_enter Try.func19, Try.ntmps19
  go_wp2
  go_ret
  exact ⟨rfl, rfl⟩
end Go.Proofs.Ytoanmjnjpkbmiaa
