/- WindowBack. -/
import Derived.Test.YtoanmjnjpkbmiaaA2
namespace Go.Proofs.Ytoanmjnjpkbmiaa
open Go.RowKit
set_option linter.unusedVariables false
set_option linter.unusedSimpArgs false

/-- a call on the window at b that answers v and leaves m -/
abbrev Ans (f : FuncId) (xs : Array Value) (W : World) (b : Nat) (v : Value) (m : Int) : Prop := Calls Try.prog f xs W fun e w' => e = .returned v ∧ Wd w' b m ∧ Ks (fun j => j = b) W w'

theorem shift_ok (W : World) (b : Nat) (n k m : Int) (h : Wd W b n) (hn : InB n) (hm : InB m) (e : n + k = m) : Ans 13 #[.pointer (some ⟨b, 0, none⟩), .int .i64 k] W b (.int .i64 0) m := by
  have hs : sf n k = true := by unfold sf; unfold InB at hm; simp; omega
  have := shift_any W b n k h hn
  unfold sfC sfN at this
  rw [hs, e] at this
  exact this
theorem shift_no (W : World) (b : Nat) (n k : Int) (h : Wd W b n) (hn : InB n) (hm : ¬ InB (n + k)) : Ans 13 #[.pointer (some ⟨b, 0, none⟩), .int .i64 k] W b (.int .i64 3) n := by
  have hs : sf n k = false := by unfold sf; unfold InB at hm; simp; omega
  have := shift_any W b n k h hn
  unfold sfC sfN at this
  rw [hs] at this
  exact this
theorem take_ok (W : World) (b : Nat) (n k m : Int) (h : Wd W b n) (hn : InB n) (h0 : 0 ≤ k) (h1 : k ≤ max n 0) (e : n - k = m) : Ans 11 #[.pointer (some ⟨b, 0, none⟩), .int .i64 k] W b (.bool true) m := by
  have hs : tk n k = true := by unfold tk; simp; omega
  have := take_any W b n k h hn
  unfold tkN at this
  rw [hs, e] at this
  exact this
theorem take_no (W : World) (b : Nat) (n k : Int) (h : Wd W b n) (hn : InB n) (h0 : k < 0 ∨ max n 0 < k) : Ans 11 #[.pointer (some ⟨b, 0, none⟩), .int .i64 k] W b (.bool false) n := by
  have hs : tk n k = false := by unfold tk; simp; omega
  have := take_any W b n k h hn
  unfold tkN at this
  rw [hs] at this
  exact this
theorem give_ok (W : World) (b : Nat) (n k m : Int) (h : Wd W b n) (hn : InB n) (h1 : 1 ≤ k) (hm : InB m) (e : n + k = m) : Ans 12 #[.pointer (some ⟨b, 0, none⟩), .int .i64 k] W b (.int .i64 0) m := by
  have hs : sf n k = true := by unfold sf; unfold InB at hm; simp; omega
  have := give_any W b n k h hn
  unfold gvC gvN sfC sfN at this
  rw [if_neg (by omega : ¬ k < 1), if_neg (by omega : ¬ k < 1), hs, e] at this
  exact this
theorem give_low (W : World) (b : Nat) (n k : Int) (h : Wd W b n) (hn : InB n) (h1 : k < 1) : Ans 12 #[.pointer (some ⟨b, 0, none⟩), .int .i64 k] W b (.int .i64 1) n := by
  have := give_any W b n k h hn
  unfold gvC gvN sfC sfN at this
  rw [if_pos h1, if_pos h1] at this
  exact this
theorem give_no (W : World) (b : Nat) (n k : Int) (h : Wd W b n) (hn : InB n) (h1 : 1 ≤ k) (hm : ¬ InB (n + k)) : Ans 12 #[.pointer (some ⟨b, 0, none⟩), .int .i64 k] W b (.int .i64 3) n := by
  have hs : sf n k = false := by unfold sf; unfold InB at hm; simp; omega
  have := give_any W b n k h hn
  unfold gvC gvN sfC sfN at this
  rw [if_neg (by omega : ¬ k < 1), if_neg (by omega : ¬ k < 1), hs] at this
  exact this

/-- along calls on the window at b, which is above B -/
theorem alo {w w1 w2 : World} {b : Nat} (hb : w.heap.size ≤ b) (k : Ks (fun j => j = b) w1 w2) (h : Below w.heap.size w w1) : Below w.heap.size w w2 :=
  h.trans (k.under hb h.size)

set_option maxRecDepth 100000 in
set_option maxHeartbeats 4000000 in
theorem back_walk (n by' take : Int) (w : World) :
    Calls Try.prog 4 #[.int .i64 n, .int .i64 by', .int .i64 take] w fun e w' => e = .returned (.bool true) ∧ Below w.heap.size w w' := by
  have hc0 : 0 ≤ cl n ∧ cl n ≤ 2147483647 := by unfold cl; omega
  have hN := new_any n
  generalize cl n = c at hc0 hN
  obtain ⟨hc1, hc2⟩ := hc0
  have ic : InB c := ⟨by omega, hc2⟩
  have i0 : InB 0 := ⟨by omega, by omega⟩
  go_enter Try.func4, Try.ntmps4
  go_wp2_with fail
  refine (first_any w).mono ?_
  rintro e w0 ⟨rfl, hB0⟩
  go_wp2_with fail
  refine (hN w0).mono ?_
  rintro e w1 ⟨b, rfl, h1, hb, hB1⟩
  replace hb : w.heap.size ≤ b := Nat.le_trans hB0.size hb
  replace hB1 : Below w.heap.size w w1 := hB0.trans (hB1.mono hB0.size)
  go_wp2_with fail
  refine (left_any w1 b c h1).mono ?_
  rintro e w2 ⟨rfl, rfl⟩
  by_cases hs : InB (c + by')
  · obtain ⟨hs1, hs2⟩ := hs
    have hin : InB (c + by') := ⟨hs1, hs2⟩
    go_wp2_with fail
    refine (shift_ok w2 b c by' _ h1 ic hin rfl).mono ?_
    rintro e w3 ⟨rfl, h3, k3⟩
    go_wp2_with fail
    refine (left_any w3 b (c + by') h3).mono ?_
    rintro e w4 ⟨rfl, rfl⟩
    go_wp2_with fail
    refine (shift_ok w4 b (c + by') (-by') c h3 hin ic (by omega)).mono ?_
    rintro e w5 ⟨rfl, h5, k5⟩
    have B1 := alo hb k5 (alo hb k3 hB1)
    go_wp2_with fail
    refine (left_any w5 b c h5).mono ?_
    rintro e x1 ⟨rfl, rfl⟩
    by_cases ht : take < 0 ∨ max c 0 < take
    · go_wp2_with fail
      refine (take_no x1 b c take h5 ic ht).mono ?_
      rintro e x2 ⟨rfl, g2, q2⟩
      have B2 := alo hb q2 B1
      go_wp2_with fail
      refine (left_any x2 b c g2).mono ?_
      rintro e v5 ⟨rfl, rfl⟩
      have e5 : c + -c = 0 := by omega
      go_wp2_with fail
      refine (shift_ok v5 b c (-c) 0 g2 ic i0 e5).mono ?_
      rintro e v6 ⟨rfl, h6, k6⟩
      go_wp2_with fail
      refine (left_any v6 b 0 h6).mono ?_
      rintro e v7 ⟨rfl, rfl⟩
      go_wp2_with fail
      refine (take_ok v7 b 0 0 0 h6 i0 (by omega) (by omega) (by omega)).mono ?_
      rintro e v8 ⟨rfl, h8, k8⟩
      go_wp2_with fail
      refine (take_no v8 b 0 1 h8 i0 (by omega)).mono ?_
      rintro e v9 ⟨rfl, h9, k9⟩
      go_wp2_with fail
      refine (left_any v9 b 0 h9).mono ?_
      rintro e v10 ⟨rfl, rfl⟩
      go_wp2
      go_ret
      exact ⟨rfl, alo hb k9 (alo hb k8 (alo hb k6 B2))⟩
    · by_cases hz : take = 0
      · subst hz
        go_wp2_with fail
        refine (take_ok x1 b c 0 c h5 ic (by omega) (by omega) (by omega)).mono ?_
        rintro e x2 ⟨rfl, g2, q2⟩
        have B2 := alo hb q2 B1
        go_wp2_with fail
        refine (left_any x2 b c g2).mono ?_
        rintro e v5 ⟨rfl, rfl⟩
        have e5 : c + -c = 0 := by omega
        go_wp2_with fail
        refine (shift_ok v5 b c (-c) 0 g2 ic i0 e5).mono ?_
        rintro e v6 ⟨rfl, h6, k6⟩
        go_wp2_with fail
        refine (left_any v6 b 0 h6).mono ?_
        rintro e v7 ⟨rfl, rfl⟩
        go_wp2_with fail
        refine (take_ok v7 b 0 0 0 h6 i0 (by omega) (by omega) (by omega)).mono ?_
        rintro e v8 ⟨rfl, h8, k8⟩
        go_wp2_with fail
        refine (take_no v8 b 0 1 h8 i0 (by omega)).mono ?_
        rintro e v9 ⟨rfl, h9, k9⟩
        go_wp2_with fail
        refine (left_any v9 b 0 h9).mono ?_
        rintro e v10 ⟨rfl, rfl⟩
        go_wp2
        go_ret
        exact ⟨rfl, alo hb k9 (alo hb k8 (alo hb k6 B2))⟩
      · have ht1 : 0 < take := by omega
        have ht2 : take ≤ c := by omega
        go_wp2_with fail
        refine (take_ok x1 b c take (c - take) h5 ic (by omega) (by omega) rfl).mono ?_
        rintro e x2 ⟨rfl, g2, q2⟩
        go_wp2_with fail
        refine (left_any x2 b (c - take) g2).mono ?_
        rintro e x3 ⟨rfl, rfl⟩
        go_wp2_with fail
        refine (give_ok x3 b (c - take) take c g2 ⟨by omega, by omega⟩ (by omega) ic (by omega)).mono ?_
        rintro e x4 ⟨rfl, g4, q4⟩
        have B2 := alo hb q4 (alo hb q2 B1)
        go_wp2_with fail
        refine (left_any x4 b c g4).mono ?_
        rintro e v5 ⟨rfl, rfl⟩
        have e5 : c + -c = 0 := by omega
        go_wp2_with fail
        refine (shift_ok v5 b c (-c) 0 g4 ic i0 e5).mono ?_
        rintro e v6 ⟨rfl, h6, k6⟩
        go_wp2_with fail
        refine (left_any v6 b 0 h6).mono ?_
        rintro e v7 ⟨rfl, rfl⟩
        go_wp2_with fail
        refine (take_ok v7 b 0 0 0 h6 i0 (by omega) (by omega) (by omega)).mono ?_
        rintro e v8 ⟨rfl, h8, k8⟩
        go_wp2_with fail
        refine (take_no v8 b 0 1 h8 i0 (by omega)).mono ?_
        rintro e v9 ⟨rfl, h9, k9⟩
        go_wp2_with fail
        refine (left_any v9 b 0 h9).mono ?_
        rintro e v10 ⟨rfl, rfl⟩
        go_wp2
        go_ret
        exact ⟨rfl, alo hb k9 (alo hb k8 (alo hb k6 B2))⟩
  · go_wp2_with fail
    refine (shift_no w2 b c by' h1 ic hs).mono ?_
    rintro e w3 ⟨rfl, h3, k3⟩
    have B1 := alo hb k3 hB1
    go_wp2_with fail
    refine (left_any w3 b c h3).mono ?_
    rintro e x1 ⟨rfl, rfl⟩
    by_cases ht : take < 0 ∨ max c 0 < take
    · go_wp2_with fail
      refine (take_no x1 b c take h3 ic ht).mono ?_
      rintro e x2 ⟨rfl, g2, q2⟩
      have B2 := alo hb q2 B1
      go_wp2_with fail
      refine (left_any x2 b c g2).mono ?_
      rintro e v5 ⟨rfl, rfl⟩
      have e5 : c + -c = 0 := by omega
      go_wp2_with fail
      refine (shift_ok v5 b c (-c) 0 g2 ic i0 e5).mono ?_
      rintro e v6 ⟨rfl, h6, k6⟩
      go_wp2_with fail
      refine (left_any v6 b 0 h6).mono ?_
      rintro e v7 ⟨rfl, rfl⟩
      go_wp2_with fail
      refine (take_ok v7 b 0 0 0 h6 i0 (by omega) (by omega) (by omega)).mono ?_
      rintro e v8 ⟨rfl, h8, k8⟩
      go_wp2_with fail
      refine (take_no v8 b 0 1 h8 i0 (by omega)).mono ?_
      rintro e v9 ⟨rfl, h9, k9⟩
      go_wp2_with fail
      refine (left_any v9 b 0 h9).mono ?_
      rintro e v10 ⟨rfl, rfl⟩
      go_wp2
      go_ret
      exact ⟨rfl, alo hb k9 (alo hb k8 (alo hb k6 B2))⟩
    · by_cases hz : take = 0
      · subst hz
        go_wp2_with fail
        refine (take_ok x1 b c 0 c h3 ic (by omega) (by omega) (by omega)).mono ?_
        rintro e x2 ⟨rfl, g2, q2⟩
        have B2 := alo hb q2 B1
        go_wp2_with fail
        refine (left_any x2 b c g2).mono ?_
        rintro e v5 ⟨rfl, rfl⟩
        have e5 : c + -c = 0 := by omega
        go_wp2_with fail
        refine (shift_ok v5 b c (-c) 0 g2 ic i0 e5).mono ?_
        rintro e v6 ⟨rfl, h6, k6⟩
        go_wp2_with fail
        refine (left_any v6 b 0 h6).mono ?_
        rintro e v7 ⟨rfl, rfl⟩
        go_wp2_with fail
        refine (take_ok v7 b 0 0 0 h6 i0 (by omega) (by omega) (by omega)).mono ?_
        rintro e v8 ⟨rfl, h8, k8⟩
        go_wp2_with fail
        refine (take_no v8 b 0 1 h8 i0 (by omega)).mono ?_
        rintro e v9 ⟨rfl, h9, k9⟩
        go_wp2_with fail
        refine (left_any v9 b 0 h9).mono ?_
        rintro e v10 ⟨rfl, rfl⟩
        go_wp2
        go_ret
        exact ⟨rfl, alo hb k9 (alo hb k8 (alo hb k6 B2))⟩
      · have ht1 : 0 < take := by omega
        have ht2 : take ≤ c := by omega
        go_wp2_with fail
        refine (take_ok x1 b c take (c - take) h3 ic (by omega) (by omega) rfl).mono ?_
        rintro e x2 ⟨rfl, g2, q2⟩
        go_wp2_with fail
        refine (left_any x2 b (c - take) g2).mono ?_
        rintro e x3 ⟨rfl, rfl⟩
        go_wp2_with fail
        refine (give_ok x3 b (c - take) take c g2 ⟨by omega, by omega⟩ (by omega) ic (by omega)).mono ?_
        rintro e x4 ⟨rfl, g4, q4⟩
        have B2 := alo hb q4 (alo hb q2 B1)
        go_wp2_with fail
        refine (left_any x4 b c g4).mono ?_
        rintro e v5 ⟨rfl, rfl⟩
        have e5 : c + -c = 0 := by omega
        go_wp2_with fail
        refine (shift_ok v5 b c (-c) 0 g4 ic i0 e5).mono ?_
        rintro e v6 ⟨rfl, h6, k6⟩
        go_wp2_with fail
        refine (left_any v6 b 0 h6).mono ?_
        rintro e v7 ⟨rfl, rfl⟩
        go_wp2_with fail
        refine (take_ok v7 b 0 0 0 h6 i0 (by omega) (by omega) (by omega)).mono ?_
        rintro e v8 ⟨rfl, h8, k8⟩
        go_wp2_with fail
        refine (take_no v8 b 0 1 h8 i0 (by omega)).mono ?_
        rintro e v9 ⟨rfl, h9, k9⟩
        go_wp2_with fail
        refine (left_any v9 b 0 h9).mono ?_
        rintro e v10 ⟨rfl, rfl⟩
        go_wp2
        go_ret
        exact ⟨rfl, alo hb k9 (alo hb k8 (alo hb k6 B2))⟩
end Go.Proofs.Ytoanmjnjpkbmiaa
