/- A window and the document's side by side; plays. -/
import Derived.Test.YtoanmjnjpkbmiaaD2
namespace Go.Proofs.Ytoanmjnjpkbmiaa
open Go.RowKit
set_option linter.unusedVariables false
set_option linter.unusedSimpArgs false

/-- The window at b and the document's at r have the same left; the document's has at most M moves. -/
structure Pw (W : World) (b r : Nat) (v : Value) (M : Nat) (n : Int) : Prop where
  wd : Wd W b n
  rw' : ∃ f ms, Rw W r f v ms n ∧ ms.length ≤ M
def Ow (b r : Nat) (v : Value) (k : Nat) : Prop := k = b ∨ k = r ∨ v.ownBlock = some k
theorem Pw.inb {W : World} {b r : Nat} {v : Value} {M : Nat} {n : Int} (h : Pw W b r v M n) : InB n := by
  obtain ⟨f, ms, h1, h2⟩ := h.rw'
  exact h1.in'
theorem Pw.below {W W' : World} {b r : Nat} {v : Value} {M : Nat} {n : Int} (h : Pw W b r v M n) (hb : Below W.heap.size W W') : Pw W' b r v M n := by
  obtain ⟨f, ms, h1, h2⟩ := h.rw'
  exact ⟨h.wd.below hb, f, ms, h1.below hb, h2⟩
theorem Pw.keep {A : Nat → Prop} {W W' : World} {b r : Nat} {v : Value} {M : Nat} {n : Int} (h : Pw W b r v M n) (hk : Ks A W W') (ho : ∀ k, Ow b r v k → ¬ A k) : Pw W' b r v M n := by
  obtain ⟨f, ms, h1, h2⟩ := h.rw'
  exact ⟨h.wd.keep hk (ho b (.inl rfl)), f, ms, h1.keep hk fun k e => ho k (.inr e), h2⟩
theorem Pw.mono {W : World} {b r : Nat} {v : Value} {M N : Nat} {n : Int} (h : Pw W b r v M n) (hl : M ≤ N) : Pw W b r v N n := by
  obtain ⟨f, ms, h1, h2⟩ := h.rw'
  exact ⟨h.wd, f, ms, h1, by omega⟩
theorem Pw.lt {W : World} {b r : Nat} {v : Value} {M : Nat} {n : Int} (h : Pw W b r v M n) (k : Nat) (hk : Ow b r v k) : k < W.heap.size := by
  obtain ⟨f, ms, h1, h2⟩ := h.rw'
  rcases hk with e | e | e
  · rw [e]; exact h.wd.lt
  · rw [e]; exact h1.lt
  · exact h1.row.lt k e
theorem Pw.ty {W : World} {b r : Nat} {v : Value} {M : Nat} {n : Int} (h : Pw W b r v M n) (k : Nat) (hk : Ow b r v k) : ∃ c t, W.heap[k]? = some (.cells c t (0, 0)) ∧ (t = 42 ∨ t = 45 ∨ t = 2) := by
  obtain ⟨f, ms, h1, h2⟩ := h.rw'
  rcases hk with e | e | e
  · rw [e]; exact ⟨_, _, h.wd, .inl rfl⟩
  · rw [e]; exact ⟨_, _, h1.blk, .inr (.inl rfl)⟩
  · obtain ⟨c, hc⟩ := h1.row.ty k e
    exact ⟨c, _, hc, .inr (.inr rfl)⟩

set_option maxRecDepth 100000 in
set_option maxHeartbeats 4000000 in
theorem plays_any (W : World) (b r : Nat) (v : Value) (M : Nat) (n : Int) (h : Pw W b r v M n) (hM : (M + 1) * 8 ≤ 140737488355328) (kd ww N : Int) :
    Calls Try.prog 17 #[.pointer (some ⟨b, 0, none⟩), .pointer (some ⟨r, 0, none⟩), .agg #[.int .i64 kd, .int .i64 ww, .int .i64 N]] W fun e W' => e = .returned (.bool true) ∧ ∃ v' n', Pw W' b r v' (M + 1) n' ∧ Ks (Ow b r v) W W' ∧ ∀ k, Ow b r v' k → Ow b r v k ∨ W.heap.size ≤ k := by
  have hin := h.inb
  obtain ⟨f, ms, R, hl⟩ := h.rw'
  have hB : Below W.heap.size W (W.alloc (.cells #[.int .i64 kd, .int .i64 ww, .int .i64 N] 27)) := bel1 _ _
  have h0 : Wd _ b n := h.wd.below hB
  have R0 := R.below hB
  have hop0 : (W.alloc (.cells #[.int .i64 kd, .int .i64 ww, .int .i64 N] 27)).heap[W.heap.size]? = some (.cells #[.int .i64 kd, .int .i64 ww, .int .i64 N] 27 (0, 0)) := heap_alloc_new _ _
  have hgb : W.heap.size ≠ b := fun e => by have := h.wd.lt; omega
  have hrb : ∀ k, OwnR r v k → ¬ (k = b) := by
    rintro k (e | e) e2
    · have h1 := R.blk
      have h2 := h.wd
      unfold Wd at h2
      rw [← e, e2, h2] at h1
      simp at h1
    · obtain ⟨c, hc⟩ := R.row.ty k e
      have h2 := h.wd
      unfold Wd at h2
      rw [e2, h2] at hc
      simp [EI] at hc
  have fin : ∀ (w1 w2 : World) (v2 : Value) (ms2 : List Int) (n2 : Int) (f2 : Int), Wd w1 b n2 → Ks (fun j => j = b) (W.alloc (.cells #[.int .i64 kd, .int .i64 ww, .int .i64 N] 27)) w1 → Rw w2 r f2 v2 ms2 n2 → Ks (OwnR r v) w1 w2 → (∀ j, OwnR r v2 j → OwnR r v j ∨ w1.heap.size ≤ j) → ms2.length ≤ M + 1 →
      ∃ v' n', Pw w2 b r v' (M + 1) n' ∧ Ks (Ow b r v) W w2 ∧ ∀ k, Ow b r v' k → Ow b r v k ∨ W.heap.size ≤ k := by
    intro w1 w2 v2 ms2 n2 f2 a1 a2 a3 a4 a5 a6
    have hz := hB.size
    have hz1 := a2.size
    refine ⟨v2, n2, ⟨a1.keep a4 fun e => hrb b e rfl, f2, ms2, a3, a6⟩, ?_, ?_⟩
    · refine Ks.trans (Ks.trans (Ks.of_below (A := fun _ => False) hB) a2 (C := Ow b r v) (fun i _ e => e.elim) fun i _ e => .inl e) a4 (fun i _ e => e) fun i _ e => .inr e
    · rintro k (e | e)
      · exact .inl (.inl e)
      · rcases a5 k e with e | e
        · exact .inl (.inr e)
        · exact .inr (by omega)
  have c0 := cell_blk hop0 0
  have c2 := cell_blk hop0 2
  simp only [List.getElem?_toArray, List.getElem?_cons_zero, List.getElem?_cons_succ] at c0 c2
  go_enter Try.func17, Try.ntmps17
  by_cases hk1 : kd = 1
  · subst hk1
    by_cases q0 : N < 0
    · go_wp2_with fail
      refine (take_no _ b n N h0 hin (.inl q0)).mono ?_
      rintro e w1 ⟨rfl, h1, k1⟩
      have R1 : Rw w1 r f v ms n := R0.keep k1 hrb
      have hop1 := (k1.block _ (heap_lt hop0) hgb).trans hop0
      have c2 := cell_blk hop1 2
      simp only [List.getElem?_toArray, List.getElem?_cons_zero, List.getElem?_cons_succ] at c2
      go_wp2_with fail
      refine (rtake_neg w1 r f v ms n N R1 q0).mono ?_
      rintro e w2 ⟨rfl, hw2⟩
      rw [hw2]
      clear hw2 w2
      go_wp2
      go_ret
      exact ⟨rfl, fin _ _ _ _ _ _ h1 k1 R1 (Ks.refl _ _) (fun j hj => .inl hj) (by omega)⟩
    · by_cases hz : N = 0
      · subst hz
        go_wp2_with fail
        refine (take_ok _ b n 0 n h0 hin (by omega) (by omega) (by omega)).mono ?_
        rintro e w1 ⟨rfl, h1, k1⟩
        have R1 : Rw w1 r f v ms n := R0.keep k1 hrb
        have hop1 := (k1.block _ (heap_lt hop0) hgb).trans hop0
        have c2 := cell_blk hop1 2
        simp only [List.getElem?_toArray, List.getElem?_cons_zero, List.getElem?_cons_succ] at c2
        go_wp2_with fail
        refine (rtake_zero w1 r).mono ?_
        rintro e w2 ⟨rfl, hw2⟩
        rw [hw2]
        clear hw2 w2
        go_wp2
        go_ret
        exact ⟨rfl, fin _ _ _ _ _ _ h1 k1 R1 (Ks.refl _ _) (fun j hj => .inl hj) (by omega)⟩
      · have q1 : 0 < N := by omega
        by_cases hy : N ≤ n
        · have e9 : n - N = n + -N := by omega
          go_wp2_with fail
          refine (take_ok _ b n N (n + -N) h0 hin (by omega) (by omega) e9).mono ?_
          rintro e w1 ⟨rfl, h1, k1⟩
          have R1 : Rw w1 r f v ms n := R0.keep k1 hrb
          have hop1 := (k1.block _ (heap_lt hop0) hgb).trans hop0
          have c2 := cell_blk hop1 2
          simp only [List.getElem?_toArray, List.getElem?_cons_zero, List.getElem?_cons_succ] at c2
          go_wp2_with fail
          refine (rtake_ok w1 r f v ms n N R1 q1 hy (by omega)).mono ?_
          rintro e w2 ⟨rfl, v2, R2, k2, o2⟩
          go_wp2
          go_ret
          exact ⟨rfl, fin _ _ _ _ _ _ h1 k1 R2 k2 o2 (by simp; omega)⟩
        · have q2 : n < N := by omega
          go_wp2_with fail
          refine (take_no _ b n N h0 hin (.inr (by omega))).mono ?_
          rintro e w1 ⟨rfl, h1, k1⟩
          have R1 : Rw w1 r f v ms n := R0.keep k1 hrb
          have hop1 := (k1.block _ (heap_lt hop0) hgb).trans hop0
          have c2 := cell_blk hop1 2
          simp only [List.getElem?_toArray, List.getElem?_cons_zero, List.getElem?_cons_succ] at c2
          go_wp2_with fail
          refine (rtake_no w1 r f v ms n N R1 q1 q2).mono ?_
          rintro e w2 ⟨rfl, hw2⟩
          rw [hw2]
          clear hw2 w2
          go_wp2
          go_ret
          exact ⟨rfl, fin _ _ _ _ _ _ h1 k1 R1 (Ks.refl _ _) (fun j hj => .inl hj) (by omega)⟩
  · by_cases hk2 : kd = 2
    · subst hk2
      by_cases q0 : N < 1
      · go_wp2_with fail
        refine (give_low _ b n N h0 hin q0).mono ?_
        rintro e w1 ⟨rfl, h1, k1⟩
        have R1 : Rw w1 r f v ms n := R0.keep k1 hrb
        have hop1 := (k1.block _ (heap_lt hop0) hgb).trans hop0
        have c2 := cell_blk hop1 2
        simp only [List.getElem?_toArray, List.getElem?_cons_zero, List.getElem?_cons_succ] at c2
        go_wp2_with fail
        refine (rgive_low w1 r f v ms n N R1 q0).mono ?_
        rintro e w2 ⟨rfl, hw2⟩
        rw [hw2]
        clear hw2 w2
        go_wp2
        go_ret
        exact ⟨rfl, fin _ _ _ _ _ _ h1 k1 R1 (Ks.refl _ _) (fun j hj => .inl hj) (by omega)⟩
      · have q1 : 1 ≤ N := by omega
        by_cases hy : InB (n + N)
        · have sy : sf n N = true := by unfold sf; unfold InB at hy; simpa using hy
          go_wp2_with fail
          refine (give_ok _ b n N (n + N) h0 hin q1 hy rfl).mono ?_
          rintro e w1 ⟨rfl, h1, k1⟩
          have R1 : Rw w1 r f v ms n := R0.keep k1 hrb
          have hop1 := (k1.block _ (heap_lt hop0) hgb).trans hop0
          have c2 := cell_blk hop1 2
          simp only [List.getElem?_toArray, List.getElem?_cons_zero, List.getElem?_cons_succ] at c2
          go_wp2_with fail
          refine (rgive_ok w1 r f v ms n N R1 q1 sy (by omega)).mono ?_
          rintro e w2 ⟨rfl, v2, R2, k2, o2⟩
          go_wp2
          go_ret
          exact ⟨rfl, fin _ _ _ _ _ _ h1 k1 R2 k2 o2 (by simp; omega)⟩
        · have sy : sf n N = false := by unfold sf; unfold InB at hy; simp; omega
          go_wp2_with fail
          refine (give_no _ b n N h0 hin q1 hy).mono ?_
          rintro e w1 ⟨rfl, h1, k1⟩
          have R1 : Rw w1 r f v ms n := R0.keep k1 hrb
          have hop1 := (k1.block _ (heap_lt hop0) hgb).trans hop0
          have c2 := cell_blk hop1 2
          simp only [List.getElem?_toArray, List.getElem?_cons_zero, List.getElem?_cons_succ] at c2
          go_wp2_with fail
          refine (rgive_no w1 r f v ms n N R1 q1 sy).mono ?_
          rintro e w2 ⟨rfl, hw2⟩
          rw [hw2]
          clear hw2 w2
          go_wp2
          go_ret
          exact ⟨rfl, fin _ _ _ _ _ _ h1 k1 R1 (Ks.refl _ _) (fun j hj => .inl hj) (by omega)⟩
    · by_cases hk3 : kd = 3
      · subst hk3
        by_cases hy : InB (n + N)
        · have sy : sf n N = true := by unfold sf; unfold InB at hy; simpa using hy
          go_wp2_with fail
          refine (shift_ok _ b n N (n + N) h0 hin hy rfl).mono ?_
          rintro e w1 ⟨rfl, h1, k1⟩
          have R1 : Rw w1 r f v ms n := R0.keep k1 hrb
          have hop1 := (k1.block _ (heap_lt hop0) hgb).trans hop0
          have c2 := cell_blk hop1 2
          simp only [List.getElem?_toArray, List.getElem?_cons_zero, List.getElem?_cons_succ] at c2
          go_wp2_with fail
          refine (rshift_ok w1 r f v ms n N R1 sy (by omega)).mono ?_
          rintro e w2 ⟨rfl, v2, R2, k2, o2⟩
          go_wp2
          go_ret
          exact ⟨rfl, fin _ _ _ _ _ _ h1 k1 R2 k2 o2 (by simp; omega)⟩
        · have sy : sf n N = false := by unfold sf; unfold InB at hy; simp; omega
          go_wp2_with fail
          refine (shift_no _ b n N h0 hin hy).mono ?_
          rintro e w1 ⟨rfl, h1, k1⟩
          have R1 : Rw w1 r f v ms n := R0.keep k1 hrb
          have hop1 := (k1.block _ (heap_lt hop0) hgb).trans hop0
          have c2 := cell_blk hop1 2
          simp only [List.getElem?_toArray, List.getElem?_cons_zero, List.getElem?_cons_succ] at c2
          go_wp2_with fail
          refine (rshift_no w1 r f v ms n N R1 sy).mono ?_
          rintro e w2 ⟨rfl, hw2⟩
          rw [hw2]
          clear hw2 w2
          go_wp2
          go_ret
          exact ⟨rfl, fin _ _ _ _ _ _ h1 k1 R1 (Ks.refl _ _) (fun j hj => .inl hj) (by omega)⟩
      · by_cases hk4 : kd = 4
        · subst hk4
          have hnn : (n == n) = true := by simp
          go_wp2_with fail
          refine (left_any _ b n h0).mono ?_
          rintro e w1 ⟨rfl, hw1⟩
          rw [hw1]
          clear hw1 w1
          go_wp2_with fail
          refine (rleft_any _ r f v ms n R0).mono ?_
          rintro e w2 ⟨rfl, hw2⟩
          rw [hw2]
          clear hw2 w2
          go_wp2
          go_ret
          exact ⟨rfl, fin _ _ _ _ _ _ h0 (Ks.refl _ _) R0 (Ks.refl _ _) (fun j hj => .inl hj) (by omega)⟩
        · have hb1 : (kd == 1) = false := by simpa using hk1
          have hb2 : (kd == 2) = false := by simpa using hk2
          have hb3 : (kd == 3) = false := by simpa using hk3
          have hb4 : (kd == 4) = false := by simpa using hk4
          go_wp2
          go_ret
          exact ⟨rfl, fin _ _ _ _ _ _ h0 (Ks.refl _ _) R0 (Ks.refl _ _) (fun j hj => .inl hj) (by omega)⟩
end Go.Proofs.Ytoanmjnjpkbmiaa
