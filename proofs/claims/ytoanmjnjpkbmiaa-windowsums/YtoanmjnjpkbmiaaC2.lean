/- WindowSums. -/
import Derived.Test.YtoanmjnjpkbmiaaC1
namespace Go.Proofs.Ytoanmjnjpkbmiaa
open Go.RowKit
set_option linter.unusedVariables false
set_option linter.unusedSimpArgs false

set_option maxRecDepth 100000 in
set_option maxHeartbeats 16000000 in
theorem sums_walk (n : Int) (pv : Value) (os : List OP) (w : World) (hv : In EO w pv os) :
    Calls Try.prog 3 #[.int .i64 n, pv] w fun e w' => e = .returned (.bool true) ∧ Below w.heap.size w w' := by
  have HV : Hid (In EO w pv os) := hv
  obtain ⟨vb, vc, rfl, hc1, hc2⟩ := hv.slice
  obtain ⟨m, hm⟩ : ∃ m, os.length = m := ⟨_, rfl⟩
  rw [hm] at hc1 HV ⊢
  have HN : Hid (os.length = m) := hm
  clear hm hv
  go_enter Try.func3, Try.ntmps3
  go_wp2_with fail
  refine (first_any w).mono ?_
  rintro e w0 ⟨rfl, hB0⟩
  go_wp2_with fail
  refine (new_any n w0).mono ?_
  rintro e w1 ⟨b, rfl, h1, hb, hB1⟩
  replace hb : w.heap.size ≤ b := Nat.le_trans hB0.size hb
  have S1 : Hid (Sm w b (cl n) w1) := ⟨hB0.trans (hB1.mono hB0.size), h1, cl_in n⟩
  clear h1 hB0 hB1
  have main : ∀ x, cl n = x → True := fun _ _ => trivial
  obtain ⟨x0, hx0⟩ : ∃ x, cl n = x := ⟨_, rfl⟩
  rw [hx0] at S1
  have hcase : (n < 0 ∧ x0 = 0) ∨ (0 ≤ n ∧ 2147483647 < n ∧ x0 = 2147483647) ∨ (0 ≤ n ∧ n ≤ 2147483647 ∧ x0 = n) := by unfold cl at hx0; omega
  clear hx0
  rcases hcase with ⟨q1, rfl⟩ | ⟨q1, q2, rfl⟩ | ⟨q1, q2, rfl⟩
  all_goals
    go_wp2_with fail
    go_loopw [0, 6] (fun nv i wr => ∃ k : Nat, k ≤ m ∧ i = .int .i64 (k : Int) ∧ ∃ x : Int, nv = .int .i64 x ∧ Sm w b x wr) (fun _ i _ => m - (intOf i).toNat)
    case atStart => exact ⟨0, Nat.zero_le _, rfl, _, rfl, S1.out⟩
    case round =>
      obtain ⟨k, hk, rfl, x, rfl, S⟩ := hrel
      clear S1
      by_cases hlt : k < m
      · have hlen := HN.out
        obtain ⟨B, off, cap, hvb, hBl, d0, d1, d2⟩ := HV.out.op k (by omega)
        injection hvb with e1 e2 e3
        subst e1
        clear e2 e3
        replace d0 := (S.bel.cell hBl).trans d0
        replace d1 := (S.bel.cell hBl).trans d1
        replace d2 := (S.bel.cell hBl).trans d2
        have hBw : B < wr.heap.size := Nat.lt_of_lt_of_le hBl S.bel.size
        obtain ⟨kd, ww, N, hq⟩ : ∃ kd ww N, os[k]'(by omega) = (kd, ww, N) := ⟨_, _, _, rfl⟩
        rw [hq] at d0 d1 d2
        simp only at d0 d1 d2
        have hlti : (k : Int) < (m : Int) := by omega
        have S2 : Sk w b x wr.heap.size #[.int .i64 kd, .int .i64 ww, .int .i64 N] (wr.alloc (.cells #[.int .i64 kd, .int .i64 ww, .int .i64 N] 27)) := ⟨⟨S.bel.trans ((bel1 _ _).mono S.bel.size), S.wd.below (bel1 _ _), S.inb⟩, heap_alloc_new _ _⟩
        clear hlen hq S
        go_wp2_with fail
        refine (left_any _ b x S2.wd).mono ?_
        rintro e w2 ⟨rfl, hw2⟩
        rw [hw2]
        clear hw2 w2
        have b0 := cell_blk S2.op 0
        have b2 := cell_blk S2.op 2
        simp only [List.getElem?_toArray, List.getElem?_cons_zero, List.getElem?_cons_succ] at b0 b2
        have s4 := S2.inb.1
        have s5 := S2.inb.2
        by_cases hk1 : kd = 1
        · subst hk1
          by_cases h0 : N < 0
          · have e1 : (N == 0) = false := by simp; omega
            have e2 : ¬ 0 < N := by omega
            go_wp2_with fail
            refine (take_no _ b x N S2.wd S2.inb (.inl h0)).mono ?_
            rintro e w3 ⟨rfl, h3, k3⟩
            have S3 := S2.call hb h3 S2.inb k3
            have c0 := cell_blk S3.op 0
            have c2 := cell_blk S3.op 2
            simp only [List.getElem?_toArray, List.getElem?_cons_zero, List.getElem?_cons_succ] at c0 c2
            have S4 := S3.toSm
            clear S3 S2 h3 k3
            go_wp2_with fail
            go_roundw
            case rel => exact ⟨k + 1, by omega, by simp, x, rfl, S4⟩
            case measure => simp [intOf]; omega
          · by_cases hz : N = 0
            · subst hz
              go_wp2_with fail
              refine (take_ok _ b x 0 x S2.wd S2.inb (by omega) (by omega) (by omega)).mono ?_
              rintro e w3 ⟨rfl, h3, k3⟩
              have S3 := S2.call hb h3 S2.inb k3
              have c0 := cell_blk S3.op 0
              have c2 := cell_blk S3.op 2
              simp only [List.getElem?_toArray, List.getElem?_cons_zero, List.getElem?_cons_succ] at c0 c2
              have S4 := S3.toSm
              clear S3 S2 h3 k3
              go_wp2_with fail
              go_roundw
              case rel => exact ⟨k + 1, by omega, by simp, x, rfl, S4⟩
              case measure => simp [intOf]; omega
            · have e1 : (N == 0) = false := by simp; omega
              have e2 : 0 < N := by omega
              by_cases hy : N ≤ x
              · have iy : InB (x - N) := ⟨by omega, by omega⟩
                obtain ⟨iy1, iy2⟩ := iy
                go_wp2_with fail
                refine (take_ok _ b x N (x - N) S2.wd S2.inb (by omega) (by omega) rfl).mono ?_
                rintro e w3 ⟨rfl, h3, k3⟩
                have S3 := S2.call hb h3 ⟨iy1, iy2⟩ k3
                have c0 := cell_blk S3.op 0
                have c2 := cell_blk S3.op 2
                simp only [List.getElem?_toArray, List.getElem?_cons_zero, List.getElem?_cons_succ] at c0 c2
                have S4 := S3.toSm
                clear S3 S2 h3 k3
                go_wp2_with fail
                go_roundw
                case rel => exact ⟨k + 1, by omega, by simp, (x - N), rfl, S4⟩
                case measure => simp [intOf]; omega
              · have e3 : ¬ N ≤ x := hy
                go_wp2_with fail
                refine (take_no _ b x N S2.wd S2.inb (.inr (by omega))).mono ?_
                rintro e w3 ⟨rfl, h3, k3⟩
                have S3 := S2.call hb h3 S2.inb k3
                have c0 := cell_blk S3.op 0
                have c2 := cell_blk S3.op 2
                simp only [List.getElem?_toArray, List.getElem?_cons_zero, List.getElem?_cons_succ] at c0 c2
                have S4 := S3.toSm
                clear S3 S2 h3 k3
                go_wp2_with fail
                go_roundw
                case rel => exact ⟨k + 1, by omega, by simp, x, rfl, S4⟩
                case measure => simp [intOf]; omega
        · by_cases hk2 : kd = 2
          · subst hk2
            by_cases h0 : N < 1
            · go_wp2_with fail
              refine (give_low _ b x N S2.wd S2.inb h0).mono ?_
              rintro e w3 ⟨rfl, h3, k3⟩
              have S3 := S2.call hb h3 S2.inb k3
              have c0 := cell_blk S3.op 0
              have c2 := cell_blk S3.op 2
              simp only [List.getElem?_toArray, List.getElem?_cons_zero, List.getElem?_cons_succ] at c0 c2
              have S4 := S3.toSm
              clear S3 S2 h3 k3
              go_wp2_with fail
              go_roundw
              case rel => exact ⟨k + 1, by omega, by simp, x, rfl, S4⟩
              case measure => simp [intOf]; omega
            · by_cases hy : InB (x + N)
              · obtain ⟨iy1, iy2⟩ := hy
                go_wp2_with fail
                refine (give_ok _ b x N (x + N) S2.wd S2.inb (by omega) ⟨iy1, iy2⟩ rfl).mono ?_
                rintro e w3 ⟨rfl, h3, k3⟩
                have S3 := S2.call hb h3 ⟨iy1, iy2⟩ k3
                have c0 := cell_blk S3.op 0
                have c2 := cell_blk S3.op 2
                simp only [List.getElem?_toArray, List.getElem?_cons_zero, List.getElem?_cons_succ] at c0 c2
                have S4 := S3.toSm
                clear S3 S2 h3 k3
                go_wp2_with fail
                go_roundw
                case rel => exact ⟨k + 1, by omega, by simp, (x + N), rfl, S4⟩
                case measure => simp [intOf]; omega
              · go_wp2_with fail
                refine (give_no _ b x N S2.wd S2.inb (by omega) hy).mono ?_
                rintro e w3 ⟨rfl, h3, k3⟩
                have S3 := S2.call hb h3 S2.inb k3
                have c0 := cell_blk S3.op 0
                have c2 := cell_blk S3.op 2
                simp only [List.getElem?_toArray, List.getElem?_cons_zero, List.getElem?_cons_succ] at c0 c2
                have S4 := S3.toSm
                clear S3 S2 h3 k3
                go_wp2_with fail
                go_roundw
                case rel => exact ⟨k + 1, by omega, by simp, x, rfl, S4⟩
                case measure => simp [intOf]; omega
          · by_cases hk3 : kd = 3
            · subst hk3
              by_cases hy : InB (x + N)
              · obtain ⟨iy1, iy2⟩ := hy
                go_wp2_with fail
                refine (shift_ok _ b x N (x + N) S2.wd S2.inb ⟨iy1, iy2⟩ rfl).mono ?_
                rintro e w3 ⟨rfl, h3, k3⟩
                have S3 := S2.call hb h3 ⟨iy1, iy2⟩ k3
                have c0 := cell_blk S3.op 0
                have c2 := cell_blk S3.op 2
                simp only [List.getElem?_toArray, List.getElem?_cons_zero, List.getElem?_cons_succ] at c0 c2
                have S4 := S3.toSm
                clear S3 S2 h3 k3
                go_wp2_with fail
                go_roundw
                case rel => exact ⟨k + 1, by omega, by simp, (x + N), rfl, S4⟩
                case measure => simp [intOf]; omega
              · go_wp2_with fail
                refine (shift_no _ b x N S2.wd S2.inb hy).mono ?_
                rintro e w3 ⟨rfl, h3, k3⟩
                have S3 := S2.call hb h3 S2.inb k3
                have c0 := cell_blk S3.op 0
                have c2 := cell_blk S3.op 2
                simp only [List.getElem?_toArray, List.getElem?_cons_zero, List.getElem?_cons_succ] at c0 c2
                have S4 := S3.toSm
                clear S3 S2 h3 k3
                go_wp2_with fail
                go_roundw
                case rel => exact ⟨k + 1, by omega, by simp, x, rfl, S4⟩
                case measure => simp [intOf]; omega
            · have hb1 : (kd == 1) = false := by simpa using hk1
              have hb2 : (kd == 2) = false := by simpa using hk2
              have hb3 : (kd == 3) = false := by simpa using hk3
              have S4 := S2.toSm
              clear S2
              go_wp2_with fail
              go_roundw
              case rel => exact ⟨k + 1, by omega, by simp, x, rfl, S4⟩
              case measure => simp [intOf]; omega
      · have hlti : ¬ (k : Int) < (m : Int) := by omega
        have i1 := S.inb.1
        have i2 := S.inb.2
        go_wp2_with fail
        refine (left_any _ b x S.wd).mono ?_
        rintro e w2 ⟨rfl, rfl⟩
        go_wp2
        go_ret
        exact ⟨rfl, S.bel⟩
end Go.Proofs.Ytoanmjnjpkbmiaa
