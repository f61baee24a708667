/- StateMirror. -/
import Derived.Test.YtmflgoghlbmkeaaC1
namespace Go.Proofs.Ytmflgoghlbmkeaa
open Go.RowKit
set_option linter.unusedVariables false
set_option linter.unusedSimpArgs false

set_option maxRecDepth 100000 in
set_option maxHeartbeats 8000000 in
theorem mirror_walk (s : Int) (pv : Value) (os : List OP) (w : World) (hv : In EO w pv os) :
    Calls Try.prog 4 #[.int .i64 s, pv] w fun e w' => e = .returned (.bool true) ∧ Below w.heap.size w w' := by
  have HV : Hid (In EO w pv os) := hv
  obtain ⟨vb, vc, rfl, hc1, hc2⟩ := hv.slice
  obtain ⟨m, hm⟩ : ∃ m, os.length = m := ⟨_, rfl⟩
  rw [hm] at hc1 HV ⊢
  have HN : Hid (os.length = m) := hm
  clear hm hv
  have main : ∀ s0, St s0 → True := fun _ _ => trivial
  have hcase : s < 0 ∨ (¬ s < 0 ∧ 6 < s) ∨ (¬ s < 0 ∧ ¬ 6 < s) := by omega
  rcases hcase with h0 | ⟨h0, h6⟩ | ⟨h0, h6⟩
  all_goals
    go_enter Try.func4, Try.ntmps4
    go_wp2_with fail
    refine (head_any w).mono ?_
    rintro e w0 ⟨rfl, hB0⟩
    go_wp2_with fail
    refine (mirror_any _ w0).mono ?_
    rintro e w1 ⟨rfl, rfl⟩
    go_wp2_with fail
    go_loopw [5, 6, 7] (fun av bv i wr => ∃ k : Nat, k ≤ m ∧ i = .int .i64 (k : Int) ∧ ∃ x : Int, av = .int .i64 x ∧ bv = .int .i64 (mi x) ∧ St x ∧ Below w.heap.size w wr) (fun _ _ i _ => m - (intOf i).toNat)
    case atStart => exact ⟨0, Nat.zero_le _, rfl, _, rfl, rfl, by unfold St; omega, hB0⟩
    case round =>
      obtain ⟨k, hk, rfl, x, rfl, rfl, hS, hB⟩ := hrel
      clear hB0
      have HS : Hid (St x) := hS
      clear hS
      by_cases hlt : k < m
      · have hlen := HN.out
        obtain ⟨B, off, cap, hvb, hBl, d0, d1⟩ := HV.out.op k (by omega)
        injection hvb with e1 e2 e3
        subst e1
        clear e2 e3
        have HD : Hid (w.cell? ⟨B, off + k * 2, none⟩ = some (.bool (os[k]'(by omega)).1)) := d0
        replace d0 := (hB.cell hBl).trans d0
        replace d1 := (hB.cell hBl).trans d1
        have hBw : B < wr.heap.size := Nat.lt_of_lt_of_le hBl hB.size
        obtain ⟨g, kd, hq⟩ : ∃ g kd, os[k]'(by omega) = (g, kd) := ⟨_, _, rfl⟩
        rw [hq] at d0 d1 HD
        simp only at d0 d1 HD
        have hlti : (k : Int) < (m : Int) := by omega
        clear hlen hq
        cases g
        · rcases mirrored x kd HS.out with h1 | ⟨n, h1, hn, y, h2, h3⟩
          · go_wp2_with fail
            refine (next_eq x false kd x 4 0 h1 _).mono ?_
            rintro e w2 ⟨rfl, hB2⟩
            replace hB := hB.trans (((bel1 wr _).trans (hB2.mono (by simp))).mono hB.size)
            clear hB2 d0 d1 h1
            go_wp2_with fail
            go_roundw
            case rel => exact ⟨k + 1, by omega, by simp, x, rfl, rfl, HS.out, hB⟩
            case measure => simp [intOf]; omega
          · have HS2 : Hid (St n) := hn
            clear hn
            go_wp2_with fail
            refine (next_eq x false kd n 0 0 h1 _).mono ?_
            rintro e w2 ⟨rfl, hB2⟩
            have hg : w2.heap[wr.heap.size]? = some (.cells #[.bool false, .int .i64 kd] 25) := (hB2.block _ (by simp)).trans (heap_alloc_new _ _)
            have c0 := cell_blk hg 0
            have c1 := cell_blk (setCell_block _ _ 0 (.bool true) _ _ _ hg) 0
            have c2 := cell_blk (setCell_block _ _ 0 (.bool true) _ _ _ hg) 1
            have f0 := frozen_blk hg 0
            simp at c0 c1 c2
            have hB3 : Below w.heap.size w (w2.setCell ⟨wr.heap.size, 0, none⟩ (.bool true)) := (hB.trans (((bel1 wr _).trans (hB2.mono (by simp))).mono hB.size)).trans ⟨rfl, rfl, rfl, by simp [World.setCell], fun i hi => setCell_other _ _ _ _ _ (by have := hB.size; omega)⟩
            clear hB2 hB hg
            go_wp2_with fail
            refine (next_eq (mi x) true kd (mi n) y 0 h2 _).mono ?_
            rintro e w3 ⟨rfl, hB4⟩
            replace hB3 := hB3.trans (hB4.mono hB3.size)
            clear hB4 h1 h2 d0 d1 c0 c1 c2 f0
            have d0 := (hB3.cell hBl).trans HD.out
            have hBw3 : B < w3.heap.size := Nat.lt_of_lt_of_le hBl hB3.size
            rcases h3 with rfl | rfl
            all_goals
              go_wp2_with fail
              refine (mirror_any _ _).mono ?_
              rintro e w4 ⟨rfl, rfl⟩
              go_wp2_with fail
              go_roundw
              case rel => exact ⟨k + 1, by omega, by simp, n, rfl, rfl, HS2.out, hB3⟩
              case measure => simp [intOf]; omega
        · rcases mirrored (mi x) kd (mi_St HS.out) with h1 | ⟨n, h1, hn, y, h2, h3⟩
          · go_wp2_with fail
            refine (next_eq (mi x) false kd (mi x) 4 0 h1 _).mono ?_
            rintro e w2 ⟨rfl, hB2⟩
            replace hB := hB.trans (((bel1 wr _).trans (hB2.mono (by simp))).mono hB.size)
            clear hB2 d0 d1 h1
            go_wp2_with fail
            go_roundw
            case rel => exact ⟨k + 1, by omega, by simp, x, rfl, rfl, HS.out, hB⟩
            case measure => simp [intOf]; omega
          · rw [mi_mi] at h2
            have HS2 : Hid (St (mi n)) := mi_St hn
            have HM : Hid (mi (mi n) = n) := mi_mi n
            clear hn
            go_wp2_with fail
            refine (next_eq (mi x) false kd n 0 0 h1 _).mono ?_
            rintro e w2 ⟨rfl, hB2⟩
            have hg : w2.heap[wr.heap.size]? = some (.cells #[.bool false, .int .i64 kd] 25) := (hB2.block _ (by simp)).trans (heap_alloc_new _ _)
            have c0 := cell_blk hg 0
            have c1 := cell_blk (setCell_block _ _ 0 (.bool true) _ _ _ hg) 0
            have c2 := cell_blk (setCell_block _ _ 0 (.bool true) _ _ _ hg) 1
            have f0 := frozen_blk hg 0
            simp at c0 c1 c2
            have hB3 : Below w.heap.size w (w2.setCell ⟨wr.heap.size, 0, none⟩ (.bool true)) := (hB.trans (((bel1 wr _).trans (hB2.mono (by simp))).mono hB.size)).trans ⟨rfl, rfl, rfl, by simp [World.setCell], fun i hi => setCell_other _ _ _ _ _ (by have := hB.size; omega)⟩
            clear hB2 hB hg
            go_wp2_with fail
            refine (next_eq x true kd (mi n) y 0 h2 _).mono ?_
            rintro e w3 ⟨rfl, hB4⟩
            replace hB3 := hB3.trans (hB4.mono hB3.size)
            clear hB4 h1 h2 d0 d1 c0 c1 c2 f0
            have d0 := (hB3.cell hBl).trans HD.out
            have hBw3 : B < w3.heap.size := Nat.lt_of_lt_of_le hBl hB3.size
            rcases h3 with rfl | rfl
            all_goals
              go_wp2_with fail
              refine (mirror_any _ _).mono ?_
              rintro e w4 ⟨rfl, rfl⟩
              go_wp2_with fail
              go_roundw
              case rel => exact ⟨k + 1, by omega, by simp, mi n, rfl, by rw [HM.out], HS2.out, hB3⟩
              case measure => simp [intOf]; omega
      · have hlti : ¬ (k : Int) < (m : Int) := by omega
        go_wp2
        go_ret
        exact ⟨rfl, hB⟩
end Go.Proofs.Ytmflgoghlbmkeaa
