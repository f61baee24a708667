/- StateNexts. -/
import Derived.Test.YtmflgoghlbmkeaaC1
import Derived.Test.YtmflgoghlbmkeaaA4
import Derived.Deep.RegionHeld3
namespace Go.Proofs.Ytmflgoghlbmkeaa
open Go.RowKit
set_option linter.unusedVariables false
set_option linter.unusedSimpArgs false

theorem rx_eq (s : Int) (g : Bool) (k n v c : Int) (h : nx s g k = (n, v, c)) (w : World) : Calls Try.prog 11 #[.int .i64 s, .agg #[.bool g, .int .i64 k]] w fun e w' => e = .returned (.tuple #[.int .i64 n, .agg #[.int .i64 v, .int .i64 c]]) ∧ Below w.heap.size w w' := by
  have hn := rx_any s g k
  rw [h] at hn
  exact hn w

theorem bstep {w W W' : World} (h : Below w.heap.size w W) (k : Below W.heap.size W W') : Below w.heap.size w W' := h.trans (k.mono h.size)
theorem blk_zero {W w5 : World} {a b : Value} {t : TypeId} (h : Below (W.drew.alloc (.cells #[a, b] t)).heap.size (W.drew.alloc (.cells #[a, b] t)) w5) : w5.heap[W.heap.size]? = some (.cells #[a, b] t) := (h.block W.heap.size (by simp [size_dr])).trans (heap_alloc_new W.drew _)
theorem bset2 {w W : World} {g : Nat} {x y : Value} (h : Below w.heap.size w W) (hg : w.heap.size ≤ g) : Below w.heap.size w ((W.setCell ⟨g, 0, none⟩ x).setCell ⟨g, 1, none⟩ y) := by
  have k2 : Below w.heap.size W (W.setCell ⟨g, 0, none⟩ x) := ⟨rfl, rfl, rfl, by simp [World.setCell], fun i hi => setCell_other _ _ _ _ _ (by omega)⟩
  exact (h.trans k2).trans ⟨rfl, rfl, rfl, by simp [World.setCell], fun i hi => setCell_other _ _ _ _ _ (by omega)⟩
theorem balloc {w W : World} (h : Below w.heap.size w W) (o : Obj) : Below w.heap.size w (W.alloc o) := h.alloc h.size o

set_option maxRecDepth 100000 in
set_option maxHeartbeats 8000000 in
theorem nexts_walk (s : Int) (pv : Value) (os : List OP) (w : World) (hv : In EO w pv os) :
    Calls Try.prog 6 #[.int .i64 s, pv] w fun e w' => e = .returned (.bool true) ∧ Below w.heap.size w w' := by
  have HV : Hid (In EO w pv os) := hv
  obtain ⟨vb, vc, rfl, hc1, hc2⟩ := hv.slice
  obtain ⟨m, hm⟩ : ∃ m, os.length = m := ⟨_, rfl⟩
  rw [hm] at hc1 HV ⊢
  have HN : Hid (os.length = m) := hm
  clear hm hv
  go_enter Try.func6, Try.ntmps6
  go_wp2_with fail
  refine (head_any w).mono ?_
  rintro e w0 ⟨rfl, hB0⟩
  go_wp2_with fail
  refine (names_any w0).mono ?_
  rintro e w1 ⟨rfl, rfl⟩
  go_wp2_with fail
  refine (counts_any s w1).mono ?_
  rintro e w2 ⟨rfl, rfl⟩
  go_wp2_with fail
  refine (rcounts_any s w2).mono ?_
  rintro e w3 ⟨rfl, rfl⟩
  have HC : Hid ((ct s != ct s) = false) := by unfold Hid; cases ct s <;> rfl
  obtain ⟨t0, ht0⟩ : ∃ t, ct s = t := ⟨_, rfl⟩
  rw [ht0]
  clear HC ht0
  cases t0
  all_goals
    go_wp2_with fail
    go_loopw [0, 5] (fun sv i wr => ∃ k : Nat, k ≤ m ∧ i = .int .i64 (k : Int) ∧ ∃ x : Int, sv = .int .i64 x ∧ Below w.heap.size w wr) (fun _ i _ => m - (intOf i).toNat)
    case atStart => exact ⟨0, Nat.zero_le _, rfl, _, rfl, hB0⟩
    case round =>
      obtain ⟨k, hk, rfl, x, rfl, hB⟩ := hrel
      clear hB0
      by_cases hlt : k < m
      · have hlen := HN.out
        obtain ⟨B, off, cap, hvb, hBl, d0, d1⟩ := HV.out.op k (by omega)
        injection hvb with e1 e2 e3
        subst e1
        clear e2 e3
        obtain ⟨g, kd, hq⟩ : ∃ g kd, os[k]'(by omega) = (g, kd) := ⟨_, _, rfl⟩
        rw [hq] at d0 d1
        simp only at d0 d1
        have HD0 : Hid (w.cell? ⟨B, off + k * 2, none⟩ = some (.bool g)) := d0
        have HD1 : Hid (w.cell? ⟨B, off + k * 2 + 1, none⟩ = some (.int .i64 kd)) := d1
        replace d0 := (hB.cell hBl).trans d0
        replace d1 := (hB.cell hBl).trans d1
        have hBw : B < wr.heap.size := Nat.lt_of_lt_of_le hBl hB.size
        have hlti : (k : Int) < (m : Int) := by omega
        clear hlen hq
        obtain ⟨n, v, c, hx⟩ : ∃ n v c, nx x g kd = (n, v, c) := ⟨_, _, _, rfl⟩
        go_wp2_with fail
        refine (next_eq x g kd n v c hx _).mono ?_
        rintro e w4 ⟨rfl, hB2⟩
        replace hB := hB.trans (hB2.mono hB.size)
        clear hB2 d0 d1 hBw
        have d0 := (hB.cell hBl).trans HD0.out
        have d1 := (hB.cell hBl).trans HD1.out
        have hBw : B < w4.heap.size := Nat.lt_of_lt_of_le hBl hB.size
        go_wp2_with fail
        have held : Hid (∀ W, Below w.heap.size w W → W.cell? ⟨B, off + k * 2, none⟩ = some (.bool g) ∧ W.cell? ⟨B, off + k * 2 + 1, none⟩ = some (.int .i64 kd) ∧ Below w.heap.size w W) := fun W h => ⟨(h.cell hBl).trans HD0.out, (h.cell hBl).trans HD1.out, h⟩
        go_region_held3 (fun W => W.cell? ⟨B, off + k * 2, none⟩ = some (.bool g) ∧ W.cell? ⟨B, off + k * 2 + 1, none⟩ = some (.int .i64 kd) ∧ Below w.heap.size w W) (first | exact held.out _ hB.drew | exact held.out _ (bstep (And.right (And.right (by assumption))) (by assumption)) | exact held.out _ (balloc (And.right (And.right (by assumption))) _) | exact held.out _ (balloc (bstep hB.drew (by assumption)) _) | exact held.out _ (bset2 (And.right (And.right (by assumption))) hB.size)) (first | (go_at_call 11; refine (rx_eq x g kd n v c hx _).mono ?_; rintro e w5 ⟨rfl, hB5⟩; have q := blk_zero hB5; have q0 := cell_blk q 0; have q1 := cell_blk q 1; have f0 := frozen_blk q 0; have f1 := frozen_blk q 1; simp only [List.getElem?_toArray, List.getElem?_cons_zero, List.getElem?_cons_succ] at q0 q1) | (go_at_call 11; refine (rx_eq x g kd n v c hx _).mono ?_; rintro e w5 ⟨rfl, hB5⟩))
        rotate_left
        · rename_i hS
          have hB6 := hS.2.2
          have z := setCell_block _ _ 1 (.int .i64 c) _ _ _ (setCell_block _ _ 0 (.int .i64 v) _ _ _ q)
          have z0 := cell_blk z 0
          have z1 := cell_blk z 1
          simp at z0 z1
          clear hS held hB5 q q0 q1 f0 f1 d0 d1 hx hB HD0 HD1 z
          go_wp2_with fail
          refine (counts_any n _).mono ?_
          rintro e w6 ⟨rfl, rfl⟩
          go_wp2_with fail
          refine (rcounts_any n _).mono ?_
          rintro e w7 ⟨rfl, rfl⟩
          obtain ⟨t1, ht1⟩ : ∃ t, ct n = t := ⟨_, rfl⟩
          rw [ht1]
          clear ht1
          cases t1
          all_goals
            go_wp2_with fail
            go_roundw
            case rel => exact ⟨k + 1, by omega, by simp, _, rfl, hB6⟩
            case measure => simp [intOf]; omega
        · rename_i hS
          have hB6 := hS.2.2
          clear hS held hB5 d0 d1 hx hB HD0 HD1
          go_wp2_with fail
          refine (counts_any n _).mono ?_
          rintro e w6 ⟨rfl, rfl⟩
          go_wp2_with fail
          refine (rcounts_any n _).mono ?_
          rintro e w7 ⟨rfl, rfl⟩
          obtain ⟨t1, ht1⟩ : ∃ t, ct n = t := ⟨_, rfl⟩
          rw [ht1]
          clear ht1
          cases t1
          all_goals
            go_wp2_with fail
            go_roundw
            case rel => exact ⟨k + 1, by omega, by simp, _, rfl, hB6⟩
            case measure => simp [intOf]; omega
      · have hlti : ¬ (k : Int) < (m : Int) := by omega
        go_wp2
        go_ret
        exact ⟨rfl, hB⟩
end Go.Proofs.Ytmflgoghlbmkeaa
