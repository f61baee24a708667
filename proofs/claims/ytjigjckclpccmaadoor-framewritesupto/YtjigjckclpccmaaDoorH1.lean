/- The laws' flags, and few. -/
import Derived.Test.YtjigjckclpccmaaDoorA6
import Derived.Test.YtjigjckclpccmaaDoorA5
namespace Go.Proofs.YtjigjckclpccmaaDoor
open Go.RowKit
set_option linter.unusedVariables false
set_option linter.unusedSimpArgs false

theorem idx52L (k : Nat) (W : World) (hk : k < 10) : (Instr.index 52 (.agg #[.int .i64 9, .int .i64 45, .int .i64 0, .int .i64 0, .int .i64 1, .int .i64 12, .int .i64 1, .int .i64 0, .int .i64 0, .int .i64 4]) (.int .i64 (k : Int))).run Tryd.prog W = .ok (.int .i64 (kflags k)) W := by
  obtain rfl | rfl | rfl | rfl | rfl | rfl | rfl | rfl | rfl | rfl : k = 0 ∨ k = 1 ∨ k = 2 ∨ k = 3 ∨ k = 4 ∨ k = 5 ∨ k = 6 ∨ k = 7 ∨ k = 8 ∨ k = 9 := by omega
  all_goals simp [Instr.index, asIntOf, asAgg, run_underlying Tryd.underlying52, part, Tryd.isAgg3, Tryd.sizeOf3, kflags]

set_option maxHeartbeats 2000000 in
theorem flags_law (T : Int) (hT0 : 0 ≤ T) (w : World) :
    Calls Tryd.prog 18 #[.int .i64 T] w fun e w' => e = .returned (.int .i64 (kflags (min T 10).toNat)) ∧ w' = w := by
  rcases (by omega : T = 0 ∨ T = 1 ∨ T = 2 ∨ T = 3 ∨ T = 4 ∨ T = 5 ∨ T = 6 ∨ T = 7 ∨ T = 8 ∨ T = 9 ∨ 10 ≤ T) with rfl | rfl | rfl | rfl | rfl | rfl | rfl | rfl | rfl | rfl | hT
  rotate_left 10
  · have h9 : (9 : Int) < T := by omega
    rw [show (min T 10).toNat = 10 by omega]
    go_enter Tryd.func18, Tryd.ntmps18
    go_wp2
    go_ret
    exact ⟨rfl, rfl⟩
  · have hx := fun W => idx52L 0 W (by omega)
    rw [show (((0 : Nat)) : Int) = 0 from rfl] at hx
    go_enter Tryd.func18, Tryd.ntmps18
    go_wp2
    go_ret
    exact ⟨rfl, rfl⟩
  · have hx := fun W => idx52L 1 W (by omega)
    rw [show (((1 : Nat)) : Int) = 1 from rfl] at hx
    go_enter Tryd.func18, Tryd.ntmps18
    go_wp2
    go_ret
    exact ⟨rfl, rfl⟩
  · have hx := fun W => idx52L 2 W (by omega)
    rw [show (((2 : Nat)) : Int) = 2 from rfl] at hx
    go_enter Tryd.func18, Tryd.ntmps18
    go_wp2
    go_ret
    exact ⟨rfl, rfl⟩
  · have hx := fun W => idx52L 3 W (by omega)
    rw [show (((3 : Nat)) : Int) = 3 from rfl] at hx
    go_enter Tryd.func18, Tryd.ntmps18
    go_wp2
    go_ret
    exact ⟨rfl, rfl⟩
  · have hx := fun W => idx52L 4 W (by omega)
    rw [show (((4 : Nat)) : Int) = 4 from rfl] at hx
    go_enter Tryd.func18, Tryd.ntmps18
    go_wp2
    go_ret
    exact ⟨rfl, rfl⟩
  · have hx := fun W => idx52L 5 W (by omega)
    rw [show (((5 : Nat)) : Int) = 5 from rfl] at hx
    go_enter Tryd.func18, Tryd.ntmps18
    go_wp2
    go_ret
    exact ⟨rfl, rfl⟩
  · have hx := fun W => idx52L 6 W (by omega)
    rw [show (((6 : Nat)) : Int) = 6 from rfl] at hx
    go_enter Tryd.func18, Tryd.ntmps18
    go_wp2
    go_ret
    exact ⟨rfl, rfl⟩
  · have hx := fun W => idx52L 7 W (by omega)
    rw [show (((7 : Nat)) : Int) = 7 from rfl] at hx
    go_enter Tryd.func18, Tryd.ntmps18
    go_wp2
    go_ret
    exact ⟨rfl, rfl⟩
  · have hx := fun W => idx52L 8 W (by omega)
    rw [show (((8 : Nat)) : Int) = 8 from rfl] at hx
    go_enter Tryd.func18, Tryd.ntmps18
    go_wp2
    go_ret
    exact ⟨rfl, rfl⟩
  · have hx := fun W => idx52L 9 W (by omega)
    rw [show (((9 : Nat)) : Int) = 9 from rfl] at hx
    go_enter Tryd.func18, Tryd.ntmps18
    go_wp2
    go_ret
    exact ⟨rfl, rfl⟩

/-- Params that an argument holds. -/
def PIn (w : World) (v : Value) (l : List (Int × Int)) : Prop :=
  (∃ b cap, v = .slice b 0 cap ∧ l = []) ∨ ∃ B off cap, v = .slice (some ⟨B, off, none⟩) l.length cap ∧ l.length ≤ cap ∧ cap ≤ 9223372036854775807 ∧ B < w.heap.size ∧
    ∀ k (h : k < l.length), w.cell? ⟨B, off + k * 2, none⟩ = some (.int .i64 l[k].1) ∧ w.cell? ⟨B, off + k * 2 + 1, none⟩ = some (.int .i64 l[k].2)
theorem PIn.below {w w' : World} {v : Value} {l : List (Int × Int)} (h : PIn w v l) (hb : Below w.heap.size w w') : PIn w' v l := by
  rcases h with h | ⟨B, off, cap, h1, h2, h3, h4, h5⟩
  · exact .inl h
  · refine .inr ⟨B, off, cap, h1, h2, h3, Nat.lt_of_lt_of_le h4 hb.size, fun k hk => ?_⟩
    have := h5 k hk
    exact ⟨(hb.cell h4).trans this.1, (hb.cell h4).trans this.2⟩

def fewS (l : List (Int × Int)) : List (Int × Int) := (l.take 2730).map fun q => (q.1 % 65536, q.2 % 4294967296)
theorem fewS_length (l : List (Int × Int)) : (fewS l).length ≤ 2730 := by simp [fewS]; omega
def fewK (l : List (Int × Int)) (k : Nat) : List (Int × Int) := (l.take k).map fun q => (q.1 % 65536, q.2 % 4294967296)
theorem fewK_length (l : List (Int × Int)) (k : Nat) (h : k ≤ l.length) : (fewK l k).length = k := by simp [fewK]; omega
theorem fewK_succ (l : List (Int × Int)) (k : Nat) (h : k < l.length) : fewK l (k + 1) = fewK l k ++ [(l[k].1 % 65536, l[k].2 % 4294967296)] := by
  unfold fewK
  rw [List.take_succ_eq_append_getElem h, List.map_append]
  rfl
theorem fewK_end (l : List (Int × Int)) (k : Nat) (h : k = l.length ∨ k = 2730) (hk : k ≤ l.length) (hk2 : k ≤ 2730) : fewK l k = fewS l := by
  unfold fewK fewS
  congr 1
  rcases h with rfl | rfl
  · rw [List.take_of_length_le (Nat.le_refl _), List.take_of_length_le hk2]
  · rfl

set_option maxRecDepth 100000 in
set_option maxHeartbeats 2000000 in
theorem few_any (w : World) (v : Value) (l : List (Int × Int)) (hv : PIn w v l) :
    Calls Tryd.prog 11 #[v] w fun e w' => ∃ o, e = .returned o ∧ PRow w' o (fewS l) ∧ (∀ k, o.ownBlock = some k → w.heap.size ≤ k) ∧ Below w.heap.size w w' := by
  have HV : Hid (PIn w v l) := hv
  obtain ⟨vb, n, vc, rfl, hln⟩ : ∃ vb n vc, v = .slice vb n vc ∧ l.length = n := by
    rcases hv with ⟨b, cap, rfl, rfl⟩ | ⟨B, off, cap, rfl, _⟩
    · exact ⟨b, 0, cap, rfl, rfl⟩
    · exact ⟨_, _, cap, rfl, rfl⟩
  have HN : Hid (l.length = n) := hln
  clear hv hln
  go_enter Tryd.func11, Tryd.ntmps11
  go_wp2
  go_loopw [3, 4] (fun o i wr => ∃ k : Nat, k ≤ n ∧ k ≤ 2730 ∧ i = .int .i64 (k : Int) ∧ Hid (PRow wr o (fewK l k) ∧ (∀ j, o.ownBlock = some j → w.heap.size ≤ j) ∧ Below w.heap.size w wr)) (fun _ i _ => 2730 - (intOf i).toNat)
  case atStart => exact ⟨0, by omega, by omega, rfl, PRow.nil _, fun j hj => by simp [Value.ownBlock] at hj, Below.refl _ _⟩
  case round =>
    obtain ⟨k, hk, hk2, rfl, HP⟩ := hrel
    obtain ⟨hP, hfr, hB⟩ := HP.out
    obtain ⟨ob, oc, ho⟩ := hP.slice
    by_cases hlt : k < n
    · by_cases hlt2 : k < 2730
      · have hlen := HN.out
        obtain ⟨B, off, hvb, hc1, hc2, d1, d2⟩ : ∃ B off, vb = some ⟨B, off, none⟩ ∧ n ≤ vc ∧ vc ≤ 9223372036854775807 ∧ wr.cell? ⟨B, off + k * 2, none⟩ = some (.int .i64 (l[k]'(by omega)).1) ∧ wr.cell? ⟨B, off + k * 2 + 1, none⟩ = some (.int .i64 (l[k]'(by omega)).2) := by
          rcases HV.out with ⟨_, _, h1, h2⟩ | ⟨B, off, cap, h1, h2, h3, h4, h5⟩
          · rw [h2] at hlen; simp at hlen; omega
          · injection h1 with e1 e2 e3
            have := h5 k (by omega)
            exact ⟨B, off, e1, by omega, by omega, (hB.cell h4).trans this.1, (hB.cell h4).trans this.2⟩
        subst hvb
        obtain ⟨x, hx⟩ : ∃ x, (l[k]'(by omega)).1 = x := ⟨_, rfl⟩
        obtain ⟨y, hy⟩ : ∃ y, (l[k]'(by omega)).2 = y := ⟨_, rfl⟩
        have hsucc : fewK l (k + 1) = fewK l k ++ [(x % 65536, y % 4294967296)] := by rw [fewK_succ l k (by omega), hx, hy]
        rw [hx] at d1
        rw [hy] at d2
        have ha1 : bits .and .i64 x 65535 = x % 65536 := and_any x 16 (by decide)
        have ha2 : bits .and .i64 y 4294967295 = y % 4294967296 := and_any y 32 (by decide)
        have hBk : (wr.alloc (.cells #[.int .i64 (x % 65536), .int .i64 (y % 4294967296)] 37)).drew.heap[wr.heap.size]? = some (.cells #[.int .i64 (x % 65536), .int .i64 (y % 4294967296)] 37 (0, 0)) := heap_alloc_new wr _
        have hb1 : Below wr.heap.size wr (wr.alloc (.cells #[.int .i64 (x % 65536), .int .i64 (y % 4294967296)] 37)).drew := ((Below.refl _ wr).alloc (Nat.le_refl _) _).drew
        have hkl : (fewK l k).length = k := fewK_length l k (by omega)
        obtain ⟨base, cap, w2, hrun, hP2, hG2⟩ := prow_append _ _ (fewK l k) (hP.below (w' := (wr.alloc (.cells #[.int .i64 (x % 65536), .int .i64 (y % 4294967296)] 37)).drew) fun k _ hk => hb1.block k hk) wr.heap.size _ _ hBk (by rw [hkl]; omega)
        have hfin : Hid (PRow w2 (.slice base ((fewK l k).length + 1) cap) (fewK l (k + 1)) ∧ (∀ j, (Value.slice base ((fewK l k).length + 1) cap).ownBlock = some j → w.heap.size ≤ j) ∧ Below w.heap.size w w2) := by
          refine ⟨by rw [hsucc]; exact hP2, fun j hj => (hG2.own j hj).elim (hfr j) fun hh => by have := hB.size; have := hb1.size; omega, ?_⟩
          refine (hB.trans (hb1.mono hB.size)).trans ⟨hG2.os, hG2.tape, hG2.output, hG2.size, fun j hj => hG2.block j (Nat.lt_of_lt_of_le hj (Nat.le_trans hB.size hb1.size)) fun e => ?_⟩
          have := hfr j e
          omega
        rw [hkl] at hrun hfin ho
        subst ho
        replace hrun : Hid _ := hrun
        have hlti : (k : Int) < (n : Int) := by omega
        have hlt2i : (k : Int) < 2730 := by omega
        clear hP2 hG2 hBk hb1 hP hfr HP hsucc hx hy hlen
        go_wp2_with fail
        go_region_law (refine step_append_run rfl (.tmp 15) (.tmp 29) 22 22 rfl hrun.out (by simp [Act.eval]) (by simp [Act.eval]) ?_)
        all_goals
          go_wp2_with fail
          go_roundw
          case rel => exact ⟨k + 1, by omega, by omega, by simp, hfin.out⟩
          case measure => simp [intOf]; omega
      · have hk3 : k = 2730 := by omega
        have he := fewK_end l k (.inr hk3) (by have := HN.out; omega) hk2
        have hlti : (k : Int) < (n : Int) := by omega
        have hlt2i : ¬ (k : Int) < 2730 := by omega
        rw [ho] at hP hfr ⊢
        obtain ⟨L, hL⟩ : ∃ L, (fewK l k).length = L := ⟨_, rfl⟩
        rw [hL] at hP hfr ⊢
        rw [he] at hP
        have HQ : Hid (PRow wr (.slice ob L oc) (fewS l) ∧ (∀ j, (Value.slice ob L oc).ownBlock = some j → w.heap.size ≤ j) ∧ Below w.heap.size w wr) := ⟨hP, hfr, hB⟩
        clear hP hfr HP he hL ho hk3
        go_wp2_with fail
        go_ret
        exact ⟨_, rfl, HQ.out⟩
    · have he := fewK_end l k (.inl (by have := HN.out; omega)) (by have := HN.out; omega) hk2
      have hlti : ¬ (k : Int) < (n : Int) := by omega
      rw [ho] at hP hfr ⊢
      obtain ⟨L, hL⟩ : ∃ L, (fewK l k).length = L := ⟨_, rfl⟩
      rw [hL] at hP hfr ⊢
      rw [he] at hP
      have HQ : Hid (PRow wr (.slice ob L oc) (fewS l) ∧ (∀ j, (Value.slice ob L oc).ownBlock = some j → w.heap.size ≤ j) ∧ Below w.heap.size w wr) := ⟨hP, hfr, hB⟩
      clear hP hfr HP he hL ho
      go_wp2_with fail
      go_ret
      exact ⟨_, rfl, HQ.out⟩
end Go.Proofs.YtjigjckclpccmaaDoor
