/- Same of frames that are alike. -/
import Derived.Test.YtmhbaaemihljjaaDoorN2
namespace Go.Proofs.YtmhbaaemihljjaaDoor
open Go.RowKit
set_option linter.unusedVariables false
set_option linter.unusedSimpArgs false

theorem pcells_get (l : List (Int × Int)) (k : Nat) (h : k < l.length) : (pcells l)[k * 2]? = some (.int .i64 l[k].1) ∧ (pcells l)[k * 2 + 1]? = some (.int .i64 l[k].2) := by
  induction l generalizing k with
  | nil => exact absurd h (by simp)
  | cons x r ih =>
    cases k with
    | zero => exact ⟨rfl, rfl⟩
    | succ k =>
      have e : (k + 1) * 2 = k * 2 + 1 + 1 := by omega
      rw [e]
      have := ih k (by simpa using h)
      simpa [pcells] using this

theorem PRow.at {w : World} {o : Value} {l : List (Int × Int)} (h : PRow w o l) (k : Nat) (hk : k < l.length) : ∃ g cap, o = .slice (some ⟨g, 0, none⟩) l.length cap ∧ l.length ≤ cap ∧ cap ≤ 9223372036854775807 ∧
    w.cell? ⟨g, k * 2, none⟩ = some (.int .i64 l[k].1) ∧ w.cell? ⟨g, k * 2 + 1, none⟩ = some (.int .i64 l[k].2) := by
  have h' := h
  rcases h.2 with ⟨rfl, hn⟩ | ⟨g, cap, cur, rfl, _, hgg, hnc, hcm, hcs, htk⟩
  · omega
  · obtain ⟨h1, h2⟩ := pcells_get l k hk
    have d1 := World.ownsRow.cells h' (g := g) rfl _ _ h1
    have d2 := World.ownsRow.cells h' (g := g) rfl _ _ h2
    rw [Addr.add_lit, Nat.zero_add] at d1 d2
    exact ⟨g, cap, rfl, hnc, by unfold maxLen at hcm; omega, d1, d2⟩

set_option maxRecDepth 100000 in
set_option maxHeartbeats 4000000 in
theorem same_eq (f : Fr) (w : World) (pb : Option Addr) (pl pc : Nat) (qb : Option Addr) (ql qc : Nat) (l : List (Int × Int)) (hp : PRow w (.slice pb pl pc) l) (hq : PRow w (.slice qb ql qc) l) :
    Calls Tryd.prog 19 #[.agg (fv f (.slice pb pl pc)), .agg (fv f (.slice qb ql qc))] w fun e w' => e = .returned (.bool true) ∧ Below w.heap.size w w' := by
  obtain ⟨pb', pc', e1⟩ := hp.slice
  obtain ⟨qb', qc', e2⟩ := hq.slice
  cases e1
  cases e2
  obtain ⟨n, hn⟩ : ∃ n, l.length = n := ⟨_, rfl⟩
  have HN : Hid (l.length = n) := hn
  have HP : Hid (PRow w (.slice pb n pc) l) := by rw [← hn]; exact hp
  have HQ : Hid (PRow w (.slice qb n qc) l) := by rw [← hn]; exact hq
  rw [hn]
  clear hp hq hn
  have hnl : (n : Int) ≤ 9223372036854775807 := by
    by_cases h0 : n = 0
    · omega
    · have hl := HN.out
      obtain ⟨g, cap, e, h1, h2, -⟩ := HP.out.at 0 (by omega)
      omega
  obtain ⟨W0, hW0⟩ : ∃ W0, W0 = (w.alloc (.cells (fv f (.slice pb n pc)) 28)).alloc (.cells (fv f (.slice qb n qc)) 28) := ⟨_, rfl⟩
  have b2 : FB W0 w.heap.size f (.slice pb n pc) := by
    rw [hW0]
    unfold FB
    simp only [heap_al, size_al]
    rw [if_neg (by omega), if_pos trivial]
  have b3 : FB W0 (w.heap.size + 1) f (.slice qb n qc) := by
    rw [hW0]
    unfold FB
    simp only [heap_al, size_al]
    rw [if_pos trivial]
  have hbel : Below w.heap.size w W0 := by rw [hW0]; exact ((Below.refl _ w).alloc (Nat.le_refl _) _).alloc (by simp) _
  have B2 : Hid (FB W0 w.heap.size f (.slice pb n pc)) := b2
  have B3 : Hid (FB W0 (w.heap.size + 1) f (.slice qb n qc)) := b3
  have HB : Hid (Below w.heap.size w W0) := hbel
  have HW : Hid _ := hW0
  unfold fv
  clear b2 b3 hbel hW0
  go_enter Tryd.func19, Tryd.ntmps19
  go_wp2_with fail
  go_loopw [5] (fun i wr => ∃ k : Nat, k ≤ n ∧ i = .int .i64 (k : Int) ∧ Hid (Below W0.heap.size W0 wr)) (fun i _ => n - (intOf i).toNat)
  case atStart => exact ⟨0, by omega, rfl, by rw [HW.out]; exact Below.refl _ _⟩
  case round =>
    obtain ⟨k, hk, rfl, hb⟩ := hrel
    have c2 := (B2.out.below hb.out).cell 10
    have c3 := (B3.out.below hb.out).cell 10
    simp only [fv, List.getElem?_toArray, List.getElem?_cons_succ, List.getElem?_cons_zero] at c2 c3
    by_cases hlt : k < n
    · obtain ⟨x, y, g, g', hpb, hqb, h1, h2, h3, h4, d1, d2, e1, e2⟩ : ∃ (x y : Int) (g g' : Nat), pb = some ⟨g, 0, none⟩ ∧ qb = some ⟨g', 0, none⟩ ∧ n ≤ pc ∧ pc ≤ 9223372036854775807 ∧ n ≤ qc ∧ qc ≤ 9223372036854775807 ∧
          wr.cell? ⟨g, k * 2, none⟩ = some (.int .i64 x) ∧ wr.cell? ⟨g, k * 2 + 1, none⟩ = some (.int .i64 y) ∧ wr.cell? ⟨g', k * 2, none⟩ = some (.int .i64 x) ∧ wr.cell? ⟨g', k * 2 + 1, none⟩ = some (.int .i64 y) := by
        have hl := HN.out
        have hbw : Below w.heap.size w wr := HB.out.trans (hb.out.mono HB.out.size)
        obtain ⟨g, cap, e, h1, h2, d1, d2⟩ := HP.out.at k (by omega)
        obtain ⟨g', cap', e', h1', h2', d1', d2'⟩ := HQ.out.at k (by omega)
        cases e
        cases e'
        exact ⟨_, _, g, g', rfl, rfl, by omega, h2, by omega, h2', (hbw.cell (World.block_lt_of_cell? _ _ d1)).trans d1, (hbw.cell (World.block_lt_of_cell? _ _ d2)).trans d2, (hbw.cell (World.block_lt_of_cell? _ _ d1')).trans d1', (hbw.cell (World.block_lt_of_cell? _ _ d2')).trans d2'⟩
      subst hpb
      subst hqb
      go_wp2_with fail
      go_region
      all_goals
        go_wp2_with fail
        go_roundw
        case rel => exact ⟨k + 1, by omega, by simp, hb.out.drew⟩
        case measure => simp [intOf]; omega
    · obtain rfl : k = n := by omega
      go_wp2_with fail
      go_ret
      exact ⟨rfl, HB.out.trans (hb.out.mono HB.out.size)⟩
end Go.Proofs.YtmhbaaemihljjaaDoor
