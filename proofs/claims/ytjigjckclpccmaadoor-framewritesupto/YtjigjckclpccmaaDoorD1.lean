/- sameParams, SameFrame of what is alike. -/
import Derived.Test.YtjigjckclpccmaaDoorC2
namespace Go.Proofs.YtjigjckclpccmaaDoor
open Go.RowKit
set_option linter.unusedVariables false
set_option linter.unusedSimpArgs false

theorem pcells_get (l : List (Int × Int)) (k : Nat) (h : k < l.length) : (pcells l)[k * 2]? = some (.int .i64 l[k].1) ∧ (pcells l)[k * 2 + 1]? = some (.int .i64 l[k].2) := by
  induction l generalizing k with
  | nil => exact absurd h (by simp)
  | cons x r ih =>
    cases k with
    | zero => exact ⟨rfl, rfl⟩
    | succ k =>
      have e : (k + 1) * 2 = k * 2 + 1 + 1 := by omega
      rw [e]
      have := ih k (by simpa using h)
      simpa [pcells] using this

theorem PRow.at {w : World} {o : Value} {l : List (Int × Int)} (h : PRow w o l) (k : Nat) (hk : k < l.length) : ∃ g cap, o = .slice (some ⟨g, 0, none⟩) l.length cap ∧ l.length ≤ cap ∧ cap ≤ 9223372036854775807 ∧
    w.cell? ⟨g, k * 2, none⟩ = some (.int .i64 l[k].1) ∧ w.cell? ⟨g, k * 2 + 1, none⟩ = some (.int .i64 l[k].2) := by
  have h' := h
  rcases h.2 with ⟨rfl, hn⟩ | ⟨g, cap, cur, rfl, _, hgg, hnc, hcm, hcs, htk⟩
  · omega
  · obtain ⟨h1, h2⟩ := pcells_get l k hk
    have d1 := World.ownsRow.cells h' (g := g) rfl _ _ h1
    have d2 := World.ownsRow.cells h' (g := g) rfl _ _ h2
    rw [Addr.add_lit, Nat.zero_add] at d1 d2
    exact ⟨g, cap, rfl, hnc, by unfold maxLen at hcm; omega, d1, d2⟩

set_option maxRecDepth 100000 in
set_option maxHeartbeats 1000000 in
theorem sameParams_eq (w : World) (p q : Value) (l : List (Int × Int)) (hp : PRow w p l) (hq : PRow w q l) :
    Calls Tryd.prog 14 #[p, q] w fun e w' => e = .returned (.bool true) ∧ Below w.heap.size w w' := by
  obtain ⟨pb, pc, rfl⟩ := hp.slice
  obtain ⟨qb, qc, rfl⟩ := hq.slice
  have HP : Hid (PRow w (.slice pb l.length pc) l) := hp
  have HQ : Hid (PRow w (.slice qb l.length qc) l) := hq
  clear hp hq
  obtain ⟨n, hn⟩ : ∃ n, l.length = n := ⟨_, rfl⟩
  have HN : Hid (l.length = n) := hn
  rw [hn] at HP HQ ⊢
  clear hn
  go_enter Tryd.func14, Tryd.ntmps14
  go_wp2
  go_loopw [5] (fun i wr => ∃ k : Nat, k ≤ n ∧ i = .int .i64 (k : Int) ∧ Below w.heap.size w wr) (fun i _ => n - (intOf i).toNat)
  case atStart => exact ⟨0, by omega, rfl, Below.refl _ _⟩
  case round =>
    obtain ⟨k, hk, rfl, hb⟩ := hrel
    by_cases hlt : k < n
    · obtain ⟨x, y, g, g', hpb, hqb, h1, h2, h3, h4, d1, d2, e1, e2⟩ : ∃ (x y : Int) (g g' : Nat), pb = some ⟨g, 0, none⟩ ∧ qb = some ⟨g', 0, none⟩ ∧ n ≤ pc ∧ pc ≤ 9223372036854775807 ∧ n ≤ qc ∧ qc ≤ 9223372036854775807 ∧
          wr.cell? ⟨g, k * 2, none⟩ = some (.int .i64 x) ∧ wr.cell? ⟨g, k * 2 + 1, none⟩ = some (.int .i64 y) ∧ wr.cell? ⟨g', k * 2, none⟩ = some (.int .i64 x) ∧ wr.cell? ⟨g', k * 2 + 1, none⟩ = some (.int .i64 y) := by
        have hl := HN.out
        obtain ⟨g, cap, e, h1, h2, d1, d2⟩ := HP.out.at k (by omega)
        obtain ⟨g', cap', e', h1', h2', d1', d2'⟩ := HQ.out.at k (by omega)
        cases e
        cases e'
        exact ⟨_, _, g, g', rfl, rfl, by omega, h2, by omega, h2', (hb.cell (World.block_lt_of_cell? _ _ d1)).trans d1, (hb.cell (World.block_lt_of_cell? _ _ d2)).trans d2, (hb.cell (World.block_lt_of_cell? _ _ d1')).trans d1', (hb.cell (World.block_lt_of_cell? _ _ d2')).trans d2'⟩
      subst hpb
      subst hqb
      go_wp2_with fail
      go_region
      all_goals
        go_wp2_with fail
        go_roundw
        case rel => exact ⟨k + 1, by omega, by simp, hb.drew⟩
        case measure => simp [intOf]; omega
    · obtain rfl : k = n := by omega
      go_wp2
      go_ret
      exact ⟨rfl, hb⟩

set_option maxRecDepth 100000 in
set_option maxHeartbeats 2000000 in
theorem sameFrame_eq (f : Fr) (w : World) (pb : Option Addr) (pl pc : Nat) (qb : Option Addr) (ql qc : Nat) (l : List (Int × Int)) (hp : PRow w (.slice pb pl pc) l) (hq : PRow w (.slice qb ql qc) l) :
    Calls Tryd.prog 16 #[.agg (fv f (.slice pb pl pc)), .agg (fv f (.slice qb ql qc))] w fun e w' => e = .returned (.bool true) ∧ Below w.heap.size w w' := by
  have HE : Hid (∀ W : World, Below w.heap.size w W → Calls Tryd.prog 14 #[.slice pb pl pc, .slice qb ql qc] W fun e w' => e = .returned (.bool true) ∧ Below w.heap.size w w') := by
    intro W hb
    refine (sameParams_eq W _ _ l (hp.below fun k _ hk => hb.block k hk) (hq.below fun k _ hk => hb.block k hk)).mono ?_
    rintro e w' ⟨rfl, h⟩
    exact ⟨rfl, hb.trans (h.mono hb.size)⟩
  clear hp hq
  unfold fv
  go_enter Tryd.func16, Tryd.ntmps16
  go_wp2_with (go_at_call 14; refine (HE.out _ (by (repeat (first | exact Below.refl _ _ | refine Below.drew ?_ | refine Below.alloc ?_ (by first | exact Nat.le_refl _ | (simp only [size_al, size_dr]; omega)) _)))).mono ?_; rintro e w' ⟨rfl, hb⟩)
  go_ret
  exact ⟨rfl, hb⟩
end Go.Proofs.YtjigjckclpccmaaDoor
