/- slices.Equal, of any params. -/
import Derived.Test.YtmhbaaemihljjaaDoorC7
namespace Go.Proofs.YtmhbaaemihljjaaDoor
open Go.RowKit
set_option linter.unusedVariables false
set_option linter.unusedSimpArgs false

set_option maxRecDepth 100000 in
set_option maxHeartbeats 2000000 in
theorem equal_any (w : World) (p q : Value) (a b : List (Int × Int)) (hp : PRow w p a) (hq : PRow w q b) :
    Calls Tryd.prog 42 #[p, q] w fun e w' => e = .returned (.bool (decide (a = b))) ∧ Below w.heap.size w w' := by
  obtain ⟨pb, pc, rfl⟩ := hp.slice
  obtain ⟨qb, qc, rfl⟩ := hq.slice
  have HP : Hid (PRow w (.slice pb a.length pc) a) := hp
  have HQ : Hid (PRow w (.slice qb b.length qc) b) := hq
  clear hp hq
  obtain ⟨n, hn⟩ : ∃ n, a.length = n := ⟨_, rfl⟩
  obtain ⟨m, hm⟩ : ∃ m, b.length = m := ⟨_, rfl⟩
  have HN : Hid (a.length = n) := hn
  have HM : Hid (b.length = m) := hm
  rw [hn] at HP ⊢
  rw [hm] at HQ ⊢
  clear hn hm
  obtain ⟨r, hr⟩ : ∃ r, decide (a = b) = r := ⟨_, rfl⟩
  rw [hr]
  have HD : Hid (decide (a = b) = r) := hr
  clear hr
  by_cases hnm : n = m
  · subst hnm
    go_enter Tryd.func42, Tryd.ntmps42
    go_wp2
    go_loopw [13] (fun i wr => ∃ k : Nat, k ≤ n ∧ i = .int .i64 (k : Int) ∧ Hid (a.take k = b.take k) ∧ Below w.heap.size w wr) (fun i _ => n - (intOf i).toNat)
    case atStart => exact ⟨0, by omega, rfl, by simp [Hid], Below.refl _ _⟩
    case round =>
      obtain ⟨k, hk, rfl, htk, hb⟩ := hrel
      by_cases hlt : k < n
      · obtain ⟨x, y, x', y', g, g', hpb, hqb, h1, h2, h3, h4, d1, d2, e1, e2, hyes, hno⟩ : ∃ (x y x' y' : Int) (g g' : Nat), pb = some ⟨g, 0, none⟩ ∧ qb = some ⟨g', 0, none⟩ ∧ n ≤ pc ∧ pc ≤ 9223372036854775807 ∧ n ≤ qc ∧ qc ≤ 9223372036854775807 ∧
            wr.cell? ⟨g, k * 2, none⟩ = some (.int .i64 x) ∧ wr.cell? ⟨g, k * 2 + 1, none⟩ = some (.int .i64 y) ∧ wr.cell? ⟨g', k * 2, none⟩ = some (.int .i64 x') ∧ wr.cell? ⟨g', k * 2 + 1, none⟩ = some (.int .i64 y') ∧
            Hid (x = x' → y = y' → a.take (k + 1) = b.take (k + 1)) ∧ Hid (¬ (x = x' ∧ y = y') → r = false) := by
          have hl := HN.out
          have hl' := HM.out
          obtain ⟨g, cap, e, h1, h2, d1, d2⟩ := (show PRow w (.slice pb a.length pc) a by rw [hl]; exact HP.out).at k (by omega)
          obtain ⟨g', cap', e', h1', h2', d1', d2'⟩ := (show PRow w (.slice qb b.length qc) b by rw [hl']; exact HQ.out).at k (by omega)
          cases e
          cases e'
          refine ⟨_, _, _, _, g, g', rfl, rfl, by omega, h2, by omega, h2', (hb.cell (World.block_lt_of_cell? _ _ d1)).trans d1, (hb.cell (World.block_lt_of_cell? _ _ d2)).trans d2, (hb.cell (World.block_lt_of_cell? _ _ d1')).trans d1', (hb.cell (World.block_lt_of_cell? _ _ d2')).trans d2', ?_, ?_⟩
          · intro u v
            rw [List.take_succ_eq_append_getElem (by omega), List.take_succ_eq_append_getElem (by omega), htk.out, Prod.ext u v]
          · intro u
            rw [← HD.out]
            refine decide_eq_false fun e => u ?_
            subst e
            exact ⟨rfl, rfl⟩
        subst hpb
        subst hqb
        by_cases hx : x = x'
        · by_cases hy : y = y'
          · subst hx
            subst hy
            have hnext := hyes.out rfl rfl
            replace hnext : Hid _ := hnext
            go_wp2_with fail
            go_region
            all_goals
              go_wp2_with fail
              go_roundw
              case rel => exact ⟨k + 1, by omega, by simp, hnext, hb.drew⟩
              case measure => simp [intOf]; omega
          · have hr : r = false := hno.out fun h => hy h.2
            subst hr
            subst hx
            have hyb : (y == y') = false := beq_eq_false_iff_ne.2 hy
            go_wp2_with fail
            go_region
            all_goals
              go_wp2_with fail
              go_ret
              exact ⟨rfl, hb.drew⟩
        · have hr : r = false := hno.out fun h => hx h.1
          subst hr
          have hxb : (x == x') = false := beq_eq_false_iff_ne.2 hx
          go_wp2_with fail
          go_region
          all_goals
            go_wp2_with fail
            go_ret
            exact ⟨rfl, hb.drew⟩
      · obtain rfl : k = n := by omega
        have hr : r = true := by
          rw [← HD.out]
          have h := htk.out
          have h1 := HN.out
          have h2 := HM.out
          rw [List.take_of_length_le (by omega), List.take_of_length_le (by omega)] at h
          exact decide_eq_true h
        subst hr
        go_wp2
        go_ret
        exact ⟨rfl, hb⟩
  · have hr : r = false := by
      rw [← HD.out]
      refine decide_eq_false fun e => hnm ?_
      rw [← HN.out, ← HM.out, e]
    subst hr
    have hnmb : ((n : Int) == (m : Int)) = false := beq_eq_false_iff_ne.2 (by omega)
    go_enter Tryd.func42, Tryd.ntmps42
    go_wp2
    go_ret
    exact ⟨rfl, Below.refl _ _⟩

end Go.Proofs.YtmhbaaemihljjaaDoor
