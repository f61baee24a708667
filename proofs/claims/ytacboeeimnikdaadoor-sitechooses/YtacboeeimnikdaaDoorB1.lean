/- site: isText, isStatus. -/
import Derived.Test.YtacboeeimnikdaaDoorA7
namespace Go.Proofs.YtacboeeimnikdaaDoor
open Go.RowKit
open Go.Shelf
set_option linter.unusedVariables false
set_option linter.unusedSimpArgs false

/-- an authority, or a path but for how it begins -/
def txB (s : ByteArray) : Bool := consB visB 4096 s

theorem vis_iff (x : UInt8) : (visB (x.toNat : Int) && decide (x.toNat < 128)) = true ↔ 33 ≤ x.toNat ∧ x.toNat ≤ 126 := by
  unfold visB
  simp only [Bool.and_eq_true, decide_eq_true_eq]
  omega

set_option maxHeartbeats 4000000 in
set_option maxRecDepth 100000 in
theorem isText_any (s : ByteArray) (w : World) : Calls Tryd.prog 52 #[.string s] w fun e w' => e = .returned (.bool (txB s)) ∧ w' = w := by
  unfold txB
  by_cases h1 : 1 ≤ s.size
  · by_cases h2 : (s.size : Int) ≤ 4096
    · have a1 : ¬ (s.size : Int) < 1 := by omega
      have a2 : ¬ (4096 : Int) < (s.size : Int) := by omega
      have hc : consB visB 4096 s = allB visB s := by unfold consB; simp [h1, h2]
      rw [hc]
      have hz : Hid ((s.size : Int) ≤ 4096) := h2
      clear hc h1 h2
      go_enter Tryd.func52, Tryd.ntmps52
      go_wp2_with fail
      go_loopg [3, 14] s.size (fun g _ nv wx => ∃ i : Nat, i + g = s.size ∧ wx = w ∧ nv = .int .i64 (i : Int) ∧ Hid (frontB visB s i))
      case atStart => exact ⟨0, by omega, rfl, rfl, fun j _ h => absurd h (by omega)⟩
      case round =>
        obtain ⟨i, hig, rfl, rfl, hfr⟩ := hrel
        cases gk with
        | zero =>
          obtain rfl : i = s.size := by omega
          have l1 : ¬ ((s.size : Int) < (s.size : Int)) := by omega
          go_wp2_with fail
          go_ret
          exact ⟨by rw [hfr.out.all]; rfl, rfl⟩
        | succ g =>
          have hi : i < s.size := by omega
          have l1 : (i : Int) < (s.size : Int) := by omega
          obtain ⟨x, hx⟩ : ∃ x : UInt8, s[i]'hi = x := ⟨_, rfl⟩
          by_cases hB : 33 ≤ x.toNat ∧ x.toNat ≤ 126
          · have l2 : ¬ ((x.toNat : Int) < 33) := by omega
            have l3 : ¬ (126 < (x.toNat : Int)) := by omega
            have hw1 : wrap64 ((i : Int) + 1) = ((i + 1 : Nat) : Int) := by have := hz.out; unfold wrap64; omega
            have HB : Hid ((visB (x.toNat : Int) && decide (x.toNat < 128)) = true) := (vis_iff x).2 hB
            clear hB
            go_wp2_with fail
            go_roundg g
            case measure => omega
            case rel =>
              refine ⟨i + 1, by omega, rfl, rfl, fun j hj h => ?_⟩
              by_cases hji : j = i
              · subst hji
                rw [hx]
                exact HB.out
              · exact hfr.out j hj (by omega)
          · have hfa : Hid (allB visB s = false) := all_false hi (by rw [hx]; exact Bool.eq_false_iff.2 fun h => hB ((vis_iff x).1 h))
            by_cases hB1 : x.toNat < 33
            · have l2 : (x.toNat : Int) < 33 := by omega
              clear hB hB1
              go_wp2_with fail
              go_ret
              exact ⟨by rw [hfa.out]; rfl, rfl⟩
            · have l2 : ¬ ((x.toNat : Int) < 33) := by omega
              have l3 : 126 < (x.toNat : Int) := by omega
              clear hB hB1
              go_wp2_with fail
              go_ret
              exact ⟨by rw [hfa.out]; rfl, rfl⟩
    · have a1 : ¬ (s.size : Int) < 1 := by omega
      have a2 : (4096 : Int) < (s.size : Int) := by omega
      have hc : consB visB 4096 s = false := by unfold consB; simp [h2]
      rw [hc]
      clear hc h1 h2
      go_enter Tryd.func52, Tryd.ntmps52
      go_wp2_with fail
      go_ret
      exact ⟨rfl, rfl⟩
  · have a1 : (s.size : Int) < 1 := by omega
    have hc : consB visB 4096 s = false := by unfold consB; simp [h1]
    rw [hc]
    clear hc h1
    go_enter Tryd.func52, Tryd.ntmps52
    go_wp2_with fail
    go_ret
    exact ⟨rfl, rfl⟩

/-- a status that may have a body -/
def staB (n : Int) : Bool := decide (n ≠ 204) && decide (n ≠ 205) && decide (n ≠ 304) && decide (200 ≤ n) && decide (n ≤ 599)

set_option maxHeartbeats 4000000 in
theorem isStatus_any (n : Int) (w : World) : Calls Tryd.prog 53 #[.int .i64 n] w fun e w' => e = .returned (.bool (staB n)) ∧ w' = w := by
  by_cases h1 : n = 204
  · subst h1
    go_enter Tryd.func53, Tryd.ntmps53
    go_wp2_with fail
    go_ret
    exact ⟨rfl, rfl⟩
  by_cases h2 : n = 205
  · subst h2
    go_enter Tryd.func53, Tryd.ntmps53
    go_wp2_with fail
    go_ret
    exact ⟨rfl, rfl⟩
  by_cases h3 : n = 304
  · subst h3
    go_enter Tryd.func53, Tryd.ntmps53
    go_wp2_with fail
    go_ret
    exact ⟨rfl, rfl⟩
  have b1 : (n == 204) = false := beq_eq_false_iff_ne.2 h1
  have b2 : (n == 205) = false := beq_eq_false_iff_ne.2 h2
  have b3 : (n == 304) = false := beq_eq_false_iff_ne.2 h3
  have hc : staB n = (decide (200 ≤ n) && decide (n ≤ 599)) := by unfold staB; simp [h1, h2, h3]
  rw [hc]
  clear hc h1 h2 h3
  by_cases h4 : 200 ≤ n
  · by_cases h5 : n ≤ 599
    · have e : (decide (200 ≤ n) && decide (n ≤ 599)) = true := by simp [h4, h5]
      rw [e]; clear e
      go_enter Tryd.func53, Tryd.ntmps53
      go_wp2_with fail
      go_ret
      exact ⟨rfl, rfl⟩
    · have e : (decide (200 ≤ n) && decide (n ≤ 599)) = false := by simp [h5]
      rw [e]; clear e
      go_enter Tryd.func53, Tryd.ntmps53
      go_wp2_with fail
      go_ret
      exact ⟨rfl, rfl⟩
  · have e : (decide (200 ≤ n) && decide (n ≤ 599)) = false := by simp [h4]
    rw [e]; clear e
    go_enter Tryd.func53, Tryd.ntmps53
    go_wp2_with fail
    go_ret
    exact ⟨rfl, rfl⟩

end Go.Proofs.YtacboeeimnikdaaDoor
