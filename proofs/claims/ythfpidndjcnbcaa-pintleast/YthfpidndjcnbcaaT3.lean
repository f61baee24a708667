import Derived.Test.YthfpidndjcnbcaaRows
import Derived.Test.YthfpidndjcnbcaaNums
import Derived.Test.YthfpidndjcnbcaaBits
import Derived.WalkKit
import Derived.WalkSpells
import Derived.WalkLawsBesides
import Derived.Deep.QuietTactic
import Derived.BigQuiet
namespace Go.Proofs.Ythfpidndjcnbcaa
open Go.RowKit

set_option maxHeartbeats 400000 in
theorem prefix_any (n : Int) (w : World) :
    Calls Try.prog 11 #[.int .i64 n] w fun e w' => e = .returned (.int .i64 (1 + n % 8)) ∧ w' = w := by
  have h := and7 n
  have h1 : 0 ≤ n % 8 := by omega
  have h2 : n % 8 < 8 := by omega
  go_enter Try.func11, Try.ntmps11
  go_wp2
  go_ret
  exact ⟨rfl, rfl⟩

set_option maxHeartbeats 400000 in
theorem lfull_any (p : Nat) (w : World) (h : 1 ≤ p) (h8 : p ≤ 8) :
    Calls Try.prog 12 #[.int .i64 (p : Int)] w fun e w' => e = .returned (.int .i64 (fl p : Int)) ∧ w' = w := by
  obtain rfl | rfl | rfl | rfl | rfl | rfl | rfl | rfl : p = 1 ∨ p = 2 ∨ p = 3 ∨ p = 4 ∨ p = 5 ∨ p = 6 ∨ p = 7 ∨ p = 8 := by omega
  all_goals
    go_enter Try.func12, Try.ntmps12
    go_wp2
    go_ret
    exact ⟨by simp [fl], rfl⟩

set_option maxHeartbeats 400000 in
theorem number_any (n : Int) (w : World) :
    Calls Try.prog 15 #[.int .i64 n] w fun e w' => e = .returned (.int .i64 (n % 2147483648)) ∧ w' = w := by
  have h := and31 n
  go_enter Try.func15, Try.ntmps15
  go_wp2
  go_ret
  exact ⟨rfl, rfl⟩

theorem pow8 (p : Nat) (h8 : p ≤ 8) : 1 ≤ 2 ^ p ∧ 2 ^ p ≤ 256 := by
  have h1 := Nat.two_pow_pos p
  have := Nat.pow_le_pow_right (n := 2) (by decide) h8
  omega

set_option maxHeartbeats 400000 in
theorem rfull_any (p : Nat) (w : World) (h8 : p ≤ 8) :
    Calls Try.prog 20 #[.int .i64 (p : Int)] w fun e w' => e = .returned (.int .i64 (fl p : Int)) ∧ w' = w := by
  go_enter Try.func20, Try.ntmps20
  go_wp2
  go_loop [3, 4] (fun x i => ∃ k y : Nat, k ≤ p ∧ i = .int .i64 k ∧ x = .int .i64 y ∧ Hid (y = 2 ^ k)) (fun _ i => p - (intOf i).toNat)
  case atStart => exact ⟨0, 1, by omega, rfl, rfl, rfl⟩
  case round =>
    obtain ⟨k, y, hk, rfl, rfl, H⟩ := hrel
    have hy1 := (pow8 k (by omega)).1
    have hy2 := (pow8 k (by omega)).2
    rw [← H.out] at hy1 hy2
    by_cases hlt : k < p
    · go_wp2
      go_round
      case rel => exact ⟨k + 1, 2 * y, by omega, by go_num, by go_num, by show 2 * y = 2 ^ (k + 1); rw [H.out, Nat.pow_succ]; omega⟩
      case measure => simp [intOf]; omega
    · obtain rfl : k = p := by omega
      go_wp2
      go_ret
      have e : ((y : Int) - 1) = (fl k : Int) := by unfold fl; rw [← H.out]; omega
      exact ⟨by simp [e], rfl⟩
end Go.Proofs.Ythfpidndjcnbcaa
