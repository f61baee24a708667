/- What a frame that may be written says of its stream; in, late. -/
import Derived.Test.YtfmljlflnpmceaaGreatDoorVzn
import Derived.Test.YtfmljlflnpmceaaGreatDoorU1
namespace Go.Proofs.YtfmljlflnpmceaaGreatDoor
open Go.RowKit
set_option linter.unusedVariables false
set_option linter.unusedSimpArgs false
theorem ew_of {e : Et} (h : Fn e.f e.ps e.n) : Ew e := by
  rcases h with ⟨hR, hn⟩ | ⟨_, hn⟩
  · have h0 := hR.st0
    have h1 := hR.st1
    have ki : ∀ n : Nat, n ≤ 9 → e.f.ty = (n : Int) → Fm.kiF e.f = n := fun n h9 ht => by unfold Fm.kiF; rw [ht]; omega
    refine ⟨fun _ ht => ?_, fun _ ht => ?_, fun _ ht => ?_, fun _ => hR.ty0, fun _ h8 ht => ?_⟩
    · rw [isStr_iff]
      rcases ht with ht | ht | ht | ht | ht | ht
      · have h := ki 0 (by omega) ht; rw [h] at h0 h1; exact ⟨h0, h1⟩
      · have h := ki 1 (by omega) ht; rw [h] at h0 h1; exact ⟨h0, h1⟩
      · have h := ki 2 (by omega) ht; rw [h] at h0 h1; exact ⟨h0, h1⟩
      · have h := ki 3 (by omega) ht; rw [h] at h0 h1; exact ⟨h0, h1⟩
      · have h := ki 5 (by omega) ht; rw [h] at h0 h1; exact ⟨h0, h1⟩
      · have h := ki 9 (by omega) ht; rw [h] at h0 h1; exact ⟨h0, h1⟩
    · rw [isStr_iff]
      have h := ki 8 (by omega) ht
      rw [h] at h0 h1
      have h0' : (0 : Int) ≤ e.f.st := h0
      have h1' : e.f.st ≤ 2147483647 := h1
      omega
    · rcases ht with ht | ht | ht
      · have h := ki 4 (by omega) ht
        rw [h] at h0 h1
        exact Int.le_antisymm h1 h0
      · have h := ki 6 (by omega) ht
        rw [h] at h0 h1
        exact Int.le_antisymm h1 h0
      · have h := ki 7 (by omega) ht
        rw [h] at h0 h1
        exact Int.le_antisymm h1 h0
    · have hp := hR.pad
      have : Fm.padS e.f = true := by
        unfold Fm.padS
        rw [Bool.and_eq_true]
        exact ⟨decide_eq_true (by omega), h8⟩
      rw [if_pos this] at hp
      exact hp
  · exact ⟨fun h => absurd hn h, fun h => absurd hn h, fun h => absurd hn h, fun h => absurd hn h, fun h => absurd hn h⟩
theorem contains_take {l : List Int} {x : Int} {j : Nat} (hj : j < l.length) : (l.take (j + 1)).contains x = ((l.take j).contains x || l[j] == x) := by
  rw [List.take_succ_eq_append_getElem hj, List.contains_append]
  simp only [List.contains_cons, List.contains_nil, Bool.or_false]
  rw [Bool.beq_comm]
set_option maxRecDepth 100000 in
set_option maxHeartbeats 4000000 in
theorem in_any (l : List Int) (v : Value) (n : Int) (w : World) (hv : In EI w v l) (hl : l.length ≤ 1099511627776) :
    Calls Tryz.prog 13 #[v, .int .i64 n] w fun r w' => r = .returned (.bool (l.contains n)) ∧ w' = w := by
  have HV : Hid (In EI w v l) := hv
  obtain ⟨vb, vc, rfl, hc1, hc2⟩ := hv.slice
  obtain ⟨m, hm⟩ : ∃ m, l.length = m := ⟨_, rfl⟩
  have HN : Hid (l.length = m) := hm
  rw [hm] at hc1 hl HV ⊢
  obtain ⟨RR, hRR⟩ : ∃ r, l.contains n = r := ⟨_, rfl⟩
  have HRR : Hid (l.contains n = RR) := hRR
  rw [hRR]
  clear hm hv hRR
  go_enter Tryz.func13, Tryz.ntmps13
  go_wp2_with fail
  go_loopw [5] (fun i wr => ∃ j : Nat, j ≤ m ∧ i = .int .i64 (j : Int) ∧ Hid (wr = w ∧ (l.take j).contains n = false)) (fun i _ => m - (intOf i).toNat)
  case atStart => exact ⟨0, Nat.zero_le _, rfl, rfl, rfl⟩
  case round =>
    obtain ⟨j, hj, rfl, HI⟩ := hrel
    obtain rfl := HI.out.1
    by_cases hlt : j < m
    · have hlen := HN.out
      obtain ⟨B, off, cap, hvb, hBl, hcells⟩ := HV.out.get okI j (by omega)
      injection hvb with e1 e2 e3
      subst e1
      clear e2 e3
      have d0 := hcells 0 _ rfl
      have hct := contains_take (x := n) (j := j) (l := l) (by omega)
      obtain ⟨x, hx⟩ : ∃ x, l[j]'(by omega) = x := ⟨_, rfl⟩
      rw [hx] at d0 hct
      rw [HI.out.2, Bool.false_or] at hct
      simp only [EI, Nat.mul_one, Nat.add_zero] at d0
      have HCT : Hid ((l.take (j + 1)).contains n = (x == n)) := hct
      clear hct hcells hx hlen
      have hlti : (j : Int) < (m : Int) := by omega
      by_cases hxn : x = n
      · have hb : (x == n) = true := by simp [hxn]
        have HT := hid (show true = RR by
          have h1 := HCT.out
          rw [hb] at h1
          have h2 : n ∈ l.take (j + 1) := by simpa using h1
          rw [← HRR.out]
          exact (List.contains_iff_mem.2 (List.mem_of_mem_take h2)).symm)
        clear hxn
        go_wp2_with fail
        go_ret
        exact ⟨by rw [← HT.out]; rfl, rfl⟩
      · have hb : (x == n) = false := by simp [hxn]
        have hjw : wrap64 ((j : Int) + 1) = ((j + 1 : Nat) : Int) := by unfold wrap64; omega
        have HR : Hid (wr = wr ∧ (l.take (j + 1)).contains n = false) := ⟨rfl, by rw [HCT.out, hb]⟩
        clear hxn
        go_wp2_with fail
        go_roundw
        case rel => exact ⟨j + 1, by omega, by first | rfl | (rw [hjw]) | simp, by first | exact HR.out | exact hid ⟨trivial, HR.out.2⟩⟩
        case measure => simp [intOf]; omega
    · have hnlt : ¬ (j : Int) < (m : Int) := by omega
      have HT := hid (show false = RR by
        have h1 := HI.out.2
        have h2 := HN.out
        rw [List.take_of_length_le (by omega)] at h1
        rw [← HRR.out, h1])
      go_wp2_with fail
      go_ret
      exact ⟨by rw [← HT.out]; rfl, rfl⟩
end Go.Proofs.YtfmljlflnpmceaaGreatDoor
