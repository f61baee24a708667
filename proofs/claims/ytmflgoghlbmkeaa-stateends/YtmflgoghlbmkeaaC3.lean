/- StateEnds. -/
import Derived.Test.YtmflgoghlbmkeaaC1
import Derived.Deep.Cut
namespace Go.Proofs.Ytmflgoghlbmkeaa
open Go.RowKit
set_option linter.unusedVariables false
set_option linter.unusedSimpArgs false

theorem ends_fact (s k : Int) (g : Bool) (n v c : Int) (h : nx s g k = (n, v, c)) (hs : St s) :
    St n ∧ (v ≠ 0 → n = s) ∧ (v = 0 → (1 ≤ k ∧ k ≤ 8) ∧ (s = 4 → n = 4 ∨ n = 6) ∧ (s = 5 → n = 5 ∨ n = 6) ∧ (s = 6 → n = 6 ∧ k = 8) ∧ (k ≤ 4 → (g = false → s ≠ 4) ∧ (g = true → s ≠ 5)) ∧
      (k = 2 ∨ k = 4 → (g = false → n = 4 ∨ n = 6) ∧ (g = true → n = 5 ∨ n = 6) ∧ (g = false → s = 5 → n = 6) ∧ (g = true → s = 4 → n = 6)) ∧ (k = 6 → n = 6)) := by
  by_cases hk : 1 ≤ k ∧ k ≤ 8
  · rcases states hs with rfl | rfl | rfl | rfl | rfl | rfl | rfl <;> rcases kinds hk with rfl | rfl | rfl | rfl | rfl | rfl | rfl | rfl <;> cases g <;>
      (injection h with h1 h2
       injection h2 with h2 h3
       subst h1 h2 h3
       unfold St
       simp)
  · rw [nx_out (by omega)] at h
    injection h with h1 h2
    injection h2 with h2 h3
    subst h1 h2 h3
    exact ⟨hs, fun _ => rfl, fun h => absurd h (by decide)⟩

/-- what the flags say of the state -/
def Iv (s : Int) (a b : Bool) : Prop := St s ∧ (a = true → s = 4 ∨ s = 6) ∧ (b = true → s = 5 ∨ s = 6)

set_option maxRecDepth 100000 in
set_option maxHeartbeats 32000000 in
theorem ends_walk (s : Int) (pv : Value) (os : List OP) (w : World) (hv : In EO w pv os) :
    Calls Try.prog 3 #[.int .i64 s, pv] w fun e w' => e = .returned (.bool true) ∧ Below w.heap.size w w' := by
  have HV : Hid (In EO w pv os) := hv
  obtain ⟨vb, vc, rfl, hc1, hc2⟩ := hv.slice
  obtain ⟨m, hm⟩ : ∃ m, os.length = m := ⟨_, rfl⟩
  rw [hm] at hc1 HV ⊢
  have HN : Hid (os.length = m) := hm
  clear hm hv
  go_enter Try.func3, Try.ntmps3
  go_wp2_with fail
  refine (head_any w).mono ?_
  rintro e w0 ⟨rfl, hB0⟩
  go_upto_region 3 with fail
  go_cut [20] from 13 (fun x wx => ∃ t, x = .bool t ∧ (t = false → St s) ∧ wx = w0)
  case first =>
    have hcase : s < 0 ∨ (¬ s < 0 ∧ 6 < s) ∨ (¬ s < 0 ∧ ¬ 6 < s) := by omega
    rcases hcase with h0 | ⟨h0, h6⟩ | ⟨h0, h6⟩
    · go_wp2_with fail
      go_meet
      exact ⟨true, rfl, fun h => (by cases h), rfl⟩
    · have e0 : decide (s < 0) = false := decide_eq_false h0
      have e6 : decide (6 < s) = true := decide_eq_true h6
      go_wp2_with fail
      go_meet
      exact ⟨true, by simp [e0, e6], fun h => (by cases h), rfl⟩
    · have e0 : decide (s < 0) = false := decide_eq_false h0
      have e6 : decide (6 < s) = false := decide_eq_false h6
      go_wp2_with fail
      go_meet
      exact ⟨false, by simp [e0, e6], fun _ => (by unfold St; omega), rfl⟩
  case rest =>
   obtain ⟨t, rfl, ht, rfl⟩ := hcut
   have HT : Hid (t = false → St s) := ht
   clear ht
   go_upto_if 20 with fail
   go_cut [0] from 13 (fun x wx => ∃ s0, x = .int .i64 s0 ∧ St s0 ∧ wx = wc)
   case first =>
    cases t
    · go_wp2_with fail
      go_meet
      exact ⟨_, rfl, HT.out (by first | rfl | trivial), rfl⟩
    · go_wp2_with fail
      go_meet
      exact ⟨_, rfl, ⟨by decide, by decide⟩, rfl⟩
   case rest =>
    clear HT
    obtain ⟨s0, rfl, hS0, rfl⟩ := hcut
    go_wp2_with fail
    go_loopw [0, 5, 6, 7] (fun sv av bv i wr => ∃ k : Nat, k ≤ m ∧ i = .int .i64 (k : Int) ∧ ∃ (x : Int) (a b : Bool), sv = .int .i64 x ∧ av = .bool a ∧ bv = .bool b ∧ Iv x a b ∧ Below w.heap.size w wr) (fun _ _ _ i _ => m - (intOf i).toNat)
    case atStart => exact ⟨0, Nat.zero_le _, rfl, _, _, _, rfl, rfl, rfl, ⟨hS0, by simp, by simp⟩, hB0⟩
    case round =>
      obtain ⟨k, hk, rfl, x, a, b, rfl, rfl, rfl, hI, hB⟩ := hrel
      clear hB0 hS0
      have HI : Hid (Iv x a b) := hI
      clear hI
      by_cases hlt : k < m
      · have hlen := HN.out
        obtain ⟨B, off, cap, hvb, hBl, d0, d1⟩ := HV.out.op k (by omega)
        injection hvb with e1 e2 e3
        subst e1
        clear e2 e3
        replace d0 := (hB.cell hBl).trans d0
        replace d1 := (hB.cell hBl).trans d1
        have hBw : B < wr.heap.size := Nat.lt_of_lt_of_le hBl hB.size
        obtain ⟨g, kd, hq⟩ : ∃ g kd, os[k]'(by omega) = (g, kd) := ⟨_, _, rfl⟩
        rw [hq] at d0 d1
        simp only at d0 d1
        have hlti : (k : Int) < (m : Int) := by omega
        clear hlen hq
        obtain ⟨n, v, c, hx⟩ : ∃ n v c, nx x g kd = (n, v, c) := ⟨_, _, _, rfl⟩
        have HF : Hid (_ ∧ _ ∧ _) := ends_fact x kd g n v c hx HI.out.1
        go_wp2_with fail
        refine (next_eq x g kd n v c hx _).mono ?_
        rintro e w2 ⟨rfl, hB2⟩
        have hg : w2.heap[wr.heap.size]? = some (.cells #[.bool g, .int .i64 kd] 25) := (hB2.block _ (by simp)).trans (heap_alloc_new _ _)
        have c0 := cell_blk hg 0
        have c1 := cell_blk hg 1
        simp at c0 c1
        replace hB := hB.trans (((bel1 wr _).trans (hB2.mono (by simp))).mono hB.size)
        clear hB2 hg d0 d1 hx
        by_cases hv0 : v = 0
        · subst hv0
          have HG := HF.out.2.2 rfl
          obtain ⟨⟨g1, g8⟩, gs4, gs5, gs6, gsp, gend, gres⟩ := HG
          by_cases hsp : kd ≤ 4
          · have hx6 : (x == 6) = false := beq_eq_false_iff_ne.2 fun e => by have := (gs6 e).2; omega
            have k6 : (kd == 6) = false := beq_eq_false_iff_ne.2 (by omega)
            have P4 := (gsp hsp).1
            have P5 := (gsp hsp).2
            have X6 : x ≠ 6 := fun e => by have := (gs6 e).2; omega
            have Sn : Hid (St n) := HF.out.1
            have I2 := HI.out.2.1
            have I3 := HI.out.2.2
            by_cases hend : kd = 2 ∨ kd = 4
            · have ge := gend hend
              rcases hend with rfl | rfl
              all_goals
                cases g
                · have ha : a = false := by
                    cases a
                    · rfl
                    · rcases I2 rfl with h | h
                      · exact absurd h (P4 rfl)
                      · exact absurd h X6
                  subst ha
                  have q1 := ge.1 rfl
                  cases b
                  · have HJ : Hid (Iv n true false) := ⟨Sn.out, fun _ => q1, fun h => by cases h⟩
                    clear HI HF gs4 gs5 gs6 gsp gend gres ge P4 P5 X6 I2 I3 q1 Sn
                    go_wp2_with fail
                    go_roundw
                    case rel => exact ⟨k + 1, by omega, by simp, _, _, _, rfl, rfl, rfl, HJ.out, hB⟩
                    case measure => simp [intOf]; omega
                  · have q2 : n = 6 := by
                      rcases I3 rfl with h | h
                      · exact ge.2.2.1 rfl h
                      · exact absurd h X6
                    subst q2
                    have HJ : Hid (Iv 6 true true) := ⟨Sn.out, fun _ => .inr rfl, fun _ => .inr rfl⟩
                    clear HI HF gs4 gs5 gs6 gsp gend gres ge P4 P5 X6 I2 I3 q1 Sn
                    go_wp2_with fail
                    go_roundw
                    case rel => exact ⟨k + 1, by omega, by simp, _, _, _, rfl, rfl, rfl, HJ.out, hB⟩
                    case measure => simp [intOf]; omega
                · have hb : b = false := by
                    cases b
                    · rfl
                    · rcases I3 rfl with h | h
                      · exact absurd h (P5 rfl)
                      · exact absurd h X6
                  subst hb
                  have q1 := ge.2.1 rfl
                  cases a
                  · have HJ : Hid (Iv n false true) := ⟨Sn.out, fun h => (by cases h), fun _ => q1⟩
                    clear HI HF gs4 gs5 gs6 gsp gend gres ge P4 P5 X6 I2 I3 q1 Sn
                    go_wp2_with fail
                    go_roundw
                    case rel => exact ⟨k + 1, by omega, by simp, _, _, _, rfl, rfl, rfl, HJ.out, hB⟩
                    case measure => simp [intOf]; omega
                  · have q2 : n = 6 := by
                      rcases I2 rfl with h | h
                      · exact ge.2.2.2 rfl h
                      · exact absurd h X6
                    subst q2
                    have HJ : Hid (Iv 6 true true) := ⟨Sn.out, fun _ => .inr rfl, fun _ => .inr rfl⟩
                    clear HI HF gs4 gs5 gs6 gsp gend gres ge P4 P5 X6 I2 I3 q1 Sn
                    go_wp2_with fail
                    go_roundw
                    case rel => exact ⟨k + 1, by omega, by simp, _, _, _, rfl, rfl, rfl, HJ.out, hB⟩
                    case measure => simp [intOf]; omega
            · have k2 : (kd == 2) = false := beq_eq_false_iff_ne.2 (by omega)
              have k4 : (kd == 4) = false := beq_eq_false_iff_ne.2 (by omega)
              have J2 : a = true → n = 4 ∨ n = 6 := fun h => (I2 h).elim gs4 fun h => absurd h X6
              have J3 : b = true → n = 5 ∨ n = 6 := fun h => (I3 h).elim gs5 fun h => absurd h X6
              have HJ : Hid (Iv n a b) := ⟨Sn.out, J2, J3⟩
              cases g
              · have ha : a = false := by
                  cases a
                  · rfl
                  · rcases I2 rfl with h | h
                    · exact absurd h (P4 rfl)
                    · exact absurd h X6
                subst ha
                clear HI HF gs4 gs5 gs6 gsp gend gres P4 P5 X6 I2 I3 J2 J3 Sn hend
                go_wp2_with fail
                go_roundw
                case rel => exact ⟨k + 1, by omega, by simp, _, _, _, rfl, rfl, rfl, HJ.out, hB⟩
                case measure => simp [intOf]; omega
              · have hb : b = false := by
                  cases b
                  · rfl
                  · rcases I3 rfl with h | h
                    · exact absurd h (P5 rfl)
                    · exact absurd h X6
                subst hb
                clear HI HF gs4 gs5 gs6 gsp gend gres P4 P5 X6 I2 I3 J2 J3 Sn hend
                cases a
                all_goals
                  go_wp2_with fail
                  go_roundw
                  case rel => exact ⟨k + 1, by omega, by simp, _, _, _, rfl, rfl, rfl, HJ.out, hB⟩
                  case measure => simp [intOf]; omega
          · have I2 := HI.out.2.1
            have I3 := HI.out.2.2
            have Sn : Hid (St n) := HF.out.1
            by_cases h6k : kd = 6
            · subst h6k
              have q := gres rfl
              subst q
              have X6 : x ≠ 6 := fun e => by have := (gs6 e).2; omega
              have hx6 : (x == 6) = false := beq_eq_false_iff_ne.2 X6
              have HJ : Hid (Iv 6 a b) := ⟨Sn.out, fun _ => .inr rfl, fun _ => .inr rfl⟩
              clear HI HF gs4 gs5 gs6 gsp gend gres I2 I3 Sn X6
              cases a
              · skip
                go_wp2_with fail
                go_roundw
                case rel => exact ⟨k + 1, by omega, by simp, _, _, _, rfl, rfl, rfl, HJ.out, hB⟩
                case measure => simp [intOf]; omega
              · cases b
                all_goals
                  go_wp2_with fail
                  go_roundw
                  case rel => exact ⟨k + 1, by omega, by simp, _, _, _, rfl, rfl, rfl, HJ.out, hB⟩
                  case measure => simp [intOf]; omega
            · have k2 : (kd == 2) = false := beq_eq_false_iff_ne.2 (by omega)
              have k4 : (kd == 4) = false := beq_eq_false_iff_ne.2 (by omega)
              have k6 : (kd == 6) = false := beq_eq_false_iff_ne.2 h6k
              have J2 : a = true → n = 4 ∨ n = 6 := fun h => (I2 h).elim gs4 fun h => .inr (gs6 h).1
              have J3 : b = true → n = 5 ∨ n = 6 := fun h => (I3 h).elim gs5 fun h => .inr (gs6 h).1
              have HJ : Hid (Iv n a b) := ⟨Sn.out, J2, J3⟩
              by_cases hx : x = 6
              · have q := (gs6 hx).1
                subst q hx
                clear HI HF gs4 gs5 gs6 gsp gend gres I2 I3 J2 J3 Sn h6k
                cases a
                · skip
                  go_wp2_with fail
                  go_roundw
                  case rel => exact ⟨k + 1, by omega, by simp, _, _, _, rfl, rfl, rfl, HJ.out, hB⟩
                  case measure => simp [intOf]; omega
                · cases b
                  all_goals
                    go_wp2_with fail
                    go_roundw
                    case rel => exact ⟨k + 1, by omega, by simp, _, _, _, rfl, rfl, rfl, HJ.out, hB⟩
                    case measure => simp [intOf]; omega
              · have hx6 : (x == 6) = false := beq_eq_false_iff_ne.2 hx
                cases a
                · clear HI HF gs4 gs5 gs6 gsp gend gres I2 I3 J2 J3 Sn h6k hx
                  go_wp2_with fail
                  go_roundw
                  case rel => exact ⟨k + 1, by omega, by simp, _, _, _, rfl, rfl, rfl, HJ.out, hB⟩
                  case measure => simp [intOf]; omega
                · cases b
                  · clear HI HF gs4 gs5 gs6 gsp gend gres I2 I3 J2 J3 Sn h6k hx
                    go_wp2_with fail
                    go_roundw
                    case rel => exact ⟨k + 1, by omega, by simp, _, _, _, rfl, rfl, rfl, HJ.out, hB⟩
                    case measure => simp [intOf]; omega
                  · exfalso
                    have := I2 rfl
                    have := I3 rfl
                    omega
        · have q := HF.out.2.1 hv0
          subst q
          have hv1 : (v == 0) = false := beq_eq_false_iff_ne.2 hv0
          have HJ : Hid (Iv n a b) := HI.out
          have I2 := HI.out.2.1
          have I3 := HI.out.2.2
          clear hv0 HF HI
          have hsp : kd < 1 ∨ (¬ kd < 1 ∧ kd ≤ 4) ∨ (¬ kd < 1 ∧ ¬ kd ≤ 4) := by omega
          by_cases hx : n = 6
          · subst hx
            clear I2 I3
            rcases hsp with hk1 | ⟨hk1, hk4⟩ | ⟨hk1, hk4⟩
            all_goals
              cases a
              · skip
                go_wp2_with fail
                go_roundw
                case rel => exact ⟨k + 1, by omega, by simp, _, _, _, rfl, rfl, rfl, HJ.out, hB⟩
                case measure => simp [intOf]; omega
              · cases b
                all_goals
                  go_wp2_with fail
                  go_roundw
                  case rel => exact ⟨k + 1, by omega, by simp, _, _, _, rfl, rfl, rfl, HJ.out, hB⟩
                  case measure => simp [intOf]; omega
          · have hx6 : (n == 6) = false := beq_eq_false_iff_ne.2 hx
            rcases hsp with hk1 | ⟨hk1, hk4⟩ | ⟨hk1, hk4⟩
            all_goals
              cases a
              · clear I2 I3 hx
                go_wp2_with fail
                go_roundw
                case rel => exact ⟨k + 1, by omega, by simp, _, _, _, rfl, rfl, rfl, HJ.out, hB⟩
                case measure => simp [intOf]; omega
              · cases b
                · clear I2 I3 hx
                  go_wp2_with fail
                  go_roundw
                  case rel => exact ⟨k + 1, by omega, by simp, _, _, _, rfl, rfl, rfl, HJ.out, hB⟩
                  case measure => simp [intOf]; omega
                · exfalso
                  have := I2 rfl
                  have := I3 rfl
                  omega
      · have hlti : ¬ (k : Int) < (m : Int) := by omega
        go_wp2
        go_ret
        exact ⟨rfl, hB⟩
end Go.Proofs.Ytmflgoghlbmkeaa
