/- usualPort, isOfLabel, isHost. -/
import Derived.Test.YtbifmikndpeafaaDoorA3
import Derived.Laws.Runes
import Derived.Laws.RangeAny
import Derived.Deep.LoopGhost
namespace Go.Proofs.YtbifmikndpeafaaDoor
open Go.RowKit
set_option linter.unusedVariables false
set_option linter.unusedSimpArgs false
theorem iter_bel (w : World) (s : ByteArray) (i : Nat) : Below w.heap.size w (w.iter s i) := bel1 w _
theorem str_ne {a b : ByteArray} (h : a ≠ b) : (a.toList == b.toList) = false := by
  rw [beq_eq_false_iff_ne]
  intro e
  rw [ByteArray.toList_eq, ByteArray.toList_eq] at e
  exact h (ba_eq e)
theorem lit_ne {a : ByteArray} {l : List UInt8} (h : a ≠ ⟨l.toArray⟩) : (a.toList == l) = false := by
  rw [beq_eq_false_iff_ne]
  intro e
  rw [ByteArray.toList_eq] at e
  exact h (ba_eq (by rw [e]))
set_option maxHeartbeats 1000000 in
theorem usual_any (s : ByteArray) (w : World) : Calls Tryd.prog 23 #[.string s] w fun e w' => e = .returned (.int .i64 (usP s)) ∧ w' = w := by
  rcases usP_cases s with ⟨rfl, e⟩ | ⟨rfl, e⟩ | ⟨h1, h2, e⟩
  · rw [e]
    clear e
    unfold httpS
    go_enter Tryd.func23, Tryd.ntmps23
    go_wp2_with fail
    go_ret
    exact ⟨rfl, rfl⟩
  · rw [e]
    clear e
    unfold httpsS
    go_enter Tryd.func23, Tryd.ntmps23
    go_wp2_with fail
    go_ret
    exact ⟨rfl, rfl⟩
  · rw [e]
    have a1 := lit_ne (l := [104, 116, 116, 112]) h1
    have a2 := lit_ne (l := [104, 116, 116, 112, 115]) h2
    clear e h1 h2
    go_enter Tryd.func23, Tryd.ntmps23
    go_wp2_with fail
    go_ret
    exact ⟨rfl, rfl⟩
def lbI (r : Int) : Bool := (decide (97 ≤ r) && decide (r ≤ 122)) || (decide (48 ≤ r) && decide (r ≤ 57))
theorem lbI_byte (x : UInt8) : lbI (x.toNat : Int) = lbB x := by
  unfold lbI lbB
  have h1 : decide ((97 : Int) ≤ (x.toNat : Int)) = decide (97 ≤ x.toNat) := decide_eq_decide.2 (by omega)
  have h2 : decide ((x.toNat : Int) ≤ 122) = decide (x.toNat ≤ 122) := decide_eq_decide.2 (by omega)
  have h3 : decide ((48 : Int) ≤ (x.toNat : Int)) = decide (48 ≤ x.toNat) := decide_eq_decide.2 (by omega)
  have h4 : decide ((x.toNat : Int) ≤ 57) = decide (x.toNat ≤ 57) := decide_eq_decide.2 (by omega)
  rw [h1, h2, h3, h4]
set_option maxHeartbeats 1000000 in
theorem label_any (r : Int) (w : World) : Calls Tryd.prog 41 #[.int .i32 r] w fun e w' => e = .returned (.bool (lbI r)) ∧ w' = w := by
  by_cases h1 : 97 ≤ r
  · by_cases h2 : r ≤ 122
    · have e : lbI r = true := by simp [lbI, h1, h2]
      rw [e]
      clear e
      go_enter Tryd.func41, Tryd.ntmps41
      go_wp2_with fail
      go_ret
      exact ⟨rfl, rfl⟩
    · have h3 : 48 ≤ r := by omega
      have h4 : ¬ r ≤ 57 := by omega
      have e : lbI r = false := by simp [lbI, h1, h2, h4]
      rw [e]
      clear e
      go_enter Tryd.func41, Tryd.ntmps41
      go_wp2_with fail
      go_ret
      exact ⟨rfl, rfl⟩
  · by_cases h3 : 48 ≤ r
    · by_cases h4 : r ≤ 57
      · have e : lbI r = true := by simp [lbI, h3, h4]
        rw [e]
        clear e
        go_enter Tryd.func41, Tryd.ntmps41
        go_wp2_with fail
        go_ret
        exact ⟨rfl, rfl⟩
      · have e : lbI r = false := by simp [lbI, h1, h4]
        rw [e]
        clear e
        go_enter Tryd.func41, Tryd.ntmps41
        go_wp2_with fail
        go_ret
        exact ⟨rfl, rfl⟩
    · have e : lbI r = false := by simp [lbI, h1, h3]
      rw [e]
      clear e
      go_enter Tryd.func41, Tryd.ntmps41
      go_wp2_with fail
      go_ret
      exact ⟨rfl, rfl⟩
theorem getL {s : ByteArray} {i : Nat} (h : i < s.size) : s.data.toList[i]'(by rw [← Lib.size_eq]; exact h) = s[i] := by simp; rfl
theorem drop_at {s : ByteArray} {i : Nat} (h : i < s.size) {x : UInt8} (e : s[i] = x) : s.data.toList.drop i = x :: s.data.toList.drop (i + 1) := by
  rw [List.drop_eq_getElem_cons (by rw [← Lib.size_eq]; exact h), getL h, e]
set_option maxHeartbeats 4000000 in
set_option maxRecDepth 100000 in
theorem host_any (s : ByteArray) (w : World) : Calls Tryd.prog 34 #[.string s] w fun e w' => e = .returned (.bool (hostB s)) ∧ Below w.heap.size w w' := by
  by_cases h1 : s.size ≤ 253
  · obtain ⟨T, hT⟩ : ∃ T, s ++ (⟨#[46]⟩ : ByteArray) = T := ⟨_, rfl⟩
    have HTl : Hid (T.data.toList = s.data.toList ++ [46]) := by show _ = _; rw [← hT]; simp [ByteArray.data_append]
    have hTs : T.size ≤ 254 := by rw [Lib.size_eq, HTl.out, List.length_append, ← Lib.size_eq]; simp; omega
    have HB : Hid (hostB s = hB T.data.toList 0 false) := by show _ = _; unfold hostB; rw [decide_eq_true h1, HTl.out]; rfl
    have a1 : ¬ (s.size : Int) > 253 := by omega
    have a2 : ¬ (s.size + 1 > 9223372036854775807) := by omega
    rw [HB.out]
    clear h1 HB HTl
    go_enter Tryd.func34, Tryd.ntmps34
    go_wp2_with fail
    go_loopg [3, 4, 6] T.size (fun g nv lv _ wx => ∃ (i n : Nat) (lc : Int), i + g = T.size ∧ nv = .int .i64 (n : Int) ∧ lv = .int .i32 lc ∧ n ≤ i ∧ wx = w.iter T i ∧ Hid (hB T.data.toList 0 false = hB (T.data.toList.drop i) n (decide (lc = 45))))
    case atStart => exact ⟨0, 0, 46, by omega, rfl, rfl, by omega, rfl, by show _ = _; simp⟩
    case round =>
      obtain ⟨i, n, lc, hig, rfl, rfl, hni, rfl, hinv⟩ := hrel
      cases gk with
      | zero =>
        obtain rfl : i = T.size := by omega
        have hnx := run_next_end (P := Tryd.prog) w T T.size
        have hF : Hid (hB T.data.toList 0 false = true) := by
          show _ = _
          rw [hinv.out, List.drop_of_length_le (by rw [← Lib.size_eq]; omega)]
          rfl
        clear hinv
        go_wp2_with fail
        go_ret
        exact ⟨by rw [hF.out]; rfl, iter_bel _ _ _⟩
      | succ g =>
        have hi : i < T.size := by omega
        obtain ⟨x, hx⟩ : ∃ x : UInt8, T[i]'hi = x := ⟨_, rfl⟩
        have hD := drop_at hi hx
        by_cases hx128 : x.toNat < 128
        · have hnx := fun ty => run_next_ascii (P := Tryd.prog) w T i ty hi (by rw [hx]; exact hx128)
          rw [hx] at hnx
          have HL : Hid (lbI (x.toNat : Int) = lbB x) := lbI_byte x
          rw [hD] at hinv
          clear hx hD
          by_cases h46 : x.toNat = 46
          · have b1 : ((x.toNat : Int) == 46) = true := by rw [h46]; rfl
            have b2 : ((x.toNat : Int) == 45) = false := by rw [h46]; rfl
            have hlb : lbB x = false := lbB_not.2 (by omega)
            rw [hlb] at HL
            by_cases hn1 : 1 ≤ n
            · have c1 : (1 : Int) ≤ (n : Int) := by omega
              by_cases hn2 : n ≤ 63
              · have c2 : (n : Int) ≤ 63 := by omega
                by_cases hl : lc = 45
                · have c3 : (lc != 45) = false := by rw [hl]; rfl
                  have hF : Hid (hB T.data.toList 0 false = false) := by
                    show _ = _
                    rw [hinv.out, hB_no (by rw [decide_eq_true hl]; simp) hlb (by omega)]
                  clear hinv hl hlb h46
                  go_wp2_with fail
                  go_at_call 41
                  refine (label_any _ _).mono ?_
                  rintro e w1 ⟨rfl, hw1⟩
                  rw [hw1, HL.out]
                  clear hw1
                  go_wp2_with fail
                  go_ret
                  exact ⟨by rw [hF.out]; rfl, iter_bel _ _ _⟩
                · have c3 : (lc != 45) = true := bne_iff_ne.2 hl
                  have hN : Hid (hB T.data.toList 0 false = hB (T.data.toList.drop (i + 1)) 0 (decide ((46 : Int) = 45))) := by
                    show _ = _
                    rw [hinv.out, hB_dot ⟨h46, hn1, hn2, decide_eq_false hl⟩]
                    rfl
                  have hx46 : (x.toNat : Int) = 46 := by omega
                  rw [hx46] at hnx b1 b2
                  clear hinv hl hlb HL hx46 h46
                  go_wp2_with fail
                  go_roundg g
                  case measure => omega
                  case rel => exact ⟨i + 1, 0, 46, by omega, by first | rfl | simp, by first | rfl | simp, by omega, rfl, hN.out⟩
              · have c2 : ¬ (n : Int) ≤ 63 := by omega
                have hF : Hid (hB T.data.toList 0 false = false) := by
                  show _ = _
                  rw [hinv.out, hB_no (by omega) hlb (by omega)]
                clear hinv hlb h46
                go_wp2_with fail
                go_at_call 41
                refine (label_any _ _).mono ?_
                rintro e w1 ⟨rfl, hw1⟩
                rw [hw1, HL.out]
                clear hw1
                go_wp2_with fail
                go_ret
                exact ⟨by rw [hF.out]; rfl, iter_bel _ _ _⟩
            · have c1 : ¬ (1 : Int) ≤ (n : Int) := by omega
              have hF : Hid (hB T.data.toList 0 false = false) := by
                show _ = _
                rw [hinv.out, hB_no (by omega) hlb (by omega)]
              clear hinv hlb h46
              go_wp2_with fail
              go_at_call 41
              refine (label_any _ _).mono ?_
              rintro e w1 ⟨rfl, hw1⟩
              rw [hw1, HL.out]
              clear hw1
              go_wp2_with fail
              go_ret
              exact ⟨by rw [hF.out]; rfl, iter_bel _ _ _⟩
          · have b1 : ((x.toNat : Int) == 46) = false := beq_eq_false_iff_ne.2 (by omega)
            by_cases hlb : lbB x = true
            · have hN : Hid (hB T.data.toList 0 false = hB (T.data.toList.drop (i + 1)) (n + 1) (decide ((x.toNat : Int) = 45))) := by
                show _ = _
                have := lbB_iff.1 hlb
                rw [hinv.out, hB_lab hlb, decide_eq_false (by omega)]
              rw [hlb] at HL
              clear hinv hlb h46
              go_wp2_with fail
              go_at_call 41
              refine (label_any _ _).mono ?_
              rintro e w1 ⟨rfl, hw1⟩
              rw [hw1, HL.out]
              clear hw1
              go_wp2_with fail
              go_roundg g
              case measure => omega
              case rel => exact ⟨i + 1, n + 1, (x.toNat : Int), by omega, by first | rfl | simp, by first | rfl | simp, by omega, rfl, hN.out⟩
            · have hlb' : lbB x = false := by simpa using hlb
              rw [hlb'] at HL
              by_cases h45 : x.toNat = 45
              · have b2 : ((x.toNat : Int) == 45) = true := by rw [h45]; rfl
                by_cases hn0 : 0 < n
                · have c1 : (n : Int) > 0 := by omega
                  have hN : Hid (hB T.data.toList 0 false = hB (T.data.toList.drop (i + 1)) (n + 1) (decide ((x.toNat : Int) = 45))) := by
                    show _ = _
                    rw [hinv.out, hB_dash ⟨h45, hn0⟩, decide_eq_true (by omega)]
                  clear hinv hlb h46 h45 hlb'
                  go_wp2_with fail
                  go_at_call 41
                  refine (label_any _ _).mono ?_
                  rintro e w1 ⟨rfl, hw1⟩
                  rw [hw1, HL.out]
                  clear hw1
                  go_wp2_with fail
                  go_roundg g
                  case measure => omega
                  case rel => exact ⟨i + 1, n + 1, (x.toNat : Int), by omega, by first | rfl | simp, by first | rfl | simp, by omega, rfl, hN.out⟩
                · have c1 : ¬ (n : Int) > 0 := by omega
                  have hF : Hid (hB T.data.toList 0 false = false) := by
                    show _ = _
                    rw [hinv.out, hB_no (by omega) hlb' (by omega)]
                  clear hinv hlb hlb' h46 h45
                  go_wp2_with fail
                  go_at_call 41
                  refine (label_any _ _).mono ?_
                  rintro e w1 ⟨rfl, hw1⟩
                  rw [hw1, HL.out]
                  clear hw1
                  go_wp2_with fail
                  go_ret
                  exact ⟨by rw [hF.out]; rfl, iter_bel _ _ _⟩
              · have b2 : ((x.toNat : Int) == 45) = false := beq_eq_false_iff_ne.2 (by omega)
                have hF : Hid (hB T.data.toList 0 false = false) := by
                  show _ = _
                  rw [hinv.out, hB_no (by omega) hlb' (by omega)]
                clear hinv hlb hlb' h46 h45
                go_wp2_with fail
                go_at_call 41
                refine (label_any _ _).mono ?_
                rintro e w1 ⟨rfl, hw1⟩
                rw [hw1, HL.out]
                clear hw1
                go_wp2_with fail
                go_ret
                exact ⟨by rw [hF.out]; rfl, iter_bel _ _ _⟩
        · have hd := decode_high T i hi (by rw [hx]; omega)
          have hnx := fun ty => run_next_any (P := Tryd.prog) w T i ty hi
          have hF : Hid (hB T.data.toList 0 false = false) := by
            show _ = _
            rw [hinv.out, hD, hB_no (by omega) (lbB_not.2 (by omega)) (by omega)]
          obtain ⟨D, hDD⟩ : ∃ D, Utf8.decode T i = D := ⟨_, rfl⟩
          rw [hDD] at hnx hd
          obtain ⟨r, k⟩ := D
          simp only at hnx hd
          have b1 : ((r : Int) == 46) = false := beq_eq_false_iff_ne.2 (by omega)
          have b2 : ((r : Int) == 45) = false := beq_eq_false_iff_ne.2 (by omega)
          have HL : Hid (lbI (r : Int) = false) := by
            show _ = _
            unfold lbI
            rw [decide_eq_false (p := (r : Int) ≤ 122) (by omega), decide_eq_false (p := (r : Int) ≤ 57) (by omega)]
            simp
          clear hDD hd hD hx hinv hx128
          go_wp2_with fail
          go_at_call 41
          refine (label_any _ _).mono ?_
          rintro e w1 ⟨rfl, hw1⟩
          rw [hw1, HL.out]
          clear hw1
          go_wp2_with fail
          go_ret
          exact ⟨by rw [hF.out]; rfl, iter_bel _ _ _⟩
  · have a1 : (s.size : Int) > 253 := by omega
    have e : hostB s = false := by unfold hostB; rw [decide_eq_false h1]; rfl
    rw [e]
    clear e h1
    go_enter Tryd.func34, Tryd.ntmps34
    go_wp2_with fail
    go_ret
    exact ⟨rfl, Below.refl _ _⟩
end Go.Proofs.YtbifmikndpeafaaDoor
