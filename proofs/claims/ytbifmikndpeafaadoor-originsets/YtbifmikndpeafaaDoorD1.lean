/- The document's usual, Host. -/
import Derived.Test.YtbifmikndpeafaaDoorB3
namespace Go.Proofs.YtbifmikndpeafaaDoor
open Go.RowKit
set_option linter.unusedVariables false
set_option linter.unusedSimpArgs false
def dsh (l : List UInt8) (j : Nat) : Prop := (l.getD j 0).toNat = 45
/-- what the document's loop knows at byte i, n bytes of a label behind it -/
def hInv (l : List UInt8) (i n : Nat) : Prop :=
  n ≤ i ∧ ((0 < n ∧ (l.getD (i - n) 0).toNat = 45) → hB (l ++ [46]) 0 false = false) ∧
    (¬ (0 < n ∧ (l.getD (i - n) 0).toNat = 45) → hB (l ++ [46]) 0 false = hB ((l ++ [46]).drop i) n (decide (0 < n ∧ (l.getD (i - 1) 0).toNat = 45)))
theorem hInv.zero (l : List UInt8) : hInv l 0 0 := ⟨Nat.le_refl _, fun h => absurd h.1 (by omega), fun _ => by simp⟩
theorem drop_dot {l : List UInt8} {i : Nat} (h : i = l.length ∨ ∃ h : i < l.length, (l[i]'h).toNat = 46) : ∃ x : UInt8, x.toNat = 46 ∧ (l ++ [46]).drop i = x :: (l ++ [46]).drop (i + 1) := by
  rcases h with rfl | ⟨h, e⟩
  · exact ⟨46, rfl, by simp⟩
  · refine ⟨l[i], e, ?_⟩
    rw [List.drop_eq_getElem_cons (by simp; omega), List.getElem_append_left h]
theorem drop_chr {l : List UInt8} {i : Nat} (h : i < l.length) : (l ++ [46]).drop i = l[i] :: (l ++ [46]).drop (i + 1) := by
  rw [List.drop_eq_getElem_cons (by simp; omega), List.getElem_append_left h]
theorem hInv.badDot {l : List UInt8} {i n : Nat} (h : hInv l i n) (hd : i = l.length ∨ ∃ h : i < l.length, (l[i]'h).toNat = 46) (hb : n < 1 ∨ n > 63 ∨ (l.getD (i - 1) 0).toNat = 45 ∨ (l.getD (i - n) 0).toNat = 45) : hB (l ++ [46]) 0 false = false := by
  obtain ⟨x, hx, hdr⟩ := drop_dot hd
  by_cases hf : 0 < n ∧ (l.getD (i - n) 0).toNat = 45
  · exact h.2.1 hf
  · rw [h.2.2 hf, hdr]
    refine hB_no ?_ (lbB_not.2 (by omega)) (by omega)
    rintro ⟨_, h1, h2, h3⟩
    rcases hb with hb | hb | hb | hb
    · omega
    · omega
    · exact absurd ⟨h1, hb⟩ (of_decide_eq_false h3)
    · exact hf ⟨h1, hb⟩
theorem hInv.dot {l : List UInt8} {i n : Nat} (h : hInv l i n) (hd : i = l.length ∨ ∃ h : i < l.length, (l[i]'h).toNat = 46) (h1 : 1 ≤ n) (h2 : n ≤ 63) (h3 : ¬ (l.getD (i - 1) 0).toNat = 45) (h4 : ¬ (l.getD (i - n) 0).toNat = 45) : hInv l (i + 1) 0 := by
  obtain ⟨x, hx, hdr⟩ := drop_dot hd
  refine ⟨Nat.zero_le _, fun hf => absurd hf.1 (by omega), fun _ => ?_⟩
  rw [h.2.2 (fun hf => h4 hf.2), hdr, hB_dot ⟨hx, h1, h2, decide_eq_false (fun hf => h3 hf.2)⟩]
  simp
theorem hInv.bad {l : List UInt8} {i n : Nat} (h : hInv l i n) (hi : i < l.length) (h1 : ¬ l[i].toNat = 46) (h2 : lbB l[i] = false) (h3 : ¬ l[i].toNat = 45) : hB (l ++ [46]) 0 false = false := by
  by_cases hf : 0 < n ∧ (l.getD (i - n) 0).toNat = 45
  · exact h.2.1 hf
  · rw [h.2.2 hf, drop_chr hi]
    exact hB_no (by omega) h2 (by omega)
theorem hInv.more {l : List UInt8} {i n : Nat} (h : hInv l i n) (hi : i < l.length) (h1 : ¬ l[i].toNat = 46) (h2 : lbB l[i] = true ∨ l[i].toNat = 45) : hInv l (i + 1) (n + 1) := by
  have hni := h.1
  have e1 : i + 1 - (n + 1) = i - n := by omega
  have e2 : l.getD (i + 1 - 1) 0 = l[i] := by rw [Nat.add_sub_cancel, List.getD_eq_getElem?_getD, List.getElem?_eq_getElem hi]; rfl
  refine ⟨by omega, ?_, ?_⟩
  · rw [e1]
    rintro ⟨_, hf⟩
    by_cases hn : 0 < n
    · exact h.2.1 ⟨hn, hf⟩
    · obtain rfl : n = 0 := by omega
      have e3 : l.getD (i - 0) 0 = l[i] := by rw [Nat.sub_zero, List.getD_eq_getElem?_getD, List.getElem?_eq_getElem hi]; rfl
      rw [e3] at hf
      rw [h.2.2 (by omega), drop_chr hi]
      exact hB_no (by omega) (lbB_not.2 (by omega)) (by omega)
  · rw [e1, e2]
    intro hf
    have hf' : ¬ (0 < n ∧ (l.getD (i - n) 0).toNat = 45) := fun hh => hf ⟨by omega, hh.2⟩
    rw [h.2.2 hf', drop_chr hi]
    rcases h2 with h2 | h2
    · have := lbB_iff.1 h2
      rw [hB_lab h2, decide_eq_false (by omega)]
    · have hn : 0 < n := by
        rcases Nat.eq_zero_or_pos n with e | e
        · subst e
          have e3 : l.getD (i - 0) 0 = l[i] := by rw [Nat.sub_zero, List.getD_eq_getElem?_getD, List.getElem?_eq_getElem hi]; rfl
          rw [e3] at hf
          exact absurd ⟨by omega, h2⟩ hf
        · exact e
      rw [hB_dash ⟨h2, hn⟩, decide_eq_true ⟨by omega, h2⟩]
theorem hInv.fin {l : List UInt8} (h : hInv l (l.length + 1) 0) : hB (l ++ [46]) 0 false = true := by
  rw [h.2.2 (by omega), List.drop_of_length_le (by simp)]
  rfl
set_option maxHeartbeats 1000000 in
theorem rusual_any (s : ByteArray) (w : World) : Calls Tryd.prog 30 #[.string s] w fun e w' => e = .returned (.int .i64 (usP s)) ∧ w' = w := by
  rcases usP_cases s with ⟨rfl, e⟩ | ⟨rfl, e⟩ | ⟨h1, h2, e⟩
  · rw [e]
    clear e
    unfold httpS
    go_enter Tryd.func30, Tryd.ntmps30
    go_wp2_with fail
    go_ret
    exact ⟨rfl, rfl⟩
  · rw [e]
    clear e
    unfold httpsS
    go_enter Tryd.func30, Tryd.ntmps30
    go_wp2_with fail
    go_ret
    exact ⟨rfl, rfl⟩
  · rw [e]
    have a1 := lit_ne (l := [104, 116, 116, 112]) h1
    have a2 := lit_ne (l := [104, 116, 116, 112, 115]) h2
    clear e h1 h2
    go_enter Tryd.func30, Tryd.ntmps30
    go_wp2_with fail
    go_ret
    exact ⟨rfl, rfl⟩
theorem getD_at {s : ByteArray} {j : Nat} (h : j < s.size) : s.data.toList.getD j 0 = s[j] := by
  rw [List.getD_eq_getElem?_getD, List.getElem?_eq_getElem (by rw [← Lib.size_eq]; exact h), getL h]
  rfl
set_option maxHeartbeats 4000000 in
set_option maxRecDepth 100000 in
theorem rhost_any (s : ByteArray) (w : World) : Calls Tryd.prog 39 #[.string s] w fun e w' => e = .returned (.bool (hostB s)) ∧ w' = w := by
  by_cases h0 : s.size < 1
  · have a0 : (s.size : Int) < 1 := by omega
    have e : hostB s = false := by
      have : s.data.toList = [] := List.eq_nil_of_length_eq_zero (by rw [← Lib.size_eq]; omega)
      unfold hostB
      rw [this]
      have : hB ([] ++ [46]) 0 false = false := by decide
      rw [this]
      simp
    rw [e]
    clear e h0
    go_enter Tryd.func39, Tryd.ntmps39
    go_wp2_with fail
    go_ret
    exact ⟨rfl, rfl⟩
  · have a0 : ¬ (s.size : Int) < 1 := by omega
    by_cases h1 : s.size > 253
    · have a1 : (s.size : Int) > 253 := by omega
      have e : hostB s = false := by unfold hostB; rw [decide_eq_false (by omega)]; rfl
      rw [e]
      clear e h1
      go_enter Tryd.func39, Tryd.ntmps39
      go_wp2_with fail
      go_ret
      exact ⟨rfl, rfl⟩
    · have a1 : ¬ (s.size : Int) > 253 := by omega
      have HB : Hid (hostB s = hB (s.data.toList ++ [46]) 0 false) := by show _ = _; unfold hostB; rw [decide_eq_true (by omega)]; rfl
      have HL : Hid (s.data.toList.length = s.size) := (Lib.size_eq s).symm
      have h253 : s.size ≤ 253 := by omega
      rw [HB.out]
      clear h1 HB
      go_enter Tryd.func39, Tryd.ntmps39
      go_wp2_with fail
      go_loopw [3, 4, 5] (fun nv iv _ wr => ∃ i n : Nat, nv = .int .i64 (n : Int) ∧ iv = .int .i64 (i : Int) ∧ i ≤ s.size + 1 ∧ (i ≤ s.size ∨ n = 0) ∧ Hid (hInv s.data.toList i n ∧ wr = w)) (fun _ iv _ _ => s.size + 1 - (intOf iv).toNat)
      case atStart => exact ⟨0, 0, rfl, rfl, by omega, by omega, hInv.zero _, rfl⟩
      case round =>
        obtain ⟨i, n, rfl, rfl, hi, hin, hJ⟩ := hrel
        have hww := hJ.out.2
        have hI : Hid (hInv s.data.toList i n) := hJ.out.1
        rw [hww]
        clear hww hJ
        have hni0 := hI.out.1
        by_cases hle : i ≤ s.size
        · have c0 : (i : Int) ≤ (s.size : Int) := by omega
          by_cases heq : i = s.size
          · have c1 : ((i : Int) == (s.size : Int)) = true := by rw [heq]; simp
            have HD : Hid (i = s.data.toList.length ∨ ∃ h : i < s.data.toList.length, (s.data.toList[i]'h).toNat = 46) := .inl (by rw [HL.out]; exact heq)
            clear heq
            by_cases hn1 : n < 1
            · have a1 : (n : Int) < 1 := by omega
              have HF : Hid (hB (s.data.toList ++ [46]) 0 false = false) := hI.out.badDot HD.out (.inl hn1)
              clear hI hn1 HD
              go_wp2_with fail
              go_ret
              exact ⟨by rw [HF.out]; rfl, rfl⟩
            · have a1 : ¬ (n : Int) < 1 := by omega
              by_cases hn2 : n > 63
              · have a2 : (n : Int) > 63 := by omega
                have HF : Hid (hB (s.data.toList ++ [46]) 0 false = false) := hI.out.badDot HD.out (.inr (.inl hn2))
                clear hI hn2 HD hn1
                go_wp2_with fail
                go_ret
                exact ⟨by rw [HF.out]; rfl, rfl⟩
              · have a2 : ¬ (n : Int) > 63 := by omega
                have hni := hI.out.1
                obtain ⟨j, hj⟩ : ∃ j : Nat, i - 1 = j := ⟨_, rfl⟩
                obtain ⟨q, hq⟩ : ∃ q : Nat, i - n = q := ⟨_, rfl⟩
                have hj1 : (i : Int) - 1 = (j : Int) := by omega
                have hq1 : (i : Int) - (n : Int) = (q : Int) := by omega
                have hjs : j < s.size := by omega
                have hqs : q < s.size := by omega
                have hjs' : (j : Int) < (s.size : Int) := by omega
                have hqs' : (q : Int) < (s.size : Int) := by omega
                obtain ⟨y, hy⟩ : ∃ y : UInt8, s[j]'hjs = y := ⟨_, rfl⟩
                obtain ⟨z, hz⟩ : ∃ z : UInt8, s[q]'hqs = z := ⟨_, rfl⟩
                have HY : Hid (s.data.toList.getD (i - 1) 0 = y) := by show _ = _; rw [hj, getD_at hjs, hy]
                have HZ : Hid (s.data.toList.getD (i - n) 0 = z) := by show _ = _; rw [hq, getD_at hqs, hz]
                by_cases h3 : y.toNat = 45
                · have a3 : ((y.toNat : Int) == 45) = true := by rw [h3]; rfl
                  have HF : Hid (hB (s.data.toList ++ [46]) 0 false = false) := hI.out.badDot HD.out (.inr (.inr (.inl (by rw [HY.out]; exact h3))))
                  clear hI hn2 HD hn1 hj hq hni h3
                  go_wp2_with fail
                  go_ret
                  exact ⟨by rw [HF.out]; rfl, rfl⟩
                · have a3 : ((y.toNat : Int) == 45) = false := beq_eq_false_iff_ne.2 (by omega)
                  by_cases h4 : z.toNat = 45
                  · have a4 : ((z.toNat : Int) == 45) = true := by rw [h4]; rfl
                    have HF : Hid (hB (s.data.toList ++ [46]) 0 false = false) := hI.out.badDot HD.out (.inr (.inr (.inr (by rw [HZ.out]; exact h4))))
                    clear hI hn2 HD hn1 hj hq hni h3 h4
                    go_wp2_with fail
                    go_ret
                    exact ⟨by rw [HF.out]; rfl, rfl⟩
                  · have a4 : ((z.toNat : Int) == 45) = false := beq_eq_false_iff_ne.2 (by omega)
                    have HN : Hid (hInv s.data.toList (i + 1) 0) := hI.out.dot HD.out (by omega) (by omega) (by rw [HY.out]; exact h3) (by rw [HZ.out]; exact h4)
                    clear hI hn2 HD hj hq hni h3 h4
                    go_wp2_with fail
                    go_roundw
                    case rel => exact ⟨i + 1, 0, by first | rfl | simp, by first | rfl | simp, by omega, by omega, HN.out, by first | rfl | trivial⟩
                    case measure => simp [intOf]; omega
          · have c1 : ((i : Int) == (s.size : Int)) = false := beq_eq_false_iff_ne.2 (by omega)
            have his : i < s.size := by omega
            have his' : (i : Int) < (s.size : Int) := by omega
            obtain ⟨x, hx⟩ : ∃ x : UInt8, s[i]'his = x := ⟨_, rfl⟩
            have HLt : Hid (i < s.data.toList.length) := by rw [HL.out]; exact his
            have HX : Hid (s.data.toList[i]'HLt.out = x) := by show _ = _; rw [← hx]; exact getL his
            by_cases h46 : x.toNat = 46
            · have c2 : ((x.toNat : Int) == 46) = true := by rw [h46]; rfl
              have HD : Hid (i = s.data.toList.length ∨ ∃ h : i < s.data.toList.length, (s.data.toList[i]'h).toNat = 46) := .inr ⟨HLt.out, by rw [HX.out]; exact h46⟩
              clear h46
              by_cases hn1 : n < 1
              · have a1 : (n : Int) < 1 := by omega
                have HF : Hid (hB (s.data.toList ++ [46]) 0 false = false) := hI.out.badDot HD.out (.inl hn1)
                clear hI hn1 HD
                go_wp2_with fail
                go_ret
                exact ⟨by rw [HF.out]; rfl, rfl⟩
              · have a1 : ¬ (n : Int) < 1 := by omega
                by_cases hn2 : n > 63
                · have a2 : (n : Int) > 63 := by omega
                  have HF : Hid (hB (s.data.toList ++ [46]) 0 false = false) := hI.out.badDot HD.out (.inr (.inl hn2))
                  clear hI hn2 HD hn1
                  go_wp2_with fail
                  go_ret
                  exact ⟨by rw [HF.out]; rfl, rfl⟩
                · have a2 : ¬ (n : Int) > 63 := by omega
                  have hni := hI.out.1
                  obtain ⟨j, hj⟩ : ∃ j : Nat, i - 1 = j := ⟨_, rfl⟩
                  obtain ⟨q, hq⟩ : ∃ q : Nat, i - n = q := ⟨_, rfl⟩
                  have hj1 : (i : Int) - 1 = (j : Int) := by omega
                  have hq1 : (i : Int) - (n : Int) = (q : Int) := by omega
                  have hjs : j < s.size := by omega
                  have hqs : q < s.size := by omega
                  have hjs' : (j : Int) < (s.size : Int) := by omega
                  have hqs' : (q : Int) < (s.size : Int) := by omega
                  obtain ⟨y, hy⟩ : ∃ y : UInt8, s[j]'hjs = y := ⟨_, rfl⟩
                  obtain ⟨z, hz⟩ : ∃ z : UInt8, s[q]'hqs = z := ⟨_, rfl⟩
                  have HY : Hid (s.data.toList.getD (i - 1) 0 = y) := by show _ = _; rw [hj, getD_at hjs, hy]
                  have HZ : Hid (s.data.toList.getD (i - n) 0 = z) := by show _ = _; rw [hq, getD_at hqs, hz]
                  by_cases h3 : y.toNat = 45
                  · have a3 : ((y.toNat : Int) == 45) = true := by rw [h3]; rfl
                    have HF : Hid (hB (s.data.toList ++ [46]) 0 false = false) := hI.out.badDot HD.out (.inr (.inr (.inl (by rw [HY.out]; exact h3))))
                    clear hI hn2 HD hn1 hj hq hni h3
                    go_wp2_with fail
                    go_ret
                    exact ⟨by rw [HF.out]; rfl, rfl⟩
                  · have a3 : ((y.toNat : Int) == 45) = false := beq_eq_false_iff_ne.2 (by omega)
                    by_cases h4 : z.toNat = 45
                    · have a4 : ((z.toNat : Int) == 45) = true := by rw [h4]; rfl
                      have HF : Hid (hB (s.data.toList ++ [46]) 0 false = false) := hI.out.badDot HD.out (.inr (.inr (.inr (by rw [HZ.out]; exact h4))))
                      clear hI hn2 HD hn1 hj hq hni h3 h4
                      go_wp2_with fail
                      go_ret
                      exact ⟨by rw [HF.out]; rfl, rfl⟩
                    · have a4 : ((z.toNat : Int) == 45) = false := beq_eq_false_iff_ne.2 (by omega)
                      have HN : Hid (hInv s.data.toList (i + 1) 0) := hI.out.dot HD.out (by omega) (by omega) (by rw [HY.out]; exact h3) (by rw [HZ.out]; exact h4)
                      clear hI hn2 HD hj hq hni h3 h4
                      go_wp2_with fail
                      go_roundw
                      case rel => exact ⟨i + 1, 0, by first | rfl | simp, by first | rfl | simp, by omega, by omega, HN.out, by first | rfl | trivial⟩
                      case measure => simp [intOf]; omega
            · have c2 : ((x.toNat : Int) == 46) = false := beq_eq_false_iff_ne.2 (by omega)
              by_cases hlb : lbB x = true
              · have HN : Hid (hInv s.data.toList (i + 1) (n + 1)) := hI.out.more HLt.out (by rw [HX.out]; exact h46) (.inl (by rw [HX.out]; exact hlb))
                have hx8 := x.toNat_lt
                rcases lbB_iff.1 hlb with ⟨l1, l2⟩ | ⟨l1, l2⟩
                · have b1 : (x.toNat : Int) ≥ 97 := by omega
                  have b2 : (x.toNat : Int) ≤ 122 := by omega
                  clear hlb l1 l2 h46 hI HX
                  go_wp2_with fail
                  go_roundw
                  case rel => exact ⟨i + 1, n + 1, by first | rfl | simp, by first | rfl | simp, by omega, by omega, HN.out, by first | rfl | trivial⟩
                  case measure => simp [intOf]; omega
                · have b1 : ¬ (x.toNat : Int) ≥ 97 := by omega
                  have b3 : (x.toNat : Int) ≥ 48 := by omega
                  have b4 : (x.toNat : Int) ≤ 57 := by omega
                  clear hlb l1 l2 h46 hI HX
                  go_wp2_with fail
                  go_roundw
                  case rel => exact ⟨i + 1, n + 1, by first | rfl | simp, by first | rfl | simp, by omega, by omega, HN.out, by first | rfl | trivial⟩
                  case measure => simp [intOf]; omega
              · have hlb' : lbB x = false := by simpa using hlb
                have hno := lbB_not.1 hlb'
                by_cases h45 : x.toNat = 45
                · have b5 : ((x.toNat : Int) == 45) = true := by rw [h45]; rfl
                  have b1 : ¬ (x.toNat : Int) ≥ 97 := by omega
                  have b3 : ¬ (x.toNat : Int) ≥ 48 := by omega
                  have HN : Hid (hInv s.data.toList (i + 1) (n + 1)) := hI.out.more HLt.out (by rw [HX.out]; exact h46) (.inr (by rw [HX.out]; exact h45))
                  clear hlb hlb' hno h46 h45 hI HX
                  go_wp2_with fail
                  go_roundw
                  case rel => exact ⟨i + 1, n + 1, by first | rfl | simp, by first | rfl | simp, by omega, by omega, HN.out, by first | rfl | trivial⟩
                  case measure => simp [intOf]; omega
                · have b5 : ((x.toNat : Int) == 45) = false := beq_eq_false_iff_ne.2 (by omega)
                  have HF : Hid (hB (s.data.toList ++ [46]) 0 false = false) := hI.out.bad HLt.out (by rw [HX.out]; exact h46) (by rw [HX.out]; exact hlb') (by rw [HX.out]; exact h45)
                  by_cases b1 : (x.toNat : Int) ≥ 97
                  · have b2 : ¬ (x.toNat : Int) ≤ 122 := by omega
                    have b3 : (x.toNat : Int) ≥ 48 := by omega
                    have b4 : ¬ (x.toNat : Int) ≤ 57 := by omega
                    clear hlb hlb' hno h46 h45 hI HX
                    go_wp2_with fail
                    go_ret
                    exact ⟨by rw [HF.out]; rfl, rfl⟩
                  · by_cases b3 : (x.toNat : Int) ≥ 48
                    · have b4 : ¬ (x.toNat : Int) ≤ 57 := by omega
                      clear hlb hlb' hno h46 h45 hI HX
                      go_wp2_with fail
                      go_ret
                      exact ⟨by rw [HF.out]; rfl, rfl⟩
                    · clear hlb hlb' hno h46 h45 hI HX
                      go_wp2_with fail
                      go_ret
                      exact ⟨by rw [HF.out]; rfl, rfl⟩
        · obtain rfl : i = s.size + 1 := by omega
          obtain rfl : n = 0 := by omega
          have c0 : ¬ ((s.size + 1 : Nat) : Int) ≤ (s.size : Int) := by omega
          have c0' : ¬ (s.size : Int) + 1 ≤ (s.size : Int) := by omega
          have HF : Hid (hB (s.data.toList ++ [46]) 0 false = true) := by
            have := hI.out
            rw [← HL.out] at this
            exact this.fin
          clear hI
          go_wp2_with fail
          go_ret
          exact ⟨by rw [HF.out]; rfl, rfl⟩
end Go.Proofs.YtbifmikndpeafaaDoor
