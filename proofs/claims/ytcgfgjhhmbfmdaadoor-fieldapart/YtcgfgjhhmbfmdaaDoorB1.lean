/- The document's words. -/
import Derived.Test.YtcgfgjhhmbfmdaaDoorA7
namespace Go.Proofs.YtcgfgjhhmbfmdaaDoor
open Go.RowKit
set_option linter.unusedVariables false
set_option linter.unusedSimpArgs false

/-- does a byte stand in a text? -/
def inB (of : ByteArray) (x : UInt8) : Bool := of.data.toList.contains x
/-- the first i bytes are not x -/
def noX (s : ByteArray) (x : UInt8) (i : Nat) : Prop := ∀ j (h : j < s.size), j < i → s[j]'h ≠ x
theorem noX.all {s : ByteArray} {x : UInt8} (h : noX s x s.size) : inB s x = false := by
  cases e : inB s x
  · rfl
  · have hm : x ∈ s.data.toList := by unfold inB at e; simpa using e
    obtain ⟨j, hj, e'⟩ := List.getElem_of_mem hm
    have hj' : j < s.size := by simpa using hj
    exact absurd e' (h j hj' hj')
theorem has_at {s : ByteArray} {x : UInt8} {i : Nat} (hi : i < s.size) (h : s[i]'hi = x) : inB s x = true := by
  have : x ∈ s.data.toList := by rw [← h]; simp [ByteArray.getElem_eq_getElem_data]
  unfold inB
  simpa using this

set_option maxHeartbeats 2000000 in
set_option maxRecDepth 100000 in
theorem among_any (x : UInt8) (s : ByteArray) (w : World) (hs : s.size ≤ 140737488355328) : Calls Tryd.prog 43 #[.int .u8 (x.toNat : Int), .string s] w fun e w' => e = .returned (.bool (inB s x)) ∧ w' = w := by
  go_enter Tryd.func43, Tryd.ntmps43
  go_wp2_with fail
  go_loopw [5] (fun iv wr => ∃ i : Nat, iv = .int .i64 (i : Int) ∧ i ≤ s.size ∧ Hid (noX s x i) ∧ wr = w) (fun iv _ => s.size - (intOf iv).toNat)
  case atStart => exact ⟨0, rfl, by omega, fun j _ h => absurd h (by omega), rfl⟩
  case round =>
    obtain ⟨i, rfl, hi, hno, hw⟩ := hrel
    rw [hw]
    clear hw
    by_cases hlt : i < s.size
    · have hlt' : (i : Int) < (s.size : Int) := by omega
      obtain ⟨y, hy⟩ : ∃ y : UInt8, s[i]'hlt = y := ⟨_, rfl⟩
      have Hy : Hid (s[i]'hlt = y) := hy
      by_cases hxy : y = x
      · have he : ((y.toNat : Int) == (x.toNat : Int)) = true := by rw [hxy]; simp
        have hc : Hid (inB s x = true) := has_at hlt (Hy.out.trans hxy)
        clear hxy
        go_wp2_with fail
        go_ret
        exact ⟨by rw [hc.out]; rfl, rfl⟩
      · have hn : y.toNat ≠ x.toNat := fun e => hxy (UInt8.toNat_inj.1 e)
        have he : ((y.toNat : Int) == (x.toNat : Int)) = false := beq_eq_false_iff_ne.2 (by omega)
        have Hxy : Hid (y ≠ x) := hxy
        clear hxy hn
        go_wp2_with fail
        go_roundw
        case rel =>
          refine ⟨i + 1, by simp, by omega, fun j hj h => ?_, by first | rfl | trivial⟩
          by_cases hji : j = i
          · subst hji
            rw [Hy.out]
            exact Hxy.out
          · exact hno.out j hj (by omega)
        case measure => simp [intOf]; omega
    · obtain rfl : i = s.size := by omega
      have hlt' : ¬ (s.size : Int) < (s.size : Int) := by omega
      go_wp2_with fail
      go_ret
      exact ⟨by rw [hno.out.all]; rfl, rfl⟩

def madeB (most : Int) (of s : ByteArray) : Bool := s.data.toList.all (fun x => inB of x) && decide (1 ≤ s.size) && decide ((s.size : Int) ≤ most)
theorem all_at {s of : ByteArray} {i : Nat} (hi : i < s.size) (h : inB of (s[i]'hi) = false) : s.data.toList.all (fun x => inB of x) = false := by
  cases e : s.data.toList.all (fun x => inB of x)
  · rfl
  · rw [List.all_eq_true] at e
    have := e (s[i]'hi) (by simp [ByteArray.getElem_eq_getElem_data])
    rw [h] at this
    cases this
def frontC (of s : ByteArray) (i : Nat) : Prop := ∀ j (h : j < s.size), j < i → inB of (s[j]'h) = true
theorem frontC.all {of s : ByteArray} (h : frontC of s s.size) : s.data.toList.all (fun x => inB of x) = true := by
  rw [List.all_eq_true]
  intro x hx
  obtain ⟨j, hj, e⟩ := List.getElem_of_mem hx
  have hj' : j < s.size := by simpa using hj
  have := h j hj' hj'
  rw [← e]
  exact this

set_option maxHeartbeats 4000000 in
set_option maxRecDepth 100000 in
theorem made_any (s of : ByteArray) (most : Int) (w : World) (hs : s.size ≤ 140737488355328) (ho : of.size ≤ 140737488355328) : Calls Tryd.prog 40 #[.string s, .int .i64 most, .string of] w fun e w' => e = .returned (.bool (madeB most of s)) ∧ w' = w := by
  have hC : Hid (∀ (x : UInt8) W, Calls Tryd.prog 43 #[.int .u8 (x.toNat : Int), .string of] W fun e w' => e = .returned (.bool (inB of x)) ∧ w' = W) := fun x W => among_any x of W ho
  go_enter Tryd.func40, Tryd.ntmps40
  go_wp2_with fail
  go_loopw [7] (fun iv wr => ∃ i : Nat, iv = .int .i64 (i : Int) ∧ i ≤ s.size ∧ Hid (frontC of s i) ∧ wr = w) (fun iv _ => s.size - (intOf iv).toNat)
  case atStart => exact ⟨0, rfl, by omega, fun j _ h => absurd h (by omega), rfl⟩
  case round =>
    obtain ⟨i, rfl, hi, hno, hw⟩ := hrel
    rw [hw]
    clear hw
    by_cases hlt : i < s.size
    · have hlt' : (i : Int) < (s.size : Int) := by omega
      obtain ⟨y, hy⟩ : ∃ y : UInt8, s[i]'hlt = y := ⟨_, rfl⟩
      have Hy : Hid (s[i]'hlt = y) := hy
      have hC' : Hid (∀ W, Calls Tryd.prog 43 #[.int .u8 (y.toNat : Int), .string of] W fun e w' => e = .returned (.bool (inB of y)) ∧ w' = W) := fun W => hC.out y W
      cases hin : inB of y
      · rw [hin] at hC'
        have hf : Hid (madeB most of s = false) := by show _ = _; unfold madeB; rw [all_at hlt (by rw [Hy.out]; exact hin)]; rfl
        clear hin
        go_wp2_with (go_at_call 43; refine (hC'.out _).mono ?_; rintro e w' ⟨rfl, hw⟩; rw [hw])
        go_ret
        exact ⟨by rw [hf.out]; rfl, rfl⟩
      · rw [hin] at hC'
        have HIN : Hid (inB of y = true) := hin
        clear hin
        go_wp2_with (go_at_call 43; refine (hC'.out _).mono ?_; rintro e w' ⟨rfl, hw⟩; rw [hw])
        go_roundw
        case rel =>
          refine ⟨i + 1, by simp, by omega, fun j hj h => ?_, by first | rfl | trivial⟩
          by_cases hji : j = i
          · subst hji
            rw [Hy.out]
            exact HIN.out
          · exact hno.out j hj (by omega)
        case measure => simp [intOf]; omega
    · obtain rfl : i = s.size := by omega
      have hlt' : ¬ (s.size : Int) < (s.size : Int) := by omega
      have hf : Hid (madeB most of s = (decide (1 ≤ s.size) && decide ((s.size : Int) ≤ most))) := by show _ = _; unfold madeB; rw [hno.out.all, Bool.true_and]
      by_cases h1 : 1 ≤ s.size
      · have h1' : (1 : Int) ≤ (s.size : Int) := by omega
        go_wp2_with fail
        go_ret
        exact ⟨by rw [hf.out]; simp [h1], rfl⟩
      · have h1' : ¬ (1 : Int) ≤ (s.size : Int) := by omega
        go_wp2_with fail
        go_ret
        exact ⟨by rw [hf.out]; simp [h1], rfl⟩
end Go.Proofs.YtcgfgjhhmbfmdaaDoor
