/- consists. -/
import Derived.Test.YtcadlpmopplkeaaDoorAq
namespace Go.Proofs.YtcadlpmopplkeaaDoor
open Go.RowKit
open Go.Shelf
set_option linter.unusedVariables false
set_option linter.unusedSimpArgs false

/-- all bytes are of a kind -/
def allB (B : Int → Bool) (s : ByteArray) : Bool := s.data.toList.all fun x => B (x.toNat : Int) && decide (x.toNat < 128)
def consB (B : Int → Bool) (most : Int) (s : ByteArray) : Bool := decide (1 ≤ s.size) && decide ((s.size : Int) ≤ most) && allB B s
/-- the first i bytes are of a kind -/
def frontB (B : Int → Bool) (s : ByteArray) (i : Nat) : Prop := ∀ j (h : j < s.size), j < i → (B ((s[j]'h).toNat : Int) && decide ((s[j]'h).toNat < 128)) = true
theorem frontB.all {B : Int → Bool} {s : ByteArray} (h : frontB B s s.size) : allB B s = true := by
  unfold allB
  rw [List.all_eq_true]
  intro x hx
  obtain ⟨j, hj, e⟩ := List.getElem_of_mem hx
  have hj' : j < s.size := by simpa using hj
  have := h j hj' hj'
  rw [← e]
  exact this
theorem all_false {B : Int → Bool} {s : ByteArray} {i : Nat} (hi : i < s.size) (h : (B ((s[i]'hi).toNat : Int) && decide ((s[i]'hi).toNat < 128)) = false) : allB B s = false := by
  cases e : allB B s
  · rfl
  · unfold allB at e
    rw [List.all_eq_true] at e
    have := e (s[i]'hi) (by simp [ByteArray.getElem_eq_getElem_data])
    rw [h] at this
    exact absurd this (by simp)

set_option maxHeartbeats 4000000 in
set_option maxRecDepth 100000 in
theorem consists_any (f : Nat) (B : Int → Bool) (K : Kd f B) (s : ByteArray) (most : Int) (w : World) (hen : ∀ args W, (callFunc f args).run Tryd.prog W = .ok (.enter f args) W) :
    Calls Tryd.prog 81 #[.string s, .int .i64 most, .func (.func f) #[] #[]] w fun e w' => e = .returned (.bool (consB B most s)) ∧ Below w.heap.size w w' := by
  have HK : Hid (Kd f B) := K
  clear K
  by_cases h1 : 1 ≤ s.size
  · by_cases h2 : (s.size : Int) ≤ most
    · have a1 : ¬ (s.size : Int) < 1 := by omega
      have a2 : ¬ most < (s.size : Int) := by omega
      have hc : consB B most s = allB B s := by unfold consB; simp [h1, h2]
      rw [hc]
      clear hc h1 h2
      go_enter Tryd.func81, Tryd.ntmps81
      go_wp2_with fail
      go_loopg [8] s.size (fun g _ wx => ∃ i : Nat, i + g = s.size ∧ wx = w.iter s i ∧ Hid (frontB B s i))
      case atStart => exact ⟨0, by omega, rfl, fun j _ h => absurd h (by omega)⟩
      case round =>
        obtain ⟨i, hig, rfl, hfr⟩ := hrel
        cases gk with
        | zero =>
          obtain rfl : i = s.size := by omega
          have hnx := run_next_end (P := Tryd.prog) w s s.size
          go_wp2_with fail
          go_ret
          exact ⟨by rw [hfr.out.all]; rfl, iter_bel _ _ _⟩
        | succ g =>
          have hi : i < s.size := by omega
          obtain ⟨x, hx⟩ : ∃ x : UInt8, s[i]'hi = x := ⟨_, rfl⟩
          by_cases hx128 : x.toNat < 128
          · have hnx := fun ty => run_next_ascii (P := Tryd.prog) w s i ty hi (by rw [hx]; exact hx128)
            rw [hx] at hnx
            have HX : Hid (s[i]'hi = x) := hx
            clear hx
            have hC : Hid (∀ W, Calls Tryd.prog f #[.int .i32 (x.toNat : Int)] W fun e w' => e = .returned (.bool (B (x.toNat : Int))) ∧ w' = W) := fun W => HK.out.lo _ W (by omega) (by omega)
            cases hB : B (x.toNat : Int)
            · rw [hB] at hC
              have hfa : Hid (allB B s = false) := all_false hi (by rw [HX.out, hB]; rfl)
              clear hB
              go_wp2_with fail
              refine (hC.out _).mono ?_
              rintro e w' ⟨rfl, hw⟩
              rw [hw]
              clear hw
              go_wp2_with fail
              go_ret
              exact ⟨by rw [hfa.out]; rfl, iter_bel _ _ _⟩
            · rw [hB] at hC
              have HB : Hid (B (x.toNat : Int) = true) := hB
              clear hB
              go_wp2_with fail
              refine (hC.out _).mono ?_
              rintro e w' ⟨rfl, hw⟩
              rw [hw]
              clear hw
              go_wp2_with fail
              go_roundg g
              case measure => omega
              case rel =>
                refine ⟨i + 1, by omega, rfl, fun j hj h => ?_⟩
                by_cases hji : j = i
                · subst hji
                  rw [HX.out, HB.out]
                  simpa using hx128
                · exact hfr.out j hj (by omega)
          · have hd := decode_high s i hi (by rw [hx]; omega)
            have hnx := fun ty => run_next_any (P := Tryd.prog) w s i ty hi
            have hfa : Hid (allB B s = false) := all_false hi (by rw [hx]; simp [hx128])
            clear hx
            obtain ⟨D, hD⟩ : ∃ D, Utf8.decode s i = D := ⟨_, rfl⟩
            rw [hD] at hnx hd
            obtain ⟨r, k⟩ := D
            simp only at hnx hd
            have hC : Hid (∀ W, Calls Tryd.prog f #[.int .i32 r] W fun e w' => e = .returned (.bool false) ∧ Below W.heap.size W w') := fun W => HK.out.hi _ W (by have := hd.1; omega)
            have hbi : Hid (Below w.heap.size w (w.iter s (i + k))) := iter_bel _ _ _
            clear hD hd
            go_wp2_with fail
            refine (hC.out _).mono ?_
            rintro e w' ⟨rfl, hb⟩
            have hb2 : Hid (Below w.heap.size w w') := hbi.out.trans (hb.mono hbi.out.size)
            clear hb
            go_wp2_with fail
            go_ret
            exact ⟨by rw [hfa.out]; rfl, hb2.out⟩
    · have a1 : ¬ (s.size : Int) < 1 := by omega
      have a2 : most < (s.size : Int) := by omega
      have hc : consB B most s = false := by unfold consB; simp [h2]
      rw [hc]
      clear hc h1 h2
      go_enter Tryd.func81, Tryd.ntmps81
      go_wp2_with fail
      go_ret
      exact ⟨rfl, Below.refl _ _⟩
  · have a1 : (s.size : Int) < 1 := by omega
    have hc : consB B most s = false := by unfold consB; simp [h1]
    rw [hc]
    clear hc h1
    go_enter Tryd.func81, Tryd.ntmps81
    go_wp2_with fail
    go_ret
    exact ⟨rfl, Below.refl _ _⟩

theorem en39 : ∀ args W, (callFunc 88 args).run Tryd.prog W = .ok (.enter 88 args) W := enters_of Tryd.func88 (by kernel_rfl) rfl
theorem en63 : ∀ args W, (callFunc 82 args).run Tryd.prog W = .ok (.enter 82 args) W := enters_of Tryd.func82 (by kernel_rfl) rfl
end Go.Proofs.YtcadlpmopplkeaaDoor
