/- FrameOne: nothing read, or a fault. -/
import Derived.Test.YtjigjckclpccmaaDoorG2
import Derived.Test.YtjigjckclpccmaaDoorH6
namespace Go.Proofs.YtjigjckclpccmaaDoor
open Go.RowKit
set_option linter.unusedVariables false
set_option linter.unusedSimpArgs false

set_option maxRecDepth 100000 in
set_option maxHeartbeats 8000000 in
theorem one_none (b : ByteArray) (most : Int) (w : World) (hw : 1 ≤ w.heap.size) (hK : Kinds w) (hS : b.size ≤ 140737488355328) (hn : (readS b most).2.1 = 0) :
    Calls Tryd.prog 6 #[.string b, .int .i64 most] w fun e w' => e = .returned (.bool true) ∧ Below w.heap.size w w' := by
  have hKW : Hid (∀ W : World, Below w.heap.size w W → Kinds W ∧ 1 ≤ W.heap.size) := fun W hb => ⟨hK.of_eq (hb.block 0 (by omega)), Nat.le_trans hw hb.size⟩
  have HR : Hid (∀ W : World, Below w.heap.size w W → Calls Tryd.prog 13 #[.string b, .int .i64 most] W fun e w' => RPost W (readS b most) e w') := fun W hW => read_any _ _ W (hKW.out _ hW).2 (hKW.out _ hW).1
  obtain ⟨⟨⟨f, ps⟩, n, c, x⟩, hres⟩ : ∃ res, readS b most = res := ⟨_, rfl⟩
  rw [hres] at HR hn
  replace hn : n = 0 := hn
  subst hn
  clear hres hK
  have key : ∀ (hcx : (c = 0 ∧ x = 0) ∨ c ≠ 0 ∨ (c = 0 ∧ x ≠ 0)), Calls Tryd.prog 6 #[.string b, .int .i64 most] w fun e w' => e = .returned (.bool true) ∧ Below w.heap.size w w' := by
    intro hcx
    rcases hcx with ⟨rfl, rfl⟩ | hc | ⟨rfl, hx⟩
    · go_enter Tryd.func6, Tryd.ntmps6
      go_wp2_with fail
      refine (first_any _ (hKW.out _ (Below.refl _ _)).2 (hKW.out _ (Below.refl _ _)).1).mono ?_
      rintro e w1 ⟨rfl, hb1⟩
      go_wp2_with fail
      refine (HR.out _ hb1).mono ?_
      rintro e w2 ⟨r, rfl, r1, r2, r3⟩
      obtain ⟨rb, rc, rfl⟩ := r1.slice
      have hB2 := hb1.trans (r3.mono hb1.size)
      have hB3 := (hB2.alloc hB2.size (.cells (fv f (.slice rb ps.length rc)) 28)).alloc (by rw [size_al]; have := hB2.size; omega) (.cells #[.int .i64 0, .int .i64 0] 31)
      unfold fv at *
      go_wp2_with fail
      go_ret
      exact ⟨rfl, hB3⟩
    · have hcb : (c == 0) = false := by simpa using hc
      go_enter Tryd.func6, Tryd.ntmps6
      go_wp2_with fail
      refine (first_any _ (hKW.out _ (Below.refl _ _)).2 (hKW.out _ (Below.refl _ _)).1).mono ?_
      rintro e w1 ⟨rfl, hb1⟩
      go_wp2_with fail
      refine (HR.out _ hb1).mono ?_
      rintro e w2 ⟨r, rfl, r1, r2, r3⟩
      obtain ⟨rb, rc, rfl⟩ := r1.slice
      have hB2 := hb1.trans (r3.mono hb1.size)
      have hB3 := (hB2.alloc hB2.size (.cells (fv f (.slice rb ps.length rc)) 28)).alloc (by rw [size_al]; have := hB2.size; omega) (.cells #[.int .i64 c, .int .i64 x] 31)
      unfold fv at *
      go_wp2_with fail
      go_ret
      exact ⟨rfl, hB3⟩
    · have hxb : (x == 0) = false := by simpa using hx
      go_enter Tryd.func6, Tryd.ntmps6
      go_wp2_with fail
      refine (first_any _ (hKW.out _ (Below.refl _ _)).2 (hKW.out _ (Below.refl _ _)).1).mono ?_
      rintro e w1 ⟨rfl, hb1⟩
      go_wp2_with fail
      refine (HR.out _ hb1).mono ?_
      rintro e w2 ⟨r, rfl, r1, r2, r3⟩
      obtain ⟨rb, rc, rfl⟩ := r1.slice
      have hB2 := hb1.trans (r3.mono hb1.size)
      have hB3 := (hB2.alloc hB2.size (.cells (fv f (.slice rb ps.length rc)) 28)).alloc (by rw [size_al]; have := hB2.size; omega) (.cells #[.int .i64 0, .int .i64 x] 31)
      unfold fv at *
      go_wp2_with fail
      go_ret
      exact ⟨rfl, hB3⟩
  apply key
  by_cases hc : c = 0
  · by_cases hx : x = 0
    · exact .inl ⟨hc, hx⟩
    · exact .inr (.inr ⟨hc, hx⟩)
  · exact .inr (.inl hc)

set_option maxRecDepth 100000 in
set_option maxHeartbeats 8000000 in
theorem one_fault (b : ByteArray) (most : Int) (w : World) (hw : 1 ≤ w.heap.size) (hK : Kinds w) (hS : b.size ≤ 140737488355328) (N : Nat) (hN : 9 + N ≤ b.size) (hn : (readS b most).2.1 = ((9 + N : Nat) : Int)) (hc : (readS b most).2.2.1 = 6) (hx : 0 < (readS b most).2.2.2) (h3 : byteAt b 3 = 2) :
    Calls Tryd.prog 6 #[.string b, .int .i64 most] w fun e w' => e = .returned (.bool true) ∧ Below w.heap.size w w' := by
  have hKW : Hid (∀ W : World, Below w.heap.size w W → Kinds W ∧ 1 ≤ W.heap.size) := fun W hb => ⟨hK.of_eq (hb.block 0 (by omega)), Nat.le_trans hw hb.size⟩
  have HR : Hid (∀ W : World, Below w.heap.size w W → Calls Tryd.prog 13 #[.string b, .int .i64 most] W fun e w' => RPost W (readS b most) e w') := fun W hW => read_any _ _ W (hKW.out _ hW).2 (hKW.out _ hW).1
  obtain ⟨⟨⟨f, ps⟩, n, c, x⟩, hres⟩ : ∃ res, readS b most = res := ⟨_, rfl⟩
  rw [hres] at HR hn hc hx
  replace hn : n = ((9 + N : Nat) : Int) := hn
  replace hc : c = 6 := hc
  replace hx : 0 < x := hx
  subst hc
  have hs3n : 3 < b.size := by omega
  have hb3 : (b[3]'hs3n).toNat = 2 := by rw [← byteAt_eq]; exact h3
  obtain ⟨M, hM⟩ : ∃ M : Nat, 9 + N = M := ⟨_, rfl⟩
  rw [hM] at hn
  subst hn
  have hM0 : ((M : Int) == 0) = false := by simp; omega
  have hM9 : (9 : Int) ≤ (M : Int) := by omega
  have hMb : (M : Int) ≤ (b.size : Int) := by omega
  have hs3 : (3 : Int) < (b.size : Int) := by omega
  clear hres hK hM
  go_enter Tryd.func6, Tryd.ntmps6
  go_wp2_with fail
  refine (first_any _ (hKW.out _ (Below.refl _ _)).2 (hKW.out _ (Below.refl _ _)).1).mono ?_
  rintro e w1 ⟨rfl, hb1⟩
  go_wp2_with fail
  refine (HR.out _ hb1).mono ?_
  rintro e w2 ⟨r, rfl, r1, r2, r3⟩
  obtain ⟨rb, rc, rfl⟩ := r1.slice
  have hB2 := hb1.trans (r3.mono hb1.size)
  have hB3 := (hB2.alloc hB2.size (.cells (fv f (.slice rb ps.length rc)) 28)).alloc (by rw [size_al]; have := hB2.size; omega) (.cells #[.int .i64 6, .int .i64 x] 31)
  unfold fv at *
  go_wp2_with fail
  go_ret
  exact ⟨rfl, hB3⟩
end Go.Proofs.YtjigjckclpccmaaDoor
