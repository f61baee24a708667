/- same, of any two frames. -/
import Derived.Test.YtmhbaaemihljjaaDoorC9
namespace Go.Proofs.YtmhbaaemihljjaaDoor
open Go.RowKit
set_option linter.unusedVariables false
set_option linter.unusedSimpArgs false

set_option maxRecDepth 100000 in
set_option maxHeartbeats 2000000 in
theorem same_ne5 (a0 : Int) (a1 : Int) (a2 : Int) (a3 : ByteArray) (a4 : Int) (a5 : Int) (a6 : Bool) (a7 : Int) (a8 : Int) (a9 : Int) (b5 : Int) (b6 : Bool) (b7 : Int) (b8 : Int) (b9 : Int) (w : World) (pb : Option Addr) (pl pc : Nat) (qb : Option Addr) (ql qc : Nat) (hn : ¬ a5 = b5) :
    Calls Tryd.prog 32 #[.agg #[.int .i64 a0, .int .i64 a1, .int .i64 a2, .string a3, .int .i64 a4, .int .i64 a5, .bool a6, .int .i64 a7, .int .i64 a8, .int .i64 a9, .slice pb pl pc], .agg #[.int .i64 a0, .int .i64 a1, .int .i64 a2, .string a3, .int .i64 a4, .int .i64 b5, .bool b6, .int .i64 b7, .int .i64 b8, .int .i64 b9, .slice qb ql qc]] w fun e w' => e = .returned (.bool false) ∧ Below w.heap.size w w' := by
  have hb : (a5 == b5) = false := beq_eq_false_iff_ne.2 hn
  go_enter Tryd.func32, Tryd.ntmps32
  go_wp2_with fail
  go_ret
  exact ⟨rfl, (by (repeat (first | exact Below.refl _ _ | refine Below.drew ?_ | refine Below.alloc ?_ (by first | exact Nat.le_refl _ | (simp only [size_al, size_dr]; omega)) _)))⟩

set_option maxRecDepth 100000 in
set_option maxHeartbeats 2000000 in
theorem same_ne6 (a0 : Int) (a1 : Int) (a2 : Int) (a3 : ByteArray) (a4 : Int) (a5 : Int) (a6 : Bool) (a7 : Int) (a8 : Int) (a9 : Int) (b6 : Bool) (b7 : Int) (b8 : Int) (b9 : Int) (w : World) (pb : Option Addr) (pl pc : Nat) (qb : Option Addr) (ql qc : Nat) (hn : ¬ a6 = b6) :
    Calls Tryd.prog 32 #[.agg #[.int .i64 a0, .int .i64 a1, .int .i64 a2, .string a3, .int .i64 a4, .int .i64 a5, .bool a6, .int .i64 a7, .int .i64 a8, .int .i64 a9, .slice pb pl pc], .agg #[.int .i64 a0, .int .i64 a1, .int .i64 a2, .string a3, .int .i64 a4, .int .i64 a5, .bool b6, .int .i64 b7, .int .i64 b8, .int .i64 b9, .slice qb ql qc]] w fun e w' => e = .returned (.bool false) ∧ Below w.heap.size w w' := by
  have hb : (a6 == b6) = false := beq_eq_false_iff_ne.2 hn
  go_enter Tryd.func32, Tryd.ntmps32
  go_wp2_with fail
  go_ret
  exact ⟨rfl, (by (repeat (first | exact Below.refl _ _ | refine Below.drew ?_ | refine Below.alloc ?_ (by first | exact Nat.le_refl _ | (simp only [size_al, size_dr]; omega)) _)))⟩

set_option maxRecDepth 100000 in
set_option maxHeartbeats 2000000 in
theorem same_ne7 (a0 : Int) (a1 : Int) (a2 : Int) (a3 : ByteArray) (a4 : Int) (a5 : Int) (a6 : Bool) (a7 : Int) (a8 : Int) (a9 : Int) (b7 : Int) (b8 : Int) (b9 : Int) (w : World) (pb : Option Addr) (pl pc : Nat) (qb : Option Addr) (ql qc : Nat) (hn : ¬ a7 = b7) :
    Calls Tryd.prog 32 #[.agg #[.int .i64 a0, .int .i64 a1, .int .i64 a2, .string a3, .int .i64 a4, .int .i64 a5, .bool a6, .int .i64 a7, .int .i64 a8, .int .i64 a9, .slice pb pl pc], .agg #[.int .i64 a0, .int .i64 a1, .int .i64 a2, .string a3, .int .i64 a4, .int .i64 a5, .bool a6, .int .i64 b7, .int .i64 b8, .int .i64 b9, .slice qb ql qc]] w fun e w' => e = .returned (.bool false) ∧ Below w.heap.size w w' := by
  have hb : (a7 == b7) = false := beq_eq_false_iff_ne.2 hn
  go_enter Tryd.func32, Tryd.ntmps32
  go_wp2_with fail
  go_ret
  exact ⟨rfl, (by (repeat (first | exact Below.refl _ _ | refine Below.drew ?_ | refine Below.alloc ?_ (by first | exact Nat.le_refl _ | (simp only [size_al, size_dr]; omega)) _)))⟩

set_option maxRecDepth 100000 in
set_option maxHeartbeats 2000000 in
theorem same_ne8 (a0 : Int) (a1 : Int) (a2 : Int) (a3 : ByteArray) (a4 : Int) (a5 : Int) (a6 : Bool) (a7 : Int) (a8 : Int) (a9 : Int) (b8 : Int) (b9 : Int) (w : World) (pb : Option Addr) (pl pc : Nat) (qb : Option Addr) (ql qc : Nat) (hn : ¬ a8 = b8) :
    Calls Tryd.prog 32 #[.agg #[.int .i64 a0, .int .i64 a1, .int .i64 a2, .string a3, .int .i64 a4, .int .i64 a5, .bool a6, .int .i64 a7, .int .i64 a8, .int .i64 a9, .slice pb pl pc], .agg #[.int .i64 a0, .int .i64 a1, .int .i64 a2, .string a3, .int .i64 a4, .int .i64 a5, .bool a6, .int .i64 a7, .int .i64 b8, .int .i64 b9, .slice qb ql qc]] w fun e w' => e = .returned (.bool false) ∧ Below w.heap.size w w' := by
  have hb : (a8 == b8) = false := beq_eq_false_iff_ne.2 hn
  go_enter Tryd.func32, Tryd.ntmps32
  go_wp2_with fail
  go_ret
  exact ⟨rfl, (by (repeat (first | exact Below.refl _ _ | refine Below.drew ?_ | refine Below.alloc ?_ (by first | exact Nat.le_refl _ | (simp only [size_al, size_dr]; omega)) _)))⟩

set_option maxRecDepth 100000 in
set_option maxHeartbeats 2000000 in
theorem same_ne9 (a0 : Int) (a1 : Int) (a2 : Int) (a3 : ByteArray) (a4 : Int) (a5 : Int) (a6 : Bool) (a7 : Int) (a8 : Int) (a9 : Int) (b9 : Int) (w : World) (pb : Option Addr) (pl pc : Nat) (qb : Option Addr) (ql qc : Nat) (hn : ¬ a9 = b9) :
    Calls Tryd.prog 32 #[.agg #[.int .i64 a0, .int .i64 a1, .int .i64 a2, .string a3, .int .i64 a4, .int .i64 a5, .bool a6, .int .i64 a7, .int .i64 a8, .int .i64 a9, .slice pb pl pc], .agg #[.int .i64 a0, .int .i64 a1, .int .i64 a2, .string a3, .int .i64 a4, .int .i64 a5, .bool a6, .int .i64 a7, .int .i64 a8, .int .i64 b9, .slice qb ql qc]] w fun e w' => e = .returned (.bool false) ∧ Below w.heap.size w w' := by
  have hb : (a9 == b9) = false := beq_eq_false_iff_ne.2 hn
  go_enter Tryd.func32, Tryd.ntmps32
  go_wp2_with fail
  go_ret
  exact ⟨rfl, (by (repeat (first | exact Below.refl _ _ | refine Below.drew ?_ | refine Below.alloc ?_ (by first | exact Nat.le_refl _ | (simp only [size_al, size_dr]; omega)) _)))⟩

set_option maxRecDepth 100000 in
set_option maxHeartbeats 2000000 in
theorem same_same (f : Fr) (w : World) (pb : Option Addr) (pl pc : Nat) (qb : Option Addr) (ql qc : Nat) (r : Bool) (heq : ∀ W : World, Below w.heap.size w W → Calls Tryd.prog 42 #[.slice pb pl pc, .slice qb ql qc] W fun e w' => e = .returned (.bool r) ∧ Below w.heap.size w w') :
    Calls Tryd.prog 32 #[.agg (fv f (.slice pb pl pc)), .agg (fv f (.slice qb ql qc))] w fun e w' => e = .returned (.bool r) ∧ Below w.heap.size w w' := by
  have HE : Hid _ := heq
  clear heq
  unfold fv
  go_enter Tryd.func32, Tryd.ntmps32
  go_wp2_with (go_at_call 42; refine (HE.out _ (by (repeat (first | exact Below.refl _ _ | refine Below.drew ?_ | refine Below.alloc ?_ (by first | exact Nat.le_refl _ | (simp only [size_al, size_dr]; omega)) _)))).mono ?_; rintro e w' ⟨rfl, hb⟩)
  go_ret
  exact ⟨rfl, hb⟩

theorem same_any (f g : Fr) (a b : List (Int × Int)) (p q : Value) (w : World) (hp : PRow w p a) (hq : PRow w q b) :
    Calls Tryd.prog 32 #[.agg (fv f p), .agg (fv g q)] w fun e w' => ∃ r, e = .returned (.bool r) ∧ (r = true ↔ f = g ∧ a = b) ∧ Below w.heap.size w w' := by
  obtain ⟨pb, pc, rfl⟩ := hp.slice
  obtain ⟨qb, qc, rfl⟩ := hq.slice
  by_cases hfg : f = g
  · subst hfg
    refine (same_same f w pb _ pc qb _ qc (decide (a = b)) fun W hW => ?_).mono ?_
    · refine (equal_any W _ _ a b (hp.below fun k _ hk => hW.block k hk) (hq.below fun k _ hk => hW.block k hk)).mono ?_
      rintro e w' ⟨rfl, h⟩
      exact ⟨rfl, hW.trans (h.mono hW.size)⟩
    · rintro e w' ⟨rfl, h⟩
      exact ⟨_, rfl, by simp, h⟩
  · have hno : ∀ e w', (e = Ending.returned (.bool false) ∧ Below w.heap.size w w') → ∃ r, e = .returned (.bool r) ∧ (r = true ↔ f = g ∧ a = b) ∧ Below w.heap.size w w' := by
      rintro e w' ⟨rfl, h⟩
      exact ⟨false, rfl, ⟨fun h => (by cases h), fun h => absurd h.1 hfg⟩, h⟩
    obtain ⟨a0, a1, a2, a3, a4, a5, a6, a7, a8, a9⟩ := f
    obtain ⟨b0, b1, b2, b3, b4, b5, b6, b7, b8, b9⟩ := g
    by_cases h0 : a0 = b0
    rotate_left
    · exact (same_ne0 a0 a1 a2 a3 a4 a5 a6 a7 a8 a9 b0 b1 b2 b3 b4 b5 b6 b7 b8 b9 w pb _ pc qb _ qc h0).mono hno
    subst h0
    by_cases h1 : a1 = b1
    rotate_left
    · exact (same_ne1 a0 a1 a2 a3 a4 a5 a6 a7 a8 a9 b1 b2 b3 b4 b5 b6 b7 b8 b9 w pb _ pc qb _ qc h1).mono hno
    subst h1
    by_cases h2 : a2 = b2
    rotate_left
    · exact (same_ne2 a0 a1 a2 a3 a4 a5 a6 a7 a8 a9 b2 b3 b4 b5 b6 b7 b8 b9 w pb _ pc qb _ qc h2).mono hno
    subst h2
    by_cases h3 : a3 = b3
    rotate_left
    · exact (same_ne3 a0 a1 a2 a3 a4 a5 a6 a7 a8 a9 b3 b4 b5 b6 b7 b8 b9 w pb _ pc qb _ qc h3).mono hno
    subst h3
    by_cases h4 : a4 = b4
    rotate_left
    · exact (same_ne4 a0 a1 a2 a3 a4 a5 a6 a7 a8 a9 b4 b5 b6 b7 b8 b9 w pb _ pc qb _ qc h4).mono hno
    subst h4
    by_cases h5 : a5 = b5
    rotate_left
    · exact (same_ne5 a0 a1 a2 a3 a4 a5 a6 a7 a8 a9 b5 b6 b7 b8 b9 w pb _ pc qb _ qc h5).mono hno
    subst h5
    by_cases h6 : a6 = b6
    rotate_left
    · exact (same_ne6 a0 a1 a2 a3 a4 a5 a6 a7 a8 a9 b6 b7 b8 b9 w pb _ pc qb _ qc h6).mono hno
    subst h6
    by_cases h7 : a7 = b7
    rotate_left
    · exact (same_ne7 a0 a1 a2 a3 a4 a5 a6 a7 a8 a9 b7 b8 b9 w pb _ pc qb _ qc h7).mono hno
    subst h7
    by_cases h8 : a8 = b8
    rotate_left
    · exact (same_ne8 a0 a1 a2 a3 a4 a5 a6 a7 a8 a9 b8 b9 w pb _ pc qb _ qc h8).mono hno
    subst h8
    by_cases h9 : a9 = b9
    rotate_left
    · exact (same_ne9 a0 a1 a2 a3 a4 a5 a6 a7 a8 a9 b9 w pb _ pc qb _ qc h9).mono hno
    subst h9
    exact absurd rfl hfg
end Go.Proofs.YtmhbaaemihljjaaDoor
