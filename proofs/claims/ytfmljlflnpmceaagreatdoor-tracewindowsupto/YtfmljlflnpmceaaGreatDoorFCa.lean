/- same, of any two frames. -/
import Derived.Test.YtfmljlflnpmceaaGreatDoorFC9
namespace Go.Proofs.YtfmljlflnpmceaaGreatDoor.Fm
open Go.RowKit
set_option linter.unusedVariables false
set_option linter.unusedSimpArgs false

set_option maxRecDepth 100000 in
set_option maxHeartbeats 2000000 in
theorem same_ne5 (a0 : Int) (a1 : Int) (a2 : Int) (a3 : ByteArray) (a4 : Int) (a5 : Int) (a6 : Bool) (a7 : Int) (a8 : Int) (a9 : Int) (b5 : Int) (b6 : Bool) (b7 : Int) (b8 : Int) (b9 : Int) (w : World) (pb : Option Addr) (pl pc : Nat) (qb : Option Addr) (ql qc : Nat) (hn : ¬ a5 = b5) :
    Calls Tryz.prog 51 #[.agg #[.int .i64 a0, .int .i64 a1, .int .i64 a2, .string a3, .int .i64 a4, .int .i64 a5, .bool a6, .int .i64 a7, .int .i64 a8, .int .i64 a9, .slice pb pl pc], .agg #[.int .i64 a0, .int .i64 a1, .int .i64 a2, .string a3, .int .i64 a4, .int .i64 b5, .bool b6, .int .i64 b7, .int .i64 b8, .int .i64 b9, .slice qb ql qc]] w fun e w' => e = .returned (.bool false) ∧ Below w.heap.size w w' := by
  have hb : (a5 == b5) = false := beq_eq_false_iff_ne.2 hn
  go_enter Tryz.func51, Tryz.ntmps51
  go_wp2_with fail
  go_ret
  exact ⟨rfl, (by (repeat (first | exact Below.refl _ _ | refine Below.drew ?_ | refine Below.alloc ?_ (by first | exact Nat.le_refl _ | (simp only [size_al, size_dr]; omega)) _)))⟩

set_option maxRecDepth 100000 in
set_option maxHeartbeats 2000000 in
theorem same_ne6 (a0 : Int) (a1 : Int) (a2 : Int) (a3 : ByteArray) (a4 : Int) (a5 : Int) (a6 : Bool) (a7 : Int) (a8 : Int) (a9 : Int) (b6 : Bool) (b7 : Int) (b8 : Int) (b9 : Int) (w : World) (pb : Option Addr) (pl pc : Nat) (qb : Option Addr) (ql qc : Nat) (hn : ¬ a6 = b6) :
    Calls Tryz.prog 51 #[.agg #[.int .i64 a0, .int .i64 a1, .int .i64 a2, .string a3, .int .i64 a4, .int .i64 a5, .bool a6, .int .i64 a7, .int .i64 a8, .int .i64 a9, .slice pb pl pc], .agg #[.int .i64 a0, .int .i64 a1, .int .i64 a2, .string a3, .int .i64 a4, .int .i64 a5, .bool b6, .int .i64 b7, .int .i64 b8, .int .i64 b9, .slice qb ql qc]] w fun e w' => e = .returned (.bool false) ∧ Below w.heap.size w w' := by
  have hb : (a6 == b6) = false := beq_eq_false_iff_ne.2 hn
  go_enter Tryz.func51, Tryz.ntmps51
  go_wp2_with fail
  go_ret
  exact ⟨rfl, (by (repeat (first | exact Below.refl _ _ | refine Below.drew ?_ | refine Below.alloc ?_ (by first | exact Nat.le_refl _ | (simp only [size_al, size_dr]; omega)) _)))⟩

set_option maxRecDepth 100000 in
set_option maxHeartbeats 2000000 in
theorem same_ne7 (a0 : Int) (a1 : Int) (a2 : Int) (a3 : ByteArray) (a4 : Int) (a5 : Int) (a6 : Bool) (a7 : Int) (a8 : Int) (a9 : Int) (b7 : Int) (b8 : Int) (b9 : Int) (w : World) (pb : Option Addr) (pl pc : Nat) (qb : Option Addr) (ql qc : Nat) (hn : ¬ a7 = b7) :
    Calls Tryz.prog 51 #[.agg #[.int .i64 a0, .int .i64 a1, .int .i64 a2, .string a3, .int .i64 a4, .int .i64 a5, .bool a6, .int .i64 a7, .int .i64 a8, .int .i64 a9, .slice pb pl pc], .agg #[.int .i64 a0, .int .i64 a1, .int .i64 a2, .string a3, .int .i64 a4, .int .i64 a5, .bool a6, .int .i64 b7, .int .i64 b8, .int .i64 b9, .slice qb ql qc]] w fun e w' => e = .returned (.bool false) ∧ Below w.heap.size w w' := by
  have hb : (a7 == b7) = false := beq_eq_false_iff_ne.2 hn
  go_enter Tryz.func51, Tryz.ntmps51
  go_wp2_with fail
  go_ret
  exact ⟨rfl, (by (repeat (first | exact Below.refl _ _ | refine Below.drew ?_ | refine Below.alloc ?_ (by first | exact Nat.le_refl _ | (simp only [size_al, size_dr]; omega)) _)))⟩

set_option maxRecDepth 100000 in
set_option maxHeartbeats 2000000 in
theorem same_ne8 (a0 : Int) (a1 : Int) (a2 : Int) (a3 : ByteArray) (a4 : Int) (a5 : Int) (a6 : Bool) (a7 : Int) (a8 : Int) (a9 : Int) (b8 : Int) (b9 : Int) (w : World) (pb : Option Addr) (pl pc : Nat) (qb : Option Addr) (ql qc : Nat) (hn : ¬ a8 = b8) :
    Calls Tryz.prog 51 #[.agg #[.int .i64 a0, .int .i64 a1, .int .i64 a2, .string a3, .int .i64 a4, .int .i64 a5, .bool a6, .int .i64 a7, .int .i64 a8, .int .i64 a9, .slice pb pl pc], .agg #[.int .i64 a0, .int .i64 a1, .int .i64 a2, .string a3, .int .i64 a4, .int .i64 a5, .bool a6, .int .i64 a7, .int .i64 b8, .int .i64 b9, .slice qb ql qc]] w fun e w' => e = .returned (.bool false) ∧ Below w.heap.size w w' := by
  have hb : (a8 == b8) = false := beq_eq_false_iff_ne.2 hn
  go_enter Tryz.func51, Tryz.ntmps51
  go_wp2_with fail
  go_ret
  exact ⟨rfl, (by (repeat (first | exact Below.refl _ _ | refine Below.drew ?_ | refine Below.alloc ?_ (by first | exact Nat.le_refl _ | (simp only [size_al, size_dr]; omega)) _)))⟩

set_option maxRecDepth 100000 in
set_option maxHeartbeats 2000000 in
theorem same_ne9 (a0 : Int) (a1 : Int) (a2 : Int) (a3 : ByteArray) (a4 : Int) (a5 : Int) (a6 : Bool) (a7 : Int) (a8 : Int) (a9 : Int) (b9 : Int) (w : World) (pb : Option Addr) (pl pc : Nat) (qb : Option Addr) (ql qc : Nat) (hn : ¬ a9 = b9) :
    Calls Tryz.prog 51 #[.agg #[.int .i64 a0, .int .i64 a1, .int .i64 a2, .string a3, .int .i64 a4, .int .i64 a5, .bool a6, .int .i64 a7, .int .i64 a8, .int .i64 a9, .slice pb pl pc], .agg #[.int .i64 a0, .int .i64 a1, .int .i64 a2, .string a3, .int .i64 a4, .int .i64 a5, .bool a6, .int .i64 a7, .int .i64 a8, .int .i64 b9, .slice qb ql qc]] w fun e w' => e = .returned (.bool false) ∧ Below w.heap.size w w' := by
  have hb : (a9 == b9) = false := beq_eq_false_iff_ne.2 hn
  go_enter Tryz.func51, Tryz.ntmps51
  go_wp2_with fail
  go_ret
  exact ⟨rfl, (by (repeat (first | exact Below.refl _ _ | refine Below.drew ?_ | refine Below.alloc ?_ (by first | exact Nat.le_refl _ | (simp only [size_al, size_dr]; omega)) _)))⟩

set_option maxRecDepth 100000 in
set_option maxHeartbeats 2000000 in
theorem same_same (f : Fr) (w : World) (pb : Option Addr) (pl pc : Nat) (qb : Option Addr) (ql qc : Nat) (r : Bool) (heq : ∀ W : World, Below w.heap.size w W → Calls Tryz.prog 71 #[.slice pb pl pc, .slice qb ql qc] W fun e w' => e = .returned (.bool r) ∧ Below w.heap.size w w') :
    Calls Tryz.prog 51 #[.agg (fv f (.slice pb pl pc)), .agg (fv f (.slice qb ql qc))] w fun e w' => e = .returned (.bool r) ∧ Below w.heap.size w w' := by
  have HE : Hid _ := heq
  clear heq
  unfold fv
  go_enter Tryz.func51, Tryz.ntmps51
  go_wp2_with (go_at_call 71; refine (HE.out _ (by (repeat (first | exact Below.refl _ _ | refine Below.drew ?_ | refine Below.alloc ?_ (by first | exact Nat.le_refl _ | (simp only [size_al, size_dr]; omega)) _)))).mono ?_; rintro e w' ⟨rfl, hb⟩)
  go_ret
  exact ⟨rfl, hb⟩

end Go.Proofs.YtfmljlflnpmceaaGreatDoor.Fm
