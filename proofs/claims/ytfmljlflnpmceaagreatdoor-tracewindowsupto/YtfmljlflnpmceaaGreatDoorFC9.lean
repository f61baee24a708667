/- same, of any two frames. -/
import Derived.Test.YtfmljlflnpmceaaGreatDoorVv
namespace Go.Proofs.YtfmljlflnpmceaaGreatDoor.Fm
open Go.RowKit
set_option linter.unusedVariables false
set_option linter.unusedSimpArgs false

set_option maxRecDepth 100000 in
set_option maxHeartbeats 2000000 in
theorem same_ne0 (a0 : Int) (a1 : Int) (a2 : Int) (a3 : ByteArray) (a4 : Int) (a5 : Int) (a6 : Bool) (a7 : Int) (a8 : Int) (a9 : Int) (b0 : Int) (b1 : Int) (b2 : Int) (b3 : ByteArray) (b4 : Int) (b5 : Int) (b6 : Bool) (b7 : Int) (b8 : Int) (b9 : Int) (w : World) (pb : Option Addr) (pl pc : Nat) (qb : Option Addr) (ql qc : Nat) (hn : ¬ a0 = b0) :
    Calls Tryz.prog 51 #[.agg #[.int .i64 a0, .int .i64 a1, .int .i64 a2, .string a3, .int .i64 a4, .int .i64 a5, .bool a6, .int .i64 a7, .int .i64 a8, .int .i64 a9, .slice pb pl pc], .agg #[.int .i64 b0, .int .i64 b1, .int .i64 b2, .string b3, .int .i64 b4, .int .i64 b5, .bool b6, .int .i64 b7, .int .i64 b8, .int .i64 b9, .slice qb ql qc]] w fun e w' => e = .returned (.bool false) ∧ Below w.heap.size w w' := by
  have hb : (a0 == b0) = false := beq_eq_false_iff_ne.2 hn
  go_enter Tryz.func51, Tryz.ntmps51
  go_wp2_with fail
  go_ret
  exact ⟨rfl, (by (repeat (first | exact Below.refl _ _ | refine Below.drew ?_ | refine Below.alloc ?_ (by first | exact Nat.le_refl _ | (simp only [size_al, size_dr]; omega)) _)))⟩

set_option maxRecDepth 100000 in
set_option maxHeartbeats 2000000 in
theorem same_ne1 (a0 : Int) (a1 : Int) (a2 : Int) (a3 : ByteArray) (a4 : Int) (a5 : Int) (a6 : Bool) (a7 : Int) (a8 : Int) (a9 : Int) (b1 : Int) (b2 : Int) (b3 : ByteArray) (b4 : Int) (b5 : Int) (b6 : Bool) (b7 : Int) (b8 : Int) (b9 : Int) (w : World) (pb : Option Addr) (pl pc : Nat) (qb : Option Addr) (ql qc : Nat) (hn : ¬ a1 = b1) :
    Calls Tryz.prog 51 #[.agg #[.int .i64 a0, .int .i64 a1, .int .i64 a2, .string a3, .int .i64 a4, .int .i64 a5, .bool a6, .int .i64 a7, .int .i64 a8, .int .i64 a9, .slice pb pl pc], .agg #[.int .i64 a0, .int .i64 b1, .int .i64 b2, .string b3, .int .i64 b4, .int .i64 b5, .bool b6, .int .i64 b7, .int .i64 b8, .int .i64 b9, .slice qb ql qc]] w fun e w' => e = .returned (.bool false) ∧ Below w.heap.size w w' := by
  have hb : (a1 == b1) = false := beq_eq_false_iff_ne.2 hn
  go_enter Tryz.func51, Tryz.ntmps51
  go_wp2_with fail
  go_ret
  exact ⟨rfl, (by (repeat (first | exact Below.refl _ _ | refine Below.drew ?_ | refine Below.alloc ?_ (by first | exact Nat.le_refl _ | (simp only [size_al, size_dr]; omega)) _)))⟩

set_option maxRecDepth 100000 in
set_option maxHeartbeats 2000000 in
theorem same_ne2 (a0 : Int) (a1 : Int) (a2 : Int) (a3 : ByteArray) (a4 : Int) (a5 : Int) (a6 : Bool) (a7 : Int) (a8 : Int) (a9 : Int) (b2 : Int) (b3 : ByteArray) (b4 : Int) (b5 : Int) (b6 : Bool) (b7 : Int) (b8 : Int) (b9 : Int) (w : World) (pb : Option Addr) (pl pc : Nat) (qb : Option Addr) (ql qc : Nat) (hn : ¬ a2 = b2) :
    Calls Tryz.prog 51 #[.agg #[.int .i64 a0, .int .i64 a1, .int .i64 a2, .string a3, .int .i64 a4, .int .i64 a5, .bool a6, .int .i64 a7, .int .i64 a8, .int .i64 a9, .slice pb pl pc], .agg #[.int .i64 a0, .int .i64 a1, .int .i64 b2, .string b3, .int .i64 b4, .int .i64 b5, .bool b6, .int .i64 b7, .int .i64 b8, .int .i64 b9, .slice qb ql qc]] w fun e w' => e = .returned (.bool false) ∧ Below w.heap.size w w' := by
  have hb : (a2 == b2) = false := beq_eq_false_iff_ne.2 hn
  go_enter Tryz.func51, Tryz.ntmps51
  go_wp2_with fail
  go_ret
  exact ⟨rfl, (by (repeat (first | exact Below.refl _ _ | refine Below.drew ?_ | refine Below.alloc ?_ (by first | exact Nat.le_refl _ | (simp only [size_al, size_dr]; omega)) _)))⟩

set_option maxRecDepth 100000 in
set_option maxHeartbeats 2000000 in
theorem same_ne3 (a0 : Int) (a1 : Int) (a2 : Int) (a3 : ByteArray) (a4 : Int) (a5 : Int) (a6 : Bool) (a7 : Int) (a8 : Int) (a9 : Int) (b3 : ByteArray) (b4 : Int) (b5 : Int) (b6 : Bool) (b7 : Int) (b8 : Int) (b9 : Int) (w : World) (pb : Option Addr) (pl pc : Nat) (qb : Option Addr) (ql qc : Nat) (hn : ¬ a3 = b3) :
    Calls Tryz.prog 51 #[.agg #[.int .i64 a0, .int .i64 a1, .int .i64 a2, .string a3, .int .i64 a4, .int .i64 a5, .bool a6, .int .i64 a7, .int .i64 a8, .int .i64 a9, .slice pb pl pc], .agg #[.int .i64 a0, .int .i64 a1, .int .i64 a2, .string b3, .int .i64 b4, .int .i64 b5, .bool b6, .int .i64 b7, .int .i64 b8, .int .i64 b9, .slice qb ql qc]] w fun e w' => e = .returned (.bool false) ∧ Below w.heap.size w w' := by
  have hb : (a3.toList == b3.toList) = false := beq_eq_false_iff_ne.2 fun h => hn (ByteArray.ext (Array.ext' (by simpa [ByteArray.toList_eq] using h)))
  go_enter Tryz.func51, Tryz.ntmps51
  go_wp2_with fail
  go_ret
  exact ⟨rfl, (by (repeat (first | exact Below.refl _ _ | refine Below.drew ?_ | refine Below.alloc ?_ (by first | exact Nat.le_refl _ | (simp only [size_al, size_dr]; omega)) _)))⟩

set_option maxRecDepth 100000 in
set_option maxHeartbeats 2000000 in
theorem same_ne4 (a0 : Int) (a1 : Int) (a2 : Int) (a3 : ByteArray) (a4 : Int) (a5 : Int) (a6 : Bool) (a7 : Int) (a8 : Int) (a9 : Int) (b4 : Int) (b5 : Int) (b6 : Bool) (b7 : Int) (b8 : Int) (b9 : Int) (w : World) (pb : Option Addr) (pl pc : Nat) (qb : Option Addr) (ql qc : Nat) (hn : ¬ a4 = b4) :
    Calls Tryz.prog 51 #[.agg #[.int .i64 a0, .int .i64 a1, .int .i64 a2, .string a3, .int .i64 a4, .int .i64 a5, .bool a6, .int .i64 a7, .int .i64 a8, .int .i64 a9, .slice pb pl pc], .agg #[.int .i64 a0, .int .i64 a1, .int .i64 a2, .string a3, .int .i64 b4, .int .i64 b5, .bool b6, .int .i64 b7, .int .i64 b8, .int .i64 b9, .slice qb ql qc]] w fun e w' => e = .returned (.bool false) ∧ Below w.heap.size w w' := by
  have hb : (a4 == b4) = false := beq_eq_false_iff_ne.2 hn
  go_enter Tryz.func51, Tryz.ntmps51
  go_wp2_with fail
  go_ret
  exact ⟨rfl, (by (repeat (first | exact Below.refl _ _ | refine Below.drew ?_ | refine Below.alloc ?_ (by first | exact Nat.le_refl _ | (simp only [size_al, size_dr]; omega)) _)))⟩

end Go.Proofs.YtfmljlflnpmceaaGreatDoor.Fm
