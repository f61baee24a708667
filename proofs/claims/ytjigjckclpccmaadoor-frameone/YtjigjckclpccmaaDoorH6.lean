/- whole and holds. -/
import Derived.Test.YtjigjckclpccmaaDoorR4
namespace Go.Proofs.YtjigjckclpccmaaDoor
open Go.RowKit
set_option linter.unusedVariables false
set_option linter.unusedSimpArgs false

set_option maxRecDepth 100000 in
set_option maxHeartbeats 2000000 in
theorem whole_any (f : Fr) (pb : Option Addr) (pl pc : Nat) (w : World) (h0 : 0 ≤ f.wt) (h1 : f.wt ≤ 256) :
    Calls Tryd.prog 17 #[.agg (fv f (.slice pb pl pc))] w fun e w' => e = .returned (.agg (fv (wholeF f) (.slice pb pl pc))) ∧ Below w.heap.size w w' := by
  by_cases hw : 0 < f.wt
  · have c1 : wrap64 (f.wt - 1) = f.wt - 1 := wrap64_small _ (by omega) (by omega)
    have c2 : wrap64 (f.wt - 1 + 256) = f.wt - 1 + 256 := wrap64_small _ (by omega) (by omega)
    cases he : f.excl
    · have HW : Hid (wholeF f = ⟨f.ty, f.fl, f.st, f.data, f.pad, f.dep, decide (f.ty < 10), f.wt - 1, f.code, f.last⟩) := by
        show _ = _
        unfold wholeF wholeW
        rw [if_pos hw, he]
        rfl
      rw [HW.out]
      unfold fv
      rw [he]
      go_enter Tryd.func17, Tryd.ntmps17
      go_wp2_with fail
      refine bodyPost_ret (results_cell_row (p := 2) (ty := 28) rfl _ _ (w.heap.size + 1) 28 (fv ⟨f.ty, f.fl, f.st, f.data, f.pad, f.dep, decide (f.ty < 10), f.wt - 1, f.code, f.last⟩ (.slice pb pl pc)) (0, 0) _ rfl ?hr Tryd.underlying28 rfl (by kernel_rfl)) rfl ⟨rfl, (by (repeat (first | exact Below.refl _ _ | refine Below.drew ?_ | refine Below.alloc ?_ (by first | exact Nat.le_refl _ | (simp only [size_al, size_dr]; omega)) _)))⟩
      case hr => (simp only [heap_al, heap_dr, size_al, size_dr]; repeat (first | rw [if_pos trivial] | rw [if_neg (by omega)] | rw [if_pos (by omega)])); rfl
    · have HW : Hid (wholeF f = ⟨f.ty, f.fl, f.st, f.data, f.pad, f.dep, decide (f.ty < 10), f.wt - 1 + 256, f.code, f.last⟩) := by
        show _ = _
        unfold wholeF wholeW
        rw [if_pos hw, he]
        rfl
      rw [HW.out]
      unfold fv
      rw [he]
      go_enter Tryd.func17, Tryd.ntmps17
      go_wp2_with fail
      refine bodyPost_ret (results_cell_row (p := 2) (ty := 28) rfl _ _ (w.heap.size + 1) 28 (fv ⟨f.ty, f.fl, f.st, f.data, f.pad, f.dep, decide (f.ty < 10), f.wt - 1 + 256, f.code, f.last⟩ (.slice pb pl pc)) (0, 0) _ rfl ?hr Tryd.underlying28 rfl (by kernel_rfl)) rfl ⟨rfl, (by (repeat (first | exact Below.refl _ _ | refine Below.drew ?_ | refine Below.alloc ?_ (by first | exact Nat.le_refl _ | (simp only [size_al, size_dr]; omega)) _)))⟩
      case hr => (simp only [heap_al, heap_dr, size_al, size_dr]; repeat (first | rw [if_pos trivial] | rw [if_neg (by omega)] | rw [if_pos (by omega)])); rfl
  · have HW : Hid (wholeF f = ⟨f.ty, f.fl, f.st, f.data, f.pad, f.dep, decide (f.ty < 10), f.wt, f.code, f.last⟩) := by
      show _ = _
      unfold wholeF wholeW
      rw [if_neg hw]
    rw [HW.out]
    unfold fv
    go_enter Tryd.func17, Tryd.ntmps17
    go_wp2_with fail
    refine bodyPost_ret (results_cell_row (p := 2) (ty := 28) rfl _ _ (w.heap.size + 1) 28 (fv ⟨f.ty, f.fl, f.st, f.data, f.pad, f.dep, decide (f.ty < 10), f.wt, f.code, f.last⟩ (.slice pb pl pc)) (0, 0) _ rfl ?hr Tryd.underlying28 rfl (by kernel_rfl)) rfl ⟨rfl, (by (repeat (first | exact Below.refl _ _ | refine Below.drew ?_ | refine Below.alloc ?_ (by first | exact Nat.le_refl _ | (simp only [size_al, size_dr]; omega)) _)))⟩
    case hr => (simp only [heap_al, heap_dr, size_al, size_dr]; repeat (first | rw [if_pos trivial] | rw [if_neg (by omega)] | rw [if_pos (by omega)])); rfl

set_option maxRecDepth 100000 in
set_option maxHeartbeats 2000000 in
theorem holds_any (s part : ByteArray) (w : World) (i : Nat) (hi : i + part.size ≤ s.size) (hs : s.extract i (i + part.size) = part) (hlim : s.size ≤ 140737488355328) :
    Calls Tryd.prog 19 #[.string s, .string part] w fun e w' => e = .returned (.bool true) ∧ w' = w := by
  have HS : Hid (s.extract i (i + part.size) = part) := hs
  clear hs
  go_enter Tryd.func19, Tryd.ntmps19
  go_wp2
  go_loop [5] (fun x => ∃ k : Nat, k ≤ i ∧ x = .int .i64 (k : Int)) (fun x => i - (intOf x).toNat)
  case atStart => exact ⟨0, by omega, rfl⟩
  case round =>
    obtain ⟨k, hk, rfl⟩ := hrel
    have c1 : wrap64 ((k : Int) + (part.size : Int)) = (k : Int) + (part.size : Int) := wrap64_small _ (by omega) (by omega)
    have c2 : (k : Int) + (part.size : Int) ≤ (s.size : Int) := by omega
    obtain ⟨m, hm⟩ : ∃ m : Nat, k + part.size = m := ⟨_, rfl⟩
    have c3 : (k : Int) + (part.size : Int) = (m : Int) := by omega
    have c4 : (m : Int) ≤ (s.size : Int) := by omega
    have c5 : (k : Int) ≤ (m : Int) := by omega
    by_cases he : s.extract k m = part
    · have heb : ((s.extract k m).toList == part.toList) = true := by rw [he]; simp
      clear he hm
      go_wp2
      go_ret
      exact ⟨rfl, rfl⟩
    · have heb : ((s.extract k m).toList == part.toList) = false := beq_eq_false_iff_ne.2 fun h => he (ByteArray.ext (Array.ext' (by simpa [ByteArray.toList_eq] using h)))
      have hne : k ≠ i := by
        rintro rfl
        rw [hm] at HS
        exact he HS.out
      clear he hm
      go_wp2
      go_round
      case rel => exact ⟨k + 1, by omega, by simp⟩
      case measure => simp [intOf]; omega
end Go.Proofs.YtjigjckclpccmaaDoor
