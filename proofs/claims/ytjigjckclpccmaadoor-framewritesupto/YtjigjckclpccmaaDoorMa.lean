/- Made, walked. -/
import Derived.Test.YtjigjckclpccmaaDoorH2
import Derived.Deep.CutRange
import Derived.Test.YtjigjckclpccmaaDoorB0
namespace Go.Proofs.YtjigjckclpccmaaDoor
open Go.RowKit
set_option linter.unusedVariables false
set_option linter.unusedSimpArgs false

theorem mg_0_101 (f : Fr) (X S : Int) (hS : f.st % 2147483648 = S) (s : Int) (hs : s = if S = 0 then 1 else S) (h8 : hasF X 8 = false) (hd : 60000 < f.data.size) : madeG 0 X f = ⟨0, X, s, f.data.extract 0 60000, 0, 0, false, 0, 0, 0⟩ := by
  simp [madeG, mSt, mD, mD0, mPr, hS, hs, h8, hd]
theorem mg_0_100 (f : Fr) (X S : Int) (hS : f.st % 2147483648 = S) (s : Int) (hs : s = if S = 0 then 1 else S) (h8 : hasF X 8 = false) (hd : ¬ 60000 < f.data.size) : madeG 0 X f = ⟨0, X, s, f.data, 0, 0, false, 0, 0, 0⟩ := by
  simp [madeG, mSt, mD, mD0, mPr, hS, hs, h8, hd]
theorem mg_0_111 (f : Fr) (X S : Int) (hS : f.st % 2147483648 = S) (s : Int) (hs : s = if S = 0 then 1 else S) (h8 : hasF X 8 = true) (hd : 60000 < f.data.size) : madeG 0 X f = ⟨0, X, s, f.data.extract 0 60000, f.pad % 256, 0, false, 0, 0, 0⟩ := by
  simp [madeG, mSt, mD, mD0, mPr, hS, hs, h8, hd]
theorem mg_0_110 (f : Fr) (X S : Int) (hS : f.st % 2147483648 = S) (s : Int) (hs : s = if S = 0 then 1 else S) (h8 : hasF X 8 = true) (hd : ¬ 60000 < f.data.size) : madeG 0 X f = ⟨0, X, s, f.data, f.pad % 256, 0, false, 0, 0, 0⟩ := by
  simp [madeG, mSt, mD, mD0, mPr, hS, hs, h8, hd]

set_option maxRecDepth 100000 in
set_option maxHeartbeats 8000000 in
theorem made_0 (f : Fr) (pb : Option Addr) (pl pc : Nat) (ps : List (Int × Int)) (w : World)  (hT : mT f = 0) (hp : PIn w (.slice pb pl pc) ps) :
    Calls Tryd.prog 15 #[.agg (fv f (.slice pb pl pc))] w fun e w' => MPost w f ps e w' := by
  obtain ⟨X, hX⟩ : ∃ X, mX f = X := ⟨_, rfl⟩
  obtain ⟨S, hS⟩ : ∃ S, f.st % 2147483648 = S := ⟨_, rfl⟩
  have hki : (min (mT f) 10).toNat = 0 := by rw [hT]; rfl
  have hX2 : bits .and .i64 f.fl (kflags 0) = X := by rw [← hX]; unfold mX; rw [hki]
  have HX : Hid (mX f = X) := hX
  have HT : Hid (mT f = 0) := hT
  have HP : Hid (PIn w (.slice pb pl pc) ps) := hp
  have a1 : bits .and .i64 f.ty 255 = f.ty % 256 := and_any f.ty 8 (by decide)
  have a2 : bits .and .i64 f.st 2147483647 = S := by rw [← hS]; exact and_any f.st 31 (by decide)
  have a3 : bits .and .i64 f.pad 255 = f.pad % 256 := and_any f.pad 8 (by decide)
  have a4 : bits .and .i64 f.dep 2147483647 = f.dep % 2147483648 := and_any f.dep 31 (by decide)
  have a5 : bits .and .i64 f.wt 255 = f.wt % 256 := and_any f.wt 8 (by decide)
  have a6 : bits .and .i64 f.code 4294967295 = f.code % 4294967296 := and_any f.code 32 (by decide)
  have a7 : bits .and .i64 f.last 2147483647 = f.last % 2147483648 := and_any f.last 31 (by decide)
  have a8 : wrap64 (f.wt % 256 + 1) = f.wt % 256 + 1 := wrap64_small _ (by omega) (by omega)
  have hrem : (f.ty % 256).tmod 10 = f.ty % 256 % 10 := Int.tmod_eq_emod_of_nonneg (by omega)
  have hFL : Hid (∀ W : World, Calls Tryd.prog 18 #[.int .i64 0] W fun e w' => e = .returned (.int .i64 (kflags 0)) ∧ w' = W) := fun W => by
    have h := flags_law 0 (by omega) W
    rw [show (min (0 : Int) 10).toNat = 0 by rfl] at h
    exact h
  have HS : Hid (f.st % 2147483648 = S) := hS
  clear hT hX hki hp hS
  unfold fv
  go_enter Tryd.func15, Tryd.ntmps15
  go_upto_if 9 with fail
  go_cut [0] from 4 (fun _ wx => wx = ((w.alloc (.cells #[.int .i64 f.ty, .int .i64 f.fl, .int .i64 f.st, .string f.data, .int .i64 f.pad, .int .i64 f.dep, .bool f.excl, .int .i64 f.wt, .int .i64 f.code, .int .i64 f.last, .slice pb pl pc] 28)).alloc (.cells #[.int .i64 0, .int .i64 0, .int .i64 0, .string ⟨#[]⟩, .int .i64 0, .int .i64 0, .bool false, .int .i64 0, .int .i64 0, .int .i64 0, .slice none 0 0] 28)).alloc (.cells #[.int .i64 0, .int .i64 0, .int .i64 0, .string ⟨#[]⟩, .int .i64 0, .int .i64 0, .bool false, .int .i64 0, .int .i64 0, .int .i64 0, .slice none 0 0] 28))
  case first =>
    cases he : f.excl
    · have e := HT.out
      unfold mT at e
      rw [he, if_neg (by decide)] at e
      go_wp2_with fail
      go_meet
      case rel => first | rw [he, e] | rw [he]
    · have e := HT.out
      unfold mT at e
      rw [he, if_pos rfl] at e
      go_wp2_with fail
      go_meet
      case rel => first | rw [he, e] | rw [he]
  case rest =>
    subst hcut
    go_upto_region 4 with fail
    go_cut [] from 4 (fun wx => wx = (((w.alloc (.cells #[.int .i64 f.ty, .int .i64 f.fl, .int .i64 f.st, .string f.data, .int .i64 f.pad, .int .i64 f.dep, .bool f.excl, .int .i64 f.wt, .int .i64 f.code, .int .i64 f.last, .slice pb pl pc] 28)).alloc (.cells #[.int .i64 0, .int .i64 0, .int .i64 0, .string ⟨#[]⟩, .int .i64 0, .int .i64 0, .bool false, .int .i64 0, .int .i64 0, .int .i64 0, .slice none 0 0] 28)).alloc (.cells #[.int .i64 0, .int .i64 X, .int .i64 0, .string ⟨#[]⟩, .int .i64 0, .int .i64 0, .bool false, .int .i64 0, .int .i64 0, .int .i64 0, .slice none 0 0] 28)).drew)
    case first =>
      go_region_with (go_at_call 18; refine (hFL.out _).mono ?_; rintro e w' ⟨rfl, rfl⟩)
      all_goals
        go_wp2_with fail
        go_meet
        case rel => rfl
    case rest =>
      subst hcut
      clear hFL hX2 a1 hrem
      go_upto_if 56 with fail
      go_cut [] from 4 (fun wx => ∃ s, Hid (s = if S = 0 then 1 else S) ∧ wx = (((w.alloc (.cells #[.int .i64 f.ty, .int .i64 f.fl, .int .i64 f.st, .string f.data, .int .i64 f.pad, .int .i64 f.dep, .bool f.excl, .int .i64 f.wt, .int .i64 f.code, .int .i64 f.last, .slice pb pl pc] 28)).alloc (.cells #[.int .i64 0, .int .i64 0, .int .i64 0, .string ⟨#[]⟩, .int .i64 0, .int .i64 0, .bool false, .int .i64 0, .int .i64 0, .int .i64 0, .slice none 0 0] 28)).alloc (.cells #[.int .i64 0, .int .i64 X, .int .i64 s, .string ⟨#[]⟩, .int .i64 0, .int .i64 0, .bool false, .int .i64 0, .int .i64 0, .int .i64 0, .slice none 0 0] 28)).drew)
      case first =>
        by_cases hs : S = 0
        · have hsb : (S == 0) = true := by simpa using hs
          have hs' : Hid ((1 : Int) = if S = 0 then 1 else S) := by show _ = _; rw [if_pos hs]
          clear hs
          go_wp2_with fail
          go_meet
          case rel => exact ⟨1, hs', rfl⟩
        · have hsb : (S == 0) = false := by simpa using hs
          have hs' : Hid (S = if S = 0 then 1 else S) := by show _ = _; rw [if_neg hs]
          clear hs
          go_wp2_with fail
          go_meet
          case rel => exact ⟨S, hs', rfl⟩
      case rest =>
        obtain ⟨s, hs, rfl⟩ := hcut
        cases h8 : hasF X 8
        · have h8b : (bits .and .i64 X 8 != 0) = false := h8
          go_upto_if 177 with fail
          by_cases hd : 60000 < f.data.size
          · have hdi : (60000 : Int) < (f.data.size : Int) := by omega
            have hdj : (60000 : Int) ≤ (f.data.size : Int) := by omega
            have HM : Hid (madeS f = ⟨0, X, s, f.data.extract 0 60000, 0, 0, false, 0, 0, 0⟩) := by
              show _ = _
              unfold madeS
              rw [HT.out, HX.out]
              exact mg_0_101 f X S HS.out s hs.out h8 hd
            have HQ : Hid (madeP (mT f) (mX f) ps = []) := by
              show _ = _
              rw [HT.out, HX.out]
              unfold madeP
              rw [if_neg (by omega)]
            go_wp2_with fail
            refine bodyPost_ret (results_cell_row (p := 2) (ty := 28) rfl _ _ (w.heap.size + 1) 28 (fv ⟨0, X, s, f.data.extract 0 60000, 0, 0, false, 0, 0, 0⟩ (.slice none 0 0)) (0, 0) _ rfl ?hr Tryd.underlying28 rfl (by kernel_rfl)) rfl (mpost_of HM.out HQ.out _ (by (repeat (first | exact Below.refl _ _ | refine Below.drew ?_ | refine Below.alloc ?_ (by first | exact Nat.le_refl _ | (simp only [size_al, size_dr]; omega)) _))))
            case hr => (simp only [heap_al, heap_dr, size_al, size_dr]; repeat (first | rw [if_pos trivial] | rw [if_neg (by omega)] | rw [if_pos (by omega)])); rfl
          · have hdi : ¬ (60000 : Int) < (f.data.size : Int) := by omega
            have HM : Hid (madeS f = ⟨0, X, s, f.data, 0, 0, false, 0, 0, 0⟩) := by
              show _ = _
              unfold madeS
              rw [HT.out, HX.out]
              exact mg_0_100 f X S HS.out s hs.out h8 hd
            have HQ : Hid (madeP (mT f) (mX f) ps = []) := by
              show _ = _
              rw [HT.out, HX.out]
              unfold madeP
              rw [if_neg (by omega)]
            go_wp2_with fail
            refine bodyPost_ret (results_cell_row (p := 2) (ty := 28) rfl _ _ (w.heap.size + 1) 28 (fv ⟨0, X, s, f.data, 0, 0, false, 0, 0, 0⟩ (.slice none 0 0)) (0, 0) _ rfl ?hr Tryd.underlying28 rfl (by kernel_rfl)) rfl (mpost_of HM.out HQ.out _ (by (repeat (first | exact Below.refl _ _ | refine Below.drew ?_ | refine Below.alloc ?_ (by first | exact Nat.le_refl _ | (simp only [size_al, size_dr]; omega)) _))))
            case hr => (simp only [heap_al, heap_dr, size_al, size_dr]; repeat (first | rw [if_pos trivial] | rw [if_neg (by omega)] | rw [if_pos (by omega)])); rfl
        · have h8b : (bits .and .i64 X 8 != 0) = true := h8
          go_upto_if 177 with fail
          by_cases hd : 60000 < f.data.size
          · have hdi : (60000 : Int) < (f.data.size : Int) := by omega
            have hdj : (60000 : Int) ≤ (f.data.size : Int) := by omega
            have HM : Hid (madeS f = ⟨0, X, s, f.data.extract 0 60000, f.pad % 256, 0, false, 0, 0, 0⟩) := by
              show _ = _
              unfold madeS
              rw [HT.out, HX.out]
              exact mg_0_111 f X S HS.out s hs.out h8 hd
            have HQ : Hid (madeP (mT f) (mX f) ps = []) := by
              show _ = _
              rw [HT.out, HX.out]
              unfold madeP
              rw [if_neg (by omega)]
            go_wp2_with fail
            refine bodyPost_ret (results_cell_row (p := 2) (ty := 28) rfl _ _ (w.heap.size + 1) 28 (fv ⟨0, X, s, f.data.extract 0 60000, f.pad % 256, 0, false, 0, 0, 0⟩ (.slice none 0 0)) (0, 0) _ rfl ?hr Tryd.underlying28 rfl (by kernel_rfl)) rfl (mpost_of HM.out HQ.out _ (by (repeat (first | exact Below.refl _ _ | refine Below.drew ?_ | refine Below.alloc ?_ (by first | exact Nat.le_refl _ | (simp only [size_al, size_dr]; omega)) _))))
            case hr => (simp only [heap_al, heap_dr, size_al, size_dr]; repeat (first | rw [if_pos trivial] | rw [if_neg (by omega)] | rw [if_pos (by omega)])); rfl
          · have hdi : ¬ (60000 : Int) < (f.data.size : Int) := by omega
            have HM : Hid (madeS f = ⟨0, X, s, f.data, f.pad % 256, 0, false, 0, 0, 0⟩) := by
              show _ = _
              unfold madeS
              rw [HT.out, HX.out]
              exact mg_0_110 f X S HS.out s hs.out h8 hd
            have HQ : Hid (madeP (mT f) (mX f) ps = []) := by
              show _ = _
              rw [HT.out, HX.out]
              unfold madeP
              rw [if_neg (by omega)]
            go_wp2_with fail
            refine bodyPost_ret (results_cell_row (p := 2) (ty := 28) rfl _ _ (w.heap.size + 1) 28 (fv ⟨0, X, s, f.data, f.pad % 256, 0, false, 0, 0, 0⟩ (.slice none 0 0)) (0, 0) _ rfl ?hr Tryd.underlying28 rfl (by kernel_rfl)) rfl (mpost_of HM.out HQ.out _ (by (repeat (first | exact Below.refl _ _ | refine Below.drew ?_ | refine Below.alloc ?_ (by first | exact Nat.le_refl _ | (simp only [size_al, size_dr]; omega)) _))))
            case hr => (simp only [heap_al, heap_dr, size_al, size_dr]; repeat (first | rw [if_pos trivial] | rw [if_neg (by omega)] | rw [if_pos (by omega)])); rfl

end Go.Proofs.YtjigjckclpccmaaDoor
