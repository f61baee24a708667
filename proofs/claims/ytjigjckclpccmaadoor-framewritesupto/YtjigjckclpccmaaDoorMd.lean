/- Made, walked. -/
import Derived.Test.YtjigjckclpccmaaDoorH2
import Derived.Deep.CutRange
import Derived.Test.YtjigjckclpccmaaDoorB0
namespace Go.Proofs.YtjigjckclpccmaaDoor
open Go.RowKit
set_option linter.unusedVariables false
set_option linter.unusedSimpArgs false

theorem finM (w wx : World) (g : Fr) (q : Value) (l : List (Int × Int)) (h1 : FB wx (w.heap.size + 1) Fr.zero (.slice none 0 0)) (hP : PRow wx q l) (hfr : ∀ k, q.ownBlock = some k → w.heap.size + 1 + 1 < k) (hb : Below w.heap.size w wx) :
    (sets wx (w.heap.size + 1) (fsets g q)).heap[w.heap.size + 1]? = some (.cells (fv g q) 28 (0, 0)) ∧ PRow (sets wx (w.heap.size + 1) (fsets g q)) q l ∧ Below w.heap.size w (sets wx (w.heap.size + 1) (fsets g q)) := by
  refine ⟨?_, hP.below fun k hk _ => ?_, hb.trans (sets_below _ _ (by omega) _ _)⟩
  · rw [sets_block _ _ _ _ _ _ h1]
    simp only [fsets, fv, Fr.zero, List.foldl_cons, List.foldl_nil, List.setIfInBounds_toArray, List.set_cons_zero, List.set_cons_succ]
  · have := hfr k hk
    rw [sets_other _ _ (by omega)]
theorem mg_4_0 (f : Fr) (X S : Int) (hS : f.st % 2147483648 = S) : madeG 4 X f = ⟨4, X, 0, ⟨#[]⟩, 0, 0, false, 0, 0, 0⟩ := by
  have hz : (⟨#[]⟩ : ByteArray).size = 0 := rfl
  simp [madeG, mSt, mD, mD0, mPr, hS, hz]

set_option maxRecDepth 100000 in
set_option maxHeartbeats 8000000 in
theorem made_4 (f : Fr) (pb : Option Addr) (pl pc : Nat) (ps : List (Int × Int)) (w : World)  (hT : mT f = 4) (hp : PIn w (.slice pb pl pc) ps) :
    Calls Tryd.prog 15 #[.agg (fv f (.slice pb pl pc))] w fun e w' => MPost w f ps e w' := by
  obtain ⟨X, hX⟩ : ∃ X, mX f = X := ⟨_, rfl⟩
  obtain ⟨S, hS⟩ : ∃ S, f.st % 2147483648 = S := ⟨_, rfl⟩
  have hki : (min (mT f) 10).toNat = 4 := by rw [hT]; rfl
  have hX2 : bits .and .i64 f.fl (kflags 4) = X := by rw [← hX]; unfold mX; rw [hki]
  have HX : Hid (mX f = X) := hX
  have HT : Hid (mT f = 4) := hT
  have HP : Hid (PIn w (.slice pb pl pc) ps) := hp
  have a1 : bits .and .i64 f.ty 255 = f.ty % 256 := and_any f.ty 8 (by decide)
  have a2 : bits .and .i64 f.st 2147483647 = S := by rw [← hS]; exact and_any f.st 31 (by decide)
  have a3 : bits .and .i64 f.pad 255 = f.pad % 256 := and_any f.pad 8 (by decide)
  have a4 : bits .and .i64 f.dep 2147483647 = f.dep % 2147483648 := and_any f.dep 31 (by decide)
  have a5 : bits .and .i64 f.wt 255 = f.wt % 256 := and_any f.wt 8 (by decide)
  have a6 : bits .and .i64 f.code 4294967295 = f.code % 4294967296 := and_any f.code 32 (by decide)
  have a7 : bits .and .i64 f.last 2147483647 = f.last % 2147483648 := and_any f.last 31 (by decide)
  have a8 : wrap64 (f.wt % 256 + 1) = f.wt % 256 + 1 := wrap64_small _ (by omega) (by omega)
  have hrem : (f.ty % 256).tmod 10 = f.ty % 256 % 10 := Int.tmod_eq_emod_of_nonneg (by omega)
  have hFL : Hid (∀ W : World, Calls Tryd.prog 18 #[.int .i64 4] W fun e w' => e = .returned (.int .i64 (kflags 4)) ∧ w' = W) := fun W => by
    have h := flags_law 4 (by omega) W
    rw [show (min (4 : Int) 10).toNat = 4 by rfl] at h
    exact h
  have HS : Hid (f.st % 2147483648 = S) := hS
  clear hT hX hki hp hS
  unfold fv
  go_enter Tryd.func15, Tryd.ntmps15
  go_upto_if 9 with fail
  go_cut [0] from 4 (fun _ wx => wx = ((w.alloc (.cells #[.int .i64 f.ty, .int .i64 f.fl, .int .i64 f.st, .string f.data, .int .i64 f.pad, .int .i64 f.dep, .bool f.excl, .int .i64 f.wt, .int .i64 f.code, .int .i64 f.last, .slice pb pl pc] 28)).alloc (.cells #[.int .i64 0, .int .i64 0, .int .i64 0, .string ⟨#[]⟩, .int .i64 0, .int .i64 0, .bool false, .int .i64 0, .int .i64 0, .int .i64 0, .slice none 0 0] 28)).alloc (.cells #[.int .i64 4, .int .i64 0, .int .i64 0, .string ⟨#[]⟩, .int .i64 0, .int .i64 0, .bool false, .int .i64 0, .int .i64 0, .int .i64 0, .slice none 0 0] 28))
  case first =>
    cases he : f.excl
    · have e := HT.out
      unfold mT at e
      rw [he, if_neg (by decide)] at e
      go_wp2_with fail
      go_meet
      case rel => first | rw [he, e] | rw [he]
    · have e := HT.out
      unfold mT at e
      rw [he, if_pos rfl] at e
      go_wp2_with fail
      go_meet
      case rel => first | rw [he, e] | rw [he]
  case rest =>
    subst hcut
    go_upto_region 4 with fail
    go_cut [] from 4 (fun wx => wx = (((w.alloc (.cells #[.int .i64 f.ty, .int .i64 f.fl, .int .i64 f.st, .string f.data, .int .i64 f.pad, .int .i64 f.dep, .bool f.excl, .int .i64 f.wt, .int .i64 f.code, .int .i64 f.last, .slice pb pl pc] 28)).alloc (.cells #[.int .i64 0, .int .i64 0, .int .i64 0, .string ⟨#[]⟩, .int .i64 0, .int .i64 0, .bool false, .int .i64 0, .int .i64 0, .int .i64 0, .slice none 0 0] 28)).alloc (.cells #[.int .i64 4, .int .i64 X, .int .i64 0, .string ⟨#[]⟩, .int .i64 0, .int .i64 0, .bool false, .int .i64 0, .int .i64 0, .int .i64 0, .slice none 0 0] 28)).drew)
    case first =>
      go_region_with (go_at_call 18; refine (hFL.out _).mono ?_; rintro e w' ⟨rfl, rfl⟩)
      all_goals
        go_wp2_with fail
        go_meet
        case rel => rfl
    case rest =>
      subst hcut
      clear hFL hX2 a1 hrem
      by_cases hx : X = 0
      · have hxb : (X == 0) = true := by simpa using hx
        subst hx
        have HF : Hid (∀ W : World, Below w.heap.size w W → Calls Tryd.prog 11 #[.slice pb pl pc] W fun e w' => ∃ qb ql qc, e = .returned (.slice qb ql qc) ∧ PRow w' (.slice qb ql qc) (fewS ps) ∧ (∀ k, (Value.slice qb ql qc).ownBlock = some k → W.heap.size ≤ k) ∧ Below W.heap.size W w') := by
          intro W hW
          refine (few_any W _ ps (HP.out.below hW)).mono ?_
          rintro e w' ⟨o, rfl, h1, h2, h3⟩
          obtain ⟨qb, qc, rfl⟩ := h1.slice
          exact ⟨qb, _, qc, rfl, h1, h2, h3⟩
        have HM : Hid (madeS f = ⟨4, 0, 0, ⟨#[]⟩, 0, 0, false, 0, 0, 0⟩) := by
          show _ = _
          unfold madeS
          rw [HT.out, HX.out]
          exact mg_4_0 f 0 S HS.out
        have HQ : Hid (madeP (mT f) (mX f) ps = fewS ps) := by
          show _ = _
          rw [HT.out, HX.out]
          rfl
        go_upto_if 145 with fail
        go_cut [] from 4 (fun wx => ∃ qb ql qc, FB wx (w.heap.size + 1 + 1) ⟨4, 0, 0, ⟨#[]⟩, 0, 0, false, 0, 0, 0⟩ (.slice qb ql qc) ∧ FB wx (w.heap.size + 1) Fr.zero (.slice none 0 0) ∧ PRow wx (.slice qb ql qc) (fewS ps) ∧ (∀ k, (Value.slice qb ql qc).ownBlock = some k → w.heap.size + 1 + 1 < k) ∧ Below w.heap.size w wx)
        case first =>
          go_wp2_with (go_at_call 11; refine (HF.out _ (by (repeat (first | exact Below.refl _ _ | refine Below.drew ?_ | refine Below.alloc ?_ (by first | exact Nat.le_refl _ | (simp only [size_al, size_dr]; omega)) _)))).mono ?_; rintro e wz ⟨qb, ql, qc, rfl, hz1, hz2, hz3⟩; have hz4 : FB wz (w.heap.size + 1 + 1) ⟨4, 0, 0, ⟨#[]⟩, 0, 0, false, 0, 0, 0⟩ (.slice none 0 0) := (hz3.block _ (by simp only [size_al, size_dr]; omega)).trans (by (simp only [heap_al, heap_dr, size_al, size_dr]; repeat (first | rw [if_pos trivial] | rw [if_neg (by omega)] | rw [if_pos (by omega)])); rfl); have hz5 : FB wz (w.heap.size + 1) Fr.zero (.slice none 0 0) := (hz3.block _ (by simp only [size_al, size_dr]; omega)).trans (by (simp only [heap_al, heap_dr, size_al, size_dr]; repeat (first | rw [if_pos trivial] | rw [if_neg (by omega)] | rw [if_pos (by omega)])); rfl); have hz6 : Below w.heap.size w wz := (Below.trans (by (repeat (first | exact Below.refl _ _ | refine Below.drew ?_ | refine Below.alloc ?_ (by first | exact Nat.le_refl _ | (simp only [size_al, size_dr]; omega)) _))) (hz3.mono (by simp only [size_al, size_dr]; omega))); have hz7 := hz4.frozen 10; have hz8 : w.heap.size + 1 + 1 < wz.heap.size := hz4.lt; have hz9 : wz.cell? ⟨w.heap.size + 1 + 1, 10, none⟩ = some (.slice none 0 0) := hz4.cell 10; simp only [size_al, size_dr] at hz2; clear hz3; replace hz4 : Hid _ := hz4; replace hz5 : Hid _ := hz5)
          go_meet
          case rel =>
            refine ⟨qb, ql, qc, ?_, (setCell_other _ _ _ _ _ (by omega)).trans hz5.out, hz1.below fun k hk _ => setCell_other _ _ _ _ _ (by have := hz2 k hk; omega), fun k hk => by have := hz2 k hk; omega, hz6.trans ((Below.refl _ _).setCell (p := ⟨w.heap.size + 1 + 1, 10, none⟩) (by show w.heap.size ≤ w.heap.size + 1 + 1; omega) _)⟩
            unfold FB
            rw [setCell_block _ _ _ _ _ _ _ hz4.out]
            rfl
        case rest =>
          obtain ⟨qb, ql, qc, k1, k2, k3, k4, k5⟩ := hcut
          have k6 := finM w wc ⟨4, 0, 0, ⟨#[]⟩, 0, 0, false, 0, 0, 0⟩ (.slice qb ql qc) (fewS ps) k2 k3 k4 k5
          have k7 : w.heap.size + 1 + 1 < wc.heap.size := k1.lt
          have k8 : w.heap.size + 1 < wc.heap.size := k2.lt
          obtain ⟨z0, z1, z2, z3, z4, z5, z6, z7, z8, z9, z10⟩ := k1.cells
          obtain ⟨y0, y1, y2, y3, y4, y5, y6, y7, y8, y9, y10⟩ := k2.frozens
          obtain ⟨x0, x1, x2, x3, x4, x5, x6, x7, x8, x9, x10⟩ := k2.cells
          simp only [Fr.zero] at x0 x1 x2 x3 x4 x5 x6 x7 x8 x9 x10
          have k4' : ∀ k, (Value.slice qb ql qc).ownBlock = some k → w.heap.size ≤ k := fun k hk => by have := k4 k hk; omega
          clear k1 k2 k3 k4 k5
          replace k6 : Hid _ := k6
          go_wp2_with fail
          obtain ⟨m1, m2, m3⟩ := k6.out
          simp only [sets, fsets, List.foldl_cons, List.foldl_nil] at m1 m2 m3
          refine bodyPost_ret (results_cell_row (p := 2) (ty := 28) rfl _ _ (w.heap.size + 1) 28 (fv ⟨4, 0, 0, ⟨#[]⟩, 0, 0, false, 0, 0, 0⟩ (.slice qb ql qc)) (0, 0) _ rfl m1 Tryd.underlying28 rfl (by kernel_rfl)) rfl ?_
          have hm := HM.out
          have hq := HQ.out
          exact ⟨_, by rw [hm], by rw [hq]; exact m2, k4', m3⟩
      · have hxb : (X == 0) = false := by simpa using hx
        have HM : Hid (madeS f = ⟨4, X, 0, ⟨#[]⟩, 0, 0, false, 0, 0, 0⟩) := by
          show _ = _
          unfold madeS
          rw [HT.out, HX.out]
          exact mg_4_0 f X S HS.out
        have HQ : Hid (madeP (mT f) (mX f) ps = []) := by
          show _ = _
          rw [HT.out, HX.out]
          unfold madeP
          rw [if_neg (by exact fun h => hx h.2)]
        go_wp2_with fail
        refine bodyPost_ret (results_cell_row (p := 2) (ty := 28) rfl _ _ (w.heap.size + 1) 28 (fv ⟨4, X, 0, ⟨#[]⟩, 0, 0, false, 0, 0, 0⟩ (.slice none 0 0)) (0, 0) _ rfl ?hr Tryd.underlying28 rfl (by kernel_rfl)) rfl (mpost_of HM.out HQ.out _ (by (repeat (first | exact Below.refl _ _ | refine Below.drew ?_ | refine Below.alloc ?_ (by first | exact Nat.le_refl _ | (simp only [size_al, size_dr]; omega)) _))))
        case hr => (simp only [heap_al, heap_dr, size_al, size_dr]; repeat (first | rw [if_pos trivial] | rw [if_neg (by omega)] | rw [if_pos (by omega)])); rfl

end Go.Proofs.YtjigjckclpccmaaDoor
