/- The document's Spelt. -/
import Derived.Test.YtbifmikndpeafaaDoorD3
import Derived.Test.YtbifmikndpeafaaDoorA2
namespace Go.Proofs.YtbifmikndpeafaaDoor
open Go.RowKit
set_option linter.unusedVariables false
set_option linter.unusedSimpArgs false
theorem OB.setH {w : World} {g : Nat} {o : Og} (h : OB w g o) (x : ByteArray) : OB (w.setCell ⟨g, 1, none⟩ (.string x)) g ⟨o.s, x, o.p⟩ := by
  unfold OB
  rw [setCell_block _ _ _ _ _ _ _ h]
  rfl
theorem rt_port (sc M d : ByteArray) : rtB ⟨sc, M, (rpN d.data.toList : Int)⟩ = rtB ⟨sc, M, (ptN d : Int)⟩ ∧ (rtB ⟨sc, M, (rpN d.data.toList : Int)⟩ = true → rpN d.data.toList = ptN d) := by
  have h := rp_pt d
  by_cases hp : 1 ≤ rpN d.data.toList ∧ rpN d.data.toList ≤ 65535
  · have e := h.1 hp
    rw [e]
    exact ⟨rfl, fun _ => rfl⟩
  · have e := h.2 hp
    rw [e, rt_p (o := ⟨sc, M, (rpN d.data.toList : Int)⟩) (by simp only; omega), rt_p (o := ⟨sc, M, ((0 : Nat) : Int)⟩) (by simp)]
    exact ⟨rfl, fun h => by cases h⟩
set_option maxHeartbeats 4000000 in
set_option maxRecDepth 100000 in
theorem spelt_any (sc au : ByteArray) (w : World) (h2 : au.size ≤ 140737488351232) : Calls Tryd.prog 32 #[.string sc, .string au] w fun e w' => e = .returned (mnV sc au) ∧ Below w.heap.size w w' := by
  obtain ⟨n, hn⟩ : ∃ n, w.heap.size = n := ⟨_, rfl⟩
  have HNN : Hid (w.heap.size = n) := hn
  obtain ⟨W0, hW0⟩ : ∃ W, w.alloc (.cells #[.string ⟨#[]⟩, .string ⟨#[]⟩, .int .i64 0] 23) = W := ⟨_, rfl⟩
  have HB0 : Hid (Below n w W0) := by rw [← hW0, ← hn]; exact bel1 _ _
  have HO0 : Hid (OB W0 n og0) := by show OB _ _ _; rw [← hW0, ← hn]; unfold OB; rw [heap_al, if_pos rfl]; rfl
  have HS0 : Hid (W0.heap.size = n + 1) := by show _ = _; rw [← hW0, size_al, hn]
  have HU : Hid (∀ W, Calls Tryd.prog 30 #[.string sc] W fun e w' => e = .returned (.int .i64 (usP sc)) ∧ w' = W) := fun W => rusual_any sc W
  obtain ⟨U, hU⟩ : ∃ U, usP sc = U := ⟨_, rfl⟩
  have HUU : Hid (usP sc = U) := hU
  have HLn : Hid (au.data.toList.length = au.size) := (Lib.size_eq au).symm
  rw [hU] at HU
  clear hU
  go_enter Tryd.func32, Tryd.ntmps32
  go_wp2_with fail
  clear hW0
  go_at_call 30
  refine (HU.out _).mono ?_
  rintro e W1 ⟨rfl, hw1⟩
  rw [hw1]
  clear hw1 W1
  obtain ⟨m, hm⟩ : ∃ m, W0.heap.size = m := ⟨_, rfl⟩
  have hmn : Hid (n < m) := by show _ < _; rw [← hm, HS0.out]; omega
  obtain ⟨V, hV⟩ : ∃ V, W0.alloc (.cells #[.string sc, .string au, .int .i64 U] 23) = V := ⟨_, rfl⟩
  have BV : Hid (Below m W0 V) := by rw [← hV, ← hm]; exact bel1 _ _
  have OV : Hid (OB V m ⟨sc, au, U⟩) := by show OB _ _ _; rw [← hV, ← hm]; unfold OB; rw [heap_al, if_pos rfl]; rfl
  have NV : Hid (OB V n og0) := HO0.out.keep (BV.out.block n hmn.out)
  have BW : Hid (Below n w V) := HB0.out.trans (BV.out.mono (Nat.le_of_lt hmn.out))
  go_wp2_with fail
  clear hV hm hn
  go_loopw [7] (fun iv wr => ∃ i : Nat, iv = .int .i64 (i : Int) ∧ i ≤ au.size ∧ Hid (58 ∉ au.data.toList.take i ∧ wr = V)) (fun iv _ => au.size - (intOf iv).toNat)
  case atStart => exact ⟨0, rfl, by omega, by simp, rfl⟩
  case round =>
    obtain ⟨i, rfl, hi, hJ⟩ := hrel
    have hww := hJ.out.2
    have hI : Hid (58 ∉ au.data.toList.take i) := hJ.out.1
    rw [hww]
    clear hww hJ
    by_cases hlt : i < au.size
    · have hlt' : (i : Int) < (au.size : Int) := by omega
      obtain ⟨x, hx⟩ : ∃ x : UInt8, au[i]'hlt = x := ⟨_, rfl⟩
      have HLt : Hid (i < au.data.toList.length) := by rw [HLn.out]; exact hlt
      have HX : Hid (au.data.toList[i]'HLt.out = x) := by show _ = _; rw [← hx]; exact getL hlt
      by_cases h58 : x = 58
      · have HIX : Hid (Lib.indexByte au.data.toList 58 = (i : Int)) := by
          show _ = _
          have h1 : au.data.toList = au.data.toList.take i ++ 58 :: au.data.toList.drop (i + 1) := by
            rw [← h58, ← HX.out, ← List.drop_eq_getElem_cons HLt.out, List.take_append_drop]
          have h3 := ixB_app (r := au.data.toList.drop (i + 1)) hI.out
          rw [← h1] at h3
          rw [h3, List.length_take]
          have := HLt.out
          omega
        have hq : ((x.toNat : Int) == 58) = true := by rw [h58]; rfl
        obtain ⟨H, hH⟩ : ∃ H, au.extract 0 i = H := ⟨_, rfl⟩
        obtain ⟨B, hB⟩ : ∃ B, au.extract (i + 1) au.size = B := ⟨_, rfl⟩
        obtain ⟨M, hM⟩ : ∃ M, smS H = M := ⟨_, rfl⟩
        have HG : Hid (mnG sc au = ⟨sc, M, (ptN B : Int)⟩) := by
          show _ = _
          unfold mnG hoS poN
          rw [HIX.out, if_pos (by omega), if_pos (by omega), Int.toNat_natCast, hH, hB, hM]
        have HSm : Hid (∀ W, Calls Tryd.prog 33 #[.string H] W fun e w' => e = .returned (.string M) ∧ Below W.heap.size W w') := fun W => by
          rw [← hM]
          exact rsmall_any H W (by rw [← hH]; exact Nat.le_trans (ext_size_le _ _ _) h2)
        have HP : Hid (∀ W, Calls Tryd.prog 40 #[.string B] W fun e w' => e = .returned (.int .i64 (rpN B.data.toList : Int)) ∧ w' = W) := fun W => rport_any B W
        have hRP := rt_port sc M B
        have c1 : (0 : Int) ≤ (i : Int) := by omega
        have c2 : (i : Int) ≤ (au.size : Int) := by omega
        have c3 : (0 : Int) ≤ (i : Int) + 1 := by omega
        have c4 : (i : Int) + 1 ≤ (au.size : Int) := by omega
        obtain ⟨c00, c11, c22, f00, f11, f22⟩ := OV.out.cells
        simp only at c00 c11 c22
        obtain ⟨X1, hX1⟩ : ∃ Y, V.setCell ⟨m, 1, none⟩ (.string H) = Y := ⟨_, rfl⟩
        have O1 : Hid (OB X1 m ⟨sc, H, U⟩) := by show OB _ _ _; rw [← hX1]; exact OV.out.setH _
        have N1 : Hid (OB X1 n og0) := by show OB _ _ _; rw [← hX1]; exact NV.out.keep (setCell_other _ _ _ _ _ (Nat.ne_of_lt hmn.out))
        have B1 : Hid (Below n w X1) := by rw [← hX1]; exact BW.out.setCell (p := ⟨m, 1, none⟩) (Nat.le_of_lt hmn.out) _
        obtain ⟨e0, e1, e2, g0, g1, g2⟩ := O1.out.cells
        simp only at e0 e1 e2
        obtain ⟨R, hR⟩ : ∃ R : Int, (rpN B.data.toList : Int) = R := ⟨_, rfl⟩
        rw [hR] at HP hRP
        have HR0 : Hid ((rpN B.data.toList : Int) = R) := hR
        obtain ⟨X2, hX2⟩ : ∃ Y, X1.setCell ⟨m, 2, none⟩ (.int .i64 R) = Y := ⟨_, rfl⟩
        have O2 : Hid (OB X2 m ⟨sc, H, R⟩) := by show OB _ _ _; rw [← hX2]; exact O1.out.setP _
        have N2 : Hid (OB X2 n og0) := by show OB _ _ _; rw [← hX2]; exact N1.out.keep (setCell_other _ _ _ _ _ (Nat.ne_of_lt hmn.out))
        have B2 : Hid (Below n w X2) := by rw [← hX2]; exact B1.out.setCell (p := ⟨m, 2, none⟩) (Nat.le_of_lt hmn.out) _
        obtain ⟨k0, k1, k2, _, _, _⟩ := O2.out.cells
        simp only at k0 k1 k2
        clear h58 hM hR hI HX
        cases hr : rtB ⟨sc, M, R⟩
        · have HGt : Hid (rtB ⟨sc, M, (ptN B : Int)⟩ = false) := by show _ = _; rw [← hRP.1, hr]
          have HV : Hid (mnV sc au = .tuple #[.agg (ogv og0), .bool false]) := by show _ = _; unfold mnV mnO mnB; rw [HG.out]; rw [HGt.out]; rfl
          have HR1 : Hid (∀ W, Calls Tryd.prog 29 #[.agg #[.string sc, .string M, .int .i64 R]] W fun e w' => e = .returned (.bool false) ∧ Below W.heap.size W w') := fun W => by rw [← hr]; exact rright_any ⟨sc, M, R⟩ W
          clear hr HG HGt
          go_wp2_with fail
          clear hX1
          go_at_call 40
          refine (HP.out _).mono ?_
          rintro e W9 ⟨rfl, hw9⟩
          rw [hw9]
          clear hw9 W9
          go_wp2_with fail
          clear hX2
          go_at_call 33
          refine (HSm.out _).mono ?_
          rintro e X ⟨rfl, bx⟩
          have OX : Hid (OB X m ⟨sc, H, R⟩) := O2.out.below bx
          have NX : Hid (OB X n og0) := N2.out.below bx
          have BX : Hid (Below n w X) := B2.out.trans (bx.mono (Nat.le_trans (Nat.le_of_lt hmn.out) (Nat.le_of_lt O2.out.lt)))
          clear bx
          obtain ⟨c0, c1, c2, f0, f1, f2⟩ := OX.out.cells
          simp only at c0 c1 c2
          obtain ⟨Y, hY⟩ : ∃ Y, X.setCell ⟨m, 1, none⟩ (.string M) = Y := ⟨_, rfl⟩
          have OY : Hid (OB Y m ⟨sc, M, R⟩) := by show OB _ _ _; rw [← hY]; exact OX.out.setH _
          have NY : Hid (OB Y n og0) := by show OB _ _ _; rw [← hY]; exact NX.out.keep (setCell_other _ _ _ _ _ (Nat.ne_of_lt hmn.out))
          have BY : Hid (Below n w Y) := by rw [← hY]; exact BX.out.setCell (p := ⟨m, 1, none⟩) (Nat.le_of_lt hmn.out) _
          obtain ⟨d0, d1, d2, _, _, _⟩ := OY.out.cells
          simp only at d0 d1 d2
          go_wp2_with fail
          clear hY c0 c1 c2 f0 f1 f2
          go_at_call 29
          refine (HR1.out _).mono ?_
          rintro e Z ⟨rfl, bz⟩
          have OZ : Hid (OB Z m ⟨sc, M, R⟩) := OY.out.below bz
          have NZ : Hid (OB Z n og0) := NY.out.below bz
          have BZ : Hid (Below n w Z) := BY.out.trans (bz.mono (Nat.le_trans (Nat.le_of_lt hmn.out) (Nat.le_of_lt OY.out.lt)))
          clear bz d0 d1 d2
          obtain ⟨c0, c1, c2, f0, f1, f2⟩ := NZ.out.cells
          obtain ⟨d0, d1, d2, _, _, _⟩ := OZ.out.cells
          simp only [og0] at c0 c1 c2 d0 d1 d2
          have FG : Hid (OB (setO Z n og0) n og0) := NZ.out.set _
          have FB : Hid (Below n w (setO Z n og0)) := BZ.out.trans (setO_below _ (Nat.le_refl _))
          go_wp2_with fail
          refine bodyPost_ret (results_ct (p := 4) (r := 5) (ty := 23) rfl _ _ n 23 _ (0, 0) _ rfl FG.out Tryd.underlying23 rfl (by kernel_rfl)) rfl ⟨by rw [HV.out]; rfl, ?_⟩
          rw [HNN.out]
          exact FB.out
        · have HGt : Hid (rtB ⟨sc, M, (ptN B : Int)⟩ = true ∧ (⟨sc, M, (ptN B : Int)⟩ : Og) = ⟨sc, M, R⟩) := by
            refine ⟨by rw [← hRP.1, hr], ?_⟩
            have h7 := rt_port sc M B
            rw [HR0.out] at h7
            have := h7.2 hr
            rw [← HR0.out, this]
          have HV : Hid (mnV sc au = .tuple #[.agg (ogv ⟨sc, M, R⟩), .bool true]) := by show _ = _; unfold mnV mnO mnB; rw [HG.out]; rw [HGt.out.1, HGt.out.2]; rfl
          have HR1 : Hid (∀ W, Calls Tryd.prog 29 #[.agg #[.string sc, .string M, .int .i64 R]] W fun e w' => e = .returned (.bool true) ∧ Below W.heap.size W w') := fun W => by rw [← hr]; exact rright_any ⟨sc, M, R⟩ W
          clear hr HG HGt
          go_wp2_with fail
          clear hX1
          go_at_call 40
          refine (HP.out _).mono ?_
          rintro e W9 ⟨rfl, hw9⟩
          rw [hw9]
          clear hw9 W9
          go_wp2_with fail
          clear hX2
          go_at_call 33
          refine (HSm.out _).mono ?_
          rintro e X ⟨rfl, bx⟩
          have OX : Hid (OB X m ⟨sc, H, R⟩) := O2.out.below bx
          have NX : Hid (OB X n og0) := N2.out.below bx
          have BX : Hid (Below n w X) := B2.out.trans (bx.mono (Nat.le_trans (Nat.le_of_lt hmn.out) (Nat.le_of_lt O2.out.lt)))
          clear bx
          obtain ⟨c0, c1, c2, f0, f1, f2⟩ := OX.out.cells
          simp only at c0 c1 c2
          obtain ⟨Y, hY⟩ : ∃ Y, X.setCell ⟨m, 1, none⟩ (.string M) = Y := ⟨_, rfl⟩
          have OY : Hid (OB Y m ⟨sc, M, R⟩) := by show OB _ _ _; rw [← hY]; exact OX.out.setH _
          have NY : Hid (OB Y n og0) := by show OB _ _ _; rw [← hY]; exact NX.out.keep (setCell_other _ _ _ _ _ (Nat.ne_of_lt hmn.out))
          have BY : Hid (Below n w Y) := by rw [← hY]; exact BX.out.setCell (p := ⟨m, 1, none⟩) (Nat.le_of_lt hmn.out) _
          obtain ⟨d0, d1, d2, _, _, _⟩ := OY.out.cells
          simp only at d0 d1 d2
          go_wp2_with fail
          clear hY c0 c1 c2 f0 f1 f2
          go_at_call 29
          refine (HR1.out _).mono ?_
          rintro e Z ⟨rfl, bz⟩
          have OZ : Hid (OB Z m ⟨sc, M, R⟩) := OY.out.below bz
          have NZ : Hid (OB Z n og0) := NY.out.below bz
          have BZ : Hid (Below n w Z) := BY.out.trans (bz.mono (Nat.le_trans (Nat.le_of_lt hmn.out) (Nat.le_of_lt OY.out.lt)))
          clear bz d0 d1 d2
          obtain ⟨c0, c1, c2, f0, f1, f2⟩ := NZ.out.cells
          obtain ⟨d0, d1, d2, _, _, _⟩ := OZ.out.cells
          simp only [og0] at c0 c1 c2 d0 d1 d2
          have FG : Hid (OB (setO Z n ⟨sc, M, R⟩) n ⟨sc, M, R⟩) := NZ.out.set _
          have FB : Hid (Below n w (setO Z n ⟨sc, M, R⟩)) := BZ.out.trans (setO_below _ (Nat.le_refl _))
          go_wp2_with fail
          refine bodyPost_ret (results_ct (p := 4) (r := 5) (ty := 23) rfl _ _ n 23 _ (0, 0) _ rfl FG.out Tryd.underlying23 rfl (by kernel_rfl)) rfl ⟨by rw [HV.out]; rfl, ?_⟩
          rw [HNN.out]
          exact FB.out
      · have HNx : Hid (58 ∉ au.data.toList.take (i + 1)) := by
          intro hm'
          rw [List.take_succ_eq_append_getElem HLt.out, HX.out] at hm'
          rcases List.mem_append.1 hm' with hm' | hm'
          · exact hI.out hm'
          · exact h58 (List.mem_singleton.1 hm').symm
        have hq : ((x.toNat : Int) == 58) = false := beq_eq_false_iff_ne.2 (fun e => h58 (UInt8.toNat_inj.1 (by have : (58 : UInt8).toNat = 58 := rfl; omega)))
        clear h58 hI HX
        go_wp2_with fail
        go_roundw
        case rel => exact ⟨i + 1, by simp, by omega, HNx.out, by first | rfl | trivial⟩
        case measure => simp [intOf]; omega
    · obtain rfl : i = au.size := by omega
      have hlt' : ¬ (au.size : Int) < (au.size : Int) := by omega
      have HIX : Hid (Lib.indexByte au.data.toList 58 = -1) := ixB_none (by have := hI.out; rw [← HLn.out, List.take_length] at this; exact this)
      obtain ⟨M, hM⟩ : ∃ M, smS au = M := ⟨_, rfl⟩
      have HG : Hid (mnG sc au = ⟨sc, M, U⟩) := by
        show _ = _
        unfold mnG hoS poN
        rw [HIX.out, if_neg (by omega), if_neg (by omega), hM, HUU.out]
      obtain ⟨H, hH⟩ : ∃ H, au = H := ⟨_, rfl⟩
      have HSm : Hid (∀ W, Calls Tryd.prog 33 #[.string au] W fun e w' => e = .returned (.string M) ∧ Below W.heap.size W w') := fun W => by
        rw [← hM]
        exact rsmall_any au W h2
      obtain ⟨k0, k1, k2, _, _, _⟩ := OV.out.cells
      simp only at k0 k1 k2
      clear hI hM hH
      cases hr : rtB ⟨sc, M, U⟩
      · have HGt : Hid (rtB ⟨sc, M, U⟩ = false) := hr
        have HV : Hid (mnV sc au = .tuple #[.agg (ogv og0), .bool false]) := by show _ = _; unfold mnV mnO mnB; rw [HG.out]; rw [HGt.out]; rfl
        have HR1 : Hid (∀ W, Calls Tryd.prog 29 #[.agg #[.string sc, .string M, .int .i64 U]] W fun e w' => e = .returned (.bool false) ∧ Below W.heap.size W w') := fun W => by rw [← hr]; exact rright_any ⟨sc, M, U⟩ W
        clear hr HG HGt
        go_wp2_with fail
        go_at_call 33
        refine (HSm.out _).mono ?_
        rintro e X ⟨rfl, bx⟩
        have OX : Hid (OB X m ⟨sc, au, U⟩) := OV.out.below bx
        have NX : Hid (OB X n og0) := NV.out.below bx
        have BX : Hid (Below n w X) := BW.out.trans (bx.mono (Nat.le_trans (Nat.le_of_lt hmn.out) (Nat.le_of_lt OV.out.lt)))
        clear bx
        obtain ⟨c0, c1, c2, f0, f1, f2⟩ := OX.out.cells
        simp only at c0 c1 c2
        obtain ⟨Y, hY⟩ : ∃ Y, X.setCell ⟨m, 1, none⟩ (.string M) = Y := ⟨_, rfl⟩
        have OY : Hid (OB Y m ⟨sc, M, U⟩) := by show OB _ _ _; rw [← hY]; exact OX.out.setH _
        have NY : Hid (OB Y n og0) := by show OB _ _ _; rw [← hY]; exact NX.out.keep (setCell_other _ _ _ _ _ (Nat.ne_of_lt hmn.out))
        have BY : Hid (Below n w Y) := by rw [← hY]; exact BX.out.setCell (p := ⟨m, 1, none⟩) (Nat.le_of_lt hmn.out) _
        obtain ⟨d0, d1, d2, _, _, _⟩ := OY.out.cells
        simp only at d0 d1 d2
        go_wp2_with fail
        clear hY c0 c1 c2 f0 f1 f2
        go_at_call 29
        refine (HR1.out _).mono ?_
        rintro e Z ⟨rfl, bz⟩
        have OZ : Hid (OB Z m ⟨sc, M, U⟩) := OY.out.below bz
        have NZ : Hid (OB Z n og0) := NY.out.below bz
        have BZ : Hid (Below n w Z) := BY.out.trans (bz.mono (Nat.le_trans (Nat.le_of_lt hmn.out) (Nat.le_of_lt OY.out.lt)))
        clear bz d0 d1 d2
        obtain ⟨c0, c1, c2, f0, f1, f2⟩ := NZ.out.cells
        obtain ⟨d0, d1, d2, _, _, _⟩ := OZ.out.cells
        simp only [og0] at c0 c1 c2 d0 d1 d2
        have FG : Hid (OB (setO Z n og0) n og0) := NZ.out.set _
        have FB : Hid (Below n w (setO Z n og0)) := BZ.out.trans (setO_below _ (Nat.le_refl _))
        go_wp2_with fail
        refine bodyPost_ret (results_ct (p := 4) (r := 5) (ty := 23) rfl _ _ n 23 _ (0, 0) _ rfl FG.out Tryd.underlying23 rfl (by kernel_rfl)) rfl ⟨by rw [HV.out]; rfl, ?_⟩
        rw [HNN.out]
        exact FB.out
      · have HGt : Hid (rtB ⟨sc, M, U⟩ = true ∧ (⟨sc, M, U⟩ : Og) = ⟨sc, M, U⟩) := ⟨hr, rfl⟩
        have HV : Hid (mnV sc au = .tuple #[.agg (ogv ⟨sc, M, U⟩), .bool true]) := by show _ = _; unfold mnV mnO mnB; rw [HG.out]; rw [HGt.out.1, HGt.out.2]; rfl
        have HR1 : Hid (∀ W, Calls Tryd.prog 29 #[.agg #[.string sc, .string M, .int .i64 U]] W fun e w' => e = .returned (.bool true) ∧ Below W.heap.size W w') := fun W => by rw [← hr]; exact rright_any ⟨sc, M, U⟩ W
        clear hr HG HGt
        go_wp2_with fail
        go_at_call 33
        refine (HSm.out _).mono ?_
        rintro e X ⟨rfl, bx⟩
        have OX : Hid (OB X m ⟨sc, au, U⟩) := OV.out.below bx
        have NX : Hid (OB X n og0) := NV.out.below bx
        have BX : Hid (Below n w X) := BW.out.trans (bx.mono (Nat.le_trans (Nat.le_of_lt hmn.out) (Nat.le_of_lt OV.out.lt)))
        clear bx
        obtain ⟨c0, c1, c2, f0, f1, f2⟩ := OX.out.cells
        simp only at c0 c1 c2
        obtain ⟨Y, hY⟩ : ∃ Y, X.setCell ⟨m, 1, none⟩ (.string M) = Y := ⟨_, rfl⟩
        have OY : Hid (OB Y m ⟨sc, M, U⟩) := by show OB _ _ _; rw [← hY]; exact OX.out.setH _
        have NY : Hid (OB Y n og0) := by show OB _ _ _; rw [← hY]; exact NX.out.keep (setCell_other _ _ _ _ _ (Nat.ne_of_lt hmn.out))
        have BY : Hid (Below n w Y) := by rw [← hY]; exact BX.out.setCell (p := ⟨m, 1, none⟩) (Nat.le_of_lt hmn.out) _
        obtain ⟨d0, d1, d2, _, _, _⟩ := OY.out.cells
        simp only at d0 d1 d2
        go_wp2_with fail
        clear hY c0 c1 c2 f0 f1 f2
        go_at_call 29
        refine (HR1.out _).mono ?_
        rintro e Z ⟨rfl, bz⟩
        have OZ : Hid (OB Z m ⟨sc, M, U⟩) := OY.out.below bz
        have NZ : Hid (OB Z n og0) := NY.out.below bz
        have BZ : Hid (Below n w Z) := BY.out.trans (bz.mono (Nat.le_trans (Nat.le_of_lt hmn.out) (Nat.le_of_lt OY.out.lt)))
        clear bz d0 d1 d2
        obtain ⟨c0, c1, c2, f0, f1, f2⟩ := NZ.out.cells
        obtain ⟨d0, d1, d2, _, _, _⟩ := OZ.out.cells
        simp only [og0] at c0 c1 c2 d0 d1 d2
        have FG : Hid (OB (setO Z n ⟨sc, M, U⟩) n ⟨sc, M, U⟩) := NZ.out.set _
        have FB : Hid (Below n w (setO Z n ⟨sc, M, U⟩)) := BZ.out.trans (setO_below _ (Nat.le_refl _))
        go_wp2_with fail
        refine bodyPost_ret (results_ct (p := 4) (r := 5) (ty := 23) rfl _ _ n 23 _ (0, 0) _ rfl FG.out Tryd.underlying23 rfl (by kernel_rfl)) rfl ⟨by rw [HV.out]; rfl, ?_⟩
        rw [HNN.out]
        exact FB.out
end Go.Proofs.YtbifmikndpeafaaDoor
