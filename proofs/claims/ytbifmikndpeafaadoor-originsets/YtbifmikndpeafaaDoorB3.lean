/- meant. -/
import Derived.Test.YtbifmikndpeafaaDoorB2
namespace Go.Proofs.YtbifmikndpeafaaDoor
open Go.RowKit
set_option linter.unusedVariables false
set_option linter.unusedSimpArgs false
/-- an origin in a block of its own -/
def OB (w : World) (g : Nat) (o : Og) : Prop := w.heap[g]? = some (.cells (ogv o) 23 (0, 0))
structure O3 (w : World) (g : Nat) (o : Og) : Prop where
  c0 : w.cell? ⟨g, 0, none⟩ = some (.string o.s)
  c1 : w.cell? ⟨g, 1, none⟩ = some (.string o.h)
  c2 : w.cell? ⟨g, 2, none⟩ = some (.int .i64 o.p)
  f0 : w.frozen? ⟨g, 0, none⟩ = false
  f1 : w.frozen? ⟨g, 1, none⟩ = false
  f2 : w.frozen? ⟨g, 2, none⟩ = false
theorem OB.cells {w : World} {g : Nat} {o : Og} (h : OB w g o) : O3 w g o := ⟨cell_blk h 0, cell_blk h 1, cell_blk h 2, frozen_blk h 0, frozen_blk h 1, frozen_blk h 2⟩
theorem OB.lt {w : World} {g : Nat} {o : Og} (h : OB w g o) : g < w.heap.size := heap_lt h
theorem OB.keep {w w' : World} {g : Nat} {o : Og} (h : OB w g o) (hk : w'.heap[g]? = w.heap[g]?) : OB w' g o := hk.trans h
theorem OB.below {w w' : World} {g : Nat} {o : Og} (h : OB w g o) (hb : Below w.heap.size w w') : OB w' g o := h.keep (hb.block g h.lt)
/-- an origin written over -/
def setO (w : World) (g : Nat) (o : Og) : World := ((w.setCell ⟨g, 0, none⟩ (.string o.s)).setCell ⟨g, 1, none⟩ (.string o.h)).setCell ⟨g, 2, none⟩ (.int .i64 o.p)
theorem OB.set {w : World} {g : Nat} {o : Og} (h : OB w g o) (x : Og) : OB (setO w g x) g x := by
  unfold OB setO
  rw [setCell_block _ _ _ _ _ _ _ (setCell_block _ _ _ _ _ _ _ (setCell_block _ _ _ _ _ _ _ h))]
  rfl
theorem OB.setP {w : World} {g : Nat} {o : Og} (h : OB w g o) (p : Int) : OB (w.setCell ⟨g, 2, none⟩ (.int .i64 p)) g ⟨o.s, o.h, p⟩ := by
  unfold OB
  rw [setCell_block _ _ _ _ _ _ _ h]
  rfl
theorem setO_below {w : World} {g B : Nat} (x : Og) (h : B ≤ g) : Below B w (setO w g x) :=
  (((Below.refl _ _).setCell (p := ⟨g, 0, none⟩) (by simpa using h) _).setCell (p := ⟨g, 1, none⟩) (by simpa using h) _).setCell (p := ⟨g, 2, none⟩) (by simpa using h) _
theorem setO_other {w : World} {g k : Nat} (x : Og) (h : k ≠ g) : (setO w g x).heap[k]? = w.heap[k]? := by
  unfold setO
  rw [setCell_other _ _ _ _ _ h, setCell_other _ _ _ _ _ h, setCell_other _ _ _ _ _ h]
theorem results_ct {P : Program} {fn : Func} {p r : Tmp} {ty : TypeId} (h : fn.results = #[.cell p ty, .tmp r]) (tmps : Array Value) (w : World) (g : Nat) (t : TypeId) (cs : Array Value) (fr : Nat × Nat) (d : TypeDesc)
    (hp : tmps.getD p undef = .pointer (some ⟨g, 0, none⟩)) (hg : w.heap[g]? = some (.cells cs t fr)) (hu : P.underlying ty = some d) (hd : (match d with | .struct _ | .array _ _ => true | _ => false) = true) (hi : (P.info? ty).map (·.size) = some cs.size) :
    (results fn tmps).run P w = .ok (.tuple #[.agg cs, tmps.getD r undef]) w := by
  have hp' : tmps[p]?.getD undef = .pointer (some ⟨g, 0, none⟩) := by simpa using hp
  simp [results, h, hp', asAddr, run_loadVar_row w g t ty cs fr d hg hu hd hi]
def mnV (sc au : ByteArray) : Value := .tuple #[.agg (ogv (mnO sc au)), .bool (mnB sc au)]
theorem ext_size_le (s : ByteArray) (i j : Nat) : (s.extract i j).size ≤ s.size := by rw [ByteArray.size_extract]; omega
theorem cuA_size (s : ByteArray) : (cuA s).size ≤ s.size := by unfold cuA hoS; split; exact ext_size_le _ _ _; exact Nat.le_refl _
theorem cuB_size (s : ByteArray) : (cuB s).size ≤ s.size := by unfold cuB; split; exact ext_size_le _ _ _; exact Nat.zero_le _
theorem mnG_named {sc au : ByteArray} (h : cuT au = true) : mnG sc au = ⟨sc, smS (cuA au), (ptN (cuB au) : Int)⟩ := by
  have h' : 0 ≤ Lib.indexByte au.data.toList 58 := of_decide_eq_true h
  unfold mnG poN cuA cuB
  rw [if_pos h', if_pos h']
theorem mnG_bare {sc au : ByteArray} (h : cuT au = false) : mnG sc au = ⟨sc, smS (cuA au), usP sc⟩ := by
  have h' : ¬ 0 ≤ Lib.indexByte au.data.toList 58 := of_decide_eq_false h
  unfold mnG poN cuA
  rw [if_neg h']
set_option maxHeartbeats 4000000 in
set_option maxRecDepth 100000 in
theorem meant_any (sc au : ByteArray) (w : World) (he : Env w) (h2 : au.size ≤ 140737488355328) : Calls Tryd.prog 26 #[.string sc, .string au] w fun e w' => e = .returned (mnV sc au) ∧ Below w.heap.size w w' := by
  obtain ⟨n, hn⟩ : ∃ n, w.heap.size = n := ⟨_, rfl⟩
  obtain ⟨W0, hW0⟩ : ∃ W, w.alloc (.cells #[.string ⟨#[]⟩, .string ⟨#[]⟩, .int .i64 0] 23) = W := ⟨_, rfl⟩
  have HB0 : Hid (Below n w W0) := by rw [← hW0, ← hn]; exact bel1 _ _
  have HE0 : Hid (Env W0) := by rw [← hW0]; exact he.below (bel1 _ _)
  have HO0 : Hid (OB W0 n og0) := by show OB _ _ _; rw [← hW0, ← hn]; unfold OB; rw [heap_al, if_pos rfl]; rfl
  have HS0 : Hid (W0.heap.size = n + 1) := by show _ = _; rw [← hW0, size_al, hn]
  have HC : Hid (∀ W, Calls Tryd.prog 25 #[.string au, .string ⟨#[58]⟩] W fun e w' => e = .returned (cuV au) ∧ Below W.heap.size W w') := fun W => cut_one au W h2
  have HU : Hid (∀ W, Calls Tryd.prog 23 #[.string sc] W fun e w' => e = .returned (.int .i64 (usP sc)) ∧ w' = W) := fun W => usual_any sc W
  obtain ⟨A, hA⟩ : ∃ A, cuA au = A := ⟨_, rfl⟩
  obtain ⟨B, hB⟩ : ∃ B, cuB au = B := ⟨_, rfl⟩
  have HA : Hid (cuA au = A) := hA
  have HB : Hid (cuB au = B) := hB
  obtain ⟨M, hM⟩ : ∃ M, smS A = M := ⟨_, rfl⟩
  have HM : Hid (smS A = M) := hM
  have HSm : Hid (∀ W, Calls Tryd.prog 27 #[.string A] W fun e w' => e = .returned (.string M) ∧ Below W.heap.size W w') := fun W => by rw [← hM]; exact small_any A W (by rw [← hA]; exact Nat.le_trans (cuA_size au) h2)
  have HP : Hid (∀ W, Env W → Calls Tryd.prog 37 #[.string B] W fun e w' => e = .returned (.int .i64 (ptN B : Int)) ∧ Below W.heap.size W w') := fun W hW => port_any B W (by rw [← hB]; exact Nat.le_trans (cuB_size au) h2) hW
  have HR : Hid (∀ o W, Calls Tryd.prog 22 #[.agg (ogv o)] W fun e w' => e = .returned (.bool (rtB o)) ∧ Below W.heap.size W w') := fun o W => right_any o W
  unfold cuV at HC
  rw [hA, hB] at HC
  obtain ⟨U, hU⟩ : ∃ U, usP sc = U := ⟨_, rfl⟩
  have HUU : Hid (usP sc = U) := hU
  rw [hU] at HU
  clear hA hB hM hU
  cases hT : cuT au
  · rw [hT] at HC
    have HG : Hid (mnG sc au = ⟨sc, M, U⟩) := by show _ = _; rw [mnG_bare hT, HA.out, HM.out, HUU.out]
    clear hT
    cases hr : rtB ⟨sc, M, U⟩
    · have HV : Hid (mnV sc au = .tuple #[.agg (ogv og0), .bool false]) := by show _ = _; unfold mnV mnO mnB; rw [HG.out, hr]; rfl
      have HR1 : Hid (∀ W, Calls Tryd.prog 22 #[.agg #[.string sc, .string M, .int .i64 U]] W fun e w' => e = .returned (.bool false) ∧ Below W.heap.size W w') := fun W => by rw [← hr]; exact HR.out ⟨sc, M, U⟩ W
      rw [HV.out]
      clear hr HV
      go_enter Tryd.func26, Tryd.ntmps26
      go_wp2_with fail
      clear hW0
      go_at_call 25
      refine (HC.out _).mono ?_
      rintro e W1 ⟨rfl, b1⟩
      go_wp2_with fail
      go_at_call 27
      refine (HSm.out _).mono ?_
      rintro e W2 ⟨rfl, b2⟩
      have B2 : Hid (Below W0.heap.size W0 W2) := b1.trans (b2.mono b1.size)
      clear b1 b2
      go_wp2_with fail
      go_at_call 23
      refine (HU.out _).mono ?_
      rintro e W3 ⟨rfl, hw3⟩
      rw [hw3]
      clear hw3 W3
      obtain ⟨m, hm⟩ : ∃ m, W2.heap.size = m := ⟨_, rfl⟩
      have HM2 : Hid (W2.heap.size = m) := hm
      have hmn : Hid (n < m) := by have := B2.out.size; rw [HS0.out, hm] at this; show _ < _; omega
      obtain ⟨V, hV⟩ : ∃ V, W2.alloc (.cells #[.string sc, .string M, .int .i64 U] 23) = V := ⟨_, rfl⟩
      have BV : Hid (Below m W2 V) := by rw [← hV, ← hm]; exact bel1 _ _
      have OV : Hid (OB V m ⟨sc, M, U⟩) := by show OB _ _ _; rw [← hV, ← hm]; unfold OB; rw [heap_al, if_pos rfl]; rfl
      have NV : Hid (OB V n og0) := OB.keep (HO0.out.below B2.out) (BV.out.block n hmn.out)
      have BW : Hid (Below n w V) := HB0.out.trans ((B2.out.mono (by rw [HS0.out]; omega)).trans (BV.out.mono (Nat.le_of_lt hmn.out)))
      obtain ⟨d0, d1, d2, _, _, _⟩ := OV.out.cells
      simp only at d0 d1 d2
      go_wp2_with fail
      clear hV
      go_at_call 22
      refine (HR1.out _).mono ?_
      rintro e Z ⟨rfl, bz⟩
      have OZ : Hid (OB Z m ⟨sc, M, U⟩) := OV.out.below bz
      have NZ : Hid (OB Z n og0) := NV.out.below bz
      have BZ : Hid (Below n w Z) := BW.out.trans (bz.mono (Nat.le_trans (Nat.le_of_lt hmn.out) (Nat.le_of_lt OV.out.lt)))
      clear bz d0 d1 d2
      obtain ⟨c0, c1, c2, f0, f1, f2⟩ := NZ.out.cells
      obtain ⟨d0, d1, d2, _, _, _⟩ := OZ.out.cells
      simp only [og0] at c0 c1 c2 d0 d1 d2
      have FG : Hid (OB (setO Z n og0) n og0) := NZ.out.set _
      have FB : Hid (Below n w (setO Z n og0)) := BZ.out.trans (setO_below _ (Nat.le_refl _))
      go_wp2_with fail
      refine bodyPost_ret (results_ct (p := 4) (r := 5) (ty := 23) rfl _ _ n 23 _ (0, 0) _ rfl FG.out Tryd.underlying23 rfl (by kernel_rfl)) rfl ⟨rfl, ?_⟩
      rw [hn]
      exact FB.out
    · have HV : Hid (mnV sc au = .tuple #[.agg (ogv ⟨sc, M, U⟩), .bool true]) := by show _ = _; unfold mnV mnO mnB; rw [HG.out, hr]; rfl
      have HR1 : Hid (∀ W, Calls Tryd.prog 22 #[.agg #[.string sc, .string M, .int .i64 U]] W fun e w' => e = .returned (.bool true) ∧ Below W.heap.size W w') := fun W => by rw [← hr]; exact HR.out ⟨sc, M, U⟩ W
      rw [HV.out]
      clear hr HV
      go_enter Tryd.func26, Tryd.ntmps26
      go_wp2_with fail
      clear hW0
      go_at_call 25
      refine (HC.out _).mono ?_
      rintro e W1 ⟨rfl, b1⟩
      go_wp2_with fail
      go_at_call 27
      refine (HSm.out _).mono ?_
      rintro e W2 ⟨rfl, b2⟩
      have B2 : Hid (Below W0.heap.size W0 W2) := b1.trans (b2.mono b1.size)
      clear b1 b2
      go_wp2_with fail
      go_at_call 23
      refine (HU.out _).mono ?_
      rintro e W3 ⟨rfl, hw3⟩
      rw [hw3]
      clear hw3 W3
      obtain ⟨m, hm⟩ : ∃ m, W2.heap.size = m := ⟨_, rfl⟩
      have HM2 : Hid (W2.heap.size = m) := hm
      have hmn : Hid (n < m) := by have := B2.out.size; rw [HS0.out, hm] at this; show _ < _; omega
      obtain ⟨V, hV⟩ : ∃ V, W2.alloc (.cells #[.string sc, .string M, .int .i64 U] 23) = V := ⟨_, rfl⟩
      have BV : Hid (Below m W2 V) := by rw [← hV, ← hm]; exact bel1 _ _
      have OV : Hid (OB V m ⟨sc, M, U⟩) := by show OB _ _ _; rw [← hV, ← hm]; unfold OB; rw [heap_al, if_pos rfl]; rfl
      have NV : Hid (OB V n og0) := OB.keep (HO0.out.below B2.out) (BV.out.block n hmn.out)
      have BW : Hid (Below n w V) := HB0.out.trans ((B2.out.mono (by rw [HS0.out]; omega)).trans (BV.out.mono (Nat.le_of_lt hmn.out)))
      obtain ⟨d0, d1, d2, _, _, _⟩ := OV.out.cells
      simp only at d0 d1 d2
      go_wp2_with fail
      clear hV
      go_at_call 22
      refine (HR1.out _).mono ?_
      rintro e Z ⟨rfl, bz⟩
      have OZ : Hid (OB Z m ⟨sc, M, U⟩) := OV.out.below bz
      have NZ : Hid (OB Z n og0) := NV.out.below bz
      have BZ : Hid (Below n w Z) := BW.out.trans (bz.mono (Nat.le_trans (Nat.le_of_lt hmn.out) (Nat.le_of_lt OV.out.lt)))
      clear bz d0 d1 d2
      obtain ⟨c0, c1, c2, f0, f1, f2⟩ := NZ.out.cells
      obtain ⟨d0, d1, d2, _, _, _⟩ := OZ.out.cells
      simp only [og0] at c0 c1 c2 d0 d1 d2
      have FG : Hid (OB (setO Z n ⟨sc, M, U⟩) n ⟨sc, M, U⟩) := NZ.out.set _
      have FB : Hid (Below n w (setO Z n ⟨sc, M, U⟩)) := BZ.out.trans (setO_below _ (Nat.le_refl _))
      go_wp2_with fail
      refine bodyPost_ret (results_ct (p := 4) (r := 5) (ty := 23) rfl _ _ n 23 _ (0, 0) _ rfl FG.out Tryd.underlying23 rfl (by kernel_rfl)) rfl ⟨rfl, ?_⟩
      rw [hn]
      exact FB.out
  · rw [hT] at HC
    have HG : Hid (mnG sc au = ⟨sc, M, (ptN B : Int)⟩) := by show _ = _; rw [mnG_named hT, HA.out, HM.out, HB.out]
    clear hT
    cases hr : rtB ⟨sc, M, (ptN B : Int)⟩
    · have HV : Hid (mnV sc au = .tuple #[.agg (ogv og0), .bool false]) := by show _ = _; unfold mnV mnO mnB; rw [HG.out, hr]; rfl
      have HR1 : Hid (∀ W, Calls Tryd.prog 22 #[.agg #[.string sc, .string M, .int .i64 (ptN B : Int)]] W fun e w' => e = .returned (.bool false) ∧ Below W.heap.size W w') := fun W => by rw [← hr]; exact HR.out ⟨sc, M, (ptN B : Int)⟩ W
      rw [HV.out]
      clear hr HV
      go_enter Tryd.func26, Tryd.ntmps26
      go_wp2_with fail
      clear hW0
      go_at_call 25
      refine (HC.out _).mono ?_
      rintro e W1 ⟨rfl, b1⟩
      go_wp2_with fail
      go_at_call 27
      refine (HSm.out _).mono ?_
      rintro e W2 ⟨rfl, b2⟩
      have B2 : Hid (Below W0.heap.size W0 W2) := b1.trans (b2.mono b1.size)
      clear b1 b2
      go_wp2_with fail
      go_at_call 23
      refine (HU.out _).mono ?_
      rintro e W3 ⟨rfl, hw3⟩
      rw [hw3]
      clear hw3 W3
      obtain ⟨m, hm⟩ : ∃ m, W2.heap.size = m := ⟨_, rfl⟩
      have HM2 : Hid (W2.heap.size = m) := hm
      have hmn : Hid (n < m) := by have := B2.out.size; rw [HS0.out, hm] at this; show _ < _; omega
      obtain ⟨V, hV⟩ : ∃ V, W2.alloc (.cells #[.string sc, .string M, .int .i64 U] 23) = V := ⟨_, rfl⟩
      have BV : Hid (Below m W2 V) := by rw [← hV, ← hm]; exact bel1 _ _
      have OV : Hid (OB V m ⟨sc, M, U⟩) := by show OB _ _ _; rw [← hV, ← hm]; unfold OB; rw [heap_al, if_pos rfl]; rfl
      have NV : Hid (OB V n og0) := OB.keep (HO0.out.below B2.out) (BV.out.block n hmn.out)
      have BW : Hid (Below n w V) := HB0.out.trans ((B2.out.mono (by rw [HS0.out]; omega)).trans (BV.out.mono (Nat.le_of_lt hmn.out)))
      have EV : Hid (Env V) := (HE0.out.below B2.out).below (by rw [HM2.out]; exact BV.out)
      go_wp2_with fail
      clear hV
      go_at_call 37
      refine (HP.out _ EV.out).mono ?_
      rintro e X ⟨rfl, bx⟩
      have OX : Hid (OB X m ⟨sc, M, U⟩) := OV.out.below bx
      have NX : Hid (OB X n og0) := NV.out.below bx
      have BX : Hid (Below n w X) := BW.out.trans (bx.mono (Nat.le_trans (Nat.le_of_lt hmn.out) (Nat.le_of_lt OV.out.lt)))
      clear bx
      obtain ⟨c0, c1, c2, f0, f1, f2⟩ := OX.out.cells
      simp only at c0 c1 c2
      obtain ⟨Y, hY⟩ : ∃ Y, X.setCell ⟨m, 2, none⟩ (.int .i64 (ptN B : Int)) = Y := ⟨_, rfl⟩
      have OY : Hid (OB Y m ⟨sc, M, (ptN B : Int)⟩) := by show OB _ _ _; rw [← hY]; exact OX.out.setP _
      have NY : Hid (OB Y n og0) := by show OB _ _ _; rw [← hY]; exact NX.out.keep (setCell_other _ _ _ _ _ (Nat.ne_of_lt hmn.out))
      have BY : Hid (Below n w Y) := by rw [← hY]; exact BX.out.setCell (p := ⟨m, 2, none⟩) (Nat.le_of_lt hmn.out) _
      obtain ⟨d0, d1, d2, _, _, _⟩ := OY.out.cells
      simp only at d0 d1 d2
      go_wp2_with fail
      clear hY c0 c1 c2 f0 f1 f2
      go_at_call 22
      refine (HR1.out _).mono ?_
      rintro e Z ⟨rfl, bz⟩
      have OZ : Hid (OB Z m ⟨sc, M, (ptN B : Int)⟩) := OY.out.below bz
      have NZ : Hid (OB Z n og0) := NY.out.below bz
      have BZ : Hid (Below n w Z) := BY.out.trans (bz.mono (Nat.le_trans (Nat.le_of_lt hmn.out) (Nat.le_of_lt OY.out.lt)))
      clear bz d0 d1 d2
      obtain ⟨c0, c1, c2, f0, f1, f2⟩ := NZ.out.cells
      obtain ⟨d0, d1, d2, _, _, _⟩ := OZ.out.cells
      simp only [og0] at c0 c1 c2 d0 d1 d2
      have FG : Hid (OB (setO Z n og0) n og0) := NZ.out.set _
      have FB : Hid (Below n w (setO Z n og0)) := BZ.out.trans (setO_below _ (Nat.le_refl _))
      go_wp2_with fail
      refine bodyPost_ret (results_ct (p := 4) (r := 5) (ty := 23) rfl _ _ n 23 _ (0, 0) _ rfl FG.out Tryd.underlying23 rfl (by kernel_rfl)) rfl ⟨rfl, ?_⟩
      rw [hn]
      exact FB.out
    · have HV : Hid (mnV sc au = .tuple #[.agg (ogv ⟨sc, M, (ptN B : Int)⟩), .bool true]) := by show _ = _; unfold mnV mnO mnB; rw [HG.out, hr]; rfl
      have HR1 : Hid (∀ W, Calls Tryd.prog 22 #[.agg #[.string sc, .string M, .int .i64 (ptN B : Int)]] W fun e w' => e = .returned (.bool true) ∧ Below W.heap.size W w') := fun W => by rw [← hr]; exact HR.out ⟨sc, M, (ptN B : Int)⟩ W
      rw [HV.out]
      clear hr HV
      go_enter Tryd.func26, Tryd.ntmps26
      go_wp2_with fail
      clear hW0
      go_at_call 25
      refine (HC.out _).mono ?_
      rintro e W1 ⟨rfl, b1⟩
      go_wp2_with fail
      go_at_call 27
      refine (HSm.out _).mono ?_
      rintro e W2 ⟨rfl, b2⟩
      have B2 : Hid (Below W0.heap.size W0 W2) := b1.trans (b2.mono b1.size)
      clear b1 b2
      go_wp2_with fail
      go_at_call 23
      refine (HU.out _).mono ?_
      rintro e W3 ⟨rfl, hw3⟩
      rw [hw3]
      clear hw3 W3
      obtain ⟨m, hm⟩ : ∃ m, W2.heap.size = m := ⟨_, rfl⟩
      have HM2 : Hid (W2.heap.size = m) := hm
      have hmn : Hid (n < m) := by have := B2.out.size; rw [HS0.out, hm] at this; show _ < _; omega
      obtain ⟨V, hV⟩ : ∃ V, W2.alloc (.cells #[.string sc, .string M, .int .i64 U] 23) = V := ⟨_, rfl⟩
      have BV : Hid (Below m W2 V) := by rw [← hV, ← hm]; exact bel1 _ _
      have OV : Hid (OB V m ⟨sc, M, U⟩) := by show OB _ _ _; rw [← hV, ← hm]; unfold OB; rw [heap_al, if_pos rfl]; rfl
      have NV : Hid (OB V n og0) := OB.keep (HO0.out.below B2.out) (BV.out.block n hmn.out)
      have BW : Hid (Below n w V) := HB0.out.trans ((B2.out.mono (by rw [HS0.out]; omega)).trans (BV.out.mono (Nat.le_of_lt hmn.out)))
      have EV : Hid (Env V) := (HE0.out.below B2.out).below (by rw [HM2.out]; exact BV.out)
      go_wp2_with fail
      clear hV
      go_at_call 37
      refine (HP.out _ EV.out).mono ?_
      rintro e X ⟨rfl, bx⟩
      have OX : Hid (OB X m ⟨sc, M, U⟩) := OV.out.below bx
      have NX : Hid (OB X n og0) := NV.out.below bx
      have BX : Hid (Below n w X) := BW.out.trans (bx.mono (Nat.le_trans (Nat.le_of_lt hmn.out) (Nat.le_of_lt OV.out.lt)))
      clear bx
      obtain ⟨c0, c1, c2, f0, f1, f2⟩ := OX.out.cells
      simp only at c0 c1 c2
      obtain ⟨Y, hY⟩ : ∃ Y, X.setCell ⟨m, 2, none⟩ (.int .i64 (ptN B : Int)) = Y := ⟨_, rfl⟩
      have OY : Hid (OB Y m ⟨sc, M, (ptN B : Int)⟩) := by show OB _ _ _; rw [← hY]; exact OX.out.setP _
      have NY : Hid (OB Y n og0) := by show OB _ _ _; rw [← hY]; exact NX.out.keep (setCell_other _ _ _ _ _ (Nat.ne_of_lt hmn.out))
      have BY : Hid (Below n w Y) := by rw [← hY]; exact BX.out.setCell (p := ⟨m, 2, none⟩) (Nat.le_of_lt hmn.out) _
      obtain ⟨d0, d1, d2, _, _, _⟩ := OY.out.cells
      simp only at d0 d1 d2
      go_wp2_with fail
      clear hY c0 c1 c2 f0 f1 f2
      go_at_call 22
      refine (HR1.out _).mono ?_
      rintro e Z ⟨rfl, bz⟩
      have OZ : Hid (OB Z m ⟨sc, M, (ptN B : Int)⟩) := OY.out.below bz
      have NZ : Hid (OB Z n og0) := NY.out.below bz
      have BZ : Hid (Below n w Z) := BY.out.trans (bz.mono (Nat.le_trans (Nat.le_of_lt hmn.out) (Nat.le_of_lt OY.out.lt)))
      clear bz d0 d1 d2
      obtain ⟨c0, c1, c2, f0, f1, f2⟩ := NZ.out.cells
      obtain ⟨d0, d1, d2, _, _, _⟩ := OZ.out.cells
      simp only [og0] at c0 c1 c2 d0 d1 d2
      have FG : Hid (OB (setO Z n ⟨sc, M, (ptN B : Int)⟩) n ⟨sc, M, (ptN B : Int)⟩) := NZ.out.set _
      have FB : Hid (Below n w (setO Z n ⟨sc, M, (ptN B : Int)⟩)) := BZ.out.trans (setO_below _ (Nat.le_refl _))
      go_wp2_with fail
      refine bodyPost_ret (results_ct (p := 4) (r := 5) (ty := 23) rfl _ _ n 23 _ (0, 0) _ rfl FG.out Tryd.underlying23 rfl (by kernel_rfl)) rfl ⟨rfl, ?_⟩
      rw [hn]
      exact FB.out
end Go.Proofs.YtbifmikndpeafaaDoor
