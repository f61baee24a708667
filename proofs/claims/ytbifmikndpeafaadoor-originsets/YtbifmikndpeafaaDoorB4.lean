/- Parse, Print. -/
import Derived.Test.YtbifmikndpeafaaDoorB3
import Derived.Deep.QuietTactic
import Derived.BigQuiet
namespace Go.Proofs.YtbifmikndpeafaaDoor
open Go.RowKit
set_option linter.unusedVariables false
set_option linter.unusedSimpArgs false
/-- is it an origin's text, and whose -/
def paB (t : ByteArray) : Bool := c3T t && mnB (smS (c3A t)) (c3B t)
def paO (t : ByteArray) : Og := if paB t = true then mnO (smS (c3A t)) (c3B t) else og0
def paE (t : ByteArray) : Int := if paB t = true then 0 else 150
def paV (t : ByteArray) : Value := .tuple #[.agg (ogv (paO t)), .int .i64 (paE t)]
theorem cut_le (s sep : List UInt8) : (Lib.cut s sep).1.length ≤ s.length ∧ (Lib.cut s sep).2.1.length ≤ s.length := by
  unfold Lib.cut
  split
  · simp; omega
  · simp
theorem c3A_size (s : ByteArray) : (c3A s).size ≤ s.size := by rw [c3A, bt_size, Lib.size_eq]; exact (cut_le _ _).1
theorem c3B_size (s : ByteArray) : (c3B s).size ≤ s.size := by rw [c3B, bt_size, Lib.size_eq]; exact (cut_le _ _).2
set_option maxHeartbeats 4000000 in
set_option maxRecDepth 100000 in
theorem parse_any (t : ByteArray) (w : World) (he : Env w) (h2 : t.size < 4294967281) : Calls Tryd.prog 12 #[.string t] w fun e w' => e = .returned (paV t) ∧ Below w.heap.size w w' := by
  obtain ⟨n, hn⟩ : ∃ n, w.heap.size = n := ⟨_, rfl⟩
  obtain ⟨W0, hW0⟩ : ∃ W, w.alloc (.cells #[.string ⟨#[]⟩, .string ⟨#[]⟩, .int .i64 0] 23) = W := ⟨_, rfl⟩
  have HB0 : Hid (Below n w W0) := by rw [← hW0, ← hn]; exact bel1 _ _
  have HE0 : Hid (Env W0) := by rw [← hW0]; exact he.below (bel1 _ _)
  have HO0 : Hid (OB W0 n og0) := by show OB _ _ _; rw [← hW0, ← hn]; unfold OB; rw [heap_al, if_pos rfl]; rfl
  have HS0 : Hid (W0.heap.size = n + 1) := by show _ = _; rw [← hW0, size_al, hn]
  obtain ⟨A, hA⟩ : ∃ A, c3A t = A := ⟨_, rfl⟩
  obtain ⟨B, hB⟩ : ∃ B, c3B t = B := ⟨_, rfl⟩
  obtain ⟨T, hT⟩ : ∃ T, c3T t = T := ⟨_, rfl⟩
  have HC : Hid (∀ W, Env W → Calls Tryd.prog 25 #[.string t, .string ⟨#[58, 47, 47]⟩] W fun e w' => e = .returned (.tuple #[.string A, .string B, .bool T]) ∧ Below W.heap.size W w') := fun W hW => by rw [← hA, ← hB, ← hT]; exact cut_three t W hW h2
  have hA2 := c3A_size t
  have hB2 := c3B_size t
  rw [hA] at hA2
  rw [hB] at hB2
  obtain ⟨M, hM⟩ : ∃ M, smS A = M := ⟨_, rfl⟩
  have HSm : Hid (∀ W, Calls Tryd.prog 27 #[.string A] W fun e w' => e = .returned (.string M) ∧ Below W.heap.size W w') := fun W => by rw [← hM]; exact small_any A W (by omega)
  obtain ⟨O, hO⟩ : ∃ O, mnO M B = O := ⟨_, rfl⟩
  obtain ⟨G, hG⟩ : ∃ G, mnB M B = G := ⟨_, rfl⟩
  have HM : Hid (∀ W, Env W → Calls Tryd.prog 26 #[.string M, .string B] W fun e w' => e = .returned (.tuple #[.agg #[.string O.s, .string O.h, .int .i64 O.p], .bool G]) ∧ Below W.heap.size W w') := fun W hW => by
    have := meant_any M B W hW (by omega)
    unfold mnV ogv at this
    rw [hO, hG] at this
    exact this
  have HPB : Hid (paB t = (T && G)) := by show _ = _; unfold paB; rw [hT, hA, hB, hM, hG]
  have HPO : Hid (mnO (smS (c3A t)) (c3B t) = O) := by show _ = _; rw [hA, hB, hM, hO]
  clear hA hB hT hA2 hB2 hM hO hG h2
  cases T
  · cases G
    · have HV : Hid (paV t = .tuple #[.agg (ogv og0), .int .i64 150]) := by
        show _ = _
        unfold paV paO paE
        rw [HPB.out, if_neg (by decide)]
        rfl
      rw [HV.out]
      clear HV
      go_enter Tryd.func12, Tryd.ntmps12
      go_wp2_with fail
      clear hW0
      go_at_call 25
      refine (HC.out _ HE0.out).mono ?_
      rintro e W1 ⟨rfl, b1⟩
      go_wp2_with fail
      go_at_call 27
      refine (HSm.out _).mono ?_
      rintro e W2 ⟨rfl, b2⟩
      have B2 : Hid (Below W0.heap.size W0 W2) := b1.trans (b2.mono b1.size)
      have E2 : Hid (Env W2) := HE0.out.below B2.out
      clear b1 b2
      go_wp2_with fail
      go_at_call 26
      refine (HM.out _ E2.out).mono ?_
      rintro e W3 ⟨rfl, b3⟩
      have B3 : Hid (Below W0.heap.size W0 W3) := B2.out.trans (b3.mono B2.out.size)
      clear b3
      obtain ⟨m, hm⟩ : ∃ m, W3.heap.size = m := ⟨_, rfl⟩
      have hmn : Hid (n < m) := by have := B3.out.size; rw [HS0.out, hm] at this; show _ < _; omega
      obtain ⟨V, hV⟩ : ∃ V, W3.alloc (.cells #[.string O.s, .string O.h, .int .i64 O.p] 23) = V := ⟨_, rfl⟩
      have BV : Hid (Below m W3 V) := by rw [← hV, ← hm]; exact bel1 _ _
      have OV : Hid (OB V m O) := by show OB _ _ _; rw [← hV, ← hm]; unfold OB; rw [heap_al, if_pos rfl]; rfl
      have NV : Hid (OB V n og0) := OB.keep (HO0.out.below B3.out) (BV.out.block n hmn.out)
      have BW : Hid (Below n w V) := HB0.out.trans ((B3.out.mono (by rw [HS0.out]; omega)).trans (BV.out.mono (Nat.le_of_lt hmn.out)))
      obtain ⟨c0, c1, c2, f0, f1, f2⟩ := NV.out.cells
      obtain ⟨d0, d1, d2, _, _, _⟩ := OV.out.cells
      simp only [og0] at c0 c1 c2
      have FG : Hid (OB (setO V n og0) n og0) := NV.out.set _
      have FB : Hid (Below n w (setO V n og0)) := BW.out.trans (setO_below _ (Nat.le_refl _))
      go_wp2_with fail
      refine bodyPost_ret (results_ct (p := 2) (r := 3) (ty := 23) rfl _ _ n 23 _ (0, 0) _ rfl FG.out Tryd.underlying23 rfl (by kernel_rfl)) rfl ⟨rfl, ?_⟩
      rw [hn]
      exact FB.out
    · have HV : Hid (paV t = .tuple #[.agg (ogv og0), .int .i64 150]) := by
        show _ = _
        unfold paV paO paE
        rw [HPB.out, if_neg (by decide)]
        rfl
      rw [HV.out]
      clear HV
      go_enter Tryd.func12, Tryd.ntmps12
      go_wp2_with fail
      clear hW0
      go_at_call 25
      refine (HC.out _ HE0.out).mono ?_
      rintro e W1 ⟨rfl, b1⟩
      go_wp2_with fail
      go_at_call 27
      refine (HSm.out _).mono ?_
      rintro e W2 ⟨rfl, b2⟩
      have B2 : Hid (Below W0.heap.size W0 W2) := b1.trans (b2.mono b1.size)
      have E2 : Hid (Env W2) := HE0.out.below B2.out
      clear b1 b2
      go_wp2_with fail
      go_at_call 26
      refine (HM.out _ E2.out).mono ?_
      rintro e W3 ⟨rfl, b3⟩
      have B3 : Hid (Below W0.heap.size W0 W3) := B2.out.trans (b3.mono B2.out.size)
      clear b3
      obtain ⟨m, hm⟩ : ∃ m, W3.heap.size = m := ⟨_, rfl⟩
      have hmn : Hid (n < m) := by have := B3.out.size; rw [HS0.out, hm] at this; show _ < _; omega
      obtain ⟨V, hV⟩ : ∃ V, W3.alloc (.cells #[.string O.s, .string O.h, .int .i64 O.p] 23) = V := ⟨_, rfl⟩
      have BV : Hid (Below m W3 V) := by rw [← hV, ← hm]; exact bel1 _ _
      have OV : Hid (OB V m O) := by show OB _ _ _; rw [← hV, ← hm]; unfold OB; rw [heap_al, if_pos rfl]; rfl
      have NV : Hid (OB V n og0) := OB.keep (HO0.out.below B3.out) (BV.out.block n hmn.out)
      have BW : Hid (Below n w V) := HB0.out.trans ((B3.out.mono (by rw [HS0.out]; omega)).trans (BV.out.mono (Nat.le_of_lt hmn.out)))
      obtain ⟨c0, c1, c2, f0, f1, f2⟩ := NV.out.cells
      obtain ⟨d0, d1, d2, _, _, _⟩ := OV.out.cells
      simp only [og0] at c0 c1 c2
      have FG : Hid (OB (setO V n og0) n og0) := NV.out.set _
      have FB : Hid (Below n w (setO V n og0)) := BW.out.trans (setO_below _ (Nat.le_refl _))
      go_wp2_with fail
      refine bodyPost_ret (results_ct (p := 2) (r := 3) (ty := 23) rfl _ _ n 23 _ (0, 0) _ rfl FG.out Tryd.underlying23 rfl (by kernel_rfl)) rfl ⟨rfl, ?_⟩
      rw [hn]
      exact FB.out
  · cases G
    · have HV : Hid (paV t = .tuple #[.agg (ogv og0), .int .i64 150]) := by
        show _ = _
        unfold paV paO paE
        rw [HPB.out, if_neg (by decide)]
        rfl
      rw [HV.out]
      clear HV
      go_enter Tryd.func12, Tryd.ntmps12
      go_wp2_with fail
      clear hW0
      go_at_call 25
      refine (HC.out _ HE0.out).mono ?_
      rintro e W1 ⟨rfl, b1⟩
      go_wp2_with fail
      go_at_call 27
      refine (HSm.out _).mono ?_
      rintro e W2 ⟨rfl, b2⟩
      have B2 : Hid (Below W0.heap.size W0 W2) := b1.trans (b2.mono b1.size)
      have E2 : Hid (Env W2) := HE0.out.below B2.out
      clear b1 b2
      go_wp2_with fail
      go_at_call 26
      refine (HM.out _ E2.out).mono ?_
      rintro e W3 ⟨rfl, b3⟩
      have B3 : Hid (Below W0.heap.size W0 W3) := B2.out.trans (b3.mono B2.out.size)
      clear b3
      obtain ⟨m, hm⟩ : ∃ m, W3.heap.size = m := ⟨_, rfl⟩
      have hmn : Hid (n < m) := by have := B3.out.size; rw [HS0.out, hm] at this; show _ < _; omega
      obtain ⟨V, hV⟩ : ∃ V, W3.alloc (.cells #[.string O.s, .string O.h, .int .i64 O.p] 23) = V := ⟨_, rfl⟩
      have BV : Hid (Below m W3 V) := by rw [← hV, ← hm]; exact bel1 _ _
      have OV : Hid (OB V m O) := by show OB _ _ _; rw [← hV, ← hm]; unfold OB; rw [heap_al, if_pos rfl]; rfl
      have NV : Hid (OB V n og0) := OB.keep (HO0.out.below B3.out) (BV.out.block n hmn.out)
      have BW : Hid (Below n w V) := HB0.out.trans ((B3.out.mono (by rw [HS0.out]; omega)).trans (BV.out.mono (Nat.le_of_lt hmn.out)))
      obtain ⟨c0, c1, c2, f0, f1, f2⟩ := NV.out.cells
      obtain ⟨d0, d1, d2, _, _, _⟩ := OV.out.cells
      simp only [og0] at c0 c1 c2
      have FG : Hid (OB (setO V n og0) n og0) := NV.out.set _
      have FB : Hid (Below n w (setO V n og0)) := BW.out.trans (setO_below _ (Nat.le_refl _))
      go_wp2_with fail
      refine bodyPost_ret (results_ct (p := 2) (r := 3) (ty := 23) rfl _ _ n 23 _ (0, 0) _ rfl FG.out Tryd.underlying23 rfl (by kernel_rfl)) rfl ⟨rfl, ?_⟩
      rw [hn]
      exact FB.out
    · have HV : Hid (paV t = .tuple #[.agg #[.string O.s, .string O.h, .int .i64 O.p], .int .i64 0]) := by
        show _ = _
        unfold paV paO paE
        rw [HPB.out, HPO.out]
        rfl
      rw [HV.out]
      clear HV
      go_enter Tryd.func12, Tryd.ntmps12
      go_wp2_with fail
      clear hW0
      go_at_call 25
      refine (HC.out _ HE0.out).mono ?_
      rintro e W1 ⟨rfl, b1⟩
      go_wp2_with fail
      go_at_call 27
      refine (HSm.out _).mono ?_
      rintro e W2 ⟨rfl, b2⟩
      have B2 : Hid (Below W0.heap.size W0 W2) := b1.trans (b2.mono b1.size)
      have E2 : Hid (Env W2) := HE0.out.below B2.out
      clear b1 b2
      go_wp2_with fail
      go_at_call 26
      refine (HM.out _ E2.out).mono ?_
      rintro e W3 ⟨rfl, b3⟩
      have B3 : Hid (Below W0.heap.size W0 W3) := B2.out.trans (b3.mono B2.out.size)
      clear b3
      obtain ⟨m, hm⟩ : ∃ m, W3.heap.size = m := ⟨_, rfl⟩
      have hmn : Hid (n < m) := by have := B3.out.size; rw [HS0.out, hm] at this; show _ < _; omega
      obtain ⟨V, hV⟩ : ∃ V, W3.alloc (.cells #[.string O.s, .string O.h, .int .i64 O.p] 23) = V := ⟨_, rfl⟩
      have BV : Hid (Below m W3 V) := by rw [← hV, ← hm]; exact bel1 _ _
      have OV : Hid (OB V m O) := by show OB _ _ _; rw [← hV, ← hm]; unfold OB; rw [heap_al, if_pos rfl]; rfl
      have NV : Hid (OB V n og0) := OB.keep (HO0.out.below B3.out) (BV.out.block n hmn.out)
      have BW : Hid (Below n w V) := HB0.out.trans ((B3.out.mono (by rw [HS0.out]; omega)).trans (BV.out.mono (Nat.le_of_lt hmn.out)))
      obtain ⟨c0, c1, c2, f0, f1, f2⟩ := NV.out.cells
      obtain ⟨d0, d1, d2, _, _, _⟩ := OV.out.cells
      simp only [og0] at c0 c1 c2
      have FG : Hid (OB (setO V n O) n O) := NV.out.set _
      have FB : Hid (Below n w (setO V n O)) := BW.out.trans (setO_below _ (Nat.le_refl _))
      go_wp2_with fail
      refine bodyPost_ret (results_ct (p := 2) (r := 3) (ty := 23) rfl _ _ n 23 _ (0, 0) _ rfl FG.out Tryd.underlying23 rfl (by kernel_rfl)) rfl ⟨rfl, ?_⟩
      rw [hn]
      exact FB.out
end Go.Proofs.YtbifmikndpeafaaDoor
