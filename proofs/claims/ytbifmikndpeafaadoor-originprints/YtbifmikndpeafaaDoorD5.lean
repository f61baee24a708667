/- The document's Print; OriginPrints. -/
import Derived.Test.YtbifmikndpeafaaDoorD4
import Derived.Test.YtbifmikndpeafaaDoorC4
namespace Go.Proofs.YtbifmikndpeafaaDoor
open Go.RowKit
set_option linter.unusedVariables false
set_option linter.unusedSimpArgs false
theorem app_assoc (a b c : ByteArray) : a ++ (b ++ c) = a ++ b ++ c := by
  apply ba_eq
  simp [ByteArray.data_append]
set_option maxHeartbeats 4000000 in
set_option maxRecDepth 100000 in
theorem rprint_any (o : Og) (w : World) : Calls Tryd.prog 17 #[.agg (ogv o)] w fun e w' => e = .returned (prV o) ∧ Below w.heap.size w w' := by
  have HR : Hid (∀ W, Calls Tryd.prog 29 #[.agg (ogv o)] W fun e w' => e = .returned (.bool (rtB o)) ∧ Below W.heap.size W w') := fun W => rright_any o W
  obtain ⟨n, hn⟩ : ∃ n, w.heap.size = n := ⟨_, rfl⟩
  obtain ⟨W0, hW0⟩ : ∃ W, w.alloc (.cells #[.string o.s, .string o.h, .int .i64 o.p] 23) = W := ⟨_, rfl⟩
  have HB0 : Hid (Below n w W0) := by rw [← hW0, ← hn]; exact bel1 _ _
  have HO0 : Hid (OB W0 n o) := by show OB _ _ _; rw [← hW0, ← hn]; unfold OB; rw [heap_al, if_pos rfl]; rfl
  have HS0 : Hid (W0.heap.size = n + 1) := by show _ = _; rw [← hW0, size_al, hn]
  cases hr : rtB o
  · have HV : Hid (prV o = .tuple #[.string ⟨#[]⟩, .int .i64 150]) := by show _ = _; unfold prV; rw [hr]; rfl
    rw [HV.out]
    rw [hr] at HR
    unfold ogv at HR ⊢
    clear hr HV
    obtain ⟨d0, d1, d2, _, _, _⟩ := HO0.out.cells
    go_enter Tryd.func17, Tryd.ntmps17
    go_wp2_with fail
    clear hW0
    go_at_call 29
    refine (HR.out _).mono ?_
    rintro e W1 ⟨rfl, b1⟩
    have B1 : Hid (Below n w W1) := HB0.out.trans (b1.mono (by rw [HS0.out]; omega))
    clear b1
    go_wp2_with fail
    go_ret2
    exact ⟨rfl, by rw [hn]; exact B1.out⟩
  · obtain ⟨hu, hh, hp1, hp2⟩ := rtB_iff.1 hr
    have hs5 := usP_size hu
    have hh5 := host_size hh
    obtain ⟨q, hq⟩ : ∃ q : Nat, o.p = (q : Int) := ⟨o.p.toNat, by omega⟩
    have HI : Hid (∀ W, Calls Tryd.prog 31 #[.int .i64 o.p] W fun e w' => e = .returned (.string (decS o.p.toNat)) ∧ Below W.heap.size W w') := fun W => by
      rw [hq]
      exact digits_any q (by omega) (by omega) W
    have HU : Hid (∀ W, Calls Tryd.prog 30 #[.string o.s] W fun e w' => e = .returned (.int .i64 (usP o.s)) ∧ w' = W) := fun W => rusual_any o.s W
    obtain ⟨U, hU⟩ : ∃ U, usP o.s = U := ⟨_, rfl⟩
    have e1 : ¬ (o.s.size + 3 > 9223372036854775807) := by omega
    have e2 : ¬ ((o.s ++ (⟨#[58, 47, 47]⟩ : ByteArray)).size + o.h.size > 9223372036854775807) := by rw [app_size, show (⟨#[58, 47, 47]⟩ : ByteArray).size = 3 from rfl]; omega
    have HA : Hid (prA o = o.s ++ (⟨#[58, 47, 47]⟩ : ByteArray) ++ o.h) := rfl
    have hA' := HA.out
    obtain ⟨PA, hPA⟩ : ∃ PA, prA o = PA := ⟨_, rfl⟩
    rw [hPA] at hA'
    replace hA' := hA'.symm
    have HPA : Hid (prA o = PA ∧ PA.size ≤ 300) := ⟨hPA, by rw [← hPA, prA_size]; omega⟩
    obtain ⟨D, hD⟩ : ∃ D, decS o.p.toNat = D := ⟨_, rfl⟩
    have HD : Hid (decS o.p.toNat = D ∧ D.size ≤ 5) := ⟨hD, by rw [← hD]; exact decS_size (by omega)⟩
    rw [hU] at HU
    rw [hD] at HI
    have e3 : ¬ (PA.size + 1 > 9223372036854775807) := by have := HPA.out.2; omega
    have e4 : ¬ ((PA ++ (⟨#[58]⟩ : ByteArray)).size + D.size > 9223372036854775807) := by rw [app_size, show (⟨#[58]⟩ : ByteArray).size = 1 from rfl]; have := HD.out.2; have := HPA.out.2; omega
    rw [hr] at HR
    by_cases hpu : o.p = U
    · have HV : Hid (prV o = .tuple #[.string PA, .int .i64 0]) := by show _ = _; unfold prV prS; rw [hr, if_pos rfl, hU, if_pos hpu, hPA]
      rw [HV.out]
      have hb : (o.p != U) = false := by rw [hpu]; simp
      unfold ogv at HR ⊢
      obtain ⟨d0, d1, d2, _, _, _⟩ := HO0.out.cells
      clear hr HV hpu hu hh hp1 hp2 hs5 hh5 hq hU hPA hD
      go_enter Tryd.func17, Tryd.ntmps17
      go_wp2_with fail
      clear hW0
      go_at_call 29
      refine (HR.out _).mono ?_
      rintro e W1 ⟨rfl, b1⟩
      have B1 : Hid (∀ k, Below n w (W1.drewN k)) := fun k => below_drewN (HB0.out.trans (b1.mono (by rw [HS0.out]; omega))) k
      have O1 : Hid (OB W1 n o) := HO0.out.below b1
      clear b1 d0 d1 d2
      obtain ⟨d0, d1, d2, _, _, _⟩ := O1.out.cells
      go_wp2_with fail
      go_quiet (first | (go_at_call 30; refine Calls.quiet_of_same (HU.out _)))
      go_wp2_with fail
      go_ret2
      exact ⟨rfl, by rw [hn]; exact B1.out _⟩
    · have HV : Hid (prV o = .tuple #[.string (PA ++ (⟨#[58]⟩ : ByteArray) ++ D), .int .i64 0]) := by show _ = _; unfold prV prS prN; rw [hr, if_pos rfl, hU, if_neg hpu, hPA, hD, app_assoc]
      rw [HV.out]
      have hb : (o.p != U) = true := bne_iff_ne.2 hpu
      unfold ogv at HR ⊢
      obtain ⟨d0, d1, d2, _, _, _⟩ := HO0.out.cells
      clear hr HV hpu hu hh hp1 hp2 hs5 hh5 hq hU hPA hD
      go_enter Tryd.func17, Tryd.ntmps17
      go_wp2_with fail
      clear hW0
      go_at_call 29
      refine (HR.out _).mono ?_
      rintro e W1 ⟨rfl, b1⟩
      have B1 : Hid (∀ k, Below n w (W1.drewN k)) := fun k => below_drewN (HB0.out.trans (b1.mono (by rw [HS0.out]; omega))) k
      have S1 : Hid (∀ k, n ≤ (W1.drewN k).heap.size) := fun k => by rw [← hn]; exact (B1.out k).size
      have O1 : Hid (OB W1 n o) := HO0.out.below b1
      clear b1 d0 d1 d2
      obtain ⟨d0, d1, d2, _, _, _⟩ := O1.out.cells
      go_wp2_with fail
      go_quiet (first | (go_at_call 30; refine Calls.quiet_of_same (HU.out _)))
      go_wp2_with fail
      go_at_call 31
      refine (HI.out _).mono ?_
      rintro e W2 ⟨rfl, b2⟩
      have B2 : Hid (Below n w W2) := (B1.out _).trans (b2.mono (S1.out _))
      clear b2
      go_wp2_with fail
      go_ret2
      exact ⟨rfl, by rw [hn]; exact B2.out⟩
end Go.Proofs.YtbifmikndpeafaaDoor
