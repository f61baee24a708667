/- Print. -/
import Derived.Test.YtbifmikndpeafaaDoorB4
namespace Go.Proofs.YtbifmikndpeafaaDoor
open Go.RowKit
set_option linter.unusedVariables false
set_option linter.unusedSimpArgs false
/-- an origin's text, without its port and with it -/
def prA (o : Og) : ByteArray := o.s ++ (⟨#[58, 47, 47]⟩ : ByteArray) ++ o.h
def prN (o : Og) : ByteArray := prA o ++ ((⟨#[58]⟩ : ByteArray) ++ decS o.p.toNat)
def prS (o : Og) : ByteArray := if o.p = usP o.s then prA o else prN o
def prV (o : Og) : Value := if rtB o = true then .tuple #[.string (prS o), .int .i64 0] else .tuple #[.string ⟨#[]⟩, .int .i64 150]
theorem dec_small {u : Nat} (h : u < 10) : Lib.decDigits u = [UInt8.ofNat (48 + u)] := by rw [Lib.decDigits, dif_pos h]
theorem dec_big {u : Nat} (h : ¬ u < 10) : Lib.decDigits u = Lib.decDigits (u / 10) ++ [UInt8.ofNat (48 + u % 10)] := by rw [Lib.decDigits, dif_neg h]
theorem dec_len : ∀ (k u : Nat), u < 10 ^ (k + 1) → (Lib.decDigits u).length ≤ k + 1
  | 0, u, h => by rw [dec_small (by simpa using h)]; simp
  | k + 1, u, h => by
    by_cases h10 : u < 10
    · rw [dec_small h10]; simp
    · rw [dec_big h10, List.length_append]
      have := dec_len k (u / 10) (by rw [Nat.pow_succ] at h; omega)
      simp
      omega
theorem decS_size {u : Nat} (h : u ≤ 65535) : (decS u).size ≤ 5 := by rw [decS, bt_size]; exact dec_len 4 u (by omega)
theorem app_size (a b : ByteArray) : (a ++ b).size = a.size + b.size := by simp
theorem prA_size (o : Og) : (prA o).size = o.s.size + 3 + o.h.size := by unfold prA; rw [app_size, app_size]; rfl
set_option maxHeartbeats 4000000 in
set_option maxRecDepth 100000 in
theorem print_any (o : Og) (w : World) (he : Env w) : Calls Tryd.prog 11 #[.agg (ogv o)] w fun e w' => e = .returned (prV o) ∧ Below w.heap.size w w' := by
  have HR : Hid (∀ W, Calls Tryd.prog 22 #[.agg (ogv o)] W fun e w' => e = .returned (.bool (rtB o)) ∧ Below W.heap.size W w') := fun W => right_any o W
  have HE : Hid (Env w) := he
  obtain ⟨n, hn⟩ : ∃ n, w.heap.size = n := ⟨_, rfl⟩
  obtain ⟨W0, hW0⟩ : ∃ W, w.alloc (.cells #[.string o.s, .string o.h, .int .i64 o.p] 23) = W := ⟨_, rfl⟩
  have HB0 : Hid (Below n w W0) := by rw [← hW0, ← hn]; exact bel1 _ _
  have HO0 : Hid (OB W0 n o) := by show OB _ _ _; rw [← hW0, ← hn]; unfold OB; rw [heap_al, if_pos rfl]; rfl
  have HS0 : Hid (W0.heap.size = n + 1) := by show _ = _; rw [← hW0, size_al, hn]
  clear he
  cases hr : rtB o
  · have HV : Hid (prV o = .tuple #[.string ⟨#[]⟩, .int .i64 150]) := by show _ = _; unfold prV; rw [hr]; rfl
    rw [HV.out]
    rw [hr] at HR
    unfold ogv at HR ⊢
    clear hr HV
    obtain ⟨d0, d1, d2, _, _, _⟩ := HO0.out.cells
    go_enter Tryd.func11, Tryd.ntmps11
    go_wp2_with fail
    clear hW0
    go_at_call 22
    refine (HR.out _).mono ?_
    rintro e W1 ⟨rfl, b1⟩
    have B1 : Hid (Below n w W1) := HB0.out.trans (b1.mono (by rw [HS0.out]; omega))
    clear b1
    go_wp2_with fail
    go_ret2
    exact ⟨rfl, by rw [hn]; exact B1.out⟩
  · obtain ⟨hu, hh, hp1, hp2⟩ := rtB_iff.1 hr
    have hs5 := usP_size hu
    have hh5 := host_size hh
    obtain ⟨q, hq⟩ : ∃ q : Nat, o.p = (q : Int) := ⟨o.p.toNat, by omega⟩
    have HI : Hid (∀ W, Env W → Calls Tryd.prog 24 #[.int .i64 o.p] W fun e w' => e = .returned (.string (decS o.p.toNat)) ∧ Below W.heap.size W w') := fun W hW => by
      rw [hq]
      exact itoa_any q (by omega) W hW
    have HU : Hid (∀ W, Calls Tryd.prog 23 #[.string o.s] W fun e w' => e = .returned (.int .i64 (usP o.s)) ∧ w' = W) := fun W => usual_any o.s W
    obtain ⟨U, hU⟩ : ∃ U, usP o.s = U := ⟨_, rfl⟩
    have e1 : ¬ (o.s.size + 3 > 9223372036854775807) := by omega
    have e2 : ¬ ((o.s ++ (⟨#[58, 47, 47]⟩ : ByteArray)).size + o.h.size > 9223372036854775807) := by rw [app_size, show (⟨#[58, 47, 47]⟩ : ByteArray).size = 3 from rfl]; omega
    have HA : Hid (prA o = o.s ++ (⟨#[58, 47, 47]⟩ : ByteArray) ++ o.h) := rfl
    have hA' := HA.out
    obtain ⟨PA, hPA⟩ : ∃ PA, prA o = PA := ⟨_, rfl⟩
    rw [hPA] at hA'
    replace hA' := hA'.symm
    have HPA : Hid (prA o = PA ∧ PA.size ≤ 300) := ⟨hPA, by rw [← hPA, prA_size]; omega⟩
    obtain ⟨D, hD⟩ : ∃ D, decS o.p.toNat = D := ⟨_, rfl⟩
    have HD : Hid (decS o.p.toNat = D ∧ D.size ≤ 5) := ⟨hD, by rw [← hD]; exact decS_size (by omega)⟩
    rw [hU] at HU
    rw [hD] at HI
    have e3 : ¬ (1 + D.size > 9223372036854775807) := by have := HD.out.2; omega
    have e4 : ¬ (PA.size + ((⟨#[58]⟩ : ByteArray) ++ D).size > 9223372036854775807) := by rw [app_size, show (⟨#[58]⟩ : ByteArray).size = 1 from rfl]; have := HD.out.2; have := HPA.out.2; omega
    rw [hr] at HR
    by_cases hpu : o.p = U
    · have HV : Hid (prV o = .tuple #[.string PA, .int .i64 0]) := by show _ = _; unfold prV prS; rw [hr, if_pos rfl, hU, if_pos hpu, hPA]
      rw [HV.out]
      have hb : (o.p != U) = false := by rw [hpu]; simp
      unfold ogv at HR ⊢
      obtain ⟨d0, d1, d2, _, _, _⟩ := HO0.out.cells
      clear hr HV hpu hu hh hp1 hp2 hs5 hh5 hq hU hPA hD
      go_enter Tryd.func11, Tryd.ntmps11
      go_wp2_with fail
      clear hW0
      go_at_call 22
      refine (HR.out _).mono ?_
      rintro e W1 ⟨rfl, b1⟩
      have B1 : Hid (∀ k, Below n w (W1.drewN k)) := fun k => below_drewN (HB0.out.trans (b1.mono (by rw [HS0.out]; omega))) k
      have O1 : Hid (OB W1 n o) := HO0.out.below b1
      clear b1 d0 d1 d2
      obtain ⟨d0, d1, d2, _, _, _⟩ := O1.out.cells
      go_wp2_with fail
      go_quiet (first | (go_at_call 23; refine Calls.quiet_of_same (HU.out _)))
      go_wp2_with fail
      go_ret2
      exact ⟨rfl, by rw [hn]; exact B1.out _⟩
    · have HV : Hid (prV o = .tuple #[.string (PA ++ ((⟨#[58]⟩ : ByteArray) ++ D)), .int .i64 0]) := by show _ = _; unfold prV prS prN; rw [hr, if_pos rfl, hU, if_neg hpu, hPA, hD]
      rw [HV.out]
      have hb : (o.p != U) = true := bne_iff_ne.2 hpu
      unfold ogv at HR ⊢
      obtain ⟨d0, d1, d2, _, _, _⟩ := HO0.out.cells
      clear hr HV hpu hu hh hp1 hp2 hs5 hh5 hq hU hPA hD
      go_enter Tryd.func11, Tryd.ntmps11
      go_wp2_with fail
      clear hW0
      go_at_call 22
      refine (HR.out _).mono ?_
      rintro e W1 ⟨rfl, b1⟩
      have B1 : Hid (∀ k, Below n w (W1.drewN k)) := fun k => below_drewN (HB0.out.trans (b1.mono (by rw [HS0.out]; omega))) k
      have E1 : Hid (∀ k, Env (W1.drewN k)) := fun k => HE.out.below (by rw [hn]; exact B1.out k)
      have S1 : Hid (∀ k, n ≤ (W1.drewN k).heap.size) := fun k => by rw [← hn]; exact (B1.out k).size
      have O1 : Hid (OB W1 n o) := HO0.out.below b1
      clear b1 d0 d1 d2
      obtain ⟨d0, d1, d2, _, _, _⟩ := O1.out.cells
      go_wp2_with fail
      go_quiet (first | (go_at_call 23; refine Calls.quiet_of_same (HU.out _)))
      go_wp2_with fail
      go_at_call 24
      refine (HI.out _ (E1.out _)).mono ?_
      rintro e W2 ⟨rfl, b2⟩
      have B2 : Hid (Below n w W2) := (B1.out _).trans (b2.mono (S1.out _))
      clear b2
      go_wp2_with fail
      go_ret2
      exact ⟨rfl, by rw [hn]; exact B2.out⟩
end Go.Proofs.YtbifmikndpeafaaDoor
