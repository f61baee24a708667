/- Bytes by digits; escapes. -/
import Derived.Test.YtghppkfopglgaaaGreatDoorKad
import Derived.Deep.RegionHeld3
namespace Go.Proofs.YtghppkfopglgaaaGreatDoor
open Go.RowKit
set_option linter.unusedVariables false
set_option linter.unusedSimpArgs false
theorem hexIdx (h : UInt8) (w : World) : Calls Tryz.prog 56 #[.string ⟨#[48, 49, 50, 51, 52, 53, 54, 55, 56, 57, 97, 98, 99, 100, 101, 102]⟩, .int .u8 (h.toNat : Int)] w fun e w' => e = .returned (.int .i64 (hexV h)) ∧ w' = w := by
  refine (Tryz.strings_IndexByte _ (h.toNat : Int) w).mono ?_
  rintro e w' ⟨rfl, rfl⟩
  refine ⟨?_, rfl⟩
  unfold hexV
  rw [Int.toNat_natCast]
  have : h.toNat.toUInt8 = h := UInt8.ofNat_toNat
  rw [this]
  rfl
theorem hexV_rng : ∀ h : UInt8, hexV h = -1 ∨ ∃ a : Fin 16, hexV h = (a.val : Int) := by
  intro h
  have : ∀ h : UInt8, hexV h = -1 ∨ (0 ≤ hexV h ∧ hexV h < 16) := all_u8 (by decide +kernel)
  rcases this h with e | ⟨h1, h2⟩
  · exact .inl e
  · exact .inr ⟨⟨(hexV h).toNat, by omega⟩, by show _ = ((hexV h).toNat : Int); omega⟩
theorem hexB_of (h l : UInt8) (a b : Nat) (ha : hexV h = a) (hb : hexV l = b) (h1 : a < 16) (h2 : b < 16) : ((hexB h l).toNat : Int) = a * 16 + b := by
  unfold hexB
  rw [ha, hb, Int.toNat_natCast, Int.toNat_natCast, UInt8.toNat_ofNat']
  omega
theorem or_tab : ∀ (a b : Fin 16), (bits .or .i64 ((a.val : Int) * 16) (b.val : Int) : Int) = (a.val : Int) * 16 + b.val := by decide +kernel
theorem two_of (s : ByteArray) (h1 : 1 < s.size) : ∃ r, s.data.toList = s[0] :: s[1] :: r := by
  obtain ⟨⟨l⟩⟩ := s
  cases l with
  | nil => exact absurd h1 (by decide)
  | cons x l =>
    cases l with
    | nil => exact absurd h1 (by show ¬ (1 < 1); decide)
    | cons y l => exact ⟨l, rfl⟩
/-- what hexByte tells -/
def HbP (s : ByteArray) (v : Int) (ok : Bool) : Prop := (ok = false ∨ ∃ h l r, s.data.toList = h :: l :: r ∧ hexOk h l = true ∧ v = ((hexB h l).toNat : Int)) ∧ (ok = true ∨ s.size < 2 ∨ ∃ h l r, s.data.toList = h :: l :: r ∧ hexOk h l = false)
set_option maxRecDepth 100000 in
set_option maxHeartbeats 4000000 in
theorem hexByte_any (s : ByteArray) (w : World) : Calls Tryz.prog 116 #[.string s] w fun e w' =>
    (∃ (v : Int) (ok : Bool), e = .returned (.tuple #[.int .u8 v, .bool ok]) ∧ HbP s v ok) ∧ Below w.heap.size w w' := by
  by_cases hs : s.size < 2
  · have hsI : (s.size : Int) < 2 := by omega
    go_enter Tryz.func116, Tryz.ntmps116
    go_wp2
    go_ret2
    exact ⟨⟨0, false, rfl, .inl rfl, .inr (.inl hs)⟩, Below.refl _ _⟩
  · have hsI : ¬ (s.size : Int) < 2 := by omega
    have h0 : 0 < s.size := by omega
    have h1 : 1 < s.size := by omega
    have h0I : (0 : Int) < (s.size : Int) := by omega
    have h1I : (1 : Int) < (s.size : Int) := by omega
    have HD0 := two_of s h1
    obtain ⟨h, hh⟩ : ∃ h, s[0] = h := ⟨_, rfl⟩
    obtain ⟨l, hl⟩ : ∃ l, s[1] = l := ⟨_, rfl⟩
    rw [hh, hl] at HD0
    have HD := hid HD0
    clear HD0
    have HH := hid (fun V => hexIdx h V)
    have HL := hid (fun V => hexIdx l V)
    rcases hexV_rng h with e1 | ⟨a, e1⟩
    · have HR : Hid (∀ v : Int, HbP s v false) := fun v => by
        obtain ⟨r, hr⟩ := HD.out
        exact ⟨.inl rfl, .inr (.inr ⟨h, l, r, hr, by unfold hexOk; rw [e1]; rfl⟩)⟩
      rw [e1] at HH
      obtain ⟨y, hy⟩ : ∃ y, hexV l = y := ⟨_, rfl⟩
      rw [hy] at HL
      clear e1 hy HD
      go_enter Tryz.func116, Tryz.ntmps116
      go_upto_region 3 with fail
      go_region_with (first | (go_at_call 56; first | (refine (HH.out _).mono ?_; rintro e w1 ⟨rfl, e9⟩; subst e9) | (refine (HL.out _).mono ?_; rintro e w1 ⟨rfl, e9⟩; subst e9)))
      all_goals
        go_wp2
        go_ret2
        exact ⟨⟨_, false, rfl, HR.out _⟩, by (repeat (first | exact Below.refl _ _ | refine Below.drew ?_))⟩
    · have ha : decide ((0 : Int) ≤ (a.val : Int)) = true := by simp
      rcases hexV_rng l with e2 | ⟨b, e2⟩
      · have HR : Hid (∀ v : Int, HbP s v false) := fun v => by
          obtain ⟨r, hr⟩ := HD.out
          exact ⟨.inl rfl, .inr (.inr ⟨h, l, r, hr, by unfold hexOk; rw [e2]; simp⟩)⟩
        rw [e1] at HH
        rw [e2] at HL
        clear e1 e2 HD
        go_enter Tryz.func116, Tryz.ntmps116
        go_upto_region 3 with fail
        go_region_with (first | (go_at_call 56; first | (refine (HH.out _).mono ?_; rintro e w1 ⟨rfl, e9⟩; subst e9) | (refine (HL.out _).mono ?_; rintro e w1 ⟨rfl, e9⟩; subst e9)))
        all_goals
          go_wp2
          go_ret2
          exact ⟨⟨_, false, rfl, HR.out _⟩, by (repeat (first | exact Below.refl _ _ | refine Below.drew ?_))⟩
      · have hb : decide ((0 : Int) ≤ (b.val : Int)) = true := by simp
        have HR : Hid (∀ v : Int, v = (a.val : Int) * 16 + b.val → HbP s v true) := fun v hv => by
          obtain ⟨r, hr⟩ := HD.out
          exact ⟨.inr ⟨h, l, r, hr, by unfold hexOk; rw [e1, e2]; simp, by rw [hv, hexB_of h l a.val b.val e1 e2 a.isLt b.isLt]⟩, .inl rfl⟩
        have hor := or_tab a b
        have ha16 : (a.val : Int) < 16 := by omega
        have hb16 : (b.val : Int) < 16 := by omega
        rw [e1] at HH
        rw [e2] at HL
        clear e1 e2 HD
        go_enter Tryz.func116, Tryz.ntmps116
        go_upto_region 3 with fail
        go_region_with (first | (go_at_call 56; first | (refine (HH.out _).mono ?_; rintro e w1 ⟨rfl, e9⟩; subst e9) | (refine (HL.out _).mono ?_; rintro e w1 ⟨rfl, e9⟩; subst e9)))
        all_goals
          go_wp2
          go_ret2
          refine ⟨⟨_, true, rfl, HR.out _ ?_⟩, by (repeat (first | exact Below.refl _ _ | refine Below.drew ?_))⟩
          rfl
end Go.Proofs.YtghppkfopglgaaaGreatDoor
