import Derived.Test.YthfpidndjcnbcaaT8
namespace Go.Proofs.Ythfpidndjcnbcaa
open Go.RowKit

theorem conv_row {w : World} {B n : Nat} {v : Value} {l : List Nat} (hl : ∀ x ∈ l, x < 256) (hn : 0 < n) (hlen : l.length = n) (hown : w.ownsRow B 5 1 v n (vals l)) :
    Sem.run Try.prog (convert 30 9 v) w = .ok (.string (strOf (l.map B8))) w := by
  obtain ⟨g, cap, rfl⟩ : ∃ g cap, v = .slice (some ⟨g, 0, none⟩) n cap := by
    rcases hown.2 with ⟨_, h0⟩ | ⟨g, cap, _, hv, _⟩
    · omega
    · exact ⟨g, cap, hv⟩
  have hL : (l.map B8).length = n := by simp [hlen]
  have h := run_convert_bytes_back (P := Try.prog) w 30 9 5 ⟨g, 0, none⟩ cap (l.map B8) Try.underlying30 Try.underlying5 Try.underlying9
    (by
      intro j hj
      have ea : (⟨g, 0, none⟩ : Addr).add j = ⟨g, j, none⟩ := by unfold Addr.add; split <;> simp_all
      rw [ea, hown.cellAt j (by omega)]
      have hj2 : j < l.length := by simpa using hj
      have hsm : l[j] < 256 := hl _ (List.getElem_mem hj2)
      rw [List.getElem_map, B8_toNat _ hsm]
      simp only [vals, List.getElem?_map, List.getElem?_eq_getElem hj2, Option.map_some])
  rw [hL] at h
  exact h

set_option maxHeartbeats 800000 in
theorem rput_bad (a f v : Int) (w : World) (h : ¬ (1 ≤ a ∧ a ≤ 8) ∨ (1 ≤ a ∧ a ≤ 8 ∧ (upB f a.toNat = false ∨ v < 0))) :
    Calls Try.prog 14 #[.int .i64 a, .int .i64 f, .int .i64 v] w fun e w' => e = .returned (.tuple #[.string ByteArray.empty, .int .i64 1]) ∧ w' = w := by
  by_cases ha : 1 ≤ a ∧ a ≤ 8
  · obtain ⟨p, rfl⟩ := Int.eq_ofNat_of_zero_le (show 0 ≤ a by omega)
    have hp1 : 1 ≤ p := by omega
    have hp8 : p ≤ 8 := by omega
    have h' : upB f p = false ∨ v < 0 := by
      rcases h with h | h
      · exact absurd ha h
      · simpa using h.2.2
    clear h ha
    by_cases hu : upB f p = false
    · clear h'
      go_enter Try.func14, Try.ntmps14
      go_wp2_with (first | (go_at_call 23; refine (upper_any _ _ _ hp1 hp8).mono ?_; rintro e w' ⟨rfl, rfl⟩))
      go_ret2
      exact ⟨rfl, rfl⟩
    · have hv : v < 0 := by simpa [hu] using h'
      have hu' : upB f p = true := by simpa using hu
      clear h' hu
      go_enter Try.func14, Try.ntmps14
      go_wp2_with (first | (go_at_call 23; refine (upper_any _ _ _ hp1 hp8).mono ?_; rintro e w' ⟨rfl, rfl⟩))
      go_ret2
      exact ⟨rfl, rfl⟩
  · clear h
    by_cases h1 : a < 1
    · clear ha
      go_enter Try.func14, Try.ntmps14
      go_wp2
      go_ret2
      exact ⟨rfl, rfl⟩
    · have h8 : 8 < a := by omega
      clear ha
      go_enter Try.func14, Try.ntmps14
      go_wp2
      go_ret2
      exact ⟨rfl, rfl⟩

set_option maxHeartbeats 800000 in
theorem rput_big (p : Nat) (f v : Int) (w : World) (hp1 : 1 ≤ p) (hp8 : p ≤ 8) (hu : upB f p = true) (hv : 2147483647 < v) :
    Calls Try.prog 14 #[.int .i64 (p : Int), .int .i64 f, .int .i64 v] w fun e w' => e = .returned (.tuple #[.string ByteArray.empty, .int .i64 20]) ∧ w' = w := by
  go_enter Try.func14, Try.ntmps14
  go_wp2_with (first | (go_at_call 23; refine (upper_any _ _ _ hp1 hp8).mono ?_; rintro e w' ⟨rfl, rfl⟩))
  go_ret2
  exact ⟨rfl, rfl⟩

set_option maxHeartbeats 800000 in
theorem rput_small (p f v : Nat) (w : World) (hp1 : 1 ≤ p) (hp8 : p ≤ 8) (hu : upB f p = true) (hf : f ≤ 255) (hfv : f + v ≤ 255) (hv : v < fl p) :
    Calls Try.prog 14 #[.int .i64 (p : Int), .int .i64 (f : Int), .int .i64 (v : Int)] w fun e w' => e = .returned (.tuple #[.string ⟨[B8 (f + v)].toArray⟩, .int .i64 0]) ∧ Below w.heap.size w w' := by
  have ht := fl_le hp8
  have hconv := fun w => conv_one w (f + v) ((f : Int) + (v : Int)) (by omega) (by omega)
  go_enter Try.func14, Try.ntmps14
  go_wp2_with (first | (go_at_call 23; refine (upper_any _ _ _ hp1 hp8).mono ?_; rintro e w' ⟨rfl, rfl⟩) | (go_at_call 20; refine (rfull_any _ _ hp8).mono ?_; rintro e w' ⟨rfl, rfl⟩))
  go_ret2
  exact ⟨rfl, (Below.refl _ _).alloc (Nat.le_refl _) _⟩

set_option maxRecDepth 100000 in
set_option maxHeartbeats 1600000 in
theorem rput_long (p f v r c : Nat) (w : World) (hp1 : 1 ≤ p) (hp8 : p ≤ 8) (hu : upB f p = true) (_hf : f ≤ 255) (hc : f + fl p = c) (hc8 : c ≤ 255) (hv : fl p + r = v) (hv31 : v ≤ 2147483647) :
    Calls Try.prog 14 #[.int .i64 (p : Int), .int .i64 (f : Int), .int .i64 (v : Int)] w fun e w' => e = .returned (.tuple #[.string (strOf (B8 c :: enc 5 r)), .int .i64 0]) ∧ Below w.heap.size w w' := by
  have ht := fl_le hp8
  have hsub : (v : Int) - (fl p : Int) = (r : Int) := by omega
  have hadd : (f : Int) + (fl p : Int) = (c : Int) := by omega
  have hr : r ≤ 2147483647 := by omega
  have hle : fl p ≤ v := by omega
  clear hv hc
  have d1 : decide ((p : Int) < 1) = false := by simp; omega
  have d2 : decide (8 < (p : Int)) = false := by simp; omega
  have d3 : decide ((v : Int) < 0) = false := by simp
  have d4 : decide (2147483647 < (v : Int)) = false := by simp; omega
  have d5 : ¬ v < fl p := by omega
  obtain ⟨i0, hi0, hz0, hz1, hz2⟩ := info_parts Try.info5
  go_enter Try.func14, Try.ntmps14
  go_wp2_with (first | (go_at_call 23; refine (upper_any _ _ _ hp1 hp8).mono ?_; rintro e w ⟨rfl, rfl⟩) | (go_at_call 20; refine (rfull_any _ _ hp8).mono ?_; rintro e w ⟨rfl, rfl⟩))
  go_loopw [9, 10] (fun o x wr => ∃ (k y : Nat) (d : List Nat), k ≤ 4 ∧ x = .int .i64 y ∧ y < 128 ^ (5 - k) ∧ y ≤ 2147483647 ∧ d.length = k ∧ (∀ z ∈ c :: d, z < 256) ∧ Hid ((c :: d).map B8 ++ enc (5 - k) y = B8 c :: enc 5 r) ∧ wr.ownsRow w.heap.size 5 1 o (k + 1) (vals (c :: d)) ∧ Below w.heap.size w wr) (fun _ x _ => (intOf x).toNat)
  case atStart => exact ⟨0, r, [], by omega, rfl, by omega, hr, rfl, by intro z hz; simp at hz; omega, rfl, World.ownsRow_lit w #[.int .u8 (c : Int)] 1 (Nat.le_refl _) (by decide) rfl, (Below.refl _ _).alloc (Nat.le_refl _) _⟩
  case round =>
    obtain ⟨k, y, d, hk, rfl, hy, hy31, hdl, hall, H, hown, hbel⟩ := hrel
    have HA : Hid (∀ z ∈ c :: d, z < 256) := hall
    clear hsub hadd hall d1 d2 d3 d4
    by_cases hge : 128 ≤ y
    · have hk3 : k ≤ 3 := by
        by_cases h4 : k = 4
        · subst h4; omega
        · omega
      obtain ⟨X, hX, ho⟩ : ∃ X : Nat, X = 128 + y % 128 ∧ 128 + (y : Int) % 128 = (X : Int) := ⟨_, rfl, by omega⟩
      have hX8 : X ≤ 255 := by omega
      have HV : Hid (vals (c :: d) ++ [.int .u8 (X : Int)] = vals (c :: (d ++ [X]))) := by
        show _ = _
        rw [vals_snoc]; rfl
      have HX : Hid (X = 128 + y % 128) := hX
      clear hX
      go_wp2_with (first
        | (at_builtin; refine wpList_append_own _ rfl (.tmp 50) (.tmp 55) 30 rfl w.heap.size 5 i0 (.int .u8 0) 1 1 Try.underlying30 hi0 hz0 hz1 hz2 rfl (by decide) _ _ _ rfl (hown.alloc _) ⟨wr.heap.size, 0, none⟩ 1 1 [.int .u8 (X : Int)] rfl rfl ?c1 ?c2 ?c3 ?c4 ?c5 ?_))
      case c1 =>
        intro j u hj
        match j, hj with
        | 0, hj => simp at hj; subst hj; simp [Addr.add]
      case c2 => intro u hu; simp at hu; subst hu; rfl
      case c3 => unfold maxLen; omega
      case c4 => omega
      case c5 => have := hbel.size; simp; omega
      intro v' w1 hown' hgrow _
      have R := rel_more HV hbel hown hown' hgrow
      clear hown' hgrow hown
      go_wp2
      go_roundw
      case rel =>
        refine ⟨k + 1, y / 128, d ++ [X], by omega, by go_num, ?_, by omega, by simp [hdl], ?_, ?_, R.1, R.2⟩
        · have e : 5 - k = (5 - (k + 1)) + 1 := by omega
          rw [e, Nat.pow_succ] at hy
          exact Nat.div_lt_of_lt_mul (by rw [Nat.mul_comm]; exact hy)
        · intro z hz
          have hz' : z ∈ c :: d ∨ z = X := by simpa [or_assoc] using hz
          rcases hz' with hz' | rfl
          · exact HA.out z hz'
          · omega
        · show _ = _
          have hh := H.out
          rw [show 5 - k = (5 - (k + 1)) + 1 by omega, enc_ge _ _ hge, ← HX.out] at hh
          rw [← hh]; simp
      case measure => simp [intOf]; omega
    · have hlast : Hid ((c :: (d ++ [y])).map B8 = B8 c :: enc 5 r) := by
        show _ = _
        have hh := H.out
        rw [enc_lt _ _ (by omega)] at hh
        rw [← hh]; simp
      have HV : Hid (vals (c :: d) ++ [.int .u8 (y : Int)] = vals (c :: (d ++ [y]))) := by
        show _ = _
        rw [vals_snoc]; rfl
      clear H
      go_wp2_with (first
        | (at_builtin; refine wpList_append_own _ rfl (.tmp 59) (.tmp 62) 30 rfl w.heap.size 5 i0 (.int .u8 0) 1 1 Try.underlying30 hi0 hz0 hz1 hz2 rfl (by decide) _ _ _ rfl (hown.alloc _) ⟨wr.heap.size, 0, none⟩ 1 1 [.int .u8 (y : Int)] rfl rfl ?d1 ?d2 ?d3 ?d4 ?d5 ?_))
      case d1 =>
        intro j u hj
        match j, hj with
        | 0, hj => simp at hj; subst hj; simp [Addr.add]
      case d2 => intro u hu; simp at hu; subst hu; rfl
      case d3 => unfold maxLen; omega
      case d4 => omega
      case d5 => have := hbel.size; simp; omega
      intro v' w1 hown' hgrow _
      have R := rel_more HV hbel hown hown' hgrow
      clear hown' hgrow hown
      have hconv := conv_row (l := c :: (d ++ [y])) (by
          intro z hz
          have hz' : z ∈ c :: d ∨ z = y := by simpa [or_assoc] using hz
          rcases hz' with hz' | rfl
          · exact HA.out z hz'
          · omega) (by omega) (by simp [hdl]) R.1
      rw [hlast.out] at hconv
      have hR := R.2
      clear R hlast
      go_wp2
      go_ret2
      exact ⟨rfl, hR⟩

theorem rput_any (a f v : Int) (w : World) :
    Calls Try.prog 14 #[.int .i64 a, .int .i64 f, .int .i64 v] w fun e w' => e = .returned (.tuple #[.string (strOf (putI a f v).1), .int .i64 ((putI a f v).2 : Nat)]) ∧ Below w.heap.size w w' := by
  by_cases ha : 1 ≤ a ∧ a ≤ 8
  · obtain ⟨p, rfl⟩ := Int.eq_ofNat_of_zero_le (show 0 ≤ a by omega)
    have hp1 : 1 ≤ p := by omega
    have hp8 : p ≤ 8 := by omega
    have e1 : putI (p : Int) f v = putL p f v := by simp [putI, ha]
    rw [e1]
    by_cases hb : upB f p = false ∨ v < 0
    · have e2 : putL p f v = ([], 1) := by simp only [putL, if_pos hb]
      rw [e2]
      refine (rput_bad _ f v w (.inr ⟨by omega, by omega, by simpa using hb⟩)).mono ?_
      rintro e w' ⟨rfl, rfl⟩
      exact ⟨rfl, Below.refl _ _⟩
    · have hu : upB f p = true := by
        cases h : upB f p
        · exact absurd (.inl h) hb
        · rfl
      have hv0 : 0 ≤ v := by
        by_cases h : v < 0
        · exact absurd (.inr h) hb
        · omega
      by_cases hbig : 2147483647 < v
      · have e2 : putL p f v = ([], 20) := by simp only [putL, if_neg hb, if_pos hbig]
        rw [e2]
        refine (rput_big p f v w hp1 hp8 hu hbig).mono ?_
        rintro e w' ⟨rfl, rfl⟩
        exact ⟨rfl, Below.refl _ _⟩
      · have hf0 : 0 ≤ f := by unfold upB at hu; simp at hu; omega
        obtain ⟨f, rfl⟩ := Int.eq_ofNat_of_zero_le hf0
        obtain ⟨v, rfl⟩ := Int.eq_ofNat_of_zero_le hv0
        obtain ⟨hf, hff⟩ := up_fits hp8 hu
        by_cases hlt : v < fl p
        · have e2 : putL p (f : Int) (v : Int) = ([B8 (f + v)], 0) := by simp only [putL, if_neg hb, if_neg hbig, Int.toNat_natCast, if_pos hlt]
          rw [e2]
          exact rput_small p f v w hp1 hp8 hu hf (by omega) hlt
        · have e2 : putL p (f : Int) (v : Int) = (B8 (f + fl p) :: enc 5 (v - fl p), 0) := by simp only [putL, if_neg hb, if_neg hbig, Int.toNat_natCast, if_neg hlt]
          rw [e2]
          exact rput_long p f v (v - fl p) (f + fl p) w hp1 hp8 hu hf rfl hff (by omega) (by omega)
  · have e1 : putI a f v = ([], 1) := by simp [putI, ha]
    rw [e1]
    refine (rput_bad _ f v w (.inl ha)).mono ?_
    rintro e w' ⟨rfl, rfl⟩
    exact ⟨rfl, Below.refl _ _⟩
end Go.Proofs.Ythfpidndjcnbcaa
