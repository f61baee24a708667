/- There and back, and least: the bytes of a number against what bytes say. -/
import Derived.Test.YthfpidndjcnbcaaSays
namespace Go.Proofs.Ythfpidndjcnbcaa

theorem enc_small (k r : Nat) (h : r < 128) : enc k r = [B8 r] := by cases k <;> simp [enc, h]
theorem enc_big (k r : Nat) (h : 128 ≤ r) : enc (k + 1) r = B8 (128 + r % 128) :: enc k (r / 128) := by simp [enc]; omega
theorem B8_c (c : UInt8) : B8 c.toNat = c := by unfold B8; simp
theorem pow_i (i r : Nat) : r % 128 * 128 ^ i + r / 128 * 128 ^ (i + 1) = r * 128 ^ i := by
  have h : r = r % 128 + r / 128 * 128 := by omega
  rw [Nat.pow_succ, Nat.mul_comm (128 ^ i) 128, ← Nat.mul_assoc, ← Nat.add_mul, ← h]

theorem sd_enc (j : Nat) : ∀ (k i s r : Nat) (t : List UInt8), 1 ≤ k → r < 128 ^ k → r < 128 ^ (j + 1) →
    sd k i s (enc j r ++ t) = (s + r * 128 ^ i, i + 1 + (enc j r).length) := by
  have base : ∀ (k i s r : Nat) (t : List UInt8) (j : Nat), 1 ≤ k → r < 128 → sd k i s (enc j r ++ t) = (s + r * 128 ^ i, i + 1 + (enc j r).length) := by
    intro k i s r t j hk hr
    obtain ⟨k, rfl⟩ : ∃ k', k = k' + 1 := ⟨k - 1, by omega⟩
    have hb := B8_toNat r (by omega)
    rw [enc_small _ _ hr, List.cons_append, sd_end _ _ _ _ _ (by omega), hb, Nat.mod_eq_of_lt hr]
    simp
  induction j with
  | zero => intro k i s r t hk _ hr; exact base k i s r t 0 hk (by simpa using hr)
  | succ j ih =>
    intro k i s r t hk hrk hr
    by_cases h : r < 128
    · exact base k i s r t _ hk h
    · have hk2 : 2 ≤ k := by
        by_cases h1 : k = 1
        · subst h1; omega
        · omega
      obtain ⟨k, rfl⟩ : ∃ k', k = k' + 1 := ⟨k - 1, by omega⟩
      have hb := B8_toNat (128 + r % 128) (by omega)
      rw [enc_big _ _ (by omega), List.cons_append, sd_more _ _ _ _ _ (by omega), hb]
      rw [ih k (i + 1) _ (r / 128) t (by omega) (by rw [Nat.pow_succ] at hrk; exact Nat.div_lt_of_lt_mul (by omega)) (by rw [Nat.pow_succ] at hr; exact Nat.div_lt_of_lt_mul (by omega))]
      have e : (128 + r % 128) % 128 = r % 128 := by omega
      have hp := pow_i i r
      rw [e]
      simp only [List.length_cons, Prod.mk.injEq]
      omega

theorem enc_length (j r k : Nat) (hk : 1 ≤ k) (hr : r < 128 ^ k) (hj : r < 128 ^ (j + 1)) : 1 ≤ (enc j r).length ∧ (enc j r).length ≤ k := by
  have h := sd_enc j k 0 0 r [] hk hr hj
  have hne : (sd k 0 0 (enc j r ++ [])).2 ≠ 0 := by rw [h]; simp
  have hc := sd_cut k 0 0 _ hne
  rw [h] at hc
  simp at hc
  omega

/-- a form with a group of 0 more -/
def encZ : Nat → Nat → List UInt8
  | 0, r => [B8 (128 + r), 0]
  | k + 1, r => if r < 128 then [B8 (128 + r), 0] else B8 (128 + r % 128) :: encZ k (r / 128)

theorem sd_encZ (j : Nat) : ∀ (k i s r : Nat), (enc j r).length + 1 ≤ k → r < 128 ^ (j + 1) →
    sd k i s (encZ j r) = (s + r * 128 ^ i, i + 2 + (enc j r).length) := by
  have base : ∀ (k i s r : Nat), 2 ≤ k → r < 128 → sd k i s [B8 (128 + r), 0] = (s + r * 128 ^ i, i + 3) := by
    intro k i s r hk hr
    obtain ⟨k, rfl⟩ : ∃ k', k = k' + 1 + 1 := ⟨k - 2, by omega⟩
    have hb := B8_toNat (128 + r) (by omega)
    rw [sd_more _ _ _ _ _ (by omega), hb, sd_end _ _ _ _ _ (by decide)]
    have e : (128 + r) % 128 = r := by omega
    rw [e]
    simp
  induction j with
  | zero =>
    intro k i s r hk hr
    have hr' : r < 128 := by simpa using hr
    rw [enc_small _ _ hr'] at hk ⊢
    exact base k i s r (by simpa using hk) hr'
  | succ j ih =>
    intro k i s r hk hr
    by_cases h : r < 128
    · rw [enc_small _ _ h] at hk ⊢
      simp only [encZ, if_pos h]
      exact base k i s r (by simpa using hk) h
    · rw [enc_big _ _ (by omega)] at hk ⊢
      simp only [List.length_cons] at hk
      obtain ⟨k, rfl⟩ : ∃ k', k = k' + 1 := ⟨k - 1, by omega⟩
      have hb := B8_toNat (128 + r % 128) (by omega)
      simp only [encZ, if_neg h]
      rw [sd_more _ _ _ _ _ (by omega), hb, ih k (i + 1) _ (r / 128) (by omega) (by rw [Nat.pow_succ] at hr; exact Nat.div_lt_of_lt_mul (by omega))]
      have e : (128 + r % 128) % 128 = r % 128 := by omega
      have hp := pow_i i r
      rw [e]
      simp only [List.length_cons, Prod.mk.injEq]
      omega

theorem encZ_eq (j r : Nat) (hr : r < 128 ^ (j + 1)) : ∃ (init : List UInt8) (x : UInt8), enc j r = init ++ [x] ∧ encZ j r = init ++ [B8 (128 + x.toNat % 128), 0] := by
  induction j generalizing r with
  | zero =>
    have hr' : r < 128 := by simpa using hr
    refine ⟨[], B8 r, rfl, ?_⟩
    rw [B8_toNat r (by omega)]
    simp [encZ, Nat.mod_eq_of_lt hr']
  | succ j ih =>
    by_cases h : r < 128
    · refine ⟨[], B8 r, by simp [enc, h], ?_⟩
      rw [B8_toNat r (by omega)]
      simp [encZ, h, Nat.mod_eq_of_lt h]
    · obtain ⟨init, x, h1, h2⟩ := ih (r / 128) (by rw [Nat.pow_succ] at hr; exact Nat.div_lt_of_lt_mul (by omega))
      refine ⟨B8 (128 + r % 128) :: init, x, ?_, ?_⟩
      · rw [enc_big _ _ (by omega), h1]; rfl
      · simp only [encZ, if_neg h, h2]; rfl

/-- the bytes of a number are the least that say it -/
theorem sd_least (k : Nat) : ∀ (i s v m : Nat) (l : List UInt8), sd k i s l = (v, m) → m ≠ 0 →
    ∃ R, v = s + R * 128 ^ i ∧ ∀ j, R < 128 ^ (j + 1) → (enc j R).length ≤ m - (i + 1) ∧ ((enc j R).length = m - (i + 1) → enc j R = l.take (m - (i + 1))) := by
  induction k with
  | zero => intro i s v m l h hm; simp [sd_zero] at h; omega
  | succ k ih =>
    intro i s v m l h hm
    cases l with
    | nil => simp [sd_nil] at h; omega
    | cons c r =>
      by_cases hc : 128 ≤ c.toNat
      · have hne : (sd k (i + 1) (s + c.toNat % 128 * 128 ^ i) r).2 ≠ 0 := by rw [sd_more _ _ _ _ _ hc] at h; rw [h]; exact hm
        have hcut := sd_cut _ _ _ _ hne
        rw [sd_more _ _ _ _ _ hc] at h
        rw [h] at hcut
        obtain ⟨g1, g2, _, _⟩ := hcut
        simp only at g1 g2
        obtain ⟨R', hv, hR'⟩ := ih _ _ _ _ _ h hm
        have hcl := c.toNat_lt
        refine ⟨c.toNat % 128 + R' * 128, ?_, ?_⟩
        · rw [hv, Nat.add_mul, Nat.pow_succ, Nat.mul_assoc R', Nat.mul_comm 128]; omega
        · intro j hj
          have e1 : m - (i + 1) = (m - (i + 1 + 1)) + 1 := by omega
          by_cases h0 : R' = 0
          · subst h0
            rw [enc_small _ _ (by omega)]
            simp only [List.length_singleton]
            exact ⟨by omega, fun h => by omega⟩
          · cases j with
            | zero => simp at hj; omega
            | succ j =>
              have hR2 : R' < 128 ^ (j + 1) := by
                rw [Nat.pow_succ] at hj
                omega
              obtain ⟨q1, q2⟩ := hR' j hR2
              rw [enc_big _ _ (by omega)]
              have e2 : (c.toNat % 128 + R' * 128) / 128 = R' := by omega
              have e3 : 128 + (c.toNat % 128 + R' * 128) % 128 = c.toNat := by omega
              rw [e2, e3, B8_c, e1]
              simp only [List.length_cons, List.take_succ_cons]
              exact ⟨by omega, fun h => by rw [q2 (by omega)]⟩
      · rw [sd_end _ _ _ _ _ hc] at h
        simp only [Prod.mk.injEq] at h
        obtain ⟨h1, h2⟩ := h
        refine ⟨c.toNat, ?_, ?_⟩
        · rw [← h1, Nat.mod_eq_of_lt (by omega)]
        · intro j hj
          rw [enc_small _ _ (by omega), B8_c, ← h2]
          have e : i + 2 - (i + 1) = 0 + 1 := by omega
          rw [e]
          simp

end Go.Proofs.Ythfpidndjcnbcaa
