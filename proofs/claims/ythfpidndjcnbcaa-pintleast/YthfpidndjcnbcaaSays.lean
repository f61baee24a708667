/- What Take answers, by the sum of the groups. -/
import Derived.Test.YthfpidndjcnbcaaNums
namespace Go.Proofs.Ythfpidndjcnbcaa

/-- the answer that a sum of groups makes -/
def ans (n : Nat) (x : Nat × Nat) (k : Nat) : Nat × Nat × Nat :=
  if x.2 = 0 then (0, 0, if k ≤ n then 20 else 2) else if 2147483647 < x.1 then (0, 0, 20) else (x.1, x.2, 0)

theorem grp_sd (k i s : Nat) (l : List UInt8) : grp k i s l = ans l.length (sd k i s l) k := by
  induction k generalizing i s l with
  | zero => simp [grp_zero, sd_zero, ans]
  | succ k ih =>
    cases l with
    | nil => simp [grp_nil, sd_nil, ans]
    | cons c r =>
      by_cases h : 128 ≤ c.toNat
      · rw [grp_more _ _ _ _ _ h, sd_more _ _ _ _ _ h, ih]
        simp [ans]
      · rw [sd_end _ _ _ _ _ h]
        by_cases h2 : 2147483647 < s + c.toNat % 128 * 128 ^ i
        · rw [grp_big _ _ _ _ _ h h2]; simp [ans, h2]
        · rw [grp_end _ _ _ _ _ h h2]; simp [ans, h2]

theorem sd_cut (k i s : Nat) (l : List UInt8) (h : (sd k i s l).2 ≠ 0) :
    i + 2 ≤ (sd k i s l).2 ∧ (sd k i s l).2 - (i + 1) ≤ l.length ∧ (sd k i s l).2 ≤ i + 1 + k ∧ ∀ t, sd k i s (l.take ((sd k i s l).2 - (i + 1)) ++ t) = sd k i s l := by
  induction k generalizing i s l with
  | zero => simp [sd_zero] at h
  | succ k ih =>
    cases l with
    | nil => simp [sd_nil] at h
    | cons c r =>
      by_cases hc : 128 ≤ c.toNat
      · rw [sd_more _ _ _ _ _ hc] at h ⊢
        obtain ⟨g1, g2, g4, g3⟩ := ih _ _ _ h
        refine ⟨by omega, by simp; omega, by omega, ?_⟩
        intro t
        have e : (sd k (i + 1) (s + c.toNat % 128 * 128 ^ i) r).2 - (i + 1) = ((sd k (i + 1) (s + c.toNat % 128 * 128 ^ i) r).2 - (i + 1 + 1)) + 1 := by omega
        rw [e, List.take_succ_cons, List.cons_append, sd_more _ _ _ _ _ hc]
        exact g3 t
      · rw [sd_end _ _ _ _ _ hc]
        refine ⟨by simp, by simp, by simp; omega, ?_⟩
        intro t
        show sd (k + 1) i s ((c :: r).take (i + 2 - (i + 1)) ++ t) = _
        rw [show i + 2 - (i + 1) = 0 + 1 by omega, List.take_succ_cons, List.cons_append, sd_end _ _ _ _ _ hc]

theorem take_said (p : Nat) (l : List UInt8) : takeN p l = ans l.length (saidN p l) 6 := by
  cases l with
  | nil => simp [takeN, saidN, ans]
  | cons c r =>
    by_cases h : lo p c.toNat < fl p
    · simp only [takeN, saidN, if_pos h, ans]
      by_cases h2 : 2147483647 < lo p c.toNat
      · exfalso
        have h3 := Nat.mod_le c.toNat (2 ^ p)
        have h4 := c.toNat_lt
        unfold lo at h2
        omega
      · simp [h2]
    · simp only [takeN, saidN, if_neg h]
      rw [grp_sd]
      simp [ans]

theorem said_cut (p : Nat) (l : List UInt8) (h : (saidN p l).2 ≠ 0) :
    1 ≤ (saidN p l).2 ∧ (saidN p l).2 ≤ l.length ∧ (saidN p l).2 ≤ 6 ∧ ∀ t, saidN p (l.take (saidN p l).2 ++ t) = saidN p l := by
  cases l with
  | nil => simp [saidN] at h
  | cons c r =>
    by_cases hc : lo p c.toNat < fl p
    · simp only [saidN, if_pos hc] at h ⊢
      exact ⟨by omega, by simp, by omega, fun t => by simp [hc]⟩
    · simp only [saidN, if_neg hc] at h ⊢
      obtain ⟨g1, g2, g4, g3⟩ := sd_cut _ _ _ _ h
      refine ⟨by omega, by simp; omega, by omega, ?_⟩
      intro t
      have e : (sd 5 0 (fl p) r).2 = ((sd 5 0 (fl p) r).2 - (0 + 1)) + 1 := by omega
      rw [e, List.take_succ_cons, List.cons_append]
      simp only [if_neg hc]
      exact g3 t

end Go.Proofs.Ythfpidndjcnbcaa
