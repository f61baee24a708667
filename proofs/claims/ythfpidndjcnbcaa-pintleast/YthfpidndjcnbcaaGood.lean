import Derived.Test.YthfpidndjcnbcaaTD
import Derived.Test.YthfpidndjcnbcaaLeast
namespace Go.Proofs.Ythfpidndjcnbcaa
open Go.RowKit

/-- Put of legal arguments, and what its bytes say -/
structure Good (p f v : Nat) (l : List UInt8) : Prop where
  put : putI (p : Int) (f : Int) (v : Int) = (l, 0)
  one : 1 ≤ l.length
  six : l.length ≤ 6
  up : ∀ c r, l = c :: r → c.toNat - lo p c.toNat = f
  said : ∀ t, saidN p (l ++ t) = (v, l.length)

theorem lo_add (p f x : Nat) (h : lo p f = 0) : lo p (f + x) = lo p x := by
  unfold lo at h ⊢
  rw [Nat.add_mod, h, Nat.zero_add, Nat.mod_mod]
theorem lo_small (p x : Nat) (h : x ≤ fl p) : lo p x = x := by
  unfold lo; apply Nat.mod_eq_of_lt
  unfold fl at h
  have := Nat.two_pow_pos p
  omega

theorem good (p f v : Nat) (hp1 : 1 ≤ p) (hp8 : p ≤ 8) (hf : f ≤ 255) (hlo : lo p f = 0) (hv : v ≤ 2147483647) : ∃ l, Good p f v l := by
  have hu : upB (f : Int) p = true := by unfold upB; simp; omega
  obtain ⟨_, hff⟩ := up_fits hp8 hu
  have hl : 1 ≤ (p : Int) ∧ (p : Int) ≤ 8 := by omega
  have hb : ¬ (upB (f : Int) p = false ∨ (v : Int) < 0) := by rw [hu]; simp
  have hbig : ¬ (2147483647 < (v : Int)) := by omega
  by_cases hlt : v < fl p
  · have hn := B8_toNat (f + v) (by omega)
    have hlv : lo p (f + v) = v := by rw [lo_add p f v hlo, lo_small p v (by omega)]
    refine ⟨[B8 (f + v)], ?_, by simp, by simp, ?_, ?_⟩
    · simp only [putI, if_pos hl, putL, if_neg hb, if_neg hbig, Int.toNat_natCast, if_pos hlt]
    · intro c r h
      simp only [List.cons.injEq] at h
      obtain ⟨rfl, _⟩ := h
      rw [hn, hlv]; omega
    · intro t
      simp only [List.cons_append, saidN, hn, hlv, if_pos hlt, List.length_singleton]
  · have hn := B8_toNat (f + fl p) (by omega)
    have hlv : lo p (f + fl p) = fl p := by rw [lo_add p f _ hlo, lo_small p _ (by omega)]
    have hlen := enc_length 5 (v - fl p) 5 (by omega) (by omega) (by omega)
    refine ⟨B8 (f + fl p) :: enc 5 (v - fl p), ?_, by simp, by simp; omega, ?_, ?_⟩
    · simp only [putI, if_pos hl, putL, if_neg hb, if_neg hbig, Int.toNat_natCast, if_neg hlt]
    · intro c r h
      simp only [List.cons.injEq] at h
      obtain ⟨rfl, _⟩ := h
      rw [hn, hlv]; omega
    · intro t
      simp only [List.cons_append, saidN, hn, hlv, Nat.lt_irrefl, if_false]
      rw [sd_enc 5 5 0 (fl p) (v - fl p) t (by omega) (by omega) (by omega)]
      simp only [Nat.pow_zero, Nat.mul_one, List.length_cons, Prod.mk.injEq]
      omega

theorem Good.take {p f v : Nat} {l : List UInt8} (g : Good p f v l) (hv : v ≤ 2147483647) (t : List UInt8) : takeN p (l ++ t) = (v, l.length, 0) := by
  rw [take_said, g.said]
  have := g.one
  simp only [ans]
  rw [if_neg (by omega), if_neg (by omega)]

theorem Good.short {p f v : Nat} {l : List UInt8} (g : Good p f v l) (i : Nat) (hi : i < l.length) : takeN p (l.take i) = (0, 0, 2) := by
  have h6 := g.six
  rw [take_said]
  have h0 : (saidN p (l.take i)).2 = 0 := by
    by_cases h : (saidN p (l.take i)).2 = 0
    · exact h
    · exfalso
      obtain ⟨_, h2, _, h3⟩ := said_cut p _ h
      have h4 := h3 (l.drop (saidN p (l.take i)).2)
      rw [List.length_take] at h2
      rw [List.take_take, Nat.min_eq_left (by omega), List.take_append_drop] at h4
      have h5 := g.said []
      rw [List.append_nil, h4] at h5
      rw [h5] at h2
      simp only at h2
      omega
  simp only [ans, if_pos h0, List.length_take]
  rw [if_neg (by omega)]

end Go.Proofs.Ythfpidndjcnbcaa
