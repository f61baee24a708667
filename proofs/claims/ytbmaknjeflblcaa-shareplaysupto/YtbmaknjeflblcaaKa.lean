/- share: Pick; the law's same, has. -/
import Derived.Test.YtbmaknjeflblcaaK9
namespace Go.Proofs.Ytbmaknjeflblcaa
open Go.RowKit Go.Maps
set_option linter.unusedVariables false
set_option linter.unusedSimpArgs false

/-- the place that a number picks -/
def pkI (n : Int) (m : Nat) : Nat := (n % (m : Int)).toNat
def pkV (l : List Int) (n : Int) : Int := l.getD (pkI n l.length) 0
def pkB (l : List Int) : Bool := !l.isEmpty
theorem pk_facts (n : Int) (m : Nat) (hm : 0 < m) : ∃ r : Int, n.tmod (m : Int) = r ∧ ((r < 0 ∧ r + (m : Int) = (pkI n m : Int)) ∨ (¬ r < 0 ∧ r = (pkI n m : Int))) ∧ pkI n m < m := by
  refine ⟨_, rfl, ?_, ?_⟩
  · unfold pkI
    have h0 := Int.emod_nonneg n (show (m : Int) ≠ 0 by omega)
    rw [Int.toNat_of_nonneg h0]
    have h1 := Int.tmod_eq_emod (a := n) (b := (m : Int))
    split at h1
    · exact .inr ⟨by omega, by omega⟩
    · have : n.tmod (m : Int) < 0 := by
        have := Int.emod_lt_of_pos n (show (0 : Int) < m by omega)
        rw [h1]
        simp only [Int.natAbs_natCast] at *
        omega
      refine .inl ⟨this, ?_⟩
      rw [h1]
      simp only [Int.natAbs_natCast]
      omega
  · unfold pkI
    have := Int.emod_lt_of_pos n (show (0 : Int) < m by omega)
    have h0 := Int.emod_nonneg n (show (m : Int) ≠ 0 by omega)
    omega
theorem pk_at (l : List Int) (n : Int) (h : pkI n l.length < l.length) : l[pkI n l.length] = pkV l n := by
  unfold pkV
  rw [List.getD_eq_getElem?_getD, List.getElem?_eq_getElem h]
  rfl
set_option maxRecDepth 100000 in
set_option maxHeartbeats 1000000 in
theorem pick_any (w : World) (v : SV) (l : List Int) (n : Int) (hI : In EI w (sv v) l) :
    Calls Try.prog 8 #[sv v, .int .i64 n] w fun e w' => e = .returned (.tuple #[.int .i64 (pkV l n), .bool (pkB l)]) ∧ w' = w := by
  obtain ⟨b, m, c⟩ := v
  unfold sv at hI ⊢
  simp only at hI ⊢
  obtain ⟨rfl, hc1, hc2⟩ := slice_len hI
  by_cases h0 : l.length = 0
  · have hl := List.eq_nil_of_length_eq_zero h0
    subst hl
    clear hI
    go_enter Try.func8, Try.ntmps8
    go_wp2
    go_ret2
    exact ⟨rfl, rfl⟩
  · obtain ⟨r, hr, hcase, hlt⟩ := pk_facts n l.length (by omega)
    have e0 : ((l.length : Int) == 0) = false := beq_eq_false_iff_ne.2 (by omega)
    have e0' : ¬ ((l.length : Int) = 0) := by omega
    obtain ⟨B, off, cap, e, hc⟩ := hI.int _ hlt
    injection e with e1 e2 e3
    subst e1
    clear e2 e3 hI
    have d0 := hc w (Below.refl _ w)
    rw [pk_at l n hlt] at d0
    clear hc
    have hb : pkB l = true := by
      cases l with
      | nil => simp at h0
      | cons a r => rfl
    rw [hb]
    generalize pkV l n = x at d0 ⊢
    generalize pkI n l.length = i at d0 hcase hlt
    generalize l.length = m at *
    have hltI : (i : Int) < (m : Int) := by omega
    have hnn : ¬ (i : Int) < 0 := by omega
    rcases hcase with ⟨a1, a2⟩ | ⟨a1, a2⟩
    · go_enter Try.func8, Try.ntmps8
      go_wp2
      go_ret2
      exact ⟨rfl, rfl⟩
    · subst a2
      go_enter Try.func8, Try.ntmps8
      go_wp2
      go_ret2
      exact ⟨rfl, rfl⟩
end Go.Proofs.Ytbmaknjeflblcaa
