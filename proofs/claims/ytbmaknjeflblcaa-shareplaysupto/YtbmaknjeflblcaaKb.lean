/- The law's same, has; the document's Pick. -/
import Derived.Test.YtbmaknjeflblcaaKa
namespace Go.Proofs.Ytbmaknjeflblcaa
open Go.RowKit Go.Maps
set_option linter.unusedVariables false
set_option linter.unusedSimpArgs false

theorem In.int1 {w : World} {v : Value} {l : List Int} (h : In EI w v l) (k : Nat) (hk : k < l.length) : ∃ B off cap, v = .slice (some ⟨B, off, none⟩) l.length cap ∧ B < w.heap.size ∧ w.cell? ⟨B, off + k, none⟩ = some (.int .i64 l[k]) := by
  obtain ⟨B, off, cap, h1, h2, h3⟩ := h.get okI k hk
  have := h3 0 _ rfl
  simp only [EI, Nat.mul_one, Nat.add_zero] at this
  exact ⟨B, off, cap, h1, h2, this⟩
set_option maxRecDepth 100000 in
set_option maxHeartbeats 1000000 in
theorem rpick_any (w : World) (v : SV) (l : List Int) (n : Int) (hI : In EI w (sv v) l) :
    Calls Try.prog 9 #[sv v, .int .i64 n] w fun e w' => e = .returned (.tuple #[.int .i64 (pkV l n), .bool (pkB l)]) ∧ w' = w := by
  obtain ⟨b, m, c⟩ := v
  unfold sv at hI ⊢
  simp only at hI ⊢
  obtain ⟨rfl, hc1, hc2⟩ := slice_len hI
  by_cases h0 : l.length = 0
  · have hl := List.eq_nil_of_length_eq_zero h0
    subst hl
    clear hI
    go_enter Try.func9, Try.ntmps9
    go_wp2
    go_ret2
    exact ⟨rfl, rfl⟩
  · obtain ⟨r, hr, hcase, hlt⟩ := pk_facts n l.length (by omega)
    have e0 : ((l.length : Int) == 0) = false := beq_eq_false_iff_ne.2 (by omega)
    have e0' : ¬ ((l.length : Int) = 0) := by omega
    obtain ⟨B, off, cap, e, hc⟩ := hI.int _ hlt
    injection e with e1 e2 e3
    subst e1
    clear e2 e3 hI
    have d0 := hc w (Below.refl _ w)
    rw [pk_at l n hlt] at d0
    clear hc
    have hb : pkB l = true := by
      cases l with
      | nil => simp at h0
      | cons a r => rfl
    rw [hb]
    generalize pkV l n = x at d0 ⊢
    generalize pkI n l.length = i at d0 hcase hlt
    generalize l.length = m at *
    have hltI : (i : Int) < (m : Int) := by omega
    have hnn : ¬ (i : Int) < 0 := by omega
    rcases hcase with ⟨a1, a2⟩ | ⟨a1, a2⟩
    · go_enter Try.func9, Try.ntmps9
      go_wp2
      go_ret2
      exact ⟨rfl, rfl⟩
    · subst a2
      go_enter Try.func9, Try.ntmps9
      go_wp2
      go_ret2
      exact ⟨rfl, rfl⟩
set_option maxRecDepth 100000 in
set_option maxHeartbeats 2000000 in
theorem same_eq (w : World) (p q : Value) (l : List Int) (hp : In EI w p l) (hq : In EI w q l) :
    Calls Try.prog 11 #[p, q] w fun e w' => e = .returned (.bool true) ∧ Below w.heap.size w w' := by
  have HP : Hid (In EI w p l) := hp
  have HQ : Hid (In EI w q l) := hq
  obtain ⟨pb, pc, rfl, h1, h2⟩ := hp.slice
  obtain ⟨qb, qc, rfl, h3, h4⟩ := hq.slice
  clear hp hq
  obtain ⟨n, hn⟩ : ∃ n, l.length = n := ⟨_, rfl⟩
  have HN : Hid (l.length = n) := hn
  rw [hn] at HP HQ h1 h3 ⊢
  clear hn
  go_enter Try.func11, Try.ntmps11
  go_wp2
  go_loopw [5] (fun i wr => ∃ k : Nat, k ≤ n ∧ i = .int .i64 (k : Int) ∧ Below w.heap.size w wr) (fun i _ => n - (intOf i).toNat)
  case atStart => exact ⟨0, by omega, rfl, Below.refl _ _⟩
  case round =>
    obtain ⟨k, hk, rfl, hb⟩ := hrel
    by_cases hlt : k < n
    · have hl := HN.out
      obtain ⟨B, off, cap, e, hBl, d1⟩ := (HP.out.below hb).int1 k (by omega)
      obtain ⟨B', off', cap', e', hBl', d1'⟩ := (HQ.out.below hb).int1 k (by omega)
      injection e with e1 e2 e3
      injection e' with e1' e2' e3'
      subst e1
      subst e1'
      clear e2 e3 e2' e3'
      obtain ⟨x, hxy⟩ : ∃ x, l[k]'(by omega) = x := ⟨_, rfl⟩
      rw [hxy] at d1 d1'
      clear hxy hl
      go_wp2_with fail
      go_region
      all_goals
        go_wp2_with fail
        go_roundw
        case rel => exact ⟨k + 1, by omega, by simp, hb.drew⟩
        case measure => simp [intOf]; omega
    · obtain rfl : k = n := by omega
      go_wp2
      go_ret
      exact ⟨rfl, hb⟩

set_option maxRecDepth 100000 in
set_option maxHeartbeats 2000000 in
theorem has_any (w : World) (p : Value) (l : List Int) (x : Int) (hp : In EI w p l) :
    Calls Try.prog 18 #[p, .int .i64 x] w fun e w' => e = .returned (.bool (decide (x ∈ l))) ∧ w' = w := by
  have HP : Hid (In EI w p l) := hp
  obtain ⟨pb, pc, rfl, h1, h2⟩ := hp.slice
  clear hp
  obtain ⟨n, hn⟩ : ∃ n, l.length = n := ⟨_, rfl⟩
  have HN : Hid (l.length = n) := hn
  rw [hn] at HP h1 ⊢
  clear hn
  obtain ⟨res, hres⟩ : ∃ res, decide (x ∈ l) = res := ⟨_, rfl⟩
  rw [hres]
  have HR : Hid (decide (x ∈ l) = res) := hres
  clear hres
  go_enter Try.func18, Try.ntmps18
  go_wp2
  go_loopw [5] (fun i wr => ∃ k : Nat, k ≤ n ∧ i = .int .i64 (k : Int) ∧ wr = w ∧ Hid (x ∉ l.take k)) (fun i _ => n - (intOf i).toNat)
  case atStart => exact ⟨0, by omega, rfl, rfl, by show x ∉ l.take 0; simp⟩
  case round =>
    obtain ⟨k, hk, hi, hw, hno⟩ := hrel
    subst hi hw
    by_cases hlt : k < n
    · have hl := HN.out
      obtain ⟨B, off, cap, e, hBl, d1⟩ := HP.out.int1 k (by omega)
      injection e with e1 e2 e3
      subst e1
      clear e2 e3
      have hget : l.take (k + 1) = l.take k ++ [l[k]'(by omega)] := by rw [List.take_succ_eq_append_getElem (by omega)]
      have hmem : l[k]'(by omega) ∈ l := List.getElem_mem _
      obtain ⟨y, hy⟩ : ∃ y, l[k]'(by omega) = y := ⟨_, rfl⟩
      rw [hy] at d1 hget hmem
      have HG : Hid _ := hget
      clear hy hl hget
      by_cases hxy : y = x
      · subst hxy
        have hr : res = true := by rw [← HR.out]; exact decide_eq_true hmem
        subst hr
        clear HG hmem
        go_wp2
        go_ret
        exact ⟨rfl, rfl⟩
      · have e1 : (y == x) = false := beq_eq_false_iff_ne.2 hxy
        clear hmem
        have HX : Hid (¬ y = x) := hxy
        clear hxy
        go_wp2_with fail
        go_roundw
        case rel =>
          refine ⟨k + 1, by omega, by simp, by first | rfl | trivial, ?_⟩
          show x ∉ l.take (k + 1)
          rw [HG.out, List.mem_append]
          rintro (h | h)
          · exact hno.out h
          · simp at h; exact HX.out h.symm
        case measure => simp [intOf]; omega
    · obtain rfl : k = n := by omega
      have hr : res = false := by
        rw [← HR.out]
        have h1 := hno.out
        rw [List.take_of_length_le (by rw [HN.out]; exact Nat.le_refl _)] at h1
        exact decide_eq_false h1
      subst hr
      go_wp2
      go_ret
      exact ⟨rfl, rfl⟩

end Go.Proofs.Ytbmaknjeflblcaa
