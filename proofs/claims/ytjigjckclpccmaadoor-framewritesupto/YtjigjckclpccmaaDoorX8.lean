/- The document's Right tells the right frames. -/
import Derived.Test.YtjigjckclpccmaaDoorX7
namespace Go.Proofs.YtjigjckclpccmaaDoor
open Go.RowKit
set_option linter.unusedVariables false
set_option linter.unusedSimpArgs false

theorem right_parts (f : Fr) (ps : List (Int × Int)) (T X : Nat) (hT : f.ty = (T : Int)) (hF : f.fl = (X : Int)) (hT2 : T < 256) (hX : X < 256) :
    Right f ps ↔ (bits .and .i64 (X : Int) (kflags (min (T : Int) 10).toNat) = (X : Int) ∧ (kfrom (min (T : Int) 10).toNat ≤ f.st ∧ f.st ≤ kto (min (T : Int) 10).toNat) ∧ (if padS f then 0 ≤ f.pad ∧ f.pad < 256 else f.pad = 0) ∧ BodyR (kd (T : Int) (X : Int)).1 (kd (T : Int) (X : Int)).2.2.2 f ps) := by
  have hk : kiF f = (min (T : Int) 10).toNat := by unfold kiF; rw [hT]
  constructor
  · rintro ⟨h1, h2, h3, h4, h5, h6, h7, h8, h9⟩
    rw [hk, hF] at h5
    rw [hk] at h6 h7
    rw [hT, hF] at h9
    exact ⟨h5, ⟨h6, h7⟩, h8, h9⟩
  · rintro ⟨h5, ⟨h6, h7⟩, h8, h9⟩
    refine ⟨by omega, by omega, by omega, by omega, by rw [hk, hF]; exact h5, by rw [hk]; exact h6, by rw [hk]; exact h7, h8, by rw [hT, hF]; exact h9⟩

theorem li_iff (f : Fr) (ps : List (Int × Int)) (T X : Nat) (hT : f.ty = (T : Int)) (hF : f.fl = (X : Int)) :
    liB f ps = true ↔ ((if T = 4 ∧ X = 0 then ∀ q ∈ ps, 0 ≤ q.1 ∧ q.1 < 65536 ∧ 0 ≤ q.2 ∧ q.2 < 4294967296 else ps = []) ∧ (if T = 2 ∨ T = 3 ∨ T = 4 ∨ T = 8 then f.data = ⟨#[]⟩ else if T = 6 then f.data.size = 8 else True)) := by
  unfold liB
  rw [Bool.and_eq_true, Bool.and_eq_true, okQ_all]
  have e1 : liT f = true ↔ (if T = 2 ∨ T = 3 ∨ T = 4 ∨ T = 8 then f.data = ⟨#[]⟩ else if T = 6 then f.data.size = 8 else True) := by
    unfold liT
    rw [hT]
    by_cases h : T = 2 ∨ T = 3 ∨ T = 4 ∨ T = 8
    · rw [if_pos h, if_pos (by omega), empty_iff]
    · rw [if_neg h, if_neg (by omega)]
      by_cases h6 : T = 6
      · rw [if_pos h6, if_pos (by omega)]
        simp
      · rw [if_neg h6, if_neg (by omega)]
        simp
  rw [e1]
  refine and_congr_left fun _ => ?_
  rw [hT, hF]
  by_cases h : T = 4 ∧ X = 0
  · rw [if_pos h]
    obtain ⟨rfl, rfl⟩ := h
    simp
  · rw [if_neg h]
    constructor
    · rintro ⟨h1, _⟩
      by_cases hl : 0 < ps.length
      · rw [decide_eq_true hl] at h1
        have : (decide ((T : Int) ≠ 4) || decide ((X : Int) ≠ 0)) = true := by
          rw [Bool.or_eq_true, decide_eq_true_iff, decide_eq_true_iff]
          omega
        rw [this] at h1
        simp at h1
      · exact List.eq_nil_of_length_eq_zero (by omega)
    · rintro rfl
      simp

theorem right_iff (f : Fr) (ps : List (Int × Int)) : rtB f ps = true ↔ Right f ps := by
  by_cases hr : 0 ≤ f.ty ∧ f.ty < 256 ∧ 0 ≤ f.fl ∧ f.fl < 256
  · obtain ⟨r1, r2, r3, r4⟩ := hr
    obtain ⟨T, hT⟩ : ∃ T : Nat, f.ty = (T : Int) := ⟨f.ty.toNat, by omega⟩
    obtain ⟨X, hF⟩ : ∃ X : Nat, f.fl = (X : Int) := ⟨f.fl.toNat, by omega⟩
    have hX : X < 256 := by omega
    have hT2 : T < 256 := by omega
    obtain ⟨fa, fb⟩ := flags_fact X (min (T : Int) 10).toNat hX (by omega)
    rw [right_parts f ps T X hT hF hT2 hX]
    have hb : rtB f ps = true ↔ ((bits .andNot .i64 (X : Int) (kflags (min (T : Int) 10).toNat) = 0 ∧ ((0 ≤ f.st ∧ f.st ≤ 2147483647) ∧ srS T f.st = true)) ∧ rt2 f ps T X = true) := by
      unfold rtB bad1
      rw [show f.ty.toNat = T by omega, show f.fl.toNat = X by omega, hT, hF, ← wi_iff]
      rw [decide_eq_false (by omega : ¬ (T : Int) < 0), decide_eq_false (by omega : ¬ 255 < (T : Int)), decide_eq_false (by omega : ¬ (X : Int) < 0), decide_eq_false (by omega : ¬ 255 < (X : Int))]
      by_cases h5 : bits .andNot .i64 (X : Int) (kflags (min (T : Int) 10).toNat) = 0
      · rw [decide_eq_true h5]
        cases wiS f.st 2147483647 <;> cases srS T f.st <;> simp [h5]
      · rw [decide_eq_false h5]
        simp [h5]
    rw [hb, fa, st_iff]
    by_cases hfl : bits .and .i64 (X : Int) (kflags (min (T : Int) 10).toNat) = (X : Int)
    · obtain ⟨f8, f32, f1⟩ := fb hfl
      have hpd : padS f = mpS T X := by
        unfold padS mpS
        rw [hT, hF]
        rcases f8 with f8 | f8
        · by_cases h10 : 10 ≤ T
          · rw [decide_eq_false (by omega), decide_eq_false (by omega), decide_eq_false (by omega), decide_eq_false (by omega)]
            rfl
          · rw [decide_eq_true (by omega)]
            have : (decide (T = 0) || decide (T = 1) || decide (T = 5)) = true := by
              simp only [Bool.or_eq_true, decide_eq_true_eq]
              omega
            rw [this]
        · rw [f8, Bool.and_false, Bool.and_false]
      obtain ⟨⟨k1, k2, k3, k4⟩, hkd⟩ : ∃ q, kd (T : Int) (X : Int) = q := ⟨_, rfl⟩
      obtain ⟨g1, g2, g3, g4, g5, g6⟩ := kd_facts T X (by rcases f32 with h | h; exact h.elim (fun h => .inl (.inl (by omega))) (fun h => .inr (by omega)); exact .inl (.inr h)) (fun h4 => f1 (by omega)) k1 k2 k3 k4 hkd
      rw [hpd, hkd]
      have hb2 : rt2 f ps T X = true ↔ ((if mpS T X then 0 ≤ f.pad ∧ f.pad < 256 else f.pad = 0) ∧ BodyR k1 k4 f ps) := by
        have e1 : nuB f = true ↔ ((if T = 3 ∨ T = 7 then 0 ≤ f.code ∧ f.code < 4294967296 else f.code = 0) ∧ (if T = 5 ∨ T = 7 ∨ T = 8 then 0 ≤ f.last ∧ f.last < 2147483648 else f.last = 0)) := by
          unfold nuB nuC nuL
          rw [Bool.and_eq_true, wi_iff, wi_iff, hT]
          refine and_congr ?_ ?_
          · by_cases h : T = 3 ∨ T = 7
            · rw [if_pos h, if_pos (by omega)]; omega
            · rw [if_neg h, if_neg (by omega)]; omega
          · by_cases h : T = 5 ∨ T = 7 ∨ T = 8
            · rw [if_pos h, if_pos (by omega)]; omega
            · rw [if_neg h, if_neg (by omega)]; omega
        have e2 := li_iff f ps T X hT hF
        have e3 : (if wgS T X then wiS f.dep 2147483647 && (!decide (f.wt < 1) && !decide (256 < f.wt)) else decide (f.dep = 0) && (!f.excl && decide (f.wt = 0))) = true ↔ (if wgS T X = true then 0 ≤ f.dep ∧ f.dep < 2147483648 ∧ 1 ≤ f.wt ∧ f.wt ≤ 256 else f.dep = 0 ∧ f.excl = false ∧ f.wt = 0) := by
          cases wgS T X
          · simp
          · simp only [if_true, Bool.and_eq_true, wi_iff, Bool.not_eq_true', decide_eq_false_iff_not]
            omega
        have e4 : (wiS f.pad 255 = true ∧ (!decide (0 < f.pad) || mpS T X) = true) ↔ (if mpS T X then 0 ≤ f.pad ∧ f.pad < 256 else f.pad = 0) := by
          rw [wi_iff]
          cases mpS T X
          · simp
            omega
          · simp
            omega
        have p1 : (if k4 = 51 ∨ k4 = 54 then 0 ≤ f.dep ∧ f.dep < 2147483648 ∧ 1 ≤ f.wt ∧ f.wt ≤ 256 else f.dep = 0 ∧ f.excl = false ∧ f.wt = 0) ↔ (if wgS T X = true then 0 ≤ f.dep ∧ f.dep < 2147483648 ∧ 1 ≤ f.wt ∧ f.wt ≤ 256 else f.dep = 0 ∧ f.excl = false ∧ f.wt = 0) := by
          by_cases h : wgS T X = true
          · rw [if_pos h, if_pos (g1.2 h)]
          · rw [if_neg h, if_neg (fun h' => h (g1.1 h'))]
        have p2 : (if k4 = 56 ∨ k4 = 65 then 0 ≤ f.code ∧ f.code < 4294967296 else f.code = 0) ↔ (if T = 3 ∨ T = 7 then 0 ≤ f.code ∧ f.code < 4294967296 else f.code = 0) := by
          by_cases h : T = 3 ∨ T = 7
          · rw [if_pos h, if_pos (g2.2 h)]
          · rw [if_neg h, if_neg (fun h' => h (g2.1 h'))]
        have p3 : (if k4 = 61 ∨ k4 = 65 ∨ k4 = 67 then 0 ≤ f.last ∧ f.last < 2147483648 else f.last = 0) ↔ (if T = 5 ∨ T = 7 ∨ T = 8 then 0 ≤ f.last ∧ f.last < 2147483648 else f.last = 0) := by
          by_cases h : T = 5 ∨ T = 7 ∨ T = 8
          · rw [if_pos h, if_pos (g3.2 h)]
          · rw [if_neg h, if_neg (fun h' => h (g3.1 h'))]
        have p4 : (if k4 = 58 ∧ k1 = 70 then ∀ q ∈ ps, 0 ≤ q.1 ∧ q.1 < 65536 ∧ 0 ≤ q.2 ∧ q.2 < 4294967296 else ps = []) ↔ (if T = 4 ∧ X = 0 then ∀ q ∈ ps, 0 ≤ q.1 ∧ q.1 < 65536 ∧ 0 ≤ q.2 ∧ q.2 < 4294967296 else ps = []) := by
          by_cases h : T = 4 ∧ X = 0
          · rw [if_pos h, if_pos (g4.2 h)]
          · rw [if_neg h, if_neg (fun h' => h (g4.1 h'))]
        have p5 : (if k4 = 54 ∨ k4 = 56 ∨ k4 = 58 ∨ k4 = 67 then f.data = ⟨#[]⟩ else if k1 = 69 then f.data.size = 8 else True) ↔ (if T = 2 ∨ T = 3 ∨ T = 4 ∨ T = 8 then f.data = ⟨#[]⟩ else if T = 6 then f.data.size = 8 else True) := by
          by_cases h : T = 2 ∨ T = 3 ∨ T = 4 ∨ T = 8
          · rw [if_pos h, if_pos (g5.2 h)]
          · have hn : ¬ (k4 = 54 ∨ k4 = 56 ∨ k4 = 58 ∨ k4 = 67) := fun h' => h (g5.1 h')
            rw [if_neg h, if_neg hn]
            by_cases h6 : T = 6
            · rw [if_pos h6, if_pos ((g6 hn).2 h6)]
            · rw [if_neg h6, if_neg (fun h' => h6 ((g6 hn).1 h'))]
        unfold rt2 BodyR
        rw [p1, p2, p3, p4, p5, ← e3, ← e4]
        simp only [Bool.and_eq_true] at e1 e2 e3 ⊢
        rw [e1, e2]
        constructor
        · rintro ⟨a, b, c, ⟨d, e⟩, f1, g⟩
          exact ⟨⟨a, b⟩, c, d, e, f1, g⟩
        · rintro ⟨⟨a, b⟩, c, d, e, f1, g⟩
          exact ⟨a, b, c, ⟨d, e⟩, f1, g⟩
      rw [hb2]
      constructor
      · rintro ⟨⟨a, b⟩, c, d⟩
        exact ⟨a, b, c, d⟩
      · rintro ⟨a, b, c, d⟩
        exact ⟨⟨a, b⟩, c, d⟩
    · constructor
      · rintro ⟨⟨a, _⟩, _⟩
        exact absurd a hfl
      · rintro ⟨a, _⟩
        exact absurd a hfl
  · constructor
    · intro h
      exfalso
      unfold rtB at h
      have hb : bad1 f.ty f.fl f.st = true := by
        unfold bad1
        by_cases h1 : f.ty < 0
        · rw [decide_eq_true h1]; rfl
        by_cases h2 : 255 < f.ty
        · rw [decide_eq_true h2]; simp
        by_cases h3 : f.fl < 0
        · rw [decide_eq_true h3]; simp
        · rw [decide_eq_true (by omega : 255 < f.fl)]; simp
      rw [hb] at h
      simp at h
    · intro h
      exact absurd ⟨h.ty0, h.ty1, h.fl0, h.fl1⟩ hr
end Go.Proofs.YtjigjckclpccmaaDoor
