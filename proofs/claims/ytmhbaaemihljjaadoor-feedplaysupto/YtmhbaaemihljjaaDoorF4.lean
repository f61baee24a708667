/- The document's read, whole. -/
import Derived.Test.YtmhbaaemihljjaaDoorF1
import Derived.Test.YtmhbaaemihljjaaDoorF3
namespace Go.Proofs.YtmhbaaemihljjaaDoor
open Go.RowKit
set_option linter.unusedVariables false
set_option linter.unusedSimpArgs false

/-- what is told of a frame whose stream and length are right -/
def rdS (T X : Nat) (S : Int) (P : ByteArray) (pd : Bool) : (Fr × List (Int × Int)) × Int × Int × Int :=
  if ftS (kd (T : Int) (X : Int)).1 (kd (T : Int) (X : Int)).2.1 ((P.size : Int) - ((if pd then byteAt P 0 else 0 : Nat) : Int) - ((if pd then 1 else 0 : Nat) : Int)) = false then ((Fr.zero, []), 0, 1, 0)
  else (takeS (kd (T : Int) (X : Int)).2.2.2 ⟨(T : Int), (X : Int), S, ⟨#[]⟩, ((if pd then byteAt P 0 else 0 : Nat) : Int), 0, false, 0, 0, 0⟩ (P.extract (if pd then 1 else 0) (P.size - (if pd then byteAt P 0 else 0))), ((9 + P.size : Nat) : Int), 0, 0)

theorem rd_plain (T X : Nat) (S : Int) (P : ByteArray) (hX : X < 256) (hPs : P.size ≤ 65536) (hpd : (decide ((T : Int) < 10) && hasF (X : Int) 8) = false)
    (hl : ftS (kd (T : Int) (X : Int)).1 (kd (T : Int) (X : Int)).2.1 (P.size : Int) = true) (w : World) :
    Calls Tryd.prog 48 #[.agg #[.int .i64 (T : Int), .int .i64 (X : Int), .int .i64 S, .string ⟨#[]⟩, .int .i64 0, .int .i64 0, .bool false, .int .i64 0, .int .i64 0, .int .i64 0, .slice none 0 0], .string P] w fun e w' => RPost w (rdS T X S P false) e w' := by
  have hr : rdS T X S P false = (takeS (kd (T : Int) (X : Int)).2.2.2 ⟨(T : Int), (X : Int), S, ⟨#[]⟩, 0, 0, false, 0, 0, 0⟩ P, ((9 + P.size : Nat) : Int), 0, 0) := by
    unfold rdS
    simp only [Bool.false_eq_true, if_false, Int.natCast_zero, Int.sub_zero, Nat.sub_zero]
    rw [if_neg (by rw [hl]; simp)]
    simp
  rw [hr]
  clear hr
  have hmp : mpS T X = false := by
    unfold mpS
    by_cases h : hasF (X : Int) 8 = true
    · rw [h, Bool.and_true] at hpd
      simp at hpd
      rw [h]
      simp
      omega
    · simp at h; rw [h]; simp
  rcases cases_T T with rfl | rfl | rfl | rfl | rfl | rfl | rfl | rfl | rfl | rfl | hT
  rotate_left 10
  · rw [kd_big T _ hT]
    exact rr_data T X S P P 0 0 w hX hPs hmp (by simp [wgS]; omega) (by simp; omega) (by simp; omega) (by simp; omega) (by simp; omega) (by simp; omega) rfl
  · have e : kd ((0 : Nat) : Int) (X : Int) = (72, 0, 62, 63) := by simp [kd]
    rw [e]
    exact rr_data 0 X S P P 0 0 w hX hPs hmp (by simp [wgS]) (by decide) (by decide) (by decide) (by decide) (by decide) rfl
  · by_cases h32 : hasF (X : Int) 32 = true
    · have e : kd ((1 : Nat) : Int) (X : Int) = (72, 5, 50, 51) := by simp [kd, h32]
      rw [e] at hl ⊢
      have := ft68 hl
      try dsimp only at this
      exact rr_h X S P P 0 0 w hX hPs hmp (by simp [wgS, h32]) rfl (by omega)
    · simp at h32
      have e : kd ((1 : Nat) : Int) (X : Int) = (72, 0, 62, 63) := by simp [kd, h32]
      rw [e]
      exact rr_data 1 X S P P 0 0 w hX hPs hmp (by simp [wgS, h32]) (by decide) (by decide) (by decide) (by decide) (by decide) rfl
  · have e : kd ((2 : Nat) : Int) (X : Int) = (73, 5, 53, 54) := by simp [kd]
    rw [e] at hl ⊢
    have := ft69 hl
    try dsimp only at this
    exact rr_p2 X S P P 0 0 w hX hPs hmp (by simp [wgS]) rfl (by omega)
  · have e : kd ((3 : Nat) : Int) (X : Int) = (73, 4, 55, 56) := by simp [kd]
    rw [e] at hl ⊢
    have := ft69 hl
    try dsimp only at this
    exact rr_r3 X S P P 0 0 w hX hPs hmp (by simp [wgS]) rfl (by omega)
  · by_cases h1 : hasF (X : Int) 1 = true
    · have e : kd ((4 : Nat) : Int) (X : Int) = (73, 0, 57, 58) := by simp [kd, h1]
      rw [e] at hl ⊢
      have := ft69 hl
      try dsimp only at this
      exact rr_s4 X S P w hX hPs (by omega)
    · simp at h1
      have e : kd ((4 : Nat) : Int) (X : Int) = (74, 6, 57, 58) := by simp [kd, h1]
      rw [e] at hl ⊢
      have := ft70 hl
      try dsimp only at this
      exact rr_s4 X S P w hX hPs (by omega)
  · have e : kd ((5 : Nat) : Int) (X : Int) = (72, 4, 60, 61) := by simp [kd]
    rw [e] at hl ⊢
    have := ft68 hl
    try dsimp only at this
    exact rr_p5 X S P P 0 0 w hX hPs hmp (by simp [wgS]) rfl (by omega)
  · have e : kd ((6 : Nat) : Int) (X : Int) = (73, 8, 62, 63) := by simp [kd]
    rw [e]
    exact rr_data 6 X S P P 0 0 w hX hPs hmp (by simp [wgS]) (by decide) (by decide) (by decide) (by decide) (by decide) rfl
  · have e : kd ((7 : Nat) : Int) (X : Int) = (72, 8, 64, 65) := by simp [kd]
    rw [e] at hl ⊢
    have := ft68 hl
    try dsimp only at this
    exact rr_g7 X S P P 0 0 w hX hPs hmp (by simp [wgS]) rfl (by omega)
  · have e : kd ((8 : Nat) : Int) (X : Int) = (73, 4, 66, 67) := by simp [kd]
    rw [e] at hl ⊢
    have := ft69 hl
    try dsimp only at this
    exact rr_w8 X S P P 0 0 w hX hPs hmp (by simp [wgS]) rfl (by omega)
  · have e : kd ((9 : Nat) : Int) (X : Int) = (72, 0, 62, 63) := by simp [kd]
    rw [e]
    exact rr_data 9 X S P P 0 0 w hX hPs hmp (by simp [wgS]) (by decide) (by decide) (by decide) (by decide) (by decide) rfl

theorem rd_padded (T X : Nat) (S : Int) (P : ByteArray) (hX : X < 256) (hPs : P.size ≤ 65536) (h8 : hasF (X : Int) 8 = true) (hT : T = 0 ∨ T = 1 ∨ T = 5) (k2 : Int)
    (hl : ftS 72 k2 ((P.size : Int) - 1) = true) (hk2 : (kd (T : Int) (X : Int)).2.1 = k2) (hk1 : (kd (T : Int) (X : Int)).1 = 72) (hA : (ahS T X : Int) = 1 + k2) (hk0 : 0 ≤ k2) (w : World) :
    Calls Tryd.prog 48 #[.agg #[.int .i64 (T : Int), .int .i64 (X : Int), .int .i64 S, .string ⟨#[]⟩, .int .i64 0, .int .i64 0, .bool false, .int .i64 0, .int .i64 0, .int .i64 0, .slice none 0 0], .string P] w fun e w' => RPost w (rdS T X S P true) e w' := by
  have h1 := ft68 hl
  have hP0 : 0 < P.size := by omega
  have hmp : mpS T X = true := by unfold mpS; rw [h8]; rcases hT with rfl | rfl | rfl <;> rfl
  obtain ⟨Pd, hPd⟩ : ∃ Pd, P[0].toNat = Pd := ⟨_, rfl⟩
  have hb : byteAt P 0 = Pd := by rw [byteAt_eq P 0 hP0]; exact hPd
  unfold rdS
  simp only [if_true, hb, hk1, hk2, Int.natCast_one]
  by_cases hB : ftS 72 k2 ((P.size : Int) - (Pd : Int) - 1) = true
  · have h2 := ft68 hB
    obtain ⟨D, hD⟩ : ∃ D : Nat, (P.size : Int) - (Pd : Int) = (D : Int) := ⟨P.size - Pd, by omega⟩
    rw [if_neg (by rw [hB]; simp), show P.size - Pd = D by omega]
    have hsz : (P.extract 1 D).size = D - 1 := by rw [ByteArray.size_extract]; omega
    rcases hT with rfl | rfl | rfl
    · have e : kd ((0 : Nat) : Int) (X : Int) = (72, 0, 62, 63) := by simp [kd]
      rw [e]
      exact rr_dataP 0 X S P _ Pd D w hX hPs hmp (by simp [wgS]) (by decide) (by decide) (by decide) (by decide) (by decide) hP0 hPd hD (by omega) (by omega) rfl
    · by_cases h32 : hasF (X : Int) 32 = true
      · have e : kd ((1 : Nat) : Int) (X : Int) = (72, 5, 50, 51) := by simp [kd, h32]
        rw [e] at hk2 ⊢
        simp at hk2
        exact rr_hP X S P _ Pd D w hX hPs hmp (by simp [wgS, h32]) hP0 hPd hD (by omega) (by omega) rfl (by omega)
      · simp at h32
        have e : kd ((1 : Nat) : Int) (X : Int) = (72, 0, 62, 63) := by simp [kd, h32]
        rw [e]
        exact rr_dataP 1 X S P _ Pd D w hX hPs hmp (by simp [wgS, h32]) (by decide) (by decide) (by decide) (by decide) (by decide) hP0 hPd hD (by omega) (by omega) rfl
    · have e : kd ((5 : Nat) : Int) (X : Int) = (72, 4, 60, 61) := by simp [kd]
      rw [e] at hk2 ⊢
      simp at hk2
      exact rr_p5P X S P _ Pd D w hX hPs hmp (by simp [wgS]) hP0 hPd hD (by omega) (by omega) rfl (by omega)
  · have hB' : ftS 72 k2 ((P.size : Int) - (Pd : Int) - 1) = false := by simpa using hB
    rw [if_pos hB']
    have h2 : ¬ k2 ≤ (P.size : Int) - (Pd : Int) - 1 := by simpa [ftS] using hB'
    exact rr_bad T X S P Pd _ w hX hPs hmp hP0 hPd rfl (by omega) (by omega)
end Go.Proofs.YtmhbaaemihljjaaDoor
