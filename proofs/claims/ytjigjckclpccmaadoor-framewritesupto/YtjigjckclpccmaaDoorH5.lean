/- What Made makes is right, plainly. -/
import Derived.Test.YtjigjckclpccmaaDoorH2
import Derived.Test.YtjigjckclpccmaaDoorR2
namespace Go.Proofs.YtjigjckclpccmaaDoor
open Go.RowKit
set_option linter.unusedVariables false
set_option linter.unusedSimpArgs false

/-- flags of any number, cut to a type's -/
theorem and_low (n : Int) (k : Nat) (hk : k < 256) : bits .and .i64 n (k : Int) = bits .and .i64 (n % 256) (k : Int) := by
  have e : (BitVec.ofInt 64 n) &&& (BitVec.ofInt 64 (k : Int)) = (BitVec.ofInt 64 (n % 256)) &&& (BitVec.ofInt 64 (k : Int)) := by
    apply BitVec.eq_of_toNat_eq
    rw [BitVec.toNat_and, BitVec.toNat_and]
    have hb : (BitVec.ofInt 64 (k : Int)).toNat = k := by rw [BitVec.ofInt_natCast, BitVec.toNat_ofNat]; exact Nat.mod_eq_of_lt (by omega)
    have ha : (BitVec.ofInt 64 n).toNat = (n % ((2 ^ 64 : Nat) : Int)).toNat := BitVec.toNat_ofInt n
    have ha' : (BitVec.ofInt 64 (n % 256)).toNat = (n % 256 % ((2 ^ 64 : Nat) : Int)).toNat := BitVec.toNat_ofInt (n % 256)
    rw [hb, ha, ha']
    have hm : (n % 256 % ((2 ^ 64 : Nat) : Int)).toNat = (n % ((2 ^ 64 : Nat) : Int)).toNat % 256 := by omega
    rw [hm]
    apply Nat.eq_of_testBit_eq
    intro i
    rw [Nat.testBit_and, Nat.testBit_and]
    by_cases hi : i < 8
    · rw [show (256 : Nat) = 2 ^ 8 from rfl, Nat.testBit_mod_two_pow]
      simp [hi]
    · have : k.testBit i = false := Nat.testBit_lt_two_pow (Nat.lt_of_lt_of_le hk (by rw [show (256 : Nat) = 2 ^ 8 from rfl]; exact Nat.pow_le_pow_right (by decide) (by omega)))
      simp [this]
  show IntKind.i64.wrap (((BitVec.ofInt 64 n) &&& (BitVec.ofInt 64 (k : Int))).toNat : Int) = IntKind.i64.wrap (((BitVec.ofInt 64 (n % 256)) &&& (BitVec.ofInt 64 (k : Int))).toNat : Int)
  rw [e]

theorem kflags_nat (i : Nat) (h : i < 11) : ∃ k : Nat, k < 256 ∧ kflags i = (k : Int) := by
  rcases (by omega : i = 0 ∨ i = 1 ∨ i = 2 ∨ i = 3 ∨ i = 4 ∨ i = 5 ∨ i = 6 ∨ i = 7 ∨ i = 8 ∨ i = 9 ∨ i = 10) with rfl | rfl | rfl | rfl | rfl | rfl | rfl | rfl | rfl | rfl | rfl
  · exact ⟨9, by omega, rfl⟩
  · exact ⟨45, by omega, rfl⟩
  · exact ⟨0, by omega, rfl⟩
  · exact ⟨0, by omega, rfl⟩
  · exact ⟨1, by omega, rfl⟩
  · exact ⟨12, by omega, rfl⟩
  · exact ⟨1, by omega, rfl⟩
  · exact ⟨0, by omega, rfl⟩
  · exact ⟨0, by omega, rfl⟩
  · exact ⟨4, by omega, rfl⟩
  · exact ⟨255, by omega, rfl⟩

theorem fl_facts (n : Int) (i : Nat) (h : i < 11) : bits .and .i64 (bits .and .i64 n (kflags i)) (kflags i) = bits .and .i64 n (kflags i) ∧ 0 ≤ bits .and .i64 n (kflags i) ∧ bits .and .i64 n (kflags i) < 256 ∧ ∃ x : Nat, x < 256 ∧ bits .and .i64 n (kflags i) = bits .and .i64 (x : Int) (kflags i) := by
  obtain ⟨k, hk, hk2⟩ := kflags_nat i h
  have e := and_low n k hk
  rw [← hk2] at e
  have hx : ((n % 256).toNat : Int) = n % 256 := by omega
  have ha := List.all_eq_true.1 and_twice_all i (by simpa using h)
  have hb := List.all_eq_true.1 ha (n % 256).toNat (by simp; omega)
  rw [Bool.and_eq_true, Bool.and_eq_true, decide_eq_true_eq, decide_eq_true_eq, decide_eq_true_eq, hx] at hb
  rw [e]
  exact ⟨hb.1.1, hb.1.2, hb.2, (n % 256).toNat, by omega, by rw [hx]⟩

theorem few_right (l : List (Int × Int)) : ∀ q ∈ fewS l, 0 ≤ q.1 ∧ q.1 < 65536 ∧ 0 ≤ q.2 ∧ q.2 < 4294967296 := by
  intro q hq
  simp only [fewS, List.mem_map] at hq
  obtain ⟨x, _, rfl⟩ := hq
  simp only
  omega

theorem hasF1 (X : Int) (h : X = 0 ∨ X = 1) : hasF X 1 = decide (X = 1) := by
  rcases h with rfl | rfl
  · decide +kernel
  · decide +kernel
theorem ack_all : ((List.range 256).all fun x => decide (bits .and .i64 (x : Int) (kflags 4) = 0 ∨ bits .and .i64 (x : Int) (kflags 4) = 1)) = true := by decide +kernel
theorem nopad_all : ((List.range 11).all fun n => (List.range 256).all fun x => !hasF (bits .and .i64 (x : Int) (kflags n)) 8 || n == 0 || n == 1 || n == 5 || n == 10) = true := by decide +kernel

theorem mD_size (T : Int) (f : Fr) : (mD T f).size ≤ 60000 := by
  unfold mD
  split
  · rw [ByteArray.size_extract]; omega
  · omega
theorem mD_none (T : Int) (f : Fr) (h : T = 2 ∨ T = 3 ∨ T = 4 ∨ T = 8) : mD T f = ⟨#[]⟩ := by
  have h0 : mD0 T f = ⟨#[]⟩ := by unfold mD0; rw [if_neg (by omega), if_neg (by omega)]
  unfold mD
  rw [h0, if_neg (by show ¬ 60000 < 0; omega)]
theorem mD_eight (f : Fr) : (mD 6 f).size = 8 := by
  have h0 : mD0 6 f = (f.data ++ zero8).extract 0 8 := by unfold mD0; rw [if_neg (by omega), if_pos rfl]
  have h1 : ((f.data ++ zero8).extract 0 8).size = 8 := by
    rw [ByteArray.size_extract, ByteArray.size_append]
    have : zero8.size = 8 := rfl
    omega
  unfold mD
  rw [h0, if_neg (by omega), h1]

/-- what Made makes is right -/
theorem made_right (f : Fr) (ps : List (Int × Int)) : Right (madeS f) (madeP (mT f) (mX f) ps) := by
  have hr := mT_range f
  obtain ⟨T, hT⟩ : ∃ T, mT f = T := ⟨_, rfl⟩
  obtain ⟨X, hX⟩ : ∃ X, mX f = X := ⟨_, rfl⟩
  have hki : (min T 10).toNat < 11 := by omega
  obtain ⟨x1, x2, x3, xb, x4, x5⟩ := fl_facts f.fl (min T 10).toNat hki
  have hX' : bits .and .i64 f.fl (kflags (min T 10).toNat) = X := by rw [← hX, ← hT]; rfl
  rw [hX'] at x1 x2 x3 x5
  unfold madeS
  rw [hT] at hr
  rw [hT, hX]
  have hnp : padS (madeG T X f) = true → T = 0 ∨ T = 1 ∨ T = 5 := by
    intro h
    unfold padS at h
    rw [Bool.and_eq_true, decide_eq_true_eq] at h
    obtain ⟨h1, h2⟩ := h
    have ha := List.all_eq_true.1 nopad_all (min T 10).toNat (by simpa using hki)
    have hb := List.all_eq_true.1 ha xb (by simpa using x4)
    rw [← x5] at hb
    replace h1 : T < 10 := h1
    replace h2 : hasF X 8 = true := h2
    rw [h2] at hb
    simp at hb
    omega
  refine ⟨hr.1, hr.2, x2, x3, x1, ?_, ?_, ?_, ?_⟩
  · show kfrom (min T 10).toNat ≤ (if (T < 4 ∨ T = 5 ∨ T = 9) ∧ mSt T f = 0 then 1 else mSt T f)
    have hm : 0 ≤ mSt T f := by unfold mSt; split <;> omega
    have hk0 := (kto_le (min T 10).toNat).1
    by_cases hc : T < 4 ∨ T = 5 ∨ T = 9
    · have h1 : kfrom (min T 10).toNat = 1 := by
        rcases (by omega : T = 0 ∨ T = 1 ∨ T = 2 ∨ T = 3 ∨ T = 5 ∨ T = 9) with rfl | rfl | rfl | rfl | rfl | rfl <;> rfl
      rw [h1]
      split <;> omega
    · have h1 : kfrom (min T 10).toNat = 0 := by
        rcases (by omega : T = 4 ∨ T = 6 ∨ T = 7 ∨ T = 8 ∨ 10 ≤ T) with rfl | rfl | rfl | rfl | hb
        · rfl
        · rfl
        · rfl
        · rfl
        · rw [show (min T 10).toNat = 10 by omega]; rfl
      rw [h1]
      split <;> omega
  · show (if (T < 4 ∨ T = 5 ∨ T = 9) ∧ mSt T f = 0 then 1 else mSt T f) ≤ kto (min T 10).toNat
    by_cases hc : T = 4 ∨ T = 6 ∨ T = 7
    · have h0 : mSt T f = 0 := by unfold mSt; rw [if_neg (by omega)]
      have h1 : kto (min T 10).toNat = 0 := by
        rcases hc with rfl | rfl | rfl <;> rfl
      rw [h1, if_neg (by omega), h0]
      omega
    · have h1 : kto (min T 10).toNat = 2147483647 := by
        rcases (by omega : T = 0 ∨ T = 1 ∨ T = 2 ∨ T = 3 ∨ T = 5 ∨ T = 8 ∨ T = 9 ∨ 10 ≤ T) with rfl | rfl | rfl | rfl | rfl | rfl | rfl | hb
        · rfl
        · rfl
        · rfl
        · rfl
        · rfl
        · rfl
        · rfl
        · rw [show (min T 10).toNat = 10 by omega]; rfl
      have hm : mSt T f ≤ 2147483647 := by unfold mSt; split <;> omega
      rw [h1]
      split <;> omega
  · show if padS (madeG T X f) then 0 ≤ (if (T = 0 ∨ T = 1 ∨ T = 5) ∧ hasF X 8 = true then f.pad % 256 else 0) ∧ (if (T = 0 ∨ T = 1 ∨ T = 5) ∧ hasF X 8 = true then f.pad % 256 else 0) < 256 else (if (T = 0 ∨ T = 1 ∨ T = 5) ∧ hasF X 8 = true then f.pad % 256 else 0) = 0
    by_cases hp : padS (madeG T X f) = true
    · rw [if_pos hp]
      split <;> omega
    · rw [if_neg hp, if_neg]
      rintro ⟨h1, h2⟩
      apply hp
      unfold padS
      rw [Bool.and_eq_true, decide_eq_true_eq]
      exact ⟨by show T < 10; omega, h2⟩
  · show BodyR (kd T X).1 (kd T X).2.2.2 (madeG T X f) (madeP T X ps)
    have hno : ¬ (T = 4 ∧ X = 0) → madeP T X ps = [] := fun h => by unfold madeP; rw [if_neg h]
    rcases (by omega : T = 0 ∨ T = 1 ∨ T = 2 ∨ T = 3 ∨ T = 4 ∨ T = 5 ∨ T = 6 ∨ T = 7 ∨ T = 8 ∨ T = 9 ∨ 10 ≤ T) with rfl | rfl | rfl | rfl | rfl | rfl | rfl | rfl | rfl | rfl | hb
    · rw [hno (by omega)]
      simp [kd, BodyR, madeG, mPr]
    · rw [hno (by omega)]
      cases h32 : hasF X 32
      · simp [kd, BodyR, madeG, mPr, h32]
      · simp [kd, BodyR, madeG, mPr, h32]
        omega
    · rw [hno (by omega)]
      simp [kd, BodyR, madeG, mPr, mD_none]
      omega
    · rw [hno (by omega)]
      simp [kd, BodyR, madeG, mPr, mD_none]
      omega
    · have hx : X = 0 ∨ X = 1 := by
        have ha := List.all_eq_true.1 ack_all xb (by simpa using x4)
        rw [decide_eq_true_eq] at ha
        rw [x5]
        exact ha
      rcases hx with rfl | rfl
      · have e : madeP 4 0 ps = fewS ps := rfl
        rw [e]
        have h1 : kd 4 0 = (70, 6, 57, 58) := by decide +kernel
        rw [h1]
        simp [BodyR, madeG, mPr, mD_none]
        exact fun a b h => few_right ps (a, b) h
      · rw [hno (by omega)]
        have h1 : kd 4 1 = (69, 0, 57, 58) := by decide +kernel
        rw [h1]
        simp [BodyR, madeG, mPr, mD_none]
    · rw [hno (by omega)]
      simp [kd, BodyR, madeG, mPr]
      omega
    · rw [hno (by omega)]
      simp [kd, BodyR, madeG, mPr, mD_eight]
    · rw [hno (by omega)]
      simp [kd, BodyR, madeG, mPr]
      omega
    · rw [hno (by omega)]
      simp [kd, BodyR, madeG, mPr, mD_none]
      omega
    · rw [hno (by omega)]
      simp [kd, BodyR, madeG, mPr]
    · rw [hno (by omega)]
      have h1 : kd T X = (68, 0, 62, 63) := by
        unfold kd
        rw [if_neg (by omega), if_neg (by omega), if_neg (by omega), if_neg (by omega), if_neg (by omega), if_neg (by omega), if_neg (by omega), if_neg (by omega)]
      have q1 : ¬ mPr T X := by unfold mPr; omega
      rw [h1]
      simp [BodyR, madeG, q1, show ¬ T = 3 by omega, show ¬ T = 7 by omega, show ¬ T = 5 by omega, show ¬ T = 8 by omega]

theorem payB_size (k : Nat) (f : Fr) (ps : List (Int × Int)) : (payB k f ps).length ≤ 8 + f.data.size + 6 * ps.length := by
  have hsz : f.data.data.toList.length = f.data.size := by simp
  have hp := prioB_length f
  unfold payB
  repeat' split
  all_goals
    simp only [List.length_append, be_length, parB_length, hsz, hp]
    omega

theorem made_small (f : Fr) (ps : List (Int × Int)) : (asmB (madeS f) (madeP (mT f) (mX f) ps)).size ≤ 65545 ∧ (madeS f).data.size ≤ 60000 := by
  have hd : (madeS f).data.size ≤ 60000 := mD_size _ f
  have hl : (madeP (mT f) (mX f) ps).length ≤ 2730 := by
    unfold madeP
    split
    · exact fewS_length ps
    · simp
  refine ⟨?_, hd⟩
  rw [asmB_size]
  obtain ⟨⟨k1, k2, k3, k4⟩, hkd⟩ : ∃ q, kd (madeS f).ty (madeS f).fl = q := ⟨_, rfl⟩
  have hp := payB_size k3 (madeS f) (madeP (mT f) (mX f) ps)
  cases hpad : padS (madeS f)
  · rw [whole_no hkd hpad]
    by_cases h4 : mT f = 4
    · have : (madeS f).data = ⟨#[]⟩ := mD_none _ f (by omega)
      have h0 : (madeS f).data.size = 0 := by rw [this]; rfl
      omega
    · have : madeP (mT f) (mX f) ps = [] := by unfold madeP; rw [if_neg (by omega)]
      rw [this] at hp ⊢
      simp at hp
      omega
  · rw [whole_pad hkd hpad, List.length_append, List.length_append, List.length_replicate]
    have h4 : ¬ mT f = 4 := by
      intro h4
      have := (made_right f ps).fl
      unfold padS at hpad
      rw [Bool.and_eq_true] at hpad
      have hx : (madeS f).fl = mX f := rfl
      rw [hx] at hpad
      have hxx : mX f = 0 ∨ mX f = 1 := by
        obtain ⟨_, _, _, xb, x4, x5⟩ := fl_facts f.fl 4 (by omega)
        have ha := List.all_eq_true.1 ack_all xb (by simpa using x4)
        rw [decide_eq_true_eq] at ha
        have e : mX f = bits .and .i64 f.fl (kflags 4) := by unfold mX; rw [h4]; rfl
        rw [e, x5]
        exact ha
      rcases hxx with h | h
      · rw [h] at hpad; exact absurd hpad.2 (by decide +kernel)
      · rw [h] at hpad; exact absurd hpad.2 (by decide +kernel)
    have : madeP (mT f) (mX f) ps = [] := by unfold madeP; rw [if_neg (by omega)]
    rw [this] at hp ⊢
    simp at hp ⊢
    omega
end Go.Proofs.YtjigjckclpccmaaDoor
