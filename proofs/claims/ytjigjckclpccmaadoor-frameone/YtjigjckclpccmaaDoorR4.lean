/- What Read tells, plainly: whatever bytes it reads. -/
import Derived.Test.YtjigjckclpccmaaDoorR3
import Derived.Test.YtjigjckclpccmaaDoorW1
import Derived.Test.YtjigjckclpccmaaDoorH5
namespace Go.Proofs.YtjigjckclpccmaaDoor
open Go.RowKit
set_option linter.unusedVariables false
set_option linter.unusedSimpArgs false

/-- a fault of parse -/
theorem parse_why (b : ByteArray) (hc : (parseS b).2.1 ≠ 0) (hx : (parseS b).2.2 ≠ 0) : (parseS b).2.1 = 6 ∧ 0 < (parseS b).2.2 ∧ tyS b = 2 := by
  revert hc hx
  unfold parseS parseB
  by_cases c1 : stS b < kfrom (kiS b) ∨ kto (kiS b) < stS b
  · rw [if_pos c1]
    intro _ h
    exact absurd rfl h
  rw [if_neg c1]
  by_cases c2 : ftS (kd (tyS b) (flS b)).1 (kd (tyS b) (flS b)).2.1 (((b.extract 9 b.size).size : Int) - ((if pdS b then 1 else 0 : Nat) : Int)) = false
  · rw [if_pos c2]
    intro _ h
    by_cases h2 : tyS b = 2
    · have hk : kfrom (kiS b) = 1 := by unfold kiS; rw [h2]; rfl
      rw [if_pos h2] at h ⊢
      refine ⟨rfl, ?_, h2⟩
      show 0 < stS b
      omega
    · exact absurd (by show (if tyS b = 2 then stS b else 0) = 0; rw [if_neg h2]) h
  rw [if_neg c2]
  by_cases c3 : ftS (kd (tyS b) (flS b)).1 (kd (tyS b) (flS b)).2.1 (((b.extract 9 b.size).size : Int) - ((if pdS b then byteAt (b.extract 9 b.size) 0 else 0 : Nat) : Int) - ((if pdS b then 1 else 0 : Nat) : Int)) = false
  · rw [if_pos c3]
    intro _ h
    exact absurd rfl h
  rw [if_neg c3]
  intro h
  exact absurd rfl h

theorem byteAt_ext (b : ByteArray) (n i : Nat) (h : i < n) : byteAt (b.extract 0 n) i = byteAt b i := by
  unfold byteAt
  by_cases hb : i < b.size
  · have h1 : i < (b.extract 0 n).size := by rw [ByteArray.size_extract]; omega
    rw [dif_pos h1, dif_pos hb]
    simp [ByteArray.getElem_extract]
  · have h1 : ¬ i < (b.extract 0 n).size := by rw [ByteArray.size_extract]; omega
    rw [dif_neg h1, dif_neg hb]

/-- Read's cases -/
theorem read_cases (b : ByteArray) (most : Int) :
    (readS b most).2.1 = 0 ∨
    (∃ N : Nat, numS (b.extract 0 3) = N ∧ 9 + N ≤ b.size ∧ N ≤ 65536 ∧ (N : Int) ≤ min (max most 16384) 65536 ∧ (readS b most).2.1 = ((9 + N : Nat) : Int) ∧
      ((readS b most).2.2 = (0, 0) ∧ parseS (b.extract 0 (9 + N)) = ((readS b most).1, 0, 0) ∨ (readS b most).2.2.1 = 6 ∧ 0 < (readS b most).2.2.2 ∧ byteAt b 3 = 2)) := by
  obtain ⟨N, hN⟩ : ∃ N, numS (b.extract 0 3) = N := ⟨_, rfl⟩
  obtain ⟨q, hq⟩ : ∃ q, parseS (b.extract 0 (9 + N)) = q := ⟨_, rfl⟩
  have hdef : readS b most = if b.size < 9 then ((Fr.zero, []), 0, 0, 0) else if min (max most 16384) 65536 < (N : Int) then ((Fr.zero, []), 0, 6, 0) else if b.size < 9 + N then ((Fr.zero, []), 0, 0, 0) else if q.2.1 ≠ 0 ∧ q.2.2 = 0 then ((Fr.zero, []), 0, q.2) else (q.1, ((9 + N : Nat) : Int), q.2) := by
    unfold readS
    rw [hN, hq]
  obtain ⟨r, hr⟩ : ∃ r, readS b most = r := ⟨_, rfl⟩
  rw [hr] at hdef ⊢
  clear hr
  by_cases h9 : b.size < 9
  · rw [if_pos h9] at hdef; rw [hdef]; exact .inl rfl
  rw [if_neg h9] at hdef
  by_cases hl : min (max most 16384) 65536 < (N : Int)
  · rw [if_pos hl] at hdef; rw [hdef]; exact .inl rfl
  rw [if_neg hl] at hdef
  by_cases hw : b.size < 9 + N
  · rw [if_pos hw] at hdef; rw [hdef]; exact .inl rfl
  rw [if_neg hw] at hdef
  by_cases hf : q.2.1 ≠ 0 ∧ q.2.2 = 0
  · rw [if_pos hf] at hdef; rw [hdef]; exact .inl rfl
  rw [if_neg hf] at hdef
  refine .inr ⟨N, hN, by omega, by omega, by omega, by rw [hdef], ?_⟩
  rw [hq, hdef]
  by_cases hc : q.2.1 = 0
  · have hx : q.2.2 = 0 := by rw [← hq] at hc ⊢; exact parse_fault _ hc
    exact .inl ⟨Prod.ext hc hx, Prod.ext rfl (Prod.ext hc hx)⟩
  · have hx : q.2.2 ≠ 0 := fun e => hf ⟨hc, e⟩
    rw [← hq] at hc hx
    obtain ⟨h1, h2, h3⟩ := parse_why _ hc hx
    rw [hq] at h1 h2
    refine .inr ⟨h1, h2, ?_⟩
    unfold tyS at h3
    rw [byteAt_ext _ _ _ (by omega)] at h3
    omega

/-- a right frame that Made keeps as it is -/
def wholeW (f : Fr) : Int := if 0 < f.wt then (if f.excl then f.wt - 1 + 256 else f.wt - 1) else f.wt
def wholeF (f : Fr) : Fr := { f with excl := decide (f.ty < 10), wt := wholeW f }

theorem hasF256 : ((List.range 512).all fun x => decide (hasF (x : Int) 256 = decide (256 ≤ x))) = true := by decide +kernel

theorem body_frame {f g : Fr} (h1 : f.ty = g.ty) (h2 : f.fl = g.fl) (h3 : f.st = g.st) (h4 : f.data = g.data) (h5 : f.pad = g.pad) (h6 : f.dep = g.dep) (h7 : f.excl = g.excl) (h8 : f.wt = g.wt) (h9 : f.code = g.code) (h10 : f.last = g.last) : f = g := by
  cases f
  cases g
  simp_all

theorem made_whole (f : Fr) (ps : List (Int × Int)) (hR : Right f ps) (hd : f.data.size ≤ 60000) (hl : ps.length ≤ 2730) : madeS (wholeF f) = f ∧ madeP (mT (wholeF f)) (mX (wholeF f)) ps = ps := by
  have t0 := hR.ty0
  have t1 := hR.ty1
  have f0 := hR.fl0
  have f1 := hR.fl1
  have hT : mT (wholeF f) = f.ty := by
    unfold mT wholeF
    by_cases h : f.ty < 10
    · simp only [h, decide_true, if_true]; omega
    · simp only [h, decide_false, Bool.false_eq_true, if_false]; omega
  have hX : mX (wholeF f) = f.fl := by
    unfold mX
    rw [hT]
    exact hR.fl
  unfold madeS
  rw [hT, hX]
  have s0 := hR.st0
  have s1 := hR.st1
  have kl := kto_le (kiF f)
  have hpad := hR.pad
  obtain ⟨b1, b2, b3, b4, b5⟩ := hR.body
  have hst : ∀ T : Int, T = f.ty → (if (T < 4 ∨ T = 5 ∨ T = 9) ∧ mSt T (wholeF f) = 0 then 1 else mSt T (wholeF f)) = f.st := by
    rintro T rfl
    have hm : mSt f.ty (wholeF f) = f.st := by
      unfold mSt
      show (if f.ty < 4 ∨ f.ty = 5 ∨ 7 < f.ty then f.st % 2147483648 else 0) = f.st
      by_cases h : f.ty < 4 ∨ f.ty = 5 ∨ 7 < f.ty
      · rw [if_pos h]; omega
      · rw [if_neg h]
        have hk : kto (kiF f) = 0 := by
          unfold kiF
          rcases (by omega : f.ty = 4 ∨ f.ty = 6 ∨ f.ty = 7) with h' | h' | h' <;> rw [h'] <;> rfl
        omega
    rw [hm]
    by_cases h : f.ty < 4 ∨ f.ty = 5 ∨ f.ty = 9
    · have hk : kfrom (kiF f) = 1 := by
        unfold kiF
        rcases (by omega : f.ty = 0 ∨ f.ty = 1 ∨ f.ty = 2 ∨ f.ty = 3 ∨ f.ty = 5 ∨ f.ty = 9) with h' | h' | h' | h' | h' | h' <;> rw [h'] <;> rfl
      rw [if_neg (by omega)]
    · rw [if_neg (by omega)]
  have hpd : (if (f.ty = 0 ∨ f.ty = 1 ∨ f.ty = 5) ∧ hasF f.fl 8 = true then f.pad % 256 else 0) = f.pad := by
    by_cases hp : padS f = true
    · rw [if_pos hp] at hpad
      have hp' := hp
      unfold padS at hp'
      rw [Bool.and_eq_true, decide_eq_true_eq] at hp'
      have h68 := pad68 (asmB f ps)
      have ha := List.all_eq_true.1 nopad_all (kiF f) (by unfold kiF; simp; omega)
      obtain ⟨_, _, _, xb, x4, x5⟩ := fl_facts f.fl (kiF f) (by unfold kiF; omega)
      have hb := List.all_eq_true.1 ha xb (by simpa using x4)
      rw [← x5, hR.fl, hp'.2] at hb
      simp at hb
      unfold kiF at hb
      rw [if_pos ⟨by omega, hp'.2⟩]
      omega
    · rw [if_neg hp] at hpad
      rw [if_neg, hpad]
      rintro ⟨h1, h2⟩
      apply hp
      unfold padS
      rw [Bool.and_eq_true, decide_eq_true_eq]
      exact ⟨by omega, h2⟩
  have hD : ∀ D : ByteArray, mD0 f.ty (wholeF f) = D → D.size ≤ 60000 → mD f.ty (wholeF f) = D := by
    rintro D rfl h
    unfold mD
    rw [if_neg (by omega)]
  have wf : ∀ x : Nat, x < 512 → hasF (x : Int) 256 = decide (256 ≤ x) := fun x hx => by
    have := List.all_eq_true.1 hasF256 x (by simpa using hx)
    simpa using this
  have hw : ∀ (_ : 1 ≤ f.wt) (_ : f.wt ≤ 256), hasF (wholeW f) 256 = f.excl ∧ wholeW f % 256 + 1 = f.wt := by
    intro w0 w1
    unfold wholeW
    rw [if_pos (by omega)]
    cases he : f.excl with
    | true =>
      rw [if_pos rfl]
      have := wf (f.wt - 1 + 256).toNat (by omega)
      rw [show (((f.wt - 1 + 256).toNat : Nat) : Int) = f.wt - 1 + 256 by omega] at this
      rw [this]
      exact ⟨decide_eq_true (by omega), by omega⟩
    | false =>
      rw [if_neg (by decide)]
      have := wf (f.wt - 1).toNat (by omega)
      rw [show (((f.wt - 1).toNat : Nat) : Int) = f.wt - 1 by omega] at this
      rw [this]
      exact ⟨decide_eq_false (by omega), by omega⟩
  have hz : (⟨#[]⟩ : ByteArray).size ≤ 60000 := by decide
  have few_eq : (∀ q ∈ ps, 0 ≤ q.1 ∧ q.1 < 65536 ∧ 0 ≤ q.2 ∧ q.2 < 4294967296) → fewS ps = ps := by
    intro h
    unfold fewS
    rw [List.take_of_length_le hl]
    conv => rhs; rw [← List.map_id ps]
    apply List.map_congr_left
    intro q hq
    have := h q hq
    apply Prod.ext
    · simp only [id]; omega
    · simp only [id]; omega
  rcases (by omega : f.ty = 0 ∨ f.ty = 1 ∨ f.ty = 2 ∨ f.ty = 3 ∨ f.ty = 4 ∨ f.ty = 5 ∨ f.ty = 6 ∨ f.ty = 7 ∨ f.ty = 8 ∨ f.ty = 9 ∨ 10 ≤ f.ty) with h | h | h | h | h | h | h | h | h | h | h
  · simp [kd, h] at b1 b2 b3 b4 b5
    refine ⟨body_frame rfl rfl (hst _ rfl) (hD _ (by simp [mD0, h, wholeF]) hd) hpd ?_ ?_ ?_ ?_ ?_, by simp [madeP, h, b4]⟩ <;> simp [madeG, mPr, h, wholeF, b1, b2, b3]
  · cases h32 : hasF f.fl 32
    · simp [kd, h, h32] at b1 b2 b3 b4 b5
      refine ⟨body_frame rfl rfl (hst _ rfl) (hD _ (by simp [mD0, h, wholeF]) hd) hpd ?_ ?_ ?_ ?_ ?_, by simp [madeP, h, b4]⟩ <;> simp [madeG, mPr, h, h32, wholeF, b1, b2, b3]
    · simp [kd, h, h32] at b1 b2 b3 b4 b5
      obtain ⟨w2, w3⟩ := hw (by omega) (by omega)
      have hdep : f.dep % 2147483648 = f.dep := by omega
      refine ⟨body_frame rfl rfl (hst _ rfl) (hD _ (by simp [mD0, h, wholeF]) hd) hpd ?_ ?_ ?_ ?_ ?_, by simp [madeP, h, b4]⟩ <;> simp [madeG, mPr, h, h32, wholeF, b2, b3, w2, w3, hdep]
  · simp [kd, h] at b1 b2 b3 b4 b5
    obtain ⟨w2, w3⟩ := hw (by omega) (by omega)
    have hdep : f.dep % 2147483648 = f.dep := by omega
    refine ⟨body_frame rfl rfl (hst _ rfl) (by rw [b5]; exact hD _ (by simp [mD0, h]) hz) hpd ?_ ?_ ?_ ?_ ?_, by simp [madeP, h, b4]⟩ <;> simp [madeG, mPr, h, wholeF, b2, b3, w2, w3, hdep]
  · simp [kd, h] at b1 b2 b3 b4 b5
    have hcode : f.code % 4294967296 = f.code := by omega
    refine ⟨body_frame rfl rfl (hst _ rfl) (by rw [b5]; exact hD _ (by simp [mD0, h]) hz) hpd ?_ ?_ ?_ ?_ ?_, by simp [madeP, h, b4]⟩ <;> simp [madeG, mPr, h, wholeF, b1, b3, hcode]
  · have hx : f.fl = 0 ∨ f.fl = 1 := by
      obtain ⟨_, _, _, xb, x4, x5⟩ := fl_facts f.fl 4 (by omega)
      have ha := List.all_eq_true.1 ack_all xb (by simpa using x4)
      rw [decide_eq_true_eq] at ha
      have e := hR.fl
      have hk : kiF f = 4 := by unfold kiF; rw [h]; rfl
      rw [hk] at e
      rw [← e, x5]
      exact ha
    rcases hx with hx | hx
    · have h1 : kd f.ty f.fl = (70, 6, 57, 58) := by rw [h, hx]; decide +kernel
      rw [h1] at b1 b2 b3 b4 b5
      simp at b1 b2 b3 b4 b5
      have hq : fewS ps = ps := few_eq fun q hq => b4 q.1 q.2 hq
      refine ⟨body_frame rfl rfl (hst _ rfl) (by rw [b5]; exact hD _ (by simp [mD0, h]) hz) hpd ?_ ?_ ?_ ?_ ?_, by simp [madeP, h, hx, hq]⟩ <;> simp [madeG, mPr, h, wholeF, b1, b2, b3]
    · have h1 : kd f.ty f.fl = (69, 0, 57, 58) := by rw [h, hx]; decide +kernel
      rw [h1] at b1 b2 b3 b4 b5
      simp at b1 b2 b3 b4 b5
      refine ⟨body_frame rfl rfl (hst _ rfl) (by rw [b5]; exact hD _ (by simp [mD0, h]) hz) hpd ?_ ?_ ?_ ?_ ?_, by simp [madeP, h, hx, b4]⟩ <;> simp [madeG, mPr, h, wholeF, b1, b2, b3]
  · simp [kd, h] at b1 b2 b3 b4 b5
    have hlast : f.last % 2147483648 = f.last := by omega
    refine ⟨body_frame rfl rfl (hst _ rfl) (hD _ (by simp [mD0, h, wholeF]) hd) hpd ?_ ?_ ?_ ?_ ?_, by simp [madeP, h, b4]⟩ <;> simp [madeG, mPr, h, wholeF, b1, b2, hlast]
  · simp [kd, h] at b1 b2 b3 b4 b5
    have h8 : (f.data ++ zero8).extract 0 8 = f.data := by rw [ext_app _ _ _ _ (by omega), ext_full _ _ (by omega)]
    refine ⟨body_frame rfl rfl (hst _ rfl) (hD _ (by simp [mD0, h, wholeF, h8]) hd) hpd ?_ ?_ ?_ ?_ ?_, by simp [madeP, h, b4]⟩ <;> simp [madeG, mPr, h, wholeF, b1, b2, b3]
  · simp [kd, h] at b1 b2 b3 b4 b5
    have hlast : f.last % 2147483648 = f.last := by omega
    have hcode : f.code % 4294967296 = f.code := by omega
    refine ⟨body_frame rfl rfl (hst _ rfl) (hD _ (by simp [mD0, h, wholeF]) hd) hpd ?_ ?_ ?_ ?_ ?_, by simp [madeP, h, b4]⟩ <;> simp [madeG, mPr, h, wholeF, b1, hlast, hcode]
  · simp [kd, h] at b1 b2 b3 b4 b5
    have hlast : f.last % 2147483648 = f.last := by omega
    refine ⟨body_frame rfl rfl (hst _ rfl) (by rw [b5]; exact hD _ (by simp [mD0, h]) hz) hpd ?_ ?_ ?_ ?_ ?_, by simp [madeP, h, b4]⟩ <;> simp [madeG, mPr, h, wholeF, b1, b2, hlast]
  · simp [kd, h] at b1 b2 b3 b4 b5
    refine ⟨body_frame rfl rfl (hst _ rfl) (hD _ (by simp [mD0, h, wholeF]) hd) hpd ?_ ?_ ?_ ?_ ?_, by simp [madeP, h, b4]⟩ <;> simp [madeG, mPr, h, wholeF, b1, b2, b3]
  · have h1 : kd f.ty f.fl = (68, 0, 62, 63) := by
      unfold kd
      rw [if_neg (by omega), if_neg (by omega), if_neg (by omega), if_neg (by omega), if_neg (by omega), if_neg (by omega), if_neg (by omega), if_neg (by omega)]
    rw [h1] at b1 b2 b3 b4 b5
    simp at b1 b2 b3 b4 b5
    have q1 : ¬ mPr f.ty f.fl := by unfold mPr; omega
    refine ⟨body_frame rfl rfl (hst _ rfl) (hD _ (by unfold mD0; rw [if_pos (by omega)]; rfl) hd) hpd ?_ ?_ ?_ ?_ ?_, by unfold madeP; rw [if_neg (by omega)]; exact b4.symm⟩ <;> simp [madeG, q1, wholeF, b1, b2, b3, show ¬ f.ty = 3 by omega, show ¬ f.ty = 7 by omega, show ¬ f.ty = 5 by omega, show ¬ f.ty = 8 by omega]

theorem num3 (b : ByteArray) (h : 3 ≤ b.size) : numS (b.extract 0 3) = byteAt b 0 * 65536 + byteAt b 1 * 256 + byteAt b 2 := by
  have e : (b.extract 0 3).data.toList = b.data.toList.take 3 := by
    rw [ByteArray.data_extract, Array.toList_extract, List.extract_eq_take_drop]
    rfl
  have h2 := take_num b 2 (by omega)
  have h1 := take_num b 1 (by omega)
  have h0 := take_num b 0 (by omega)
  unfold numS
  rw [e, h2, h1, h0, byteAt_eq b 0 (by omega), byteAt_eq b 1 (by omega), byteAt_eq b 2 (by omega)]
  simp [numL]
  omega

theorem asm_bytes (f : Fr) (ps : List (Int × Int)) (b : ByteArray) (h3 : 9 ≤ b.size) (hN : (wholeB f ps).length = numS (b.extract 0 3)) (ht : f.ty = (byteAt b 3 : Int)) (i : Nat) (hi : i < 4) : byteAt (asmB f ps) i = byteAt b i := by
  have h0 := byteAt_lt b 0
  have h1 := byteAt_lt b 1
  have h2 := byteAt_lt b 2
  have h4 := byteAt_lt b 3
  rw [num3 b (by omega)] at hN
  rw [asmB_bt]
  rcases (by omega : i = 0 ∨ i = 1 ∨ i = 2 ∨ i = 3) with rfl | rfl | rfl | rfl
  · rw [bt_at _ 0 (UInt8.ofNat (((wholeB f ps).length : Int) / 65536 % 256).toNat) (by rw [head_list, be3]; rfl), u8_nat]
    omega
  · rw [bt_at _ 1 (UInt8.ofNat (((wholeB f ps).length : Int) / 256 % 256).toNat) (by rw [head_list, be3]; rfl), u8_nat]
    omega
  · rw [bt_at _ 2 (UInt8.ofNat (((wholeB f ps).length : Int) % 256).toNat) (by rw [head_list, be3]; rfl), u8_nat]
    omega
  · rw [bt_at _ 3 (b8 f.ty) (by rw [head_list, be3]; rfl)]
    have := b8_nat f.ty (by omega) (by omega)
    omega

theorem take_data (k4 : Nat) (g : Fr) (hg : g.data = ⟨#[]⟩) (P : ByteArray) : (takeS k4 g P).1.data = ⟨#[]⟩ ∨ ∃ o, (takeS k4 g P).1.data = P.extract o P.size := by
  unfold takeS
  repeat' split
  · exact .inr ⟨5, rfl⟩
  · exact .inl hg
  · exact .inl hg
  · exact .inl hg
  · exact .inr ⟨4, rfl⟩
  · exact .inr ⟨8, rfl⟩
  · exact .inl hg
  · exact .inr ⟨0, by simp [dataS]⟩

/-- the data lies among the bytes -/
theorem parse_data (b : ByteArray) (f : Fr) (ps : List (Int × Int)) (h9 : 9 ≤ b.size) (h : parseS b = ((f, ps), 0, 0)) : f.data = ⟨#[]⟩ ∨ ∃ i, i + f.data.size ≤ (b.extract 9 b.size).size ∧ (b.extract 9 b.size).extract i (i + f.data.size) = f.data := by
  unfold parseS at h
  obtain ⟨R, hR⟩ : ∃ R, b.extract 9 b.size = R := ⟨_, rfl⟩
  rw [hR] at h ⊢
  unfold parseB at h
  by_cases c1 : stS b < kfrom (kiS b) ∨ kto (kiS b) < stS b
  · rw [if_pos c1] at h; simp at h
  rw [if_neg c1] at h
  by_cases c2 : ftS (kd (tyS b) (flS b)).1 (kd (tyS b) (flS b)).2.1 ((R.size : Int) - ((if pdS b then 1 else 0 : Nat) : Int)) = false
  · rw [if_pos c2] at h; simp at h
  rw [if_neg c2] at h
  by_cases c3 : ftS (kd (tyS b) (flS b)).1 (kd (tyS b) (flS b)).2.1 ((R.size : Int) - ((if pdS b then byteAt R 0 else 0 : Nat) : Int) - ((if pdS b then 1 else 0 : Nat) : Int)) = false
  · rw [if_pos c3] at h; simp at h
  rw [if_neg c3] at h
  have ht := congrArg (fun q => q.1.1.data) h
  simp only at ht
  rcases take_data (kd (tyS b) (flS b)).2.2.2 ⟨tyS b, flS b, stS b, ⟨#[]⟩, ((if pdS b then byteAt R 0 else 0 : Nat) : Int), 0, false, 0, 0, 0⟩ rfl (R.extract (if pdS b then 1 else 0) (R.size - (if pdS b then byteAt R 0 else 0))) with hd | ⟨o, hd⟩
  · exact .inl (ht.symm.trans hd)
  · have hd' := ht.symm.trans hd
    obtain ⟨a, ha⟩ : ∃ a, (if pdS b then 1 else 0 : Nat) = a := ⟨_, rfl⟩
    obtain ⟨c, hc⟩ : ∃ c, R.size - (if pdS b then byteAt R 0 else 0) = c := ⟨_, rfl⟩
    rw [ha, hc] at hd'
    have hcl : c ≤ R.size := by omega
    rw [ByteArray.extract_extract] at hd'
    have hmin : min (a + (R.extract a c).size) c = c ∨ c < a := by
      rw [ByteArray.size_extract]
      omega
    by_cases hlt : a + o < c
    · have hm : min (a + (R.extract a c).size) c = c := by omega
      rw [hm] at hd'
      have hs : f.data.size = c - (a + o) := by rw [hd', ByteArray.size_extract]; omega
      refine .inr ⟨a + o, by omega, ?_⟩
      rw [hs, show a + o + (c - (a + o)) = c by omega, hd']
    · refine .inl ?_
      rw [hd']
      apply ByteArray.ext
      apply Array.eq_empty_of_size_eq_zero
      have : (R.extract (a + o) (min (a + (R.extract a c).size) c)).size = 0 := by rw [ByteArray.size_extract]; omega
      exact this
end Go.Proofs.YtjigjckclpccmaaDoor
