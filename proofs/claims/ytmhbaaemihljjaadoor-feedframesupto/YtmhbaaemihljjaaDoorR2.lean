/- Right frames: assemble and parse, plainly. -/
import Derived.Test.YtmhbaaemihljjaaDoorR1
namespace Go.Proofs.YtmhbaaemihljjaaDoor
open Go.RowKit
set_option linter.unusedVariables false
set_option linter.unusedSimpArgs false

theorem asmB_bt (f : Fr) (ps : List (Int × Int)) : asmB f ps = bt (headS f (wholeB f ps).length ++ wholeB f ps) := rfl
theorem asmB_size (f : Fr) (ps : List (Int × Int)) : (asmB f ps).size = 9 + (wholeB f ps).length := by rw [asmB_bt, bt_size, List.length_append, headS_length]
theorem head_list (f : Fr) (n : Nat) : headS f n = be 3 (n : Int) ++ (b8 f.ty :: b8 f.fl :: be 4 (f.st % 2147483648)) := by simp [headS]
theorem asm_ty (f : Fr) (ps : List (Int × Int)) (h0 : 0 ≤ f.ty) (h1 : f.ty < 256) : tyS (asmB f ps) = f.ty := by
  unfold tyS
  rw [asmB_bt, bt_at _ 3 (b8 f.ty) (by rw [head_list, be3]; rfl)]
  exact b8_nat _ h0 h1
theorem asm_flb (f : Fr) (ps : List (Int × Int)) (h0 : 0 ≤ f.fl) (h1 : f.fl < 256) : (byteAt (asmB f ps) 4 : Int) = f.fl := by
  rw [asmB_bt, bt_at _ 4 (b8 f.fl) (by rw [head_list, be3]; rfl)]
  exact b8_nat _ h0 h1
theorem asm_st (f : Fr) (ps : List (Int × Int)) (h0 : 0 ≤ f.st) (h1 : f.st < 2147483648) : stS (asmB f ps) = f.st := by
  have e : (asmB f ps).extract 5 9 = bt (be 4 (f.st % 2147483648)) := by
    rw [asmB_bt, head_list]
    have hs : be 3 ((wholeB f ps).length : Int) ++ (b8 f.ty :: b8 f.fl :: be 4 (f.st % 2147483648)) ++ wholeB f ps = (be 3 ((wholeB f ps).length : Int) ++ [b8 f.ty, b8 f.fl]) ++ (be 4 (f.st % 2147483648) ++ wholeB f ps) := by simp
    rw [hs]
    exact bt_mid _ _ _ 5 9 (by simp [be_length]) (by simp [be_length])
  unfold stS
  rw [e, num4 _ (by omega) (by omega)]
  omega
theorem asm_len (f : Fr) (ps : List (Int × Int)) (h : (wholeB f ps).length < 16777216) : numS ((asmB f ps).extract 0 3) = (wholeB f ps).length := by
  have e : (asmB f ps).extract 0 3 = bt (be 3 ((wholeB f ps).length : Int)) := by
    rw [asmB_bt, head_list, List.append_assoc]
    exact bt_front _ _ 3 (be_length _ _)
  rw [e, bt_num]
  have := num_be3 ((wholeB f ps).length : Int) (by omega) (by omega)
  omega
theorem asm_rest (f : Fr) (ps : List (Int × Int)) : (asmB f ps).extract 9 (asmB f ps).size = bt (wholeB f ps) := by
  rw [asmB_bt]
  exact bt_back _ _ 9 _ (headS_length _ _) (by rw [bt_size, List.length_append])

theorem whole_no {f : Fr} {ps : List (Int × Int)} {k1 : Nat} {k2 : Int} {k3 k4 : Nat} (hk : kd f.ty f.fl = (k1, k2, k3, k4)) (hp : padS f = false) : wholeB f ps = payB k3 f ps := by unfold wholeB; rw [hp, hk]; rfl
theorem whole_pad {f : Fr} {ps : List (Int × Int)} {k1 : Nat} {k2 : Int} {k3 k4 : Nat} (hk : kd f.ty f.fl = (k1, k2, k3, k4)) (hp : padS f = true) : wholeB f ps = [b8 f.pad] ++ (payB k3 f ps ++ List.replicate (f.pad % 256).toNat 0) := by unfold wholeB; rw [hp, hk, if_pos rfl, List.append_assoc]

/-- what is written of a right frame is read back -/
theorem parse_asm (f : Fr) (ps : List (Int × Int)) (h : Right f ps) : parseS (asmB f ps) = ((f, ps), 0, 0) := by
  have hst := kto_le (kiF f)
  have s0 := h.st0
  have s1 := h.st1
  have e1 := asm_ty f ps h.ty0 h.ty1
  have hki : kiS (asmB f ps) = kiF f := by unfold kiS kiF; rw [e1]
  have e2 : flS (asmB f ps) = f.fl := by unfold flS; rw [hki, asm_flb f ps h.fl0 h.fl1, h.fl]
  have e3 := asm_st f ps (by omega) (by omega)
  have e4 : pdS (asmB f ps) = padS f := by unfold pdS padS; rw [e1, e2]
  have h68 := pad68 (asmB f ps)
  unfold parseS
  rw [e1, e2, e4] at h68
  rw [e1, e2, e3, e4, hki, asm_rest]
  obtain ⟨⟨k1, k2, k3, k4⟩, hkd⟩ : ∃ q, kd f.ty f.fl = q := ⟨_, rfl⟩
  have hb := h.body
  rw [hkd] at hb h68
  obtain ⟨t1, t2⟩ := take_pay f ps hkd hb
  have hpad := h.pad
  unfold parseB
  rw [hkd, if_neg (by omega)]
  cases hp : padS f with
  | false =>
    rw [hp, if_neg (by decide)] at hpad
    rw [whole_no hkd hp]
    simp only [Bool.false_eq_true, if_false]
    have u1 : ftS k1 k2 (((bt (payB k3 f ps)).size : Int) - ((0 : Nat) : Int)) = true := by rw [bt_size, show ((payB k3 f ps).length : Int) - ((0 : Nat) : Int) = ((payB k3 f ps).length : Int) by omega]; exact t2
    have u2 : ftS k1 k2 (((bt (payB k3 f ps)).size : Int) - ((0 : Nat) : Int) - ((0 : Nat) : Int)) = true := by rw [bt_size, show ((payB k3 f ps).length : Int) - ((0 : Nat) : Int) - ((0 : Nat) : Int) = ((payB k3 f ps).length : Int) by omega]; exact t2
    rw [if_neg (by rw [u1]; decide), if_neg (by rw [u2]; decide), bt_all _ _ (by rw [bt_size]; omega)]
    rw [hpad] at t1
    exact Prod.ext t1 rfl
  | true =>
    rw [hp, if_pos rfl] at hpad
    obtain ⟨p0, p1⟩ := hpad
    have hk1 : k1 = 72 := h68 hp
    subst hk1
    have t3 : k2 ≤ ((payB k3 f ps).length : Int) := ft68 t2
    rw [whole_pad hkd hp]
    obtain ⟨n, hn⟩ : ∃ n : Nat, f.pad = (n : Int) := ⟨f.pad.toNat, by omega⟩
    have hn2 : (f.pad % 256).toNat = n := by omega
    have hat : byteAt (bt ([b8 f.pad] ++ (payB k3 f ps ++ List.replicate (f.pad % 256).toNat 0))) 0 = n := by
      rw [bt_at _ 0 (b8 f.pad) rfl]
      have := b8_nat f.pad p0 p1
      omega
    have hsz : (bt ([b8 f.pad] ++ (payB k3 f ps ++ List.replicate (f.pad % 256).toNat 0))).size = 1 + (payB k3 f ps).length + n := by
      rw [bt_size, List.length_append, List.length_append, List.length_replicate, hn2]
      simp
      omega
    simp only [if_true]
    rw [hat, hsz]
    have u1 : ftS 72 k2 (((1 + (payB k3 f ps).length + n : Nat) : Int) - ((1 : Nat) : Int)) = true := by simp [ftS]; omega
    have u2 : ftS 72 k2 (((1 + (payB k3 f ps).length + n : Nat) : Int) - (n : Int) - ((1 : Nat) : Int)) = true := by simp [ftS]; omega
    rw [if_neg (by rw [u1]; decide), if_neg (by rw [u2]; decide), bt_mid _ _ _ 1 _ rfl (by simp <;> omega), ← hn]
    exact Prod.ext t1 rfl

theorem numS_lt2 (b : ByteArray) (h : b.size ≤ 2) : numS b < 65536 := by
  have h1 := numL_lt b.data.toList
  have h2 : b.data.toList.length ≤ 2 := by simpa using h
  have h3 : 256 ^ b.data.toList.length ≤ 256 ^ 2 := Nat.pow_le_pow_right (by decide) h2
  unfold numS
  omega
theorem ext_le (b : ByteArray) (i j : Nat) : (b.extract i j).size ≤ j - i := by rw [ByteArray.size_extract]; omega

/-- a payload that is read is a right one, and as long when written -/
theorem take_right (g f : Fr) (P : ByteArray) (ps : List (Int × Int)) {ty fl : Int} {k1 : Nat} {k2 : Int} {k3 k4 : Nat} (hk : kd ty fl = (k1, k2, k3, k4)) (hg : g = ⟨g.ty, g.fl, g.st, ⟨#[]⟩, g.pad, 0, false, 0, 0, 0⟩) (hf : ftS k1 k2 (P.size : Int) = true) (ht : takeS k4 g P = (f, ps)) :
    BodyR k1 k4 f ps ∧ (payB k3 f ps).length = P.size ∧ f.ty = g.ty ∧ f.fl = g.fl ∧ f.st = g.st ∧ f.pad = g.pad := by
  have n4 := fun (i : Nat) => numS_lt4 (P.extract i (i + 4)) (by have := ext_le P i (i + 4); omega)
  have hsz : ∀ b : ByteArray, b.data.toList.length = b.size := fun b => by simp
  rcases kd_cases ty fl with h | h | h | h | h | h | h | h | h | h
  all_goals
    rw [h] at hk
    simp only [Prod.mk.injEq] at hk
    obtain ⟨rfl, rfl, rfl, rfl⟩ := hk
    first | replace hf := ft70 hf | replace hf := ft68 hf | replace hf := ft69 hf
    simp only [takeS, reduceIte, Nat.reduceEqDiff, Prod.mk.injEq] at ht
    obtain ⟨rfl, rfl⟩ := ht
    simp only [BodyR, payB, reduceIte, Nat.reduceEqDiff, or_self, or_true, true_or, false_or, or_false, and_self, and_true, true_and, and_false, false_and]
    rw [hg]
  · have := byteAt_lt (P.extract 0 5) 4
    simp [dataS, prioS, prioB_length, ByteArray.size_extract]
    omega
  · have := byteAt_lt P 4
    simp [dataS, prioS, prioB_length]
    omega
  · have := numS_lt4 P (by omega)
    simp [codeS, be_length]
    omega
  · obtain rfl : P = ⟨#[]⟩ := ByteArray.ext (Array.eq_empty_of_size_eq_zero (by simpa using hf))
    simp [prmS, parB, ByteArray.size]
  · refine ⟨?_, ?_⟩
    · simp only [and_self, and_true, true_and]
      intro q hq
      simp only [prmS, List.mem_map, List.mem_range] at hq
      obtain ⟨i, hi, rfl⟩ := hq
      have a := numS_lt2 (P.extract (6 * i) (6 * i + 2)) (by have := ext_le P (6 * i) (6 * i + 2); omega)
      have b := numS_lt4 (P.extract (6 * i + 2) (6 * i + 6)) (by have := ext_le P (6 * i + 2) (6 * i + 6); omega)
      simp only
      omega
    · rw [parB_length]
      simp [prmS]
      omega
  · have := numS_lt4 (P.extract 0 4) (by have := ext_le P 0 4; omega)
    simp [dataS, lastS, be_length, ByteArray.size_extract]
    omega
  · simp [dataS]
    omega
  · have := numS_lt4 (P.extract 4 8) (by have := ext_le P 4 8; omega)
    simp [dataS, lastS, codeS, be_length, ByteArray.size_extract]
    omega
  · simp [lastS, be_length]
    omega
  · simp [dataS]

theorem and_twice_all : ((List.range 11).all fun n => (List.range 256).all fun x => decide (bits .and .i64 (bits .and .i64 (x : Int) (kflags n)) (kflags n) = bits .and .i64 (x : Int) (kflags n)) && decide (0 ≤ bits .and .i64 (x : Int) (kflags n)) && decide (bits .and .i64 (x : Int) (kflags n) < 256)) = true := by decide +kernel
theorem and_twice (b : ByteArray) : bits .and .i64 (flS b) (kflags (kiS b)) = flS b ∧ 0 ≤ flS b ∧ flS b < 256 := by
  have hk : kiS b < 11 := by unfold kiS tyS; omega
  have ha := List.all_eq_true.1 and_twice_all (kiS b) (by simpa using hk)
  have hb := List.all_eq_true.1 ha (byteAt b 4) (by simpa using byteAt_lt b 4)
  rw [Bool.and_eq_true, Bool.and_eq_true, decide_eq_true_eq, decide_eq_true_eq, decide_eq_true_eq] at hb
  unfold flS
  exact ⟨hb.1.1, hb.1.2, hb.2⟩

/-- what is read is right, and as long when written again -/
theorem parse_right (b : ByteArray) (f : Fr) (ps : List (Int × Int)) (hb : 9 ≤ b.size) (h : parseS b = ((f, ps), 0, 0)) : Right f ps ∧ (asmB f ps).size = b.size ∧ f.ty = tyS b ∧ f.fl = flS b := by
  unfold parseS at h
  obtain ⟨⟨k1, k2, k3, k4⟩, hkd⟩ : ∃ q, kd (tyS b) (flS b) = q := ⟨_, rfl⟩
  have h68 := pad68 b
  rw [hkd] at h h68
  obtain ⟨R, hR⟩ : ∃ R, b.extract 9 b.size = R := ⟨_, rfl⟩
  have hRs : R.size = b.size - 9 := by rw [← hR, ByteArray.size_extract]; omega
  rw [hR] at h
  unfold parseB at h
  by_cases c1 : stS b < kfrom (kiS b) ∨ kto (kiS b) < stS b
  · rw [if_pos c1] at h; simp at h
  rw [if_neg c1] at h
  by_cases c2 : ftS k1 k2 ((R.size : Int) - ((if pdS b then 1 else 0 : Nat) : Int)) = false
  · rw [if_pos c2] at h; simp at h
  rw [if_neg c2] at h
  by_cases c3 : ftS k1 k2 ((R.size : Int) - ((if pdS b then byteAt R 0 else 0 : Nat) : Int) - ((if pdS b then 1 else 0 : Nat) : Int)) = false
  · rw [if_pos c3] at h; simp at h
  rw [if_neg c3] at h
  have ht := congrArg Prod.fst h
  simp only at ht
  obtain ⟨a1, a2, a3⟩ := and_twice b
  have hty : 0 ≤ tyS b ∧ tyS b < 256 := by unfold tyS; have := byteAt_lt b 3; omega
  have fin : ∀ P : ByteArray, ftS k1 k2 (P.size : Int) = true → ∀ pd : Nat, (pdS b = true → pd < 256) → (pdS b = false → pd = 0) → P.size + pd + (if pdS b then 1 else 0) = R.size →
      takeS k4 ⟨tyS b, flS b, stS b, ⟨#[]⟩, (pd : Int), 0, false, 0, 0, 0⟩ P = (f, ps) → Right f ps ∧ (asmB f ps).size = b.size ∧ f.ty = tyS b ∧ f.fl = flS b := by
    intro P hP pd hpd hpd0 hsz hT
    obtain ⟨r1, r2, r3, r4, r5, r6⟩ := take_right _ f P ps hkd rfl hP hT
    have hki : kiF f = kiS b := by unfold kiF kiS; rw [r3]
    have hps : padS f = pdS b := by unfold padS pdS; rw [r3, r4]
    refine ⟨⟨by rw [r3]; exact hty.1, by rw [r3]; exact hty.2, by rw [r4]; exact a2, by rw [r4]; exact a3, by rw [r4, hki]; exact a1, by rw [r5, hki]; show _ ≤ stS b; omega, by rw [r5, hki]; show stS b ≤ _; omega, ?_, ?_⟩, ?_, r3, r4⟩
    · rw [hps, r6]
      cases hp : pdS b with
      | true => rw [if_pos rfl]; have := hpd hp; show 0 ≤ (pd : Int) ∧ (pd : Int) < 256; omega
      | false => rw [if_neg (by decide)]; have := hpd0 hp; show (pd : Int) = 0; omega
    · rw [r3, r4]
      show BodyR (kd (tyS b) (flS b)).1 (kd (tyS b) (flS b)).2.2.2 f ps
      rw [hkd]
      exact r1
    · have hkf : kd f.ty f.fl = (k1, k2, k3, k4) := by rw [r3, r4]; exact hkd
      rw [asmB_size]
      cases hp : pdS b with
      | true =>
        rw [hp, if_pos rfl] at hsz
        have hpd' := hpd hp
        have e6 : (f.pad % 256).toNat = pd := by rw [r6]; show ((pd : Int) % 256).toNat = pd; omega
        rw [whole_pad hkf (hps.trans hp), List.length_append, List.length_append, List.length_replicate, e6, r2]
        simp
        omega
      | false =>
        rw [hp, if_neg (by decide)] at hsz
        have := hpd0 hp
        rw [whole_no hkf (hps.trans hp), r2]
        omega
  cases hp : pdS b with
  | false =>
    rw [hp] at c3 ht
    simp only [Bool.false_eq_true, if_false] at c3 ht
    refine fin (R.extract 0 (R.size - 0)) ?_ 0 (fun _ => by omega) (fun _ => rfl) ?_ ht
    · rw [ByteArray.size_extract]
      have : ftS k1 k2 ((R.size : Int) - ((0 : Nat) : Int) - ((0 : Nat) : Int)) = true := by simpa using c3
      rw [show (R.size : Int) - ((0 : Nat) : Int) - ((0 : Nat) : Int) = (R.size : Int) by omega] at this
      rw [show ((min (R.size - 0) R.size - 0 : Nat) : Int) = (R.size : Int) by omega]
      exact this
    · rw [hp, ByteArray.size_extract]
      simp
  | true =>
    have hk1 : k1 = 72 := h68 hp
    subst hk1
    rw [hp] at c3 ht
    simp only [if_true] at c3 ht
    have c3' : k2 ≤ (R.size : Int) - (byteAt R 0 : Int) - ((1 : Nat) : Int) := ft68 (by simpa using c3)
    have hk2 := kd_nonneg hkd
    have hlt := byteAt_lt R 0
    refine fin (R.extract 1 (R.size - byteAt R 0)) ?_ (byteAt R 0) (fun _ => hlt) (fun e => by rw [hp] at e; cases e) ?_ ht
    · rw [ByteArray.size_extract]
      simp [ftS]
      omega
    · rw [hp, ByteArray.size_extract]
      simp
      omega
end Go.Proofs.YtmhbaaemihljjaaDoor
