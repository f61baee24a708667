import Derived.Test.YtfmljlflnpmceaaGreatDoorVr
import Derived.Test.YtfmljlflnpmceaaGreatDoorVv
import Derived.Test.YtfmljlflnpmceaaGreatDoorFCa
/- Right frames, plainly: what is written is read back. -/
namespace Go.Proofs.YtfmljlflnpmceaaGreatDoor.Fm
open Go.RowKit
set_option linter.unusedVariables false
set_option linter.unusedSimpArgs false

/-- bytes as a text -/
def bt (l : List UInt8) : ByteArray := ⟨l.toArray⟩
theorem bt_size (l : List UInt8) : (bt l).size = l.length := by simp [bt, ByteArray.size]
theorem bt_list (l : List UInt8) : (bt l).data.toList = l := by simp [bt]
theorem bt_data (b : ByteArray) : bt b.data.toList = b := by simp [bt]
theorem bt_ext (l : List UInt8) (i j : Nat) : (bt l).extract i j = bt ((l.drop i).take (j - i)) := by
  apply ByteArray.ext
  rw [ByteArray.data_extract]
  simp [bt, List.extract_eq_take_drop]
theorem bt_num (l : List UInt8) : numS (bt l) = numL l := by rw [numS, bt_list]
theorem bt_at (l : List UInt8) (i : Nat) (x : UInt8) (h : l[i]? = some x) : byteAt (bt l) i = x.toNat := by
  obtain ⟨hi, hx⟩ := List.getElem?_eq_some_iff.1 h
  rw [byteAt_eq _ _ (by rw [bt_size]; exact hi), ← hx]
  simp [bt, ByteArray.getElem_eq_getElem_data]

theorem be2 (v : Int) : be 2 v = [UInt8.ofNat (v / 256 % 256).toNat, UInt8.ofNat (v % 256).toNat] := by
  simp [be, List.range_succ]
theorem be3 (v : Int) : be 3 v = [UInt8.ofNat (v / 65536 % 256).toNat, UInt8.ofNat (v / 256 % 256).toNat, UInt8.ofNat (v % 256).toNat] := by
  simp [be, List.range_succ]
theorem be4 (v : Int) : be 4 v = [UInt8.ofNat (v / 16777216 % 256).toNat, UInt8.ofNat (v / 65536 % 256).toNat, UInt8.ofNat (v / 256 % 256).toNat, UInt8.ofNat (v % 256).toNat] := by
  simp [be, List.range_succ]
theorem u8_nat (x : Int) : (UInt8.ofNat (x % 256).toNat).toNat = (x % 256).toNat := by
  rw [UInt8.toNat_ofNat']
  omega
theorem num_be2 (v : Int) (h0 : 0 ≤ v) (h1 : v < 65536) : (numL (be 2 v) : Int) = v := by
  rw [be2]
  simp only [numL, List.foldl_cons, List.foldl_nil, u8_nat]
  omega
theorem num_be4 (v : Int) (h0 : 0 ≤ v) (h1 : v < 4294967296) : (numL (be 4 v) : Int) = v := by
  rw [be4]
  simp only [numL, List.foldl_cons, List.foldl_nil, u8_nat]
  omega
theorem b8_nat (x : Int) (h0 : 0 ≤ x) (h1 : x < 256) : ((b8 x).toNat : Int) = x := by
  unfold b8
  rw [u8_nat]
  omega

/-- a part in the middle -/
theorem bt_mid (a b c : List UInt8) (i j : Nat) (hi : a.length = i) (hj : a.length + b.length = j) : (bt (a ++ (b ++ c))).extract i j = bt b := by
  rw [bt_ext, List.drop_append_of_le_length (by omega), List.drop_of_length_le (by omega), List.nil_append, List.take_append_of_le_length (by omega), List.take_of_length_le (by omega)]
theorem bt_front (b c : List UInt8) (j : Nat) (hj : b.length = j) : (bt (b ++ c)).extract 0 j = bt b := bt_mid [] b c 0 j rfl (by simpa using hj)
theorem bt_back (a b : List UInt8) (i j : Nat) (hi : a.length = i) (hj : a.length + b.length = j) : (bt (a ++ b)).extract i j = bt b := by
  have h := bt_mid a b [] i j hi hj
  rwa [List.append_nil] at h
theorem bt_all (b : List UInt8) (j : Nat) (hj : b.length = j) : (bt b).extract 0 j = bt b := bt_back [] b 0 j rfl (by simpa using hj)

/-- the fields that a kind of payload has, in their ranges, the others zero -/
def BodyR (k1 k4 : Nat) (f : Fr) (ps : List (Int × Int)) : Prop :=
  (if k4 = 92 ∨ k4 = 95 then 0 ≤ f.dep ∧ f.dep < 2147483648 ∧ 1 ≤ f.wt ∧ f.wt ≤ 256 else f.dep = 0 ∧ f.excl = false ∧ f.wt = 0) ∧
  (if k4 = 97 ∨ k4 = 106 then 0 ≤ f.code ∧ f.code < 4294967296 else f.code = 0) ∧
  (if k4 = 102 ∨ k4 = 106 ∨ k4 = 108 then 0 ≤ f.last ∧ f.last < 2147483648 else f.last = 0) ∧
  (if k4 = 99 ∧ k1 = 118 then ∀ q ∈ ps, 0 ≤ q.1 ∧ q.1 < 65536 ∧ 0 ≤ q.2 ∧ q.2 < 4294967296 else ps = []) ∧
  (if k4 = 95 ∨ k4 = 97 ∨ k4 = 99 ∨ k4 = 108 then f.data = ⟨#[]⟩ else if k1 = 117 then f.data.size = 8 else True)

def kiF (f : Fr) : Nat := (min f.ty 10).toNat
structure Right (f : Fr) (ps : List (Int × Int)) : Prop where
  ty0 : 0 ≤ f.ty
  ty1 : f.ty < 256
  fl0 : 0 ≤ f.fl
  fl1 : f.fl < 256
  fl : bits .and .i64 f.fl (kflags (kiF f)) = f.fl
  st0 : kfrom (kiF f) ≤ f.st
  st1 : f.st ≤ kto (kiF f)
  pad : if padS f then 0 ≤ f.pad ∧ f.pad < 256 else f.pad = 0
  body : BodyR (kd f.ty f.fl).1 (kd f.ty f.fl).2.2.2 f ps

theorem kto_le (i : Nat) : 0 ≤ kfrom i ∧ kto i ≤ 2147483647 := by
  rcases (by omega : i = 0 ∨ i = 1 ∨ i = 2 ∨ i = 3 ∨ i = 4 ∨ i = 5 ∨ i = 6 ∨ i = 7 ∨ i = 8 ∨ i = 9 ∨ i = 10 ∨ 11 ≤ i) with rfl | rfl | rfl | rfl | rfl | rfl | rfl | rfl | rfl | rfl | rfl | h
  all_goals first
    | decide
    | (unfold kfrom kto
       rw [List.getD_eq_getElem?_getD, List.getD_eq_getElem?_getD, List.getElem?_eq_none (by simpa using h), List.getElem?_eq_none (by simpa using h)]
       decide)

theorem prm_par (ps : List (Int × Int)) (h : ∀ q ∈ ps, 0 ≤ q.1 ∧ q.1 < 65536 ∧ 0 ≤ q.2 ∧ q.2 < 4294967296) : prmS (bt (parB ps)) ps.length = ps := by
  apply List.ext_getElem
  · simp [prmS]
  · intro i h1 h2
    have hs : parB ps = parB (ps.take i) ++ (be 2 ps[i].1 ++ (be 4 ps[i].2 ++ parB (ps.drop (i + 1)))) := by
      have e : ps = ps.take i ++ ps[i] :: ps.drop (i + 1) := by simp
      refine (congrArg parB e).trans ?_
      unfold parB
      rw [List.flatMap_append, List.flatMap_cons]
      simp only [List.append_assoc]
    have hl : (parB (ps.take i)).length = 6 * i := by rw [parB_length, List.length_take]; omega
    obtain ⟨q0, q1, q2, q3⟩ := h ps[i] (List.getElem_mem h2)
    have e1 : (bt (parB ps)).extract (6 * i) (6 * i + 2) = bt (be 2 ps[i].1) := by
      rw [hs]; exact bt_mid _ _ _ _ _ hl (by rw [hl, be_length])
    have e2 : (bt (parB ps)).extract (6 * i + 2) (6 * i + 6) = bt (be 4 ps[i].2) := by
      rw [hs, ← List.append_assoc]; exact bt_mid _ _ _ _ _ (by rw [List.length_append, hl, be_length]) (by rw [List.length_append, hl, be_length, be_length])
    simp only [prmS, List.getElem_map, List.getElem_range, e1, e2, bt_num, num_be2 _ q0 q1, num_be4 _ q2 q3]

theorem depS_val (f : Fr) (h0 : 0 ≤ f.dep) (h1 : f.dep < 2147483648) : depS f = f.dep + (if f.excl then 2147483648 else 0) := by
  unfold depS
  rw [Int.emod_eq_of_lt h0 h1]

theorem prio_back (f g : Fr) (h0 : 0 ≤ f.dep) (h1 : f.dep < 2147483648) (h2 : 1 ≤ f.wt) (h3 : f.wt ≤ 256) : prioS g (bt (prioB f)) = { g with dep := f.dep, excl := f.excl, wt := f.wt } := by
  have e1 : (bt (prioB f)).extract 0 4 = bt (be 4 (depS f)) := bt_front _ _ _ (be_length _ _)
  have e2 : (byteAt (bt (prioB f)) 4 : Int) = f.wt - 1 := by
    rw [bt_at _ 4 (b8 (f.wt - 1)) (by rw [prioB, be4]; rfl)]
    exact b8_nat _ (by omega) (by omega)
  have hd := depS_val f h0 h1
  have hn : ((numS ((bt (prioB f)).extract 0 4) : Nat) : Int) = depS f := by
    rw [e1, bt_num, num_be4]
    · rw [hd]; split <;> omega
    · rw [hd]; split <;> omega
  unfold prioS
  rw [e2]
  cases he : f.excl with
  | true =>
    rw [he, if_pos rfl] at hd
    have a1 : ((numS ((bt (prioB f)).extract 0 4) % 2147483648 : Nat) : Int) = f.dep := by omega
    have a2 : decide (2147483648 ≤ numS ((bt (prioB f)).extract 0 4)) = true := decide_eq_true (by omega)
    rw [a1, a2, show f.wt - 1 + 1 = f.wt by omega]
  | false =>
    rw [he, if_neg (by decide)] at hd
    have a1 : ((numS ((bt (prioB f)).extract 0 4) % 2147483648 : Nat) : Int) = f.dep := by omega
    have a2 : decide (2147483648 ≤ numS ((bt (prioB f)).extract 0 4)) = false := decide_eq_false (by omega)
    rw [a1, a2, show f.wt - 1 + 1 = f.wt by omega]

theorem num4 (v : Int) (h0 : 0 ≤ v) (h1 : v < 4294967296) : (numS (bt (be 4 v)) : Int) = v := by rw [bt_num, num_be4 v h0 h1]
theorem last_back (f g : Fr) (h0 : 0 ≤ f.last) (h1 : f.last < 2147483648) : lastS g (bt (be 4 (f.last % 2147483648))) = { g with last := f.last } := by
  have h := num4 (f.last % 2147483648) (by omega) (by omega)
  unfold lastS
  rw [show ((numS (bt (be 4 (f.last % 2147483648))) % 2147483648 : Nat) : Int) = f.last by omega]
theorem code_back (f g : Fr) (h0 : 0 ≤ f.code) (h1 : f.code < 4294967296) : codeS g (bt (be 4 f.code)) = { g with code := f.code } := by
  unfold codeS
  rw [num4 _ h0 h1]
theorem prioB_length (f : Fr) : (prioB f).length = 5 := by simp [prioB, be_length]
/-- a payload that is written is read back -/
theorem take_pay (f : Fr) (ps : List (Int × Int)) {k1 : Nat} {k2 : Int} {k3 k4 : Nat} (hk : kd f.ty f.fl = (k1, k2, k3, k4)) (hB : BodyR k1 k4 f ps) :
    takeS k4 ⟨f.ty, f.fl, f.st, ⟨#[]⟩, f.pad, 0, false, 0, 0, 0⟩ (bt (payB k3 f ps)) = (f, ps) ∧ ftS k1 k2 ((payB k3 f ps).length : Int) = true := by
  obtain ⟨b1, b2, b3, b4, b5⟩ := hB
  have hsz : f.data.data.toList.length = f.data.size := by simp
  rcases kd_cases f.ty f.fl with h | h | h | h | h | h | h | h | h | h
  all_goals
    rw [h] at hk
    simp only [Prod.mk.injEq] at hk
    obtain ⟨rfl, rfl, rfl, rfl⟩ := hk
    simp only [reduceIte, Nat.reduceEqDiff, or_self, or_true, true_or, false_or, or_false, and_self, and_true, true_and, and_false, false_and] at b1 b2 b3 b4 b5
    simp only [takeS, payB, reduceIte, Nat.reduceEqDiff]
  · rw [bt_front _ _ 5 (prioB_length f), bt_back _ _ 5 _ (prioB_length f) (by rw [bt_size, List.length_append]), bt_data, prio_back f _ b1.1 b1.2.1 b1.2.2.1 b1.2.2.2]
    refine ⟨?_, by simp [ftS, prioB_length] <;> omega⟩
    subst b4
    cases f
    simp_all [dataS]
  · rw [prio_back f _ b1.1 b1.2.1 b1.2.2.1 b1.2.2.2]
    refine ⟨?_, by simp [ftS, prioB_length]⟩
    subst b4
    cases f
    simp_all
  · rw [code_back f _ b2.1 b2.2]
    refine ⟨?_, by simp [ftS, be_length]⟩
    subst b4
    cases f
    simp_all
  · subst b4
    refine ⟨?_, by simp [ftS, parB]⟩
    cases f
    have hz : (bt (parB [])).size / 6 = 0 := by rw [bt_size, parB_length]; rfl
    rw [hz]
    simp_all [prmS]
  · refine ⟨?_, ?_⟩
    · have hl : (bt (parB ps)).size / 6 = ps.length := by rw [bt_size, parB_length]; omega
      rw [hl, prm_par ps b4]
      cases f
      simp_all
    · rw [parB_length]
      have hr : ((ps.length * 6 : Nat) : Int).tmod 6 = 0 := by rw [Int.tmod_eq_emod_of_nonneg (by omega)]; omega
      show (((ps.length * 6 : Nat) : Int).tmod 6 == 0) = true
      rw [hr]
      rfl
  · rw [bt_front _ _ 4 (be_length _ _), bt_back _ _ 4 _ (be_length _ _) (by rw [bt_size, List.length_append]), bt_data, last_back f _ b3.1 b3.2]
    refine ⟨?_, by simp [ftS, be_length] <;> omega⟩
    subst b4
    cases f
    simp_all [dataS]
  · rw [bt_data]
    refine ⟨?_, by simp [ftS, b5]⟩
    subst b4
    cases f
    simp_all [dataS]
  · rw [bt_front _ _ 4 (be_length _ _), bt_mid _ _ _ 4 8 (be_length _ _) (by rw [be_length, be_length]), last_back f _ b3.1 b3.2, code_back f _ b2.1 b2.2]
    rw [← List.append_assoc, bt_back _ _ 8 _ (by rw [List.length_append, be_length, be_length]) (by rw [bt_size, List.length_append, List.length_append, List.length_append]), bt_data]
    refine ⟨?_, by simp [ftS, be_length] <;> omega⟩
    subst b4
    cases f
    simp_all [dataS]
  · rw [last_back f _ b3.1 b3.2]
    refine ⟨?_, by simp [ftS, be_length]⟩
    subst b4
    cases f
    simp_all
  · rw [bt_data]
    refine ⟨?_, by simp [ftS]⟩
    subst b4
    cases f
    simp_all [dataS]
end Go.Proofs.YtfmljlflnpmceaaGreatDoor.Fm
/- Right frames: assemble and parse, plainly. -/
namespace Go.Proofs.YtfmljlflnpmceaaGreatDoor.Fm
open Go.RowKit
set_option linter.unusedVariables false
set_option linter.unusedSimpArgs false

theorem asmB_bt (f : Fr) (ps : List (Int × Int)) : asmB f ps = bt (headS f (wholeB f ps).length ++ wholeB f ps) := rfl
theorem asmB_size (f : Fr) (ps : List (Int × Int)) : (asmB f ps).size = 9 + (wholeB f ps).length := by rw [asmB_bt, bt_size, List.length_append, headS_length]
theorem head_list (f : Fr) (n : Nat) : headS f n = be 3 (n : Int) ++ (b8 f.ty :: b8 f.fl :: be 4 (f.st % 2147483648)) := by simp [headS]
theorem asm_ty (f : Fr) (ps : List (Int × Int)) (h0 : 0 ≤ f.ty) (h1 : f.ty < 256) : tyS (asmB f ps) = f.ty := by
  unfold tyS
  rw [asmB_bt, bt_at _ 3 (b8 f.ty) (by rw [head_list, be3]; rfl)]
  exact b8_nat _ h0 h1
theorem asm_flb (f : Fr) (ps : List (Int × Int)) (h0 : 0 ≤ f.fl) (h1 : f.fl < 256) : (byteAt (asmB f ps) 4 : Int) = f.fl := by
  rw [asmB_bt, bt_at _ 4 (b8 f.fl) (by rw [head_list, be3]; rfl)]
  exact b8_nat _ h0 h1
theorem asm_st (f : Fr) (ps : List (Int × Int)) (h0 : 0 ≤ f.st) (h1 : f.st < 2147483648) : stS (asmB f ps) = f.st := by
  have e : (asmB f ps).extract 5 9 = bt (be 4 (f.st % 2147483648)) := by
    rw [asmB_bt, head_list]
    have hs : be 3 ((wholeB f ps).length : Int) ++ (b8 f.ty :: b8 f.fl :: be 4 (f.st % 2147483648)) ++ wholeB f ps = (be 3 ((wholeB f ps).length : Int) ++ [b8 f.ty, b8 f.fl]) ++ (be 4 (f.st % 2147483648) ++ wholeB f ps) := by simp
    rw [hs]
    exact bt_mid _ _ _ 5 9 (by simp [be_length]) (by simp [be_length])
  unfold stS
  rw [e, num4 _ (by omega) (by omega)]
  omega
theorem asm_rest (f : Fr) (ps : List (Int × Int)) : (asmB f ps).extract 9 (asmB f ps).size = bt (wholeB f ps) := by
  rw [asmB_bt]
  exact bt_back _ _ 9 _ (headS_length _ _) (by rw [bt_size, List.length_append])

theorem whole_no {f : Fr} {ps : List (Int × Int)} {k1 : Nat} {k2 : Int} {k3 k4 : Nat} (hk : kd f.ty f.fl = (k1, k2, k3, k4)) (hp : padS f = false) : wholeB f ps = payB k3 f ps := by unfold wholeB; rw [hp, hk]; rfl
theorem whole_pad {f : Fr} {ps : List (Int × Int)} {k1 : Nat} {k2 : Int} {k3 k4 : Nat} (hk : kd f.ty f.fl = (k1, k2, k3, k4)) (hp : padS f = true) : wholeB f ps = [b8 f.pad] ++ (payB k3 f ps ++ List.replicate (f.pad % 256).toNat 0) := by unfold wholeB; rw [hp, hk, if_pos rfl, List.append_assoc]

/-- what is written of a right frame is read back -/
theorem parse_asm (f : Fr) (ps : List (Int × Int)) (h : Right f ps) : parseS (asmB f ps) = ((f, ps), 0, 0) := by
  have hst := kto_le (kiF f)
  have s0 := h.st0
  have s1 := h.st1
  have e1 := asm_ty f ps h.ty0 h.ty1
  have hki : kiS (asmB f ps) = kiF f := by unfold kiS kiF; rw [e1]
  have e2 : flS (asmB f ps) = f.fl := by unfold flS; rw [hki, asm_flb f ps h.fl0 h.fl1, h.fl]
  have e3 := asm_st f ps (by omega) (by omega)
  have e4 : pdS (asmB f ps) = padS f := by unfold pdS padS; rw [e1, e2]
  have h68 := pad68 (asmB f ps)
  unfold parseS
  rw [e1, e2, e4] at h68
  rw [e1, e2, e3, e4, hki, asm_rest]
  obtain ⟨⟨k1, k2, k3, k4⟩, hkd⟩ : ∃ q, kd f.ty f.fl = q := ⟨_, rfl⟩
  have hb := h.body
  rw [hkd] at hb h68
  obtain ⟨t1, t2⟩ := take_pay f ps hkd hb
  have hpad := h.pad
  unfold parseB
  rw [hkd, if_neg (by omega)]
  cases hp : padS f with
  | false =>
    rw [hp, if_neg (by decide)] at hpad
    rw [whole_no hkd hp]
    simp only [Bool.false_eq_true, if_false]
    have u1 : ftS k1 k2 (((bt (payB k3 f ps)).size : Int) - ((0 : Nat) : Int)) = true := by rw [bt_size, show ((payB k3 f ps).length : Int) - ((0 : Nat) : Int) = ((payB k3 f ps).length : Int) by omega]; exact t2
    have u2 : ftS k1 k2 (((bt (payB k3 f ps)).size : Int) - ((0 : Nat) : Int) - ((0 : Nat) : Int)) = true := by rw [bt_size, show ((payB k3 f ps).length : Int) - ((0 : Nat) : Int) - ((0 : Nat) : Int) = ((payB k3 f ps).length : Int) by omega]; exact t2
    rw [if_neg (by rw [u1]; decide), if_neg (by rw [u2]; decide), bt_all _ _ (by rw [bt_size]; omega)]
    rw [hpad] at t1
    exact Prod.ext t1 rfl
  | true =>
    rw [hp, if_pos rfl] at hpad
    obtain ⟨p0, p1⟩ := hpad
    have hk1 : k1 = 116 := h68 hp
    subst hk1
    have t3 : k2 ≤ ((payB k3 f ps).length : Int) := ft68 t2
    rw [whole_pad hkd hp]
    obtain ⟨n, hn⟩ : ∃ n : Nat, f.pad = (n : Int) := ⟨f.pad.toNat, by omega⟩
    have hn2 : (f.pad % 256).toNat = n := by omega
    have hat : byteAt (bt ([b8 f.pad] ++ (payB k3 f ps ++ List.replicate (f.pad % 256).toNat 0))) 0 = n := by
      rw [bt_at _ 0 (b8 f.pad) rfl]
      have := b8_nat f.pad p0 p1
      omega
    have hsz : (bt ([b8 f.pad] ++ (payB k3 f ps ++ List.replicate (f.pad % 256).toNat 0))).size = 1 + (payB k3 f ps).length + n := by
      rw [bt_size, List.length_append, List.length_append, List.length_replicate, hn2]
      simp
      omega
    simp only [if_true]
    rw [hat, hsz]
    have u1 : ftS 116 k2 (((1 + (payB k3 f ps).length + n : Nat) : Int) - ((1 : Nat) : Int)) = true := by simp [ftS]; omega
    have u2 : ftS 116 k2 (((1 + (payB k3 f ps).length + n : Nat) : Int) - (n : Int) - ((1 : Nat) : Int)) = true := by simp [ftS]; omega
    rw [if_neg (by rw [u1]; decide), if_neg (by rw [u2]; decide), bt_mid _ _ _ 1 _ rfl (by simp <;> omega), ← hn]
    exact Prod.ext t1 rfl

theorem numS_lt2 (b : ByteArray) (h : b.size ≤ 2) : numS b < 65536 := by
  have h1 := numL_lt b.data.toList
  have h2 : b.data.toList.length ≤ 2 := by simpa using h
  have h3 : 256 ^ b.data.toList.length ≤ 256 ^ 2 := Nat.pow_le_pow_right (by decide) h2
  unfold numS
  omega
theorem ext_le (b : ByteArray) (i j : Nat) : (b.extract i j).size ≤ j - i := by rw [ByteArray.size_extract]; omega

/-- a payload that is read is a right one, and as long when written -/
theorem take_right (g f : Fr) (P : ByteArray) (ps : List (Int × Int)) {ty fl : Int} {k1 : Nat} {k2 : Int} {k3 k4 : Nat} (hk : kd ty fl = (k1, k2, k3, k4)) (hg : g = ⟨g.ty, g.fl, g.st, ⟨#[]⟩, g.pad, 0, false, 0, 0, 0⟩) (hf : ftS k1 k2 (P.size : Int) = true) (ht : takeS k4 g P = (f, ps)) :
    BodyR k1 k4 f ps ∧ (payB k3 f ps).length = P.size ∧ f.ty = g.ty ∧ f.fl = g.fl ∧ f.st = g.st ∧ f.pad = g.pad := by
  have n4 := fun (i : Nat) => numS_lt4 (P.extract i (i + 4)) (by have := ext_le P i (i + 4); omega)
  have hsz : ∀ b : ByteArray, b.data.toList.length = b.size := fun b => by simp
  rcases kd_cases ty fl with h | h | h | h | h | h | h | h | h | h
  all_goals
    rw [h] at hk
    simp only [Prod.mk.injEq] at hk
    obtain ⟨rfl, rfl, rfl, rfl⟩ := hk
    first | replace hf := ft70 hf | replace hf := ft68 hf | replace hf := ft69 hf
    simp only [takeS, reduceIte, Nat.reduceEqDiff, Prod.mk.injEq] at ht
    obtain ⟨rfl, rfl⟩ := ht
    simp only [BodyR, payB, reduceIte, Nat.reduceEqDiff, or_self, or_true, true_or, false_or, or_false, and_self, and_true, true_and, and_false, false_and]
    rw [hg]
  · have := byteAt_lt (P.extract 0 5) 4
    simp [dataS, prioS, prioB_length, ByteArray.size_extract]
    omega
  · have := byteAt_lt P 4
    simp [dataS, prioS, prioB_length]
    omega
  · have := numS_lt4 P (by omega)
    simp [codeS, be_length]
    omega
  · obtain rfl : P = ⟨#[]⟩ := ByteArray.ext (Array.eq_empty_of_size_eq_zero (by simpa using hf))
    simp [prmS, parB, ByteArray.size]
  · refine ⟨?_, ?_⟩
    · simp only [and_self, and_true, true_and]
      intro q hq
      simp only [prmS, List.mem_map, List.mem_range] at hq
      obtain ⟨i, hi, rfl⟩ := hq
      have a := numS_lt2 (P.extract (6 * i) (6 * i + 2)) (by have := ext_le P (6 * i) (6 * i + 2); omega)
      have b := numS_lt4 (P.extract (6 * i + 2) (6 * i + 6)) (by have := ext_le P (6 * i + 2) (6 * i + 6); omega)
      simp only
      omega
    · rw [parB_length]
      simp [prmS]
      omega
  · have := numS_lt4 (P.extract 0 4) (by have := ext_le P 0 4; omega)
    simp [dataS, lastS, be_length, ByteArray.size_extract]
    omega
  · simp [dataS]
    omega
  · have := numS_lt4 (P.extract 4 8) (by have := ext_le P 4 8; omega)
    simp [dataS, lastS, codeS, be_length, ByteArray.size_extract]
    omega
  · simp [lastS, be_length]
    omega
  · simp [dataS]

theorem and_twice_all : ((List.range 11).all fun n => (List.range 256).all fun x => decide (bits .and .i64 (bits .and .i64 (x : Int) (kflags n)) (kflags n) = bits .and .i64 (x : Int) (kflags n)) && decide (0 ≤ bits .and .i64 (x : Int) (kflags n)) && decide (bits .and .i64 (x : Int) (kflags n) < 256)) = true := by decide +kernel
theorem and_twice (b : ByteArray) : bits .and .i64 (flS b) (kflags (kiS b)) = flS b ∧ 0 ≤ flS b ∧ flS b < 256 := by
  have hk : kiS b < 11 := by unfold kiS tyS; omega
  have ha := List.all_eq_true.1 and_twice_all (kiS b) (by simpa using hk)
  have hb := List.all_eq_true.1 ha (byteAt b 4) (by simpa using byteAt_lt b 4)
  rw [Bool.and_eq_true, Bool.and_eq_true, decide_eq_true_eq, decide_eq_true_eq, decide_eq_true_eq] at hb
  unfold flS
  exact ⟨hb.1.1, hb.1.2, hb.2⟩

/-- what is read is right, and as long when written again -/
theorem parse_right (b : ByteArray) (f : Fr) (ps : List (Int × Int)) (hb : 9 ≤ b.size) (h : parseS b = ((f, ps), 0, 0)) : Right f ps ∧ (asmB f ps).size = b.size ∧ f.ty = tyS b ∧ f.fl = flS b := by
  unfold parseS at h
  obtain ⟨⟨k1, k2, k3, k4⟩, hkd⟩ : ∃ q, kd (tyS b) (flS b) = q := ⟨_, rfl⟩
  have h68 := pad68 b
  rw [hkd] at h h68
  obtain ⟨R, hR⟩ : ∃ R, b.extract 9 b.size = R := ⟨_, rfl⟩
  have hRs : R.size = b.size - 9 := by rw [← hR, ByteArray.size_extract]; omega
  rw [hR] at h
  unfold parseB at h
  by_cases c1 : stS b < kfrom (kiS b) ∨ kto (kiS b) < stS b
  · rw [if_pos c1] at h; simp at h
  rw [if_neg c1] at h
  by_cases c2 : ftS k1 k2 ((R.size : Int) - ((if pdS b then 1 else 0 : Nat) : Int)) = false
  · rw [if_pos c2] at h; simp at h
  rw [if_neg c2] at h
  by_cases c3 : ftS k1 k2 ((R.size : Int) - ((if pdS b then byteAt R 0 else 0 : Nat) : Int) - ((if pdS b then 1 else 0 : Nat) : Int)) = false
  · rw [if_pos c3] at h; simp at h
  rw [if_neg c3] at h
  have ht := congrArg Prod.fst h
  simp only at ht
  obtain ⟨a1, a2, a3⟩ := and_twice b
  have hty : 0 ≤ tyS b ∧ tyS b < 256 := by unfold tyS; have := byteAt_lt b 3; omega
  have fin : ∀ P : ByteArray, ftS k1 k2 (P.size : Int) = true → ∀ pd : Nat, (pdS b = true → pd < 256) → (pdS b = false → pd = 0) → P.size + pd + (if pdS b then 1 else 0) = R.size →
      takeS k4 ⟨tyS b, flS b, stS b, ⟨#[]⟩, (pd : Int), 0, false, 0, 0, 0⟩ P = (f, ps) → Right f ps ∧ (asmB f ps).size = b.size ∧ f.ty = tyS b ∧ f.fl = flS b := by
    intro P hP pd hpd hpd0 hsz hT
    obtain ⟨r1, r2, r3, r4, r5, r6⟩ := take_right _ f P ps hkd rfl hP hT
    have hki : kiF f = kiS b := by unfold kiF kiS; rw [r3]
    have hps : padS f = pdS b := by unfold padS pdS; rw [r3, r4]
    refine ⟨⟨by rw [r3]; exact hty.1, by rw [r3]; exact hty.2, by rw [r4]; exact a2, by rw [r4]; exact a3, by rw [r4, hki]; exact a1, by rw [r5, hki]; show _ ≤ stS b; omega, by rw [r5, hki]; show stS b ≤ _; omega, ?_, ?_⟩, ?_, r3, r4⟩
    · rw [hps, r6]
      cases hp : pdS b with
      | true => rw [if_pos rfl]; have := hpd hp; show 0 ≤ (pd : Int) ∧ (pd : Int) < 256; omega
      | false => rw [if_neg (by decide)]; have := hpd0 hp; show (pd : Int) = 0; omega
    · rw [r3, r4]
      show BodyR (kd (tyS b) (flS b)).1 (kd (tyS b) (flS b)).2.2.2 f ps
      rw [hkd]
      exact r1
    · have hkf : kd f.ty f.fl = (k1, k2, k3, k4) := by rw [r3, r4]; exact hkd
      rw [asmB_size]
      cases hp : pdS b with
      | true =>
        rw [hp, if_pos rfl] at hsz
        have hpd' := hpd hp
        have e6 : (f.pad % 256).toNat = pd := by rw [r6]; show ((pd : Int) % 256).toNat = pd; omega
        rw [whole_pad hkf (hps.trans hp), List.length_append, List.length_append, List.length_replicate, e6, r2]
        simp
        omega
      | false =>
        rw [hp, if_neg (by decide)] at hsz
        have := hpd0 hp
        rw [whole_no hkf (hps.trans hp), r2]
        omega
  cases hp : pdS b with
  | false =>
    rw [hp] at c3 ht
    simp only [Bool.false_eq_true, if_false] at c3 ht
    refine fin (R.extract 0 (R.size - 0)) ?_ 0 (fun _ => by omega) (fun _ => rfl) ?_ ht
    · rw [ByteArray.size_extract]
      have : ftS k1 k2 ((R.size : Int) - ((0 : Nat) : Int) - ((0 : Nat) : Int)) = true := by simpa using c3
      rw [show (R.size : Int) - ((0 : Nat) : Int) - ((0 : Nat) : Int) = (R.size : Int) by omega] at this
      rw [show ((min (R.size - 0) R.size - 0 : Nat) : Int) = (R.size : Int) by omega]
      exact this
    · rw [hp, ByteArray.size_extract]
      simp
  | true =>
    have hk1 : k1 = 116 := h68 hp
    subst hk1
    rw [hp] at c3 ht
    simp only [if_true] at c3 ht
    have c3' : k2 ≤ (R.size : Int) - (byteAt R 0 : Int) - ((1 : Nat) : Int) := ft68 (by simpa using c3)
    have hk2 := kd_nonneg hkd
    have hlt := byteAt_lt R 0
    refine fin (R.extract 1 (R.size - byteAt R 0)) ?_ (byteAt R 0) (fun _ => hlt) (fun e => by rw [hp] at e; cases e) ?_ ht
    · rw [ByteArray.size_extract]
      simp [ftS]
      omega
    · rw [hp, ByteArray.size_extract]
      simp
      omega
end Go.Proofs.YtfmljlflnpmceaaGreatDoor.Fm
/- Write, of every frame. -/
namespace Go.Proofs.YtfmljlflnpmceaaGreatDoor.Fm
open Go.RowKit
set_option linter.unusedVariables false
set_option linter.unusedSimpArgs false

/-- what Write answers, out of what parse and same say -/
def wrS (b : ByteArray) (c : Int) (r : Bool) : Value := if c ≠ 0 ∨ r = false then .tuple #[.string ⟨#[]⟩, .int .i64 60] else if 65545 < b.size then .tuple #[.string ⟨#[]⟩, .int .i64 3] else .tuple #[.string b, .int .i64 0]

set_option maxRecDepth 100000 in
set_option maxHeartbeats 2000000 in
theorem write_gen (f g : Fr) (qs : List (Int × Int)) (pb : Option Addr) (pl pc : Nat) (w : World) (b : ByteArray) (c x : Int) (r : Bool) (hx : c = 0 → x = 0)
    (hasm : ∀ W : World, Below w.heap.size w W → Calls Tryz.prog 49 #[.agg (fv f (.slice pb pl pc))] W fun e w' => e = .returned (.string b) ∧ Below W.heap.size W w')
    (hparse : ∀ W : World, Below w.heap.size w W → Calls Tryz.prog 50 #[.string b] W fun e w' => PPost W ((g, qs), c, x) e w')
    (hsame : ∀ (W : World) (qb : Option Addr) (ql qc : Nat), Below w.heap.size w W → PRow W (.slice qb ql qc) qs → Calls Tryz.prog 51 #[.agg (fv g (.slice qb ql qc)), .agg (fv f (.slice pb pl pc))] W fun e w' => e = .returned (.bool r) ∧ Below W.heap.size W w') :
    Calls Tryz.prog 36 #[.agg (fv f (.slice pb pl pc))] w fun e w' => e = .returned (wrS b c r) ∧ Below w.heap.size w w' := by
  have hasm2 : Hid (∀ W : World, Below w.heap.size w W → FB W w.heap.size f (.slice pb pl pc) → Calls Tryz.prog 49 #[.agg (fv f (.slice pb pl pc))] W fun e w' => e = .returned (.string b) ∧ Below w.heap.size w w' ∧ FB w' w.heap.size f (.slice pb pl pc)) := by
    intro W h1 h2
    refine (hasm W h1).mono ?_
    rintro e w' ⟨rfl, h3⟩
    exact ⟨rfl, h1.trans (h3.mono h1.size), h2.below h3⟩
  have hparse2 : Hid (∀ W : World, Below w.heap.size w W → FB W w.heap.size f (.slice pb pl pc) → Calls Tryz.prog 50 #[.string b] W fun e w' => ∃ qb ql qc, e = .returned (.tuple #[.agg (fv g (.slice qb ql qc)), .agg #[.int .i64 c, .int .i64 x]]) ∧ PRow w' (.slice qb ql qc) qs ∧ Below w.heap.size w w' ∧ FB w' w.heap.size f (.slice pb pl pc)) := by
    intro W h1 h2
    refine (hparse W h1).mono ?_
    rintro e w' ⟨p, rfl, q1, q2, q3⟩
    obtain ⟨qb, qc, rfl⟩ := q1.slice
    exact ⟨qb, _, qc, rfl, q1, h1.trans (q3.mono h1.size), h2.below q3⟩
  have HS : Hid _ := hsame
  clear hasm hparse hsame
  obtain ⟨res, hres⟩ : ∃ res, wrS b c r = res := ⟨_, rfl⟩
  rw [hres]
  have HR : Hid (wrS b c r = res) := hres
  clear hres
  by_cases hc : c = 0
  · have hx0 : x = 0 := hx hc
    subst hc
    subst hx0
    clear hx
    unfold fv at *
    go_enter Tryz.func36, Tryz.ntmps36
    go_wp2_with (first
      | (go_at_call 49; refine (hasm2.out _ ((Below.refl _ w).alloc (Nat.le_refl _) _) (heap_alloc_new w _)).mono ?_; rintro e wy ⟨rfl, hy1, hy2⟩)
      | (go_at_call 50; refine (hparse2.out _ hy1 hy2).mono ?_; rintro e wz ⟨qb, ql, qc, rfl, hz1, hz2, hz3⟩; obtain ⟨c0, c1, c2, c3, c4, c5, c6, c7, c8, c9, c10⟩ := hz3.cells; have hlt := hz3.lt))
    have hbw : Below w.heap.size w ((wz.alloc (.cells (fv g (.slice qb ql qc)) 31)).alloc (.cells #[.int .i64 0, .int .i64 0] 106)) := (hz2.alloc hz2.size _).alloc (by rw [size_al]; have := hz2.size; omega) _
    have hrow : PRow ((wz.alloc (.cells (fv g (.slice qb ql qc)) 31)).alloc (.cells #[.int .i64 0, .int .i64 0] 106)) (.slice qb ql qc) qs := hz1.below fun k _ hk => by rw [heap_al, if_neg (by rw [size_al]; omega), heap_al, if_neg (by omega)]
    refine (HS.out _ qb ql qc hbw hrow).mono ?_
    rintro e wq ⟨rfl, hq⟩
    have hfin := hbw.trans (hq.mono hbw.size)
    clear hrow hbw hq
    cases r with
    | false =>
      obtain rfl : res = .tuple #[.string ⟨#[]⟩, .int .i64 60] := by rw [← HR.out]; unfold wrS; rw [if_pos (.inr rfl)]
      go_wp2_with fail
      go_ret2
      exact ⟨rfl, hfin⟩
    | true =>
      by_cases hlen : 65545 < b.size
      · obtain rfl : res = .tuple #[.string ⟨#[]⟩, .int .i64 3] := by rw [← HR.out]; unfold wrS; rw [if_neg (by simp), if_pos hlen]
        have hb' : (65545 : Int) < (b.size : Int) := by omega
        go_wp2_with fail
        go_ret2
        exact ⟨rfl, hfin⟩
      · obtain rfl : res = .tuple #[.string b, .int .i64 0] := by rw [← HR.out]; unfold wrS; rw [if_neg (by simp), if_neg hlen]
        have hb' : ¬ (65545 : Int) < (b.size : Int) := by omega
        go_wp2_with fail
        go_ret2
        exact ⟨rfl, hfin⟩
  · obtain rfl : res = .tuple #[.string ⟨#[]⟩, .int .i64 60] := by rw [← HR.out]; unfold wrS; rw [if_pos (.inl hc)]
    have hcb : (c == 0) = false := by simpa using hc
    clear hx
    unfold fv at *
    go_enter Tryz.func36, Tryz.ntmps36
    go_wp2_with (first
      | (go_at_call 49; refine (hasm2.out _ ((Below.refl _ w).alloc (Nat.le_refl _) _) (heap_alloc_new w _)).mono ?_; rintro e wy ⟨rfl, hy1, hy2⟩)
      | (go_at_call 50; refine (hparse2.out _ hy1 hy2).mono ?_; rintro e wz ⟨qb, ql, qc, rfl, hz1, hz2, hz3⟩; obtain ⟨c0, c1, c2, c3, c4, c5, c6, c7, c8, c9, c10⟩ := hz3.cells; have hlt := hz3.lt))
    have hbw : Below w.heap.size w ((wz.alloc (.cells (fv g (.slice qb ql qc)) 31)).alloc (.cells #[.int .i64 c, .int .i64 x] 106)) := (hz2.alloc hz2.size _).alloc (by rw [size_al]; have := hz2.size; omega) _
    go_ret2
    exact ⟨rfl, hbw⟩

theorem parse_fault (b : ByteArray) : (parseS b).2.1 = 0 → (parseS b).2.2 = 0 := by
  unfold parseS parseB
  by_cases c1 : stS b < kfrom (kiS b) ∨ kto (kiS b) < stS b
  · rw [if_pos c1]
    intro h
    exact absurd h (by decide)
  rw [if_neg c1]
  by_cases c2 : ftS (kd (tyS b) (flS b)).1 (kd (tyS b) (flS b)).2.1 (((b.extract 9 b.size).size : Int) - ((if pdS b then 1 else 0 : Nat) : Int)) = false
  · rw [if_pos c2]
    intro h
    exact absurd (show (6 : Int) = 0 from h) (by decide)
  rw [if_neg c2]
  by_cases c3 : ftS (kd (tyS b) (flS b)).1 (kd (tyS b) (flS b)).2.1 (((b.extract 9 b.size).size : Int) - ((if pdS b then byteAt (b.extract 9 b.size) 0 else 0 : Nat) : Int) - ((if pdS b then 1 else 0 : Nat) : Int)) = false
  · rw [if_pos c3]
    intro h
    exact absurd h (by decide)
  rw [if_neg c3]
  intro _
  rfl

/-- what Write answers -/
def writeV (f : Fr) (ps : List (Int × Int)) (v : Value) : Prop :=
  (Right f ps → (asmB f ps).size ≤ 65545 → v = .tuple #[.string (asmB f ps), .int .i64 0]) ∧ (Right f ps → 65545 < (asmB f ps).size → v = .tuple #[.string ⟨#[]⟩, .int .i64 3]) ∧ (¬ Right f ps → v = .tuple #[.string ⟨#[]⟩, .int .i64 60])

end Go.Proofs.YtfmljlflnpmceaaGreatDoor.Fm
/- Write, of params that are read alone. -/
namespace Go.Proofs.YtfmljlflnpmceaaGreatDoor.Fm
open Go.RowKit
set_option linter.unusedVariables false
set_option linter.unusedSimpArgs false

theorem PIn.sl {w : World} {v : Value} {l : List (Int × Int)} (h : PIn w v l) : ∃ b c, v = .slice b l.length c := by
  rcases h with ⟨b, cap, rfl, rfl⟩ | ⟨B, off, cap, rfl, _⟩
  · exact ⟨b, cap, rfl⟩
  · exact ⟨_, cap, rfl⟩
theorem PIn.get {w : World} {b : Option Addr} {n c : Nat} {l : List (Int × Int)} (h : PIn w (.slice b n c) l) (k : Nat) (hk : k < l.length) : ∃ B off, b = some ⟨B, off, none⟩ ∧ n = l.length ∧ n ≤ c ∧ c ≤ 9223372036854775807 ∧ B < w.heap.size ∧ w.cell? ⟨B, off + k * 2, none⟩ = some (.int .i64 l[k].1) ∧ w.cell? ⟨B, off + k * 2 + 1, none⟩ = some (.int .i64 l[k].2) := by
  rcases h with ⟨_, _, e, rfl⟩ | ⟨B, off, cap, e, h1, h2, h3, h4⟩
  · simp at hk
  · injection e with e1 e2 e3
    have := h4 k hk
    exact ⟨B, off, e1, e2, by omega, by omega, h3, this.1, this.2⟩

theorem PIn.base {w : World} {v : Value} {l : List (Int × Int)} (h : PIn w v l) (h0 : 0 < l.length) (a : Addr) (n c : Nat) (e : v = .slice (some a) n c) : a.block < w.heap.size := by
  subst e
  obtain ⟨B, off, e, _, _, _, hB, _⟩ := h.get 0 h0
  injection e with e
  rw [e]
  exact hB

set_option maxRecDepth 100000 in
set_option maxHeartbeats 2000000 in
theorem puts_params_in (f : Fr) (ps : List (Int × Int)) (p : Value) (w : World) (o : Value) (l : List UInt8) (hR : Row w o l) (hp : PIn w p ps) (hne : 0 < ps.length → ∀ a n c, p = .slice (some a) n c → o.ownBlock ≠ some a.block) (hl : l.length + (parB ps).length + 100 ≤ 140737488355328) :
    Calls Tryz.prog 98 #[o, .agg (fv f p)] w fun e w' => ∃ o', e = .returned o' ∧ Row w' o' (l ++ parB ps) ∧ Gr w w' o o' := by
  obtain ⟨pb, pc, rfl⟩ := hp.sl
  have HP : Hid (PIn w (.slice pb ps.length pc) ps) := hp
  have HR : Hid (Row w o l) := hR
  have HL : Hid (l.length + (parB ps).length + 100 ≤ 140737488355328) := hl
  have HE : Hid (0 < ps.length → ∀ a n c, Value.slice pb ps.length pc = .slice (some a) n c → o.ownBlock ≠ some a.block) := hne
  clear hp hR hl hne
  obtain ⟨n, hn⟩ : ∃ n, ps.length = n := ⟨_, rfl⟩
  have HN : Hid (ps.length = n) := hn
  rw [hn] at HP HE ⊢
  clear hn
  unfold fv
  go_enter Tryz.func98, Tryz.ntmps98
  go_wp2
  go_loopw [0, 10] (fun x i wr => ∃ k : Nat, k ≤ n ∧ i = .int .i64 (k : Int) ∧ Hid (Row wr x (l ++ parB (ps.take k)) ∧ Gr w wr o x)) (fun _ i _ => n - (intOf i).toNat)
  case atStart => exact ⟨0, by omega, rfl, by simpa [parB] using HR.out.alloc _, Gr.alloc _ _ _⟩
  case round =>
    obtain ⟨k, hk, rfl, hrow⟩ := hrel
    by_cases hlt : k < n
    · have hl := HN.out
      have hparB := parB_length ps
      have hkl : k < ps.length := by omega
      have hL := HL.out
      have hlk : (parB (ps.take k)).length + 6 ≤ (parB ps).length := by
        rw [parB_length, parB_length, List.length_take]
        omega
      obtain ⟨hRow, hG⟩ := hrow.out
      obtain ⟨x, y, g, off, hpb, h1, h2, d1, d2, hnext⟩ : ∃ (x y : Int) (g off : Nat), pb = some ⟨g, off, none⟩ ∧ n ≤ pc ∧ pc ≤ 9223372036854775807 ∧
          wr.cell? ⟨g, off + k * 2, none⟩ = some (.int .i64 x) ∧ wr.cell? ⟨g, off + k * 2 + 1, none⟩ = some (.int .i64 y) ∧ Hid (parB (ps.take (k + 1)) = parB (ps.take k) ++ be 2 x ++ be 4 y) := by
        obtain ⟨g, off, e, _, h1, h2, hBl, d1, d2⟩ := HP.out.get k (by omega)
        have hb : wr.heap[g]? = w.heap[g]? := hG.block g hBl (HE.out (by omega) ⟨g, off, none⟩ n pc (by rw [e]))
        exact ⟨_, _, g, off, e, by omega, h2, (cell_same hb _).trans d1, (cell_same hb _).trans d2, parB_take ps k hkl⟩
      subst hpb
      have hB : (wr.alloc (.cells #[.int .i64 x, .int .i64 y] 42)).drew.heap[wr.heap.size]? = some (.cells #[.int .i64 x, .int .i64 y] 42 (0, 0)) := heap_alloc_new wr _
      have hb1 : Below wr.heap.size wr (wr.alloc (.cells #[.int .i64 x, .int .i64 y] 42)).drew := ((Below.refl _ wr).alloc (Nat.le_refl _) _).drew
      have hG1 := hG.trans (Gr.below hb1 _)
      have hR1 := hRow.below hb1
      have hne1 : ∀ j, u0.ownBlock = some j → j ≠ wr.heap.size := fun j hj => by have := hRow.lt j hj; omega
      have C0 : Hid (Calls Tryz.prog 68 #[u0, .int .i64 x, .int .i64 2] (wr.alloc (.cells #[.int .i64 x, .int .i64 y] 42)).drew fun e w' => ∃ o', e = .returned o' ∧ Row w' o' (l ++ parB (ps.take k) ++ be 2 x) ∧ Gr w w' o o' ∧ w'.heap[wr.heap.size]? = some (.cells #[.int .i64 x, .int .i64 y] 42 (0, 0)) ∧ ∀ j, o'.ownBlock = some j → j ≠ wr.heap.size) :=
        num_in 2 (.inl rfl) w _ o u0 wr.heap.size _ _ x hB hG1 hR1 hne1 (by rw [List.length_append]; omega)
      have C1 : Hid (∀ (V : World) (o1 : Value), Row V o1 (l ++ parB (ps.take k) ++ be 2 x) → Gr w V o o1 → V.heap[wr.heap.size]? = some (.cells #[.int .i64 x, .int .i64 y] 42 (0, 0)) → (∀ j, o1.ownBlock = some j → j ≠ wr.heap.size) → Calls Tryz.prog 68 #[o1, .int .i64 y, .int .i64 4] V fun e w' => ∃ o', e = .returned o' ∧ Hid (Row w' o' (l ++ parB (ps.take (k + 1))) ∧ Gr w w' o o')) := by
        intro V o1 a1 a2 a3 a4
        refine (num_in 4 (.inr (.inr rfl)) w V o o1 wr.heap.size _ _ y a3 a2 a1 a4 (by rw [List.length_append, List.length_append, be_length]; omega)).mono ?_
        rintro e w' ⟨o', rfl, h1, h2, _, _⟩
        refine ⟨o', rfl, ?_, h2⟩
        rw [hnext.out, ← List.append_assoc, ← List.append_assoc]
        exact h1
      clear hl hparB hkl hL hlk hRow hG hnext hB hb1 hG1 hR1 hne1
      go_wp2_with fail
      go_region_law (first
        | (refine step_value 68 #[.tmp 14, .tmp 16, .const (.int .i64 2)] _ rfl ?_; go_simp; go_wp2_with (go_at_call 68; refine C0.out.mono ?_; rintro e w1 ⟨o1, rfl, r1, g1, b1, n1⟩; have q1 := cell_second b1))
        | (refine step_value 68 #[.tmp 17, .tmp 19, .const (.int .i64 4)] _ rfl ?_; go_simp; go_wp2_with (go_at_call 68; refine (C1.out _ _ r1 g1 b1 n1).mono ?_; rintro e w2 ⟨o2, rfl, r2⟩)))
      all_goals
        go_wp2_with fail
        go_roundw
        case rel => exact ⟨k + 1, by omega, by simp, r2⟩
        case measure => simp [intOf]; omega
    · obtain rfl : k = n := by omega
      have hl := HN.out
      have hrow' := hrow.out
      rw [List.take_of_length_le (by omega)] at hrow'
      go_wp2
      go_ret
      exact ⟨_, rfl, hrow'⟩


theorem put_in {f : Fr} {k1 : Nat} {k2 : Int} {k3 k4 : Nat} (h : kd f.ty f.fl = (k1, k2, k3, k4)) (ps : List (Int × Int)) (p : Value) (w : World) (o : Value) (l : List UInt8) (hR : Row w o l) (hp : PIn w p ps) (hne : 0 < ps.length → ∀ a n c, p = .slice (some a) n c → o.ownBlock ≠ some a.block) (hl : l.length + (payB k3 f ps).length + 100 ≤ 140737488355328) :
    Calls Tryz.prog k3 #[o, .agg (fv f p)] w fun e w' => ∃ o', e = .returned o' ∧ Row w' o' (l ++ payB k3 f ps) ∧ Gr w w' o o' := by
  obtain ⟨pb, pc, hps⟩ := hp.sl
  rcases kd_cases f.ty f.fl with hk | hk | hk | hk | hk | hk | hk | hk | hk | hk
  all_goals
    rw [hk] at h
    cases h
    first
      | exact puts_params_in f ps p w o l hR hp hne hl
      | (subst hps
         first
          | exact puts_headers f pb _ pc w o l hR hl
          | exact puts_prio f pb _ pc w o l hR hl
          | exact puts_code f pb _ pc w o l hR hl
          | exact puts_promise f pb _ pc w o l hR hl
          | exact puts_data f pb _ pc w o l hR hl
          | exact puts_goaway f pb _ pc w o l hR hl
          | exact puts_last f pb _ pc w o l hR hl)


theorem asm_in (f : Fr) (ps : List (Int × Int)) (p : Value) (w : World) (hp : PIn w p ps) (hl : (payB (kd f.ty f.fl).2.2.1 f ps).length + 400 ≤ 140737488355328) :
    Calls Tryz.prog 49 #[.agg (fv f p)] w fun e w' => e = .returned (.string (asmB f ps)) ∧ Below w.heap.size w w' := by
  have hbl := fun h0 => hp.base h0
  obtain ⟨pb, pc, rfl⟩ := hp.sl
  obtain ⟨⟨k1, k2, k3, k4⟩, hkd⟩ : ∃ q, kd f.ty f.fl = q := ⟨_, rfl⟩
  have hk3 : (kd f.ty f.fl).2.2.1 = k3 := by rw [hkd]
  unfold asmB
  cases hpd : padS f with
  | false =>
    have hw : wholeB f ps = payB k3 f ps := by unfold wholeB; rw [hpd, hk3]; rfl
    rw [hw]
    rw [hk3] at hl
    refine asm_plain f pb _ pc w k1 k2 k3 k4 _ hkd hpd (fun W hW => ?_) (by omega)
    have h := put_in hkd ps _ W (.slice none 0 0) [] (Row.nil W) (hp.below hW) (fun _ a n c _ => by simp [Value.ownBlock]) (by simp; omega)
    simpa using h
  | true =>
    have hw : wholeB f ps = [b8 f.pad] ++ payB k3 f ps ++ List.replicate (f.pad % 256).toNat 0 := by unfold wholeB; rw [hpd, hk3]; rfl
    rw [hk3] at hl
    refine asm_pad f pb _ pc w k1 k2 k3 k4 (payB k3 f ps) hkd hpd (fun W o hW hRo hfr => ?_) hl _ hw
    exact put_in hkd ps _ W o _ hRo (hp.below hW) (fun h0 a n c e1 e => by have := hbl h0 a n c e1; have := hfr _ e; omega) (by simp; omega)


set_option maxRecDepth 100000 in
set_option maxHeartbeats 2000000 in
theorem equal_in (w : World) (p q : Value) (a b : List (Int × Int)) (hp : PRow w p a) (hq : PIn w q b) :
    Calls Tryz.prog 71 #[p, q] w fun e w' => e = .returned (.bool (decide (a = b))) ∧ Below w.heap.size w w' := by
  obtain ⟨pb, pc, rfl⟩ := hp.slice
  obtain ⟨qb, qc, rfl⟩ := hq.sl
  have HP : Hid (PRow w (.slice pb a.length pc) a) := hp
  have HQ : Hid (PIn w (.slice qb b.length qc) b) := hq
  clear hp hq
  obtain ⟨n, hn⟩ : ∃ n, a.length = n := ⟨_, rfl⟩
  obtain ⟨m, hm⟩ : ∃ m, b.length = m := ⟨_, rfl⟩
  have HN : Hid (a.length = n) := hn
  have HM : Hid (b.length = m) := hm
  rw [hn] at HP ⊢
  rw [hm] at HQ ⊢
  clear hn hm
  obtain ⟨r, hr⟩ : ∃ r, decide (a = b) = r := ⟨_, rfl⟩
  rw [hr]
  have HD : Hid (decide (a = b) = r) := hr
  clear hr
  by_cases hnm : n = m
  · subst hnm
    go_enter Tryz.func71, Tryz.ntmps71
    go_wp2
    go_loopw [13] (fun i wr => ∃ k : Nat, k ≤ n ∧ i = .int .i64 (k : Int) ∧ Hid (a.take k = b.take k) ∧ Below w.heap.size w wr) (fun i _ => n - (intOf i).toNat)
    case atStart => exact ⟨0, by omega, rfl, by simp [Hid], Below.refl _ _⟩
    case round =>
      obtain ⟨k, hk, rfl, htk, hb⟩ := hrel
      by_cases hlt : k < n
      · obtain ⟨x, y, x', y', g, g', off, hpb, hqb, h1, h2, h3, h4, d1, d2, e1, e2, hyes, hno⟩ : ∃ (x y x' y' : Int) (g g' off : Nat), pb = some ⟨g, 0, none⟩ ∧ qb = some ⟨g', off, none⟩ ∧ n ≤ pc ∧ pc ≤ 9223372036854775807 ∧ n ≤ qc ∧ qc ≤ 9223372036854775807 ∧
            wr.cell? ⟨g, k * 2, none⟩ = some (.int .i64 x) ∧ wr.cell? ⟨g, k * 2 + 1, none⟩ = some (.int .i64 y) ∧ wr.cell? ⟨g', off + k * 2, none⟩ = some (.int .i64 x') ∧ wr.cell? ⟨g', off + k * 2 + 1, none⟩ = some (.int .i64 y') ∧
            Hid (x = x' → y = y' → a.take (k + 1) = b.take (k + 1)) ∧ Hid (¬ (x = x' ∧ y = y') → r = false) := by
          have hl := HN.out
          have hl' := HM.out
          obtain ⟨g, cap, e, h1, h2, d1, d2⟩ := (show PRow w (.slice pb a.length pc) a by rw [hl]; exact HP.out).at k (by omega)
          obtain ⟨g', off, e', _, h1', h2', _, d1', d2'⟩ := HQ.out.get k (by omega)
          cases e
          refine ⟨_, _, _, _, g, g', off, rfl, e', by omega, h2, by omega, h2', (hb.cell (World.block_lt_of_cell? _ _ d1)).trans d1, (hb.cell (World.block_lt_of_cell? _ _ d2)).trans d2, (hb.cell (World.block_lt_of_cell? _ _ d1')).trans d1', (hb.cell (World.block_lt_of_cell? _ _ d2')).trans d2', ?_, ?_⟩
          · intro u v
            rw [List.take_succ_eq_append_getElem (by omega), List.take_succ_eq_append_getElem (by omega), htk.out, Prod.ext u v]
          · intro u
            rw [← HD.out]
            refine decide_eq_false fun e => u ?_
            subst e
            exact ⟨rfl, rfl⟩
        subst hpb
        subst hqb
        by_cases hx : x = x'
        · by_cases hy : y = y'
          · subst hx
            subst hy
            have hnext := hyes.out rfl rfl
            replace hnext : Hid _ := hnext
            go_wp2_with fail
            go_region
            all_goals
              go_wp2_with fail
              go_roundw
              case rel => exact ⟨k + 1, by omega, by simp, hnext, hb.drew⟩
              case measure => simp [intOf]; omega
          · have hr : r = false := hno.out fun h => hy h.2
            subst hr
            subst hx
            have hyb : (y == y') = false := beq_eq_false_iff_ne.2 hy
            go_wp2_with fail
            go_region
            all_goals
              go_wp2_with fail
              go_ret
              exact ⟨rfl, hb.drew⟩
        · have hr : r = false := hno.out fun h => hx h.1
          subst hr
          have hxb : (x == x') = false := beq_eq_false_iff_ne.2 hx
          go_wp2_with fail
          go_region
          all_goals
            go_wp2_with fail
            go_ret
            exact ⟨rfl, hb.drew⟩
      · obtain rfl : k = n := by omega
        have hr : r = true := by
          rw [← HD.out]
          have h := htk.out
          have h1 := HN.out
          have h2 := HM.out
          rw [List.take_of_length_le (by omega), List.take_of_length_le (by omega)] at h
          exact decide_eq_true h
        subst hr
        go_wp2
        go_ret
        exact ⟨rfl, hb⟩
  · have hr : r = false := by
      rw [← HD.out]
      refine decide_eq_false fun e => hnm ?_
      rw [← HN.out, ← HM.out, e]
    subst hr
    have hnmb : ((n : Int) == (m : Int)) = false := beq_eq_false_iff_ne.2 (by omega)
    go_enter Tryz.func71, Tryz.ntmps71
    go_wp2
    go_ret
    exact ⟨rfl, Below.refl _ _⟩


theorem same_in (f g : Fr) (a b : List (Int × Int)) (p q : Value) (w : World) (hp : PRow w p a) (hq : PIn w q b) :
    Calls Tryz.prog 51 #[.agg (fv f p), .agg (fv g q)] w fun e w' => ∃ r, e = .returned (.bool r) ∧ (r = true ↔ f = g ∧ a = b) ∧ Below w.heap.size w w' := by
  obtain ⟨pb, pc, rfl⟩ := hp.slice
  obtain ⟨qb, qc, rfl⟩ := hq.sl
  by_cases hfg : f = g
  · subst hfg
    refine (same_same f w pb _ pc qb _ qc (decide (a = b)) fun W hW => ?_).mono ?_
    · refine (equal_in W _ _ a b (hp.below fun k _ hk => hW.block k hk) (hq.below hW)).mono ?_
      rintro e w' ⟨rfl, h⟩
      exact ⟨rfl, hW.trans (h.mono hW.size)⟩
    · rintro e w' ⟨rfl, h⟩
      exact ⟨_, rfl, by simp, h⟩
  · have hno : ∀ e w', (e = Ending.returned (.bool false) ∧ Below w.heap.size w w') → ∃ r, e = .returned (.bool r) ∧ (r = true ↔ f = g ∧ a = b) ∧ Below w.heap.size w w' := by
      rintro e w' ⟨rfl, h⟩
      exact ⟨false, rfl, ⟨fun h => (by cases h), fun h => absurd h.1 hfg⟩, h⟩
    obtain ⟨a0, a1, a2, a3, a4, a5, a6, a7, a8, a9⟩ := f
    obtain ⟨b0, b1, b2, b3, b4, b5, b6, b7, b8, b9⟩ := g
    by_cases h0 : a0 = b0
    rotate_left
    · exact (same_ne0 a0 a1 a2 a3 a4 a5 a6 a7 a8 a9 b0 b1 b2 b3 b4 b5 b6 b7 b8 b9 w pb _ pc qb _ qc h0).mono hno
    subst h0
    by_cases h1 : a1 = b1
    rotate_left
    · exact (same_ne1 a0 a1 a2 a3 a4 a5 a6 a7 a8 a9 b1 b2 b3 b4 b5 b6 b7 b8 b9 w pb _ pc qb _ qc h1).mono hno
    subst h1
    by_cases h2 : a2 = b2
    rotate_left
    · exact (same_ne2 a0 a1 a2 a3 a4 a5 a6 a7 a8 a9 b2 b3 b4 b5 b6 b7 b8 b9 w pb _ pc qb _ qc h2).mono hno
    subst h2
    by_cases h3 : a3 = b3
    rotate_left
    · exact (same_ne3 a0 a1 a2 a3 a4 a5 a6 a7 a8 a9 b3 b4 b5 b6 b7 b8 b9 w pb _ pc qb _ qc h3).mono hno
    subst h3
    by_cases h4 : a4 = b4
    rotate_left
    · exact (same_ne4 a0 a1 a2 a3 a4 a5 a6 a7 a8 a9 b4 b5 b6 b7 b8 b9 w pb _ pc qb _ qc h4).mono hno
    subst h4
    by_cases h5 : a5 = b5
    rotate_left
    · exact (same_ne5 a0 a1 a2 a3 a4 a5 a6 a7 a8 a9 b5 b6 b7 b8 b9 w pb _ pc qb _ qc h5).mono hno
    subst h5
    by_cases h6 : a6 = b6
    rotate_left
    · exact (same_ne6 a0 a1 a2 a3 a4 a5 a6 a7 a8 a9 b6 b7 b8 b9 w pb _ pc qb _ qc h6).mono hno
    subst h6
    by_cases h7 : a7 = b7
    rotate_left
    · exact (same_ne7 a0 a1 a2 a3 a4 a5 a6 a7 a8 a9 b7 b8 b9 w pb _ pc qb _ qc h7).mono hno
    subst h7
    by_cases h8 : a8 = b8
    rotate_left
    · exact (same_ne8 a0 a1 a2 a3 a4 a5 a6 a7 a8 a9 b8 b9 w pb _ pc qb _ qc h8).mono hno
    subst h8
    by_cases h9 : a9 = b9
    rotate_left
    · exact (same_ne9 a0 a1 a2 a3 a4 a5 a6 a7 a8 a9 b9 w pb _ pc qb _ qc h9).mono hno
    subst h9
    exact absurd rfl hfg

theorem write_in (f : Fr) (ps : List (Int × Int)) (p : Value) (w : World) (hw : 2 ≤ w.heap.size) (hK : Kinds w) (hp : PIn w p ps) (hl : (asmB f ps).size * 3 + 2000 ≤ 140737488355328) :
    Calls Tryz.prog 36 #[.agg (fv f p)] w fun e w' => ∃ v, e = .returned v ∧ writeV f ps v ∧ Below w.heap.size w w' := by
  obtain ⟨pb, pc, rfl⟩ := hp.sl
  obtain ⟨⟨⟨g, qs⟩, c, x⟩, hr⟩ : ∃ q, parseS (asmB f ps) = q := ⟨_, rfl⟩
  have h9 : 9 ≤ (asmB f ps).size := by rw [asmB_size]; omega
  have hpl : (payB (kd f.ty f.fl).2.2.1 f ps).length + 400 ≤ 140737488355328 := by
    rw [asmB_size] at hl
    have : (payB (kd f.ty f.fl).2.2.1 f ps).length ≤ (wholeB f ps).length := by
      unfold wholeB
      split
      · simp; omega
      · exact Nat.le_refl _
    omega
  have hx : c = 0 → x = 0 := by have := parse_fault (asmB f ps); rw [hr] at this; exact this
  have hasm : ∀ W : World, Below w.heap.size w W → Calls Tryz.prog 49 #[.agg (fv f (.slice pb ps.length pc))] W fun e w' => e = .returned (.string (asmB f ps)) ∧ Below W.heap.size W w' := fun W hW =>
    asm_in f ps _ W (hp.below hW) hpl
  have hparse : ∀ W : World, Below w.heap.size w W → Calls Tryz.prog 50 #[.string (asmB f ps)] W fun e w' => PPost W ((g, qs), c, x) e w' := fun W hW => by
    rw [← hr]
    exact parse_any (asmB f ps) W h9 (Nat.le_trans hw hW.size) (hK.of_eq (hW.block 1 (by omega))) (by omega) (fun _ => by omega)
  by_cases hs : g = f ∧ qs = ps
  · obtain ⟨rfl, rfl⟩ := hs
    refine (write_gen g g qs pb _ pc w (asmB g qs) c x true hx hasm hparse fun W qb ql qc hW hq => ?_).mono ?_
    · refine (same_in g g qs qs _ _ W hq (hp.below hW)).mono ?_
      rintro e w' ⟨r, rfl, h1, h2⟩
      exact ⟨by rw [h1.2 ⟨rfl, rfl⟩], h2⟩
    · rintro e w' ⟨rfl, hb⟩
      refine ⟨_, rfl, ?_, hb⟩
      by_cases hc : c = 0
      · have hx0 := hx hc
        subst hc
        subst hx0
        have hR := (parse_right _ _ _ h9 hr).1
        refine ⟨fun _ hsz => ?_, fun _ hsz => ?_, fun hn => absurd hR hn⟩
        · unfold wrS; rw [if_neg (by simp), if_neg (by omega)]
        · unfold wrS; rw [if_neg (by simp), if_pos (by omega)]
      · have hno : ¬ Right g qs := fun hR => by
          have := parse_asm g qs hR
          rw [hr] at this
          simp at this
          exact hc this.1
        refine ⟨fun h => absurd h hno, fun h => absurd h hno, fun _ => ?_⟩
        unfold wrS; rw [if_pos (.inl hc)]
  · have hno : ¬ Right f ps := fun hR => by
      have := parse_asm f ps hR
      rw [hr] at this
      simp at this
      exact hs this.1
    refine (write_gen f g qs pb _ pc w (asmB f ps) c x false hx hasm hparse fun W qb ql qc hW hq => ?_).mono ?_
    · refine (same_in g f qs ps _ _ W hq (hp.below hW)).mono ?_
      rintro e w' ⟨r, rfl, h1, h2⟩
      have hrf : r = false := by
        cases r
        · rfl
        · exact absurd (h1.1 rfl) hs
      exact ⟨by rw [hrf], h2⟩
    · rintro e w' ⟨rfl, hb⟩
      refine ⟨_, rfl, ⟨fun h => absurd h hno, fun h => absurd h hno, fun _ => ?_⟩, hb⟩
      unfold wrS; rw [if_pos (.inr rfl)]
end Go.Proofs.YtfmljlflnpmceaaGreatDoor.Fm
