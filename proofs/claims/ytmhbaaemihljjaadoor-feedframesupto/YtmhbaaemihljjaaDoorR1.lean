/- Right frames, plainly: what is written is read back. -/
import Derived.Test.YtmhbaaemihljjaaDoorA8
import Derived.Test.YtmhbaaemihljjaaDoorC7
namespace Go.Proofs.YtmhbaaemihljjaaDoor
open Go.RowKit
set_option linter.unusedVariables false
set_option linter.unusedSimpArgs false

/-- bytes as a text -/
def bt (l : List UInt8) : ByteArray := ⟨l.toArray⟩
theorem bt_size (l : List UInt8) : (bt l).size = l.length := by simp [bt, ByteArray.size]
theorem bt_list (l : List UInt8) : (bt l).data.toList = l := by simp [bt]
theorem bt_data (b : ByteArray) : bt b.data.toList = b := by simp [bt]
theorem bt_ext (l : List UInt8) (i j : Nat) : (bt l).extract i j = bt ((l.drop i).take (j - i)) := by
  apply ByteArray.ext
  rw [ByteArray.data_extract]
  simp [bt, List.extract_eq_take_drop]
theorem bt_num (l : List UInt8) : numS (bt l) = numL l := by rw [numS, bt_list]
theorem bt_at (l : List UInt8) (i : Nat) (x : UInt8) (h : l[i]? = some x) : byteAt (bt l) i = x.toNat := by
  obtain ⟨hi, hx⟩ := List.getElem?_eq_some_iff.1 h
  rw [byteAt_eq _ _ (by rw [bt_size]; exact hi), ← hx]
  simp [bt, ByteArray.getElem_eq_getElem_data]

theorem be2 (v : Int) : be 2 v = [UInt8.ofNat (v / 256 % 256).toNat, UInt8.ofNat (v % 256).toNat] := by
  simp [be, List.range_succ]
theorem be3 (v : Int) : be 3 v = [UInt8.ofNat (v / 65536 % 256).toNat, UInt8.ofNat (v / 256 % 256).toNat, UInt8.ofNat (v % 256).toNat] := by
  simp [be, List.range_succ]
theorem be4 (v : Int) : be 4 v = [UInt8.ofNat (v / 16777216 % 256).toNat, UInt8.ofNat (v / 65536 % 256).toNat, UInt8.ofNat (v / 256 % 256).toNat, UInt8.ofNat (v % 256).toNat] := by
  simp [be, List.range_succ]
theorem u8_nat (x : Int) : (UInt8.ofNat (x % 256).toNat).toNat = (x % 256).toNat := by
  rw [UInt8.toNat_ofNat']
  omega
theorem num_be2 (v : Int) (h0 : 0 ≤ v) (h1 : v < 65536) : (numL (be 2 v) : Int) = v := by
  rw [be2]
  simp only [numL, List.foldl_cons, List.foldl_nil, u8_nat]
  omega
theorem num_be3 (v : Int) (h0 : 0 ≤ v) (h1 : v < 16777216) : (numL (be 3 v) : Int) = v := by
  rw [be3]
  simp only [numL, List.foldl_cons, List.foldl_nil, u8_nat]
  omega
theorem num_be4 (v : Int) (h0 : 0 ≤ v) (h1 : v < 4294967296) : (numL (be 4 v) : Int) = v := by
  rw [be4]
  simp only [numL, List.foldl_cons, List.foldl_nil, u8_nat]
  omega
theorem b8_nat (x : Int) (h0 : 0 ≤ x) (h1 : x < 256) : ((b8 x).toNat : Int) = x := by
  unfold b8
  rw [u8_nat]
  omega

/-- a part in the middle -/
theorem bt_mid (a b c : List UInt8) (i j : Nat) (hi : a.length = i) (hj : a.length + b.length = j) : (bt (a ++ (b ++ c))).extract i j = bt b := by
  rw [bt_ext, List.drop_append_of_le_length (by omega), List.drop_of_length_le (by omega), List.nil_append, List.take_append_of_le_length (by omega), List.take_of_length_le (by omega)]
theorem bt_front (b c : List UInt8) (j : Nat) (hj : b.length = j) : (bt (b ++ c)).extract 0 j = bt b := bt_mid [] b c 0 j rfl (by simpa using hj)
theorem bt_back (a b : List UInt8) (i j : Nat) (hi : a.length = i) (hj : a.length + b.length = j) : (bt (a ++ b)).extract i j = bt b := by
  have h := bt_mid a b [] i j hi hj
  rwa [List.append_nil] at h
theorem bt_all (b : List UInt8) (j : Nat) (hj : b.length = j) : (bt b).extract 0 j = bt b := bt_back [] b 0 j rfl (by simpa using hj)

/-- the fields that a kind of payload has, in their ranges, the others zero -/
def BodyR (k1 k4 : Nat) (f : Fr) (ps : List (Int × Int)) : Prop :=
  (if k4 = 51 ∨ k4 = 54 then 0 ≤ f.dep ∧ f.dep < 2147483648 ∧ 1 ≤ f.wt ∧ f.wt ≤ 256 else f.dep = 0 ∧ f.excl = false ∧ f.wt = 0) ∧
  (if k4 = 56 ∨ k4 = 65 then 0 ≤ f.code ∧ f.code < 4294967296 else f.code = 0) ∧
  (if k4 = 61 ∨ k4 = 65 ∨ k4 = 67 then 0 ≤ f.last ∧ f.last < 2147483648 else f.last = 0) ∧
  (if k4 = 58 ∧ k1 = 74 then ∀ q ∈ ps, 0 ≤ q.1 ∧ q.1 < 65536 ∧ 0 ≤ q.2 ∧ q.2 < 4294967296 else ps = []) ∧
  (if k4 = 54 ∨ k4 = 56 ∨ k4 = 58 ∨ k4 = 67 then f.data = ⟨#[]⟩ else if k1 = 73 then f.data.size = 8 else True)

def kiF (f : Fr) : Nat := (min f.ty 10).toNat
structure Right (f : Fr) (ps : List (Int × Int)) : Prop where
  ty0 : 0 ≤ f.ty
  ty1 : f.ty < 256
  fl0 : 0 ≤ f.fl
  fl1 : f.fl < 256
  fl : bits .and .i64 f.fl (kflags (kiF f)) = f.fl
  st0 : kfrom (kiF f) ≤ f.st
  st1 : f.st ≤ kto (kiF f)
  pad : if padS f then 0 ≤ f.pad ∧ f.pad < 256 else f.pad = 0
  body : BodyR (kd f.ty f.fl).1 (kd f.ty f.fl).2.2.2 f ps

theorem kto_le (i : Nat) : 0 ≤ kfrom i ∧ kto i ≤ 2147483647 := by
  rcases (by omega : i = 0 ∨ i = 1 ∨ i = 2 ∨ i = 3 ∨ i = 4 ∨ i = 5 ∨ i = 6 ∨ i = 7 ∨ i = 8 ∨ i = 9 ∨ i = 10 ∨ 11 ≤ i) with rfl | rfl | rfl | rfl | rfl | rfl | rfl | rfl | rfl | rfl | rfl | h
  all_goals first
    | decide
    | (unfold kfrom kto
       rw [List.getD_eq_getElem?_getD, List.getD_eq_getElem?_getD, List.getElem?_eq_none (by simpa using h), List.getElem?_eq_none (by simpa using h)]
       decide)

theorem prm_par (ps : List (Int × Int)) (h : ∀ q ∈ ps, 0 ≤ q.1 ∧ q.1 < 65536 ∧ 0 ≤ q.2 ∧ q.2 < 4294967296) : prmS (bt (parB ps)) ps.length = ps := by
  apply List.ext_getElem
  · simp [prmS]
  · intro i h1 h2
    have hs : parB ps = parB (ps.take i) ++ (be 2 ps[i].1 ++ (be 4 ps[i].2 ++ parB (ps.drop (i + 1)))) := by
      have e : ps = ps.take i ++ ps[i] :: ps.drop (i + 1) := by simp
      refine (congrArg parB e).trans ?_
      unfold parB
      rw [List.flatMap_append, List.flatMap_cons]
      simp only [List.append_assoc]
    have hl : (parB (ps.take i)).length = 6 * i := by rw [parB_length, List.length_take]; omega
    obtain ⟨q0, q1, q2, q3⟩ := h ps[i] (List.getElem_mem h2)
    have e1 : (bt (parB ps)).extract (6 * i) (6 * i + 2) = bt (be 2 ps[i].1) := by
      rw [hs]; exact bt_mid _ _ _ _ _ hl (by rw [hl, be_length])
    have e2 : (bt (parB ps)).extract (6 * i + 2) (6 * i + 6) = bt (be 4 ps[i].2) := by
      rw [hs, ← List.append_assoc]; exact bt_mid _ _ _ _ _ (by rw [List.length_append, hl, be_length]) (by rw [List.length_append, hl, be_length, be_length])
    simp only [prmS, List.getElem_map, List.getElem_range, e1, e2, bt_num, num_be2 _ q0 q1, num_be4 _ q2 q3]

theorem depS_val (f : Fr) (h0 : 0 ≤ f.dep) (h1 : f.dep < 2147483648) : depS f = f.dep + (if f.excl then 2147483648 else 0) := by
  unfold depS
  rw [Int.emod_eq_of_lt h0 h1]

theorem prio_back (f g : Fr) (h0 : 0 ≤ f.dep) (h1 : f.dep < 2147483648) (h2 : 1 ≤ f.wt) (h3 : f.wt ≤ 256) : prioS g (bt (prioB f)) = { g with dep := f.dep, excl := f.excl, wt := f.wt } := by
  have e1 : (bt (prioB f)).extract 0 4 = bt (be 4 (depS f)) := bt_front _ _ _ (be_length _ _)
  have e2 : (byteAt (bt (prioB f)) 4 : Int) = f.wt - 1 := by
    rw [bt_at _ 4 (b8 (f.wt - 1)) (by rw [prioB, be4]; rfl)]
    exact b8_nat _ (by omega) (by omega)
  have hd := depS_val f h0 h1
  have hn : ((numS ((bt (prioB f)).extract 0 4) : Nat) : Int) = depS f := by
    rw [e1, bt_num, num_be4]
    · rw [hd]; split <;> omega
    · rw [hd]; split <;> omega
  unfold prioS
  rw [e2]
  cases he : f.excl with
  | true =>
    rw [he, if_pos rfl] at hd
    have a1 : ((numS ((bt (prioB f)).extract 0 4) % 2147483648 : Nat) : Int) = f.dep := by omega
    have a2 : decide (2147483648 ≤ numS ((bt (prioB f)).extract 0 4)) = true := decide_eq_true (by omega)
    rw [a1, a2, show f.wt - 1 + 1 = f.wt by omega]
  | false =>
    rw [he, if_neg (by decide)] at hd
    have a1 : ((numS ((bt (prioB f)).extract 0 4) % 2147483648 : Nat) : Int) = f.dep := by omega
    have a2 : decide (2147483648 ≤ numS ((bt (prioB f)).extract 0 4)) = false := decide_eq_false (by omega)
    rw [a1, a2, show f.wt - 1 + 1 = f.wt by omega]

theorem num4 (v : Int) (h0 : 0 ≤ v) (h1 : v < 4294967296) : (numS (bt (be 4 v)) : Int) = v := by rw [bt_num, num_be4 v h0 h1]
theorem last_back (f g : Fr) (h0 : 0 ≤ f.last) (h1 : f.last < 2147483648) : lastS g (bt (be 4 (f.last % 2147483648))) = { g with last := f.last } := by
  have h := num4 (f.last % 2147483648) (by omega) (by omega)
  unfold lastS
  rw [show ((numS (bt (be 4 (f.last % 2147483648))) % 2147483648 : Nat) : Int) = f.last by omega]
theorem code_back (f g : Fr) (h0 : 0 ≤ f.code) (h1 : f.code < 4294967296) : codeS g (bt (be 4 f.code)) = { g with code := f.code } := by
  unfold codeS
  rw [num4 _ h0 h1]
theorem prioB_length (f : Fr) : (prioB f).length = 5 := by simp [prioB, be_length]
theorem no_data {f : Fr} (h : f.data = ⟨#[]⟩) : f.data.data.toList = [] := by rw [h]

/-- a payload that is written is read back -/
theorem take_pay (f : Fr) (ps : List (Int × Int)) {k1 : Nat} {k2 : Int} {k3 k4 : Nat} (hk : kd f.ty f.fl = (k1, k2, k3, k4)) (hB : BodyR k1 k4 f ps) :
    takeS k4 ⟨f.ty, f.fl, f.st, ⟨#[]⟩, f.pad, 0, false, 0, 0, 0⟩ (bt (payB k3 f ps)) = (f, ps) ∧ ftS k1 k2 ((payB k3 f ps).length : Int) = true := by
  obtain ⟨b1, b2, b3, b4, b5⟩ := hB
  have hsz : f.data.data.toList.length = f.data.size := by simp
  rcases kd_cases f.ty f.fl with h | h | h | h | h | h | h | h | h | h
  all_goals
    rw [h] at hk
    simp only [Prod.mk.injEq] at hk
    obtain ⟨rfl, rfl, rfl, rfl⟩ := hk
    simp only [reduceIte, Nat.reduceEqDiff, or_self, or_true, true_or, false_or, or_false, and_self, and_true, true_and, and_false, false_and] at b1 b2 b3 b4 b5
    simp only [takeS, payB, reduceIte, Nat.reduceEqDiff]
  · rw [bt_front _ _ 5 (prioB_length f), bt_back _ _ 5 _ (prioB_length f) (by rw [bt_size, List.length_append]), bt_data, prio_back f _ b1.1 b1.2.1 b1.2.2.1 b1.2.2.2]
    refine ⟨?_, by simp [ftS, prioB_length] <;> omega⟩
    subst b4
    cases f
    simp_all [dataS]
  · rw [prio_back f _ b1.1 b1.2.1 b1.2.2.1 b1.2.2.2]
    refine ⟨?_, by simp [ftS, prioB_length]⟩
    subst b4
    cases f
    simp_all
  · rw [code_back f _ b2.1 b2.2]
    refine ⟨?_, by simp [ftS, be_length]⟩
    subst b4
    cases f
    simp_all
  · subst b4
    refine ⟨?_, by simp [ftS, parB]⟩
    cases f
    have hz : (bt (parB [])).size / 6 = 0 := by rw [bt_size, parB_length]; rfl
    rw [hz]
    simp_all [prmS]
  · refine ⟨?_, ?_⟩
    · have hl : (bt (parB ps)).size / 6 = ps.length := by rw [bt_size, parB_length]; omega
      rw [hl, prm_par ps b4]
      cases f
      simp_all
    · rw [parB_length]
      have hr : ((ps.length * 6 : Nat) : Int).tmod 6 = 0 := by rw [Int.tmod_eq_emod_of_nonneg (by omega)]; omega
      show (((ps.length * 6 : Nat) : Int).tmod 6 == 0) = true
      rw [hr]
      rfl
  · rw [bt_front _ _ 4 (be_length _ _), bt_back _ _ 4 _ (be_length _ _) (by rw [bt_size, List.length_append]), bt_data, last_back f _ b3.1 b3.2]
    refine ⟨?_, by simp [ftS, be_length] <;> omega⟩
    subst b4
    cases f
    simp_all [dataS]
  · rw [bt_data]
    refine ⟨?_, by simp [ftS, b5]⟩
    subst b4
    cases f
    simp_all [dataS]
  · rw [bt_front _ _ 4 (be_length _ _), bt_mid _ _ _ 4 8 (be_length _ _) (by rw [be_length, be_length]), last_back f _ b3.1 b3.2, code_back f _ b2.1 b2.2]
    rw [← List.append_assoc, bt_back _ _ 8 _ (by rw [List.length_append, be_length, be_length]) (by rw [bt_size, List.length_append, List.length_append, List.length_append]), bt_data]
    refine ⟨?_, by simp [ftS, be_length] <;> omega⟩
    subst b4
    cases f
    simp_all [dataS]
  · rw [last_back f _ b3.1 b3.2]
    refine ⟨?_, by simp [ftS, be_length]⟩
    subst b4
    cases f
    simp_all
  · rw [bt_data]
    refine ⟨?_, by simp [ftS]⟩
    subst b4
    cases f
    simp_all [dataS]
end Go.Proofs.YtmhbaaemihljjaaDoor
