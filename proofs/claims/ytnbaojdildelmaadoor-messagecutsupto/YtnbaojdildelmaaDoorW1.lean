/- Plain facts on replies. -/
import Derived.Test.YtnbaojdildelmaaDoorN5
namespace Go.Proofs.YtnbaojdildelmaaDoor
open Go.RowKit
set_option linter.unusedVariables false
set_option linter.unusedSimpArgs false
def inB (of : ByteArray) (x : UInt8) : Bool := of.data.toList.contains x
def frontN (s : ByteArray) (i : Nat) : Prop := ∀ j (h : j < s.size), j < i → inB barBytes (s[j]'h) = false
theorem bar_none {s : ByteArray} (h : frontN s s.size) : decide (0 ≤ Lib.indexAny s.data.toList barBytes.data.toList) = false := by
  have : Lib.indexAny s.data.toList barBytes.data.toList = -1 := Lib.indexAny_none fun j b hj hb => by
    have hj' : j < s.size := by simpa using hj
    have := h j hj' hj'
    rw [show s[j]'hj' = b by rw [List.getElem?_eq_getElem hj] at hb; exact Option.some.inj hb] at this
    exact this
  rw [this]
  decide
/-- the ends are no blanks -/
def endsB (s : ByteArray) : Bool := if h : 0 < s.size then !inB blankBytes (s[0]'h) && !inB blankBytes (s[s.size - 1]'(by omega)) else true
theorem dropWhile_self {α : Type} (p : α → Bool) (l : List α) : l.dropWhile p = l ↔ ∀ a ∈ l.head?, p a = false := by
  cases l with
  | nil => simp
  | cons a r =>
    by_cases h : p a = true
    · simp only [List.dropWhile_cons, h, if_true, List.head?_cons, Option.mem_some]
      constructor
      · intro e
        have h1 := congrArg List.length e
        have h2 := (List.dropWhile_suffix (l := r) p).length_le
        simp at h1
        omega
      · intro e
        have := e a rfl
        rw [h] at this
        cases this
    · have h' : p a = false := by simpa using h
      simp [List.dropWhile_cons, h']
theorem trim_self (l cs : List UInt8) : Lib.trimS l cs = l ↔ (∀ a ∈ l.head?, cs.contains a = false) ∧ (∀ a ∈ l.getLast?, cs.contains a = false) := by
  unfold Lib.trimS Lib.trimLeftS Lib.trimRightS
  have key : (l.reverse.dropWhile (cs.contains ·)).reverse = l ↔ ∀ a ∈ l.getLast?, cs.contains a = false := by
    rw [← List.head?_reverse, ← dropWhile_self]
    constructor
    · intro h; have := congrArg List.reverse h; rw [List.reverse_reverse] at this; exact this
    · intro h; rw [h, List.reverse_reverse]
  constructor
  · intro h
    have h1 : ((l.reverse.dropWhile (cs.contains ·)).reverse).length = l.length := by
      have a := congrArg List.length h
      have b := (List.dropWhile_suffix (l := (l.reverse.dropWhile (cs.contains ·)).reverse) (cs.contains ·)).length_le
      have c := (List.dropWhile_suffix (l := l.reverse) (cs.contains ·)).length_le
      simp only [List.length_reverse] at b c ⊢
      omega
    have h2 : (l.reverse.dropWhile (cs.contains ·)).reverse = l := by
      have hs : l.reverse.dropWhile (cs.contains ·) = l.reverse := (List.dropWhile_suffix (l := l.reverse) (cs.contains ·)).eq_of_length (by simpa using h1)
      rw [hs, List.reverse_reverse]
    rw [h2] at h
    exact ⟨(dropWhile_self _ _).1 h, key.1 h2⟩
  · rintro ⟨h1, h2⟩
    rw [key.2 h2]
    exact (dropWhile_self _ _).2 h1
theorem ends_trim (s : ByteArray) : ((⟨(Lib.trimS s.data.toList blankBytes.data.toList).toArray⟩ : ByteArray).toList == s.toList) = endsB s := by
  rw [ByteArray.toList_eq, ByteArray.toList_eq]
  have hb : (((⟨(Lib.trimS s.data.toList blankBytes.data.toList).toArray⟩ : ByteArray).data.toList) == s.data.toList) = decide (Lib.trimS s.data.toList blankBytes.data.toList = s.data.toList) := by
    by_cases h : Lib.trimS s.data.toList blankBytes.data.toList = s.data.toList <;> simp [h]
  rw [hb]
  unfold endsB
  by_cases h : 0 < s.size
  · rw [dif_pos h]
    have e1 : s.data.toList.head? = some (s[0]'h) := by
      rw [List.head?_eq_getElem?]
      exact Lib.data_getElem? s 0 h
    have e2 : s.data.toList.getLast? = some (s[s.size - 1]'(by omega)) := by
      rw [List.getLast?_eq_getElem?]
      have : s.data.toList.length - 1 = s.size - 1 := by simp
      rw [this]
      exact Lib.data_getElem? s (s.size - 1) (by omega)
    have h3 := trim_self s.data.toList blankBytes.data.toList
    rw [e1, e2] at h3
    simp only [Option.mem_some, forall_eq'] at h3
    unfold inB
    cases a : blankBytes.data.toList.contains (s[0]'h) <;> cases b : blankBytes.data.toList.contains (s[s.size - 1]'(by omega)) <;> rw [a, b] at h3 <;> simp [h3]
  · rw [dif_neg h]
    have : s.data.toList = [] := List.eq_nil_of_length_eq_zero (by rw [← Lib.size_eq]; omega)
    rw [this]
    rfl
theorem val_ends (s : ByteArray) : valB s = (decide (s.size ≤ 4096) && !decide (0 ≤ Lib.indexAny s.data.toList barBytes.data.toList) && endsB s) := by
  unfold valB
  rw [ends_trim]

theorem dec_small {u : Nat} (h : u < 10) : Lib.decDigits u = [UInt8.ofNat (48 + u)] := by rw [Lib.decDigits, dif_pos h]
theorem dec_big {u : Nat} (h : ¬ u < 10) : Lib.decDigits u = Lib.decDigits (u / 10) ++ [UInt8.ofNat (48 + u % 10)] := by rw [Lib.decDigits, dif_neg h]
theorem numL_snoc (l : List UInt8) (x : UInt8) : numL (l ++ [x]) = 10 * numL l + ((x.toNat : Int) - 48) := by
  unfold numL
  rw [List.foldl_append]
  rfl
theorem dig_nat {r : Nat} (h : r < 10) : ((UInt8.ofNat (48 + r)).toNat : Int) - 48 = (r : Int) := by
  rw [UInt8.toNat_ofNat']
  omega
theorem numL_dec (u : Nat) : numL (Lib.decDigits u) = (u : Int) := by
  induction u using Nat.strongRecOn with
  | _ u ih =>
    by_cases h : u < 10
    · rw [dec_small h]
      simp only [numL, List.foldl_cons, List.foldl_nil]
      have := dig_nat h
      omega
    · rw [dec_big h, numL_snoc, ih (u / 10) (by omega), dig_nat (Nat.mod_lt _ (by decide))]
      omega

theorem inB_false {s : ByteArray} {x : UInt8} (h : x ∉ s.data.toList) : inB s x = false := by
  cases e : inB s x
  · rfl
  · exact absurd (by unfold inB at e; simpa using e) h
theorem val_vis {s : ByteArray} (hs : s.size ≤ 4096) (h : ∀ x ∈ s.data.toList, 33 ≤ x.toNat) : valB s = true := by
  have hn : ∀ x : UInt8, 33 ≤ x.toNat → inB barBytes x = false ∧ inB blankBytes x = false := fun x hx => by
    constructor
    · apply inB_false
      intro hm
      simp [barBytes] at hm
      rcases hm with rfl | rfl | rfl <;> exact absurd hx (by decide)
    · apply inB_false
      intro hm
      simp [blankBytes] at hm
      rcases hm with rfl | rfl <;> exact absurd hx (by decide)
  have hm : ∀ j (hj : j < s.size), 33 ≤ (s[j]'hj).toNat := fun j hj => h _ (by
    have : s[j] = s.data[j] := rfl
    rw [this]
    exact Array.getElem_mem_toList _)
  rw [val_ends, decide_eq_true hs, bar_none (fun j hj _ => (hn _ (hm j hj)).1)]
  unfold endsB
  by_cases h0 : 0 < s.size
  · rw [dif_pos h0, (hn _ (hm 0 h0)).2, (hn _ (hm (s.size - 1) (by omega))).2]
    rfl
  · rw [dif_neg h0]
    rfl
theorem dec_bytes (u : Nat) : ∀ x ∈ Lib.decDigits u, 48 ≤ x.toNat ∧ x.toNat ≤ 57 := by
  induction u using Nat.strongRecOn with
  | _ u ih =>
    by_cases h : u < 10
    · rw [dec_small h]
      intro x hx
      rw [List.mem_singleton.1 hx, UInt8.toNat_ofNat']
      omega
    · rw [dec_big h]
      intro x hx
      rcases List.mem_append.1 hx with hx | hx
      · exact ih (u / 10) (by omega) x hx
      · rw [List.mem_singleton.1 hx, UInt8.toNat_ofNat']
        omega
theorem dec_len : ∀ (k u : Nat), u < 10 ^ (k + 1) → (Lib.decDigits u).length ≤ k + 1
  | 0, u, h => by rw [dec_small (by simpa using h)]; simp
  | k + 1, u, h => by
    by_cases h1 : u < 10
    · rw [dec_small h1]; simp
    · rw [dec_big h1, List.length_append]
      have := dec_len k (u / 10) (by rw [Nat.pow_succ] at h; omega)
      simp only [List.length_cons, List.length_nil]
      omega
theorem dec_pos (u : Nat) : 1 ≤ (Lib.decDigits u).length := by
  by_cases h1 : u < 10
  · rw [dec_small h1]; simp
  · rw [dec_big h1, List.length_append]; simp
theorem parse_app (M : Nat) : ∀ (l r : List UInt8) (acc : Nat) (a : Nat), Lib.parseUintM M acc l = .ok a → Lib.parseUintM M acc (l ++ r) = Lib.parseUintM M a r
  | [], r, acc, a, h => by simp only [Lib.parseUintM] at h; injection h with h; rw [List.nil_append, h]
  | c :: l, r, acc, a, h => by
    rw [List.cons_append]
    unfold Lib.parseUintM at h
    conv => lhs; unfold Lib.parseUintM
    split at h
    · split at h
      · cases h
      · split at h
        · cases h
        · rename_i h1 h2 h3
          rw [if_pos h1, if_neg h2, if_neg h3]
          exact parse_app M l r _ a h
    · cases h
theorem parse_dec (u : Nat) (hu : u ≤ 18446744073709551615) : Lib.parseUintM 18446744073709551615 0 (Lib.decDigits u) = .ok u := by
  induction u using Nat.strongRecOn with
  | _ u ih =>
    have key : ∀ (a r : Nat), r < 10 → a * 10 + r ≤ 18446744073709551615 → Lib.parseUintM 18446744073709551615 a [UInt8.ofNat (48 + r)] = .ok (a * 10 + r) := fun a r hr ha => by
      have e : (UInt8.ofNat (48 + r)).toNat = 48 + r := by rw [UInt8.toNat_ofNat']; omega
      simp only [Lib.parseUintM, e]
      rw [if_pos ⟨by omega, by omega⟩, if_neg (by omega), if_neg (by omega)]
      congr 1
      omega
    by_cases h : u < 10
    · rw [dec_small h, key 0 u h (by omega)]
      simp
    · rw [dec_big h, parse_app _ _ _ _ _ (ih (u / 10) (by omega) (by omega)), key (u / 10) (u % 10) (Nat.mod_lt _ (by decide)) (by omega)]
      congr 1
      omega
/-- a number's text -/
def decS (u : Nat) : ByteArray := bt (Lib.decDigits u)
theorem nbO_dec {u : Nat} (h : u ≤ 2147483647) : nbO (decS u) = some u := by
  unfold nbO decS
  have h1 := dec_len 9 u (by omega)
  have h2 := dec_pos u
  rw [bt_list, Lib.parseUintB, if_neg (fun e => by rw [e] at h2; simp at h2), show 2 ^ 64 - 1 = 18446744073709551615 from rfl, parse_dec u (by omega)]
  simp only [bt_size]
  rw [if_pos ⟨h1, h⟩]
theorem dec_val {u : Nat} (h : u ≤ 9223372036854775807) : valB (decS u) = true := by
  have h1 := dec_len 18 u (by omega)
  refine val_vis (by rw [decS, bt_size]; omega) fun x hx => ?_
  rw [decS, bt_list] at hx
  have := dec_bytes u x hx
  omega
theorem dec_stat {n : Nat} (h1 : 100 ≤ n) (h2 : n ≤ 599) : stB (decS n) = true ∧ numL (decS n).data.toList = (n : Int) := by
  have e : numL (decS n).data.toList = (n : Int) := by rw [decS, bt_list]; exact numL_dec n
  refine ⟨?_, e⟩
  have l1 := dec_len 2 n (by omega)
  have l2 := dec_pos n
  unfold stB consB allB
  rw [e]
  simp only [Bool.and_eq_true, decide_eq_true_eq, List.all_eq_true]
  refine ⟨⟨⟨⟨?_, ?_⟩, fun x hx => ?_⟩, by omega⟩, by omega⟩
  · rw [decS, bt_size]; exact l2
  · rw [decS, bt_size]; omega
  · rw [decS, bt_list] at hx
    have := dec_bytes n x hx
    unfold digB
    simp
    omega
def statS : ByteArray := ⟨#[58, 115, 116, 97, 116, 117, 115]⟩
/-- a response's list that is right -/
theorem res_ok {st : ByteArray} {nv : Bool} {r : List Fd} (h1 : stB st = true) (h2 : valB st = true) (h3 : r.length ≤ 63) (h4 : ∀ f ∈ r, wrongB f = false ∧ nofB f = false) : rsE (⟨statS, st, nv⟩ :: r) = 0 ∧ stOf (⟨statS, st, nv⟩ :: r) = numL st.data.toList := by
  have hv : vals (⟨statS, st, nv⟩ :: r) 1 resNames = some [st] := rfl
  have hw : wrongB ⟨statS, st, nv⟩ = false := by
    unfold wrongB
    simp only [h2]
    decide
  have ha : (⟨statS, st, nv⟩ :: r : List Fd).any wrongB = false := by
    rw [List.any_cons, hw, Bool.false_or, List.any_eq_false]
    intro f hf
    rw [(h4 f hf).1]
    simp
  have hn : ((⟨statS, st, nv⟩ :: r : List Fd).drop resNames.length).any nofB = false := by
    rw [show ((⟨statS, st, nv⟩ :: r : List Fd).drop resNames.length) = r from rfl, List.any_eq_false]
    intro f hf
    rw [(h4 f hf).2]
    simp
  have hr : rdE (⟨statS, st, nv⟩ :: r) resNames = 0 := by
    unfold rdE
    rw [if_neg (by simp; omega), if_neg (by rw [ha]; simp), if_neg (by simp [resNames]), if_neg (by rw [hn]; simp)]
    rw [show resNames.length = 1 from rfl, hv]
  constructor
  · unfold rsE
    rw [hr, if_neg (by simp), hv]
    simp only
    rw [if_pos h1]
  · unfold stOf
    rw [hv]
/-- example 2's list -/
def rpL (st ln : ByteArray) : List Fd := ⟨statS, st, false⟩ :: (if ln = ⟨#[]⟩ then [] else [⟨clS, ln, false⟩])
theorem rp_vs (st ln : ByteArray) : vsL (rpL st ln) clS = if ln = ⟨#[]⟩ then [] else [ln] := by
  unfold rpL
  by_cases h : ln = ⟨#[]⟩
  · rw [if_pos h, if_pos h]; rfl
  · rw [if_neg h, if_neg h]; rfl
theorem rp_ok {st ln : ByteArray} (h1 : stB st = true) (h2 : valB st = true) (h3 : valB ln = true) : rsE (rpL st ln) = 0 ∧ stOf (rpL st ln) = numL st.data.toList := by
  unfold rpL
  refine res_ok h1 h2 (by split <;> simp) fun f hf => ?_
  split at hf
  · cases hf
  · simp at hf
    subst hf
    constructor
    · unfold wrongB
      simp only [h3]
      decide
    · kernel_rfl
end Go.Proofs.YtnbaojdildelmaaDoor
