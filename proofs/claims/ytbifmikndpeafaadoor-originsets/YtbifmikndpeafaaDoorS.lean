/- Origins, on bytes. -/
import Derived.WalkKit
import Derived.Lib.Walk
import Derived.Lib.Strings
import Derived.Lib.Bytealg
import Derived.Lib.ParseIntB
import Derived.Lib.ParseIntBCases
namespace Go.Proofs.YtbifmikndpeafaaDoor
open Go.RowKit
set_option linter.unusedVariables false
set_option linter.unusedSimpArgs false

def bt (l : List UInt8) : ByteArray := ⟨l.toArray⟩
theorem bt_list (l : List UInt8) : (bt l).data.toList = l := by simp [bt]
theorem bt_size (l : List UInt8) : (bt l).size = l.length := by rw [Lib.size_eq, bt_list]
theorem bt_self (s : ByteArray) : bt s.data.toList = s := by cases s; simp [bt]
theorem ba_eq {a b : ByteArray} (h : a.data.toList = b.data.toList) : a = b := by
  rw [← bt_self a, ← bt_self b, h]
/-- a to z for A to Z -/
def smC (x : UInt8) : UInt8 := if 65 ≤ x.toNat ∧ x.toNat ≤ 90 then UInt8.ofNat (x.toNat + 32) else x
def smL (l : List UInt8) : List UInt8 := l.map smC
def smS (s : ByteArray) : ByteArray := bt (smL s.data.toList)
theorem smC_up {x : UInt8} (h1 : 65 ≤ x.toNat) (h2 : x.toNat ≤ 90) : (smC x).toNat = x.toNat + 32 := by
  unfold smC
  rw [if_pos ⟨h1, h2⟩, UInt8.toNat_ofNat']
  omega
theorem smC_id {x : UInt8} (h : ¬ (65 ≤ x.toNat ∧ x.toNat ≤ 90)) : smC x = x := if_neg h
theorem sm_size (s : ByteArray) : (smS s).size = s.size := by rw [smS, bt_size, smL, List.length_map, Lib.size_eq]
theorem sm_list (s : ByteArray) : (smS s).data.toList = s.data.toList.map smC := by rw [smS, bt_list, smL]

/-- an origin -/
structure Og where
  s : ByteArray
  h : ByteArray
  p : Int
theorem Og.eq_iff {a b : Og} : a = b ↔ a.s = b.s ∧ a.h = b.h ∧ a.p = b.p := by
  cases a; cases b; simp
def ogD (a b : Og) : Bool := decide (a.s = b.s) && decide (a.h = b.h) && decide (a.p = b.p)
theorem ogD_iff {a b : Og} : ogD a b = true ↔ a = b := by rw [Og.eq_iff]; simp [ogD, and_assoc]
theorem ogD_not {a b : Og} : ogD a b = false ↔ a ≠ b := by rw [Ne, ← ogD_iff, Bool.not_eq_true]
theorem ogD_self (a : Og) : ogD a a = true := ogD_iff.2 rfl
def ogv (o : Og) : Array Value := #[.string o.s, .string o.h, .int .i64 o.p]
def og0 : Og := ⟨⟨#[]⟩, ⟨#[]⟩, 0⟩
def httpS : ByteArray := ⟨#[104, 116, 116, 112]⟩
def httpsS : ByteArray := ⟨#[104, 116, 116, 112, 115]⟩
/-- the usual port; 0: no scheme -/
def usP (s : ByteArray) : Int := if s = httpS then 80 else if s = httpsS then 443 else 0
theorem usP_cases (s : ByteArray) : s = httpS ∧ usP s = 80 ∨ s = httpsS ∧ usP s = 443 ∨ s ≠ httpS ∧ s ≠ httpsS ∧ usP s = 0 := by
  unfold usP
  by_cases h1 : s = httpS
  · exact .inl ⟨h1, if_pos h1⟩
  · by_cases h2 : s = httpsS
    · exact .inr (.inl ⟨h2, by rw [if_neg h1, if_pos h2]⟩)
    · exact .inr (.inr ⟨h1, h2, by rw [if_neg h1, if_neg h2]⟩)
theorem usP_size {s : ByteArray} (h : usP s ≠ 0) : s.size ≤ 5 := by
  rcases usP_cases s with ⟨rfl, _⟩ | ⟨rfl, _⟩ | ⟨_, _, e⟩
  · decide
  · decide
  · exact absurd e h
/-- a label's letter or digit -/
def lbB (x : UInt8) : Bool := (decide (97 ≤ x.toNat) && decide (x.toNat ≤ 122)) || (decide (48 ≤ x.toNat) && decide (x.toNat ≤ 57))
theorem lbB_iff {x : UInt8} : lbB x = true ↔ (97 ≤ x.toNat ∧ x.toNat ≤ 122) ∨ (48 ≤ x.toNat ∧ x.toNat ≤ 57) := by simp [lbB]
theorem lbB_not {x : UInt8} : lbB x = false ↔ ¬ ((97 ≤ x.toNat ∧ x.toNat ≤ 122) ∨ (48 ≤ x.toNat ∧ x.toNat ≤ 57)) := by rw [← lbB_iff, Bool.not_eq_true]
/-- labels, each with a dot behind it; n bytes of one have come, d: the last one was '-' -/
def hB : List UInt8 → Nat → Bool → Bool
  | [], _, _ => true
  | x :: r, n, d => if x.toNat = 46 ∧ 1 ≤ n ∧ n ≤ 63 ∧ d = false then hB r 0 false
      else if lbB x = true ∨ (x.toNat = 45 ∧ 0 < n) then hB r (n + 1) (decide (x.toNat = 45)) else false
def hostB (s : ByteArray) : Bool := decide (s.size ≤ 253) && hB (s.data.toList ++ [46]) 0 false
theorem hB_dot {x : UInt8} {r : List UInt8} {n : Nat} {d : Bool} (h : x.toNat = 46 ∧ 1 ≤ n ∧ n ≤ 63 ∧ d = false) : hB (x :: r) n d = hB r 0 false := by rw [hB, if_pos h]
theorem hB_dash {x : UInt8} {r : List UInt8} {n : Nat} {d : Bool} (h : x.toNat = 45 ∧ 0 < n) : hB (x :: r) n d = hB r (n + 1) true := by
  rw [hB, if_neg (by omega), if_pos (.inr h), decide_eq_true h.1]
theorem hB_lab {x : UInt8} {r : List UInt8} {n : Nat} {d : Bool} (h : lbB x = true) : hB (x :: r) n d = hB r (n + 1) false := by
  have := lbB_iff.1 h
  rw [hB, if_neg (by omega), if_pos (.inl h), decide_eq_false (by omega)]
theorem hB_no {x : UInt8} {r : List UInt8} {n : Nat} {d : Bool} (h1 : ¬ (x.toNat = 46 ∧ 1 ≤ n ∧ n ≤ 63 ∧ d = false)) (h2 : lbB x = false) (h3 : ¬ (x.toNat = 45 ∧ 0 < n)) : hB (x :: r) n d = false := by
  rw [hB, if_neg h1, if_neg (by rw [h2]; simpa using h3)]
/-- a host's bytes -/
theorem hB_all : ∀ (l : List UInt8) (n : Nat) (d : Bool), hB l n d = true → ∀ x ∈ l, lbB x = true ∨ x.toNat = 45 ∨ x.toNat = 46
  | [], _, _, _ => fun _ h => by cases h
  | y :: r, n, d, h => fun x hx => by
    rw [hB] at h
    split at h
    · rename_i h1
      rcases List.mem_cons.1 hx with rfl | hx
      · exact .inr (.inr h1.1)
      · exact hB_all r _ _ h x hx
    · split at h
      · rename_i h1
        rcases List.mem_cons.1 hx with rfl | hx
        · rcases h1 with h1 | h1
          · exact .inl h1
          · exact .inr (.inl h1.1)
        · exact hB_all r _ _ h x hx
      · cases h
theorem host_all {s : ByteArray} (h : hostB s = true) : ∀ x ∈ s.data.toList, lbB x = true ∨ x.toNat = 45 ∨ x.toNat = 46 := fun x hx => by
  unfold hostB at h
  rw [Bool.and_eq_true] at h
  exact hB_all _ _ _ h.2 x (by simp [hx])
theorem host_size {s : ByteArray} (h : hostB s = true) : s.size ≤ 253 := by
  unfold hostB at h
  rw [Bool.and_eq_true] at h
  exact of_decide_eq_true h.1
/-- a right origin -/
def rtB (o : Og) : Bool := decide (usP o.s ≠ 0) && hostB o.h && decide (1 ≤ o.p ∧ o.p ≤ 65535)
theorem rtB_iff {o : Og} : rtB o = true ↔ usP o.s ≠ 0 ∧ hostB o.h = true ∧ 1 ≤ o.p ∧ o.p ≤ 65535 := by simp [rtB, and_assoc]
/-- begins with '0' -/
def zeroB (d : List UInt8) : Bool := match d with | [] => false | x :: _ => decide (x.toNat = 48)
/-- the port that digits tell; 0: none -/
def ptN (d : ByteArray) : Nat := if zeroB d.data.toList = true then 0 else match Lib.parseUintB 16 d.data.toList with | .ok u => u | _ => 0
/-- where a byte stands first -/
theorem ixB_cases (l : List UInt8) (c : UInt8) : Lib.indexByte l c = -1 ∧ c ∉ l ∨ ∃ (i : Nat) (h : i < l.length), Lib.indexByte l c = (i : Int) ∧ l[i] = c ∧ c ∉ l.take i := by
  induction l with
  | nil => exact .inl ⟨rfl, by simp⟩
  | cons b r ih =>
    by_cases e : b = c
    · subst e
      exact .inr ⟨0, by simp, by simp [Lib.indexByte], rfl, by simp⟩
    · have e' : (b == c) = false := by simpa using e
      rcases ih with ⟨h1, h2⟩ | ⟨i, hi, h1, h2, h3⟩
      · exact .inl ⟨by simp [Lib.indexByte, e, h1], by simp [h2]; exact fun h => e h.symm⟩
      · refine .inr ⟨i + 1, by simpa using hi, ?_, by simpa using h2, ?_⟩
        · have : ¬ ((i : Int) = -1) := by omega
          simp [Lib.indexByte, e, h1, this]
        · rw [List.take_succ_cons, List.mem_cons, not_or]
          exact ⟨fun h => e h.symm, h3⟩
theorem ixB_app {l r : List UInt8} {c : UInt8} (h : c ∉ l) : Lib.indexByte (l ++ c :: r) c = (l.length : Int) := by
  induction l with
  | nil => simp [Lib.indexByte]
  | cons b t ih =>
    have hb : b ≠ c := fun e => h (by simp [e])
    have := ih fun hm => h (by simp [hm])
    have hn : ¬ ((t.length : Int) = -1) := by omega
    simp [Lib.indexByte, hb, this, hn]
theorem ixB_none {l : List UInt8} {c : UInt8} (h : c ∉ l) : Lib.indexByte l c = -1 := by
  rcases ixB_cases l c with h1 | ⟨i, hi, _, h2, _⟩
  · exact h1.1
  · exact absurd (h2 ▸ List.getElem_mem hi) h
/-- the host's part of an authority, and the port's -/
def hoS (au : ByteArray) : ByteArray := if 0 ≤ Lib.indexByte au.data.toList 58 then au.extract 0 (Lib.indexByte au.data.toList 58).toNat else au
def poN (sc au : ByteArray) : Int := if 0 ≤ Lib.indexByte au.data.toList 58 then (ptN (au.extract ((Lib.indexByte au.data.toList 58).toNat + 1) au.size) : Int) else usP sc
/-- what a scheme and a spelt authority stand for, if it is right -/
def mnG (sc au : ByteArray) : Og := ⟨sc, smS (hoS au), poN sc au⟩
def mnB (sc au : ByteArray) : Bool := rtB (mnG sc au)
def mnO (sc au : ByteArray) : Og := if mnB sc au = true then mnG sc au else og0
end Go.Proofs.YtbifmikndpeafaaDoor
