/- The document's Name and Value are the program's. -/
import Derived.Test.YtcgfgjhhmbfmdaaDoorB1
namespace Go.Proofs.YtcgfgjhhmbfmdaaDoor
open Go.RowKit
set_option linter.unusedVariables false
set_option linter.unusedSimpArgs false

def nameC : ByteArray := ⟨#[97, 98, 99, 100, 101, 102, 103, 104, 105, 106, 107, 108, 109, 110, 111, 112, 113, 114, 115, 116, 117, 118, 119, 120, 121, 122, 48, 49, 50, 51, 52, 53, 54, 55, 56, 57, 33, 35, 36, 37, 38, 39, 42, 43, 45, 46, 94, 95, 126, 124, 96]⟩
theorem name_bytes : ((List.range 256).all fun n => inB nameC (UInt8.ofNat n) == (nameB (n : Int) && decide (n < 128))) = true := by decide +kernel
theorem name_byte (x : UInt8) : inB nameC x = (nameB (x.toNat : Int) && decide (x.toNat < 128)) := by
  have h := List.all_eq_true.1 name_bytes x.toNat (List.mem_range.2 x.toNat_lt)
  simpa using h
theorem made_name (s : ByteArray) : madeB 64 nameC s = nmB s := by
  unfold madeB nmB consB allB
  have : s.data.toList.all (fun x => inB nameC x) = s.data.toList.all (fun x => nameB (x.toNat : Int) && decide (x.toNat < 128)) := by
    congr 1
    funext x
    exact name_byte x
  rw [this, Bool.and_assoc, Bool.and_comm]
set_option maxHeartbeats 1000000 in
set_option maxRecDepth 100000 in
theorem rname_any (s : ByteArray) (w : World) (hs : s.size ≤ 140737488355328) : Calls Tryd.prog 11 #[.string s] w fun e w' => e = .returned (.bool (nmB s)) ∧ w' = w := by
  have hC : Hid (Calls Tryd.prog 40 #[.string s, .int .i64 64, .string nameC] w fun e w' => e = .returned (.bool (nmB s)) ∧ w' = w) := by
    have := made_any s nameC 64 w hs (by decide)
    rw [made_name] at this
    exact this
  unfold nameC at hC
  go_enter Tryd.func11, Tryd.ntmps11
  go_wp2_with (go_at_call 40; refine hC.out.mono ?_; rintro e w' ⟨rfl, hw⟩; rw [hw])
  go_ret
  exact ⟨rfl, rfl⟩

/-- no byte is barred so far -/
def frontN (s : ByteArray) (i : Nat) : Prop := ∀ j (h : j < s.size), j < i → inB barBytes (s[j]'h) = false
theorem bar_none {s : ByteArray} (h : frontN s s.size) : decide (0 ≤ Lib.indexAny s.data.toList barBytes.data.toList) = false := by
  have : Lib.indexAny s.data.toList barBytes.data.toList = -1 := Lib.indexAny_none fun j b hj hb => by
    have hj' : j < s.size := by simpa using hj
    have := h j hj' hj'
    rw [show s[j]'hj' = b by rw [List.getElem?_eq_getElem hj] at hb; exact Option.some.inj hb] at this
    exact this
  rw [this]
  decide
theorem bar_some {s : ByteArray} {i : Nat} (hf : frontN s i) (hi : i < s.size) (h : inB barBytes (s[i]'hi) = true) : decide (0 ≤ Lib.indexAny s.data.toList barBytes.data.toList) = true := by
  have : Lib.indexAny s.data.toList barBytes.data.toList = (i : Int) := Lib.indexAny_hit (fun j b hj hb => by
    have hj2 : j < s.data.toList.length := (List.getElem?_eq_some_iff.1 hb).1
    have hj' : j < s.size := by simpa using hj2
    have := hf j hj' hj
    rw [show s[j]'hj' = b by rw [List.getElem?_eq_getElem hj2] at hb; exact Option.some.inj hb] at this
    exact this) (Lib.data_getElem? s i hi) h
  rw [this]
  simp
/-- the ends are no blanks -/
def endsB (s : ByteArray) : Bool := if h : 0 < s.size then !inB blankBytes (s[0]'h) && !inB blankBytes (s[s.size - 1]'(by omega)) else true
theorem dropWhile_self {α : Type} (p : α → Bool) (l : List α) : l.dropWhile p = l ↔ ∀ a ∈ l.head?, p a = false := by
  cases l with
  | nil => simp
  | cons a r =>
    by_cases h : p a = true
    · simp only [List.dropWhile_cons, h, if_true, List.head?_cons, Option.mem_some]
      constructor
      · intro e
        have h1 := congrArg List.length e
        have h2 := (List.dropWhile_suffix (l := r) p).length_le
        simp at h1
        omega
      · intro e
        have := e a rfl
        rw [h] at this
        cases this
    · have h' : p a = false := by simpa using h
      simp [List.dropWhile_cons, h']
theorem trim_self (l cs : List UInt8) : Lib.trimS l cs = l ↔ (∀ a ∈ l.head?, cs.contains a = false) ∧ (∀ a ∈ l.getLast?, cs.contains a = false) := by
  unfold Lib.trimS Lib.trimLeftS Lib.trimRightS
  have key : (l.reverse.dropWhile (cs.contains ·)).reverse = l ↔ ∀ a ∈ l.getLast?, cs.contains a = false := by
    rw [← List.head?_reverse, ← dropWhile_self]
    constructor
    · intro h; have := congrArg List.reverse h; rw [List.reverse_reverse] at this; exact this
    · intro h; rw [h, List.reverse_reverse]
  constructor
  · intro h
    have h1 : ((l.reverse.dropWhile (cs.contains ·)).reverse).length = l.length := by
      have a := congrArg List.length h
      have b := (List.dropWhile_suffix (l := (l.reverse.dropWhile (cs.contains ·)).reverse) (cs.contains ·)).length_le
      have c := (List.dropWhile_suffix (l := l.reverse) (cs.contains ·)).length_le
      simp only [List.length_reverse] at b c ⊢
      omega
    have h2 : (l.reverse.dropWhile (cs.contains ·)).reverse = l := by
      have hs : l.reverse.dropWhile (cs.contains ·) = l.reverse := (List.dropWhile_suffix (l := l.reverse) (cs.contains ·)).eq_of_length (by simpa using h1)
      rw [hs, List.reverse_reverse]
    rw [h2] at h
    exact ⟨(dropWhile_self _ _).1 h, key.1 h2⟩
  · rintro ⟨h1, h2⟩
    rw [key.2 h2]
    exact (dropWhile_self _ _).2 h1
theorem ends_trim (s : ByteArray) : ((⟨(Lib.trimS s.data.toList blankBytes.data.toList).toArray⟩ : ByteArray).toList == s.toList) = endsB s := by
  rw [ByteArray.toList_eq, ByteArray.toList_eq]
  have hb : (((⟨(Lib.trimS s.data.toList blankBytes.data.toList).toArray⟩ : ByteArray).data.toList) == s.data.toList) = decide (Lib.trimS s.data.toList blankBytes.data.toList = s.data.toList) := by
    by_cases h : Lib.trimS s.data.toList blankBytes.data.toList = s.data.toList <;> simp [h]
  rw [hb]
  unfold endsB
  by_cases h : 0 < s.size
  · rw [dif_pos h]
    have e1 : s.data.toList.head? = some (s[0]'h) := by
      rw [List.head?_eq_getElem?]
      exact Lib.data_getElem? s 0 h
    have e2 : s.data.toList.getLast? = some (s[s.size - 1]'(by omega)) := by
      rw [List.getLast?_eq_getElem?]
      have : s.data.toList.length - 1 = s.size - 1 := by simp
      rw [this]
      exact Lib.data_getElem? s (s.size - 1) (by omega)
    have h3 := trim_self s.data.toList blankBytes.data.toList
    rw [e1, e2] at h3
    simp only [Option.mem_some, forall_eq'] at h3
    unfold inB
    cases a : blankBytes.data.toList.contains (s[0]'h) <;> cases b : blankBytes.data.toList.contains (s[s.size - 1]'(by omega)) <;> rw [a, b] at h3 <;> simp [h3]
  · rw [dif_neg h]
    have : s.data.toList = [] := List.eq_nil_of_length_eq_zero (by rw [← Lib.size_eq]; omega)
    rw [this]
    rfl
theorem val_ends (s : ByteArray) : valB s = (decide (s.size ≤ 4096) && !decide (0 ≤ Lib.indexAny s.data.toList barBytes.data.toList) && endsB s) := by
  unfold valB
  rw [ends_trim]
end Go.Proofs.YtcgfgjhhmbfmdaaDoor
