/- BlockBack: what its frames are. -/
import Derived.Test.YtdgdjanchpfleaaC2
namespace Go.Proofs.Ytdgdjanchpfleaa
open Go.RowKit
set_option linter.unusedVariables false
set_option linter.unusedSimpArgs false

theorem extract_list (t : ByteArray) (i j : Nat) : (t.extract i j).data.toList = (t.data.toList.take j).drop i := by
  rw [ByteArray.data_extract, Array.toList_extract, List.extract_eq_drop_take']
  
theorem take_more (l : List UInt8) (i j : Nat) (h : i ≤ j) : l.take i ++ (l.take j).drop i = l.take j := by
  have := List.take_append_drop i (l.take j)
  rw [List.take_take, Nat.min_eq_left h] at this
  exact this
theorem bt_take (t : ByteArray) (j : Nat) (h : t.size ≤ j) : bt (t.data.toList.take j) = t := by
  rw [List.take_of_length_le (by simpa using h), bt_list]

/-- a right head frame with flags of eight bits -/
structure Hd (h : Fr) : Prop where
  ty : isH h.ty
  f0 : 0 ≤ h.fl
  f1 : h.fl < 256
  st : 1 ≤ h.st
  data : h.data = ⟨#[]⟩
  p0 : 0 ≤ h.pad
  p1 : h.pad ≤ 255
  pp : (bits .and .i64 h.fl 8 != 0) = false → h.pad = 0
theorem made_hd (f : Fr) : Hd (madeF f) := by
  unfold madeF
  refine ⟨?_, ?_, ?_, ?_, rfl, ?_, ?_, ?_⟩
  · show isH (if f.ty % 2 = 1 then 5 else 1)
    unfold isH
    split <;> simp
  · show 0 ≤ f.fl % 256
    omega
  · show f.fl % 256 < 256
    omega
  · show 1 ≤ 1 + f.st % 1048576
    omega
  · show 0 ≤ (if (bits .and .i64 (f.fl % 256) 8 != 0) = true then f.pad % 256 else 0)
    split <;> omega
  · show (if (bits .and .i64 (f.fl % 256) 8 != 0) = true then f.pad % 256 else 0) ≤ 255
    split <;> omega
  · intro h
    show (if (bits .and .i64 (f.fl % 256) 8 != 0) = true then f.pad % 256 else 0) = 0
    replace h : (bits .and .i64 (f.fl % 256) 8 != 0) = false := h
    rw [h]
    rfl
theorem Hd.ms {h : Fr} (H : Hd h) : MS h := by
  refine ⟨H.ty, H.data, H.st, H.p0, ?_⟩
  split
  · exact H.p1
  · rename_i hh
    have := H.pp (by simpa using hh)
    omega
theorem Hd.tk {h : Fr} (H : Hd h) : ∃ T : Nat, tkI h = (T : Int) ∧ T ≤ 261 := by
  have h0 := H.p0
  have h1 := H.p1
  refine ⟨(tkI h).toNat, ?_, ?_⟩
  · unfold tkI
    split <;> split <;> (try split) <;> omega
  · unfold tkI
    split <;> split <;> (try split) <;> omega
/-- flags that carry the same of Padded and Priority -/
theorem pay_first {h : Fr} (H : Hd h) (fl : Int) (d : ByteArray) (e8 : bits .and .i64 fl 8 = bits .and .i64 h.fl 8) (e32 : bits .and .i64 fl 32 = bits .and .i64 h.fl 32) : payN { h with fl := fl, data := d } = (d.size : Int) + tkI h := by
  unfold payN tkI
  simp only [e8, e32]
  rcases H.ty with h1 | h5
  · rw [h1]
    by_cases a : (bits .and .i64 h.fl 8 != 0) = true <;> by_cases b : (bits .and .i64 h.fl 32 != 0) = true <;> simp [a, b] <;> omega
  · rw [h5]
    by_cases a : (bits .and .i64 h.fl 8 != 0) = true <;> by_cases b : (bits .and .i64 h.fl 32 != 0) = true <;> simp [a, b] <;> omega
theorem pay_cont (st fl : Int) (d : ByteArray) : payN (cont st fl d) = (d.size : Int) := by simp [payN, cont]

/-- the frame with number i -/
def spF (h : Fr) (t : ByteArray) (a n k i : Nat) : Fr :=
  if i = 0 then { h with fl := if k = 0 then bits .or .i64 (bits .andNot .i64 h.fl 4) 4 else bits .andNot .i64 h.fl 4, data := t.extract 0 a }
  else cont h.st (if i = k then 4 else 0) (t.extract (a + (i - 1) * n) (min (a + (i - 1) * n + n) t.size))
theorem splL_length (h : Fr) (y : SV) (t : ByteArray) (a n k : Nat) : (splL h y t a n k).length = k + 1 := by simp [splL, cutL_length]
theorem cutL_get (h : Fr) (y : SV) (t : ByteArray) (a n k i : Nat) (hi : i ≤ k) : (cutL h y t a n k)[i]? = some (if i = 0 then (f0F h t a, y) else (pieceF h t a n (i - 1), (none, 0, 0))) := by
  cases i with
  | zero => rfl
  | succ i => simp [cutL, List.getElem?_map, List.getElem?_range (show i < k by omega)]
theorem splL_get (h : Fr) (y : SV) (t : ByteArray) (a n k i : Nat) (hi : i ≤ k) : (splL h y t a n k)[i]? = some (spF h t a n k i, if i = 0 then y else (none, 0, 0)) := by
  unfold splL
  rw [List.getElem?_set, cutL_length, List.getD_eq_getElem?_getD, cutL_get _ _ _ _ _ _ _ (Nat.le_refl k), cutL_get _ _ _ _ _ _ _ hi]
  have e4 : bits .or .i64 0 4 = 4 := by decide
  by_cases hk : k = i
  · subst hk
    rw [if_pos rfl, if_pos (by omega)]
    by_cases h0 : k = 0
    · subst h0
      simp [spF, endF, f0F]
    · simp [spF, endF, pieceF, cont, h0, e4]
  · rw [if_neg hk]
    by_cases h0 : i = 0
    · subst h0
      simp [spF, f0F, hk]
    · simp [spF, pieceF, cont, h0, Ne.symm hk]

/-- the head, as it is told -/
def Hh (h : Fr) : Fr := { h with fl := bits .or .i64 (bits .andNot .i64 h.fl 4) 4, data := ⟨#[]⟩ }

/-- what holds of the frame with number i -/
structure Fi (h : Fr) (t : ByteArray) (a n k i : Nat) (X : Fr) (P : Int) : Prop where
  pay : payN X = P
  le : P ≤ (n : Int)
  fl : (bits .and .i64 X.fl 4 == 0) = !(i == k)
  st : X.st = h.st
  ty : 0 < i → X.ty = 9
  full : i < k → P = (n : Int)
  ne : 0 < i → X.data.size ≠ 0
  pad : 0 ≤ X.pad ∧ X.pad ≤ 255
  sz : X.data.size ≤ 131072
theorem fi_of {h : Fr} (H : Hd h) {t : ByteArray} {a n k T : Nat} (hT : tkI h = (T : Int)) (hT2 : T ≤ 261) (ha : a = min (n - T) t.size) (hn : 16384 ≤ n) (hn2 : n ≤ 65536) (hl : t.size ≤ 131072) (hk : Needs a n t.size k) (i : Nat) (hi : i ≤ k) : ∃ P, Fi h t a n k i (spF h t a n k i) P := by
  have hfl := fl_of H.f0 H.f1
  obtain ⟨hk1, hk2⟩ := hk
  by_cases h0 : i = 0
  · subst h0
    by_cases hk0 : k = 0
    · subst hk0
      refine ⟨((t.extract 0 a).size : Int) + tkI h, ?_⟩
      · simp only [spF, if_true]
        have hs : (t.extract 0 a).size = a := by rw [ByteArray.size_extract]; omega
        refine ⟨pay_first H _ _ hfl.b1 hfl.c1, by rw [hT, hs]; omega, hfl.a1, rfl, fun h => by omega, fun h => by omega, fun h => by omega, ⟨H.p0, H.p1⟩, by rw [hs]; omega⟩
    · refine ⟨((t.extract 0 a).size : Int) + tkI h, ?_⟩
      · have hs : (t.extract 0 a).size = a := by rw [ByteArray.size_extract]; omega
        have hlt : a < t.size := by
          rcases hk1 with e | e
          · exact absurd e hk0
          · omega
        simp only [spF, if_true, if_neg hk0]
        refine ⟨pay_first H _ _ hfl.b0 hfl.c0, by rw [hT, hs]; omega, ?_, rfl, fun h => by omega, fun h => by rw [hT, hs]; omega, fun h => by omega, ⟨H.p0, H.p1⟩, by rw [hs]; omega⟩
        rw [hfl.a0]
        simp
        omega
  · have hi0 : 0 < i := by omega
    have hm : (i - 1) * n ≤ (k - 1) * n := Nat.mul_le_mul_right _ (by omega)
    have hlt : a + (i - 1) * n < t.size := by
      rcases hk1 with e | e
      · omega
      · omega
    refine ⟨((t.extract (a + (i - 1) * n) (min (a + (i - 1) * n + n) t.size)).size : Int), ?_⟩
    simp only [spF, if_neg h0]
    have hs : (t.extract (a + (i - 1) * n) (min (a + (i - 1) * n + n) t.size)).size = min (a + (i - 1) * n + n) t.size - (a + (i - 1) * n) := by rw [ByteArray.size_extract]; omega
    refine ⟨pay_cont _ _ _, by rw [hs]; omega, ?_, rfl, fun _ => rfl, fun hik => ?_, fun _ => ?_, ⟨Int.le_refl 0, by show (0 : Int) ≤ 255; omega⟩, ?_⟩
    · by_cases hik : i = k
      · rw [show (i == k) = true by simp [hik], if_pos hik]
        show (bits .and .i64 4 4 == 0) = !true
        decide
      · rw [show (i == k) = false by simp [hik], if_neg hik]
        show (bits .and .i64 0 4 == 0) = !false
        decide
    · have hm2 : i * n ≤ (k - 1) * n := Nat.mul_le_mul_right _ (by omega)
      have hm3 : (i - 1) * n + n = i * n := by
        have := Nat.succ_mul (i - 1) n
        rw [show (i - 1).succ = i by omega] at this
        exact this.symm
      rw [hs]
      rcases hk1 with e | e
      · omega
      · omega
    · show (t.extract _ _).size ≠ 0
      rw [hs]
      omega
    · show (t.extract _ _).size ≤ _
      rw [hs]
      omega
end Go.Proofs.Ytdgdjanchpfleaa
