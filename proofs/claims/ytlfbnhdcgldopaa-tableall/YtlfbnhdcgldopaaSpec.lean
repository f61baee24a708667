/- What a table's functions answer, on plain lists: an entry is two texts. -/
import Derived.Test.YtlfbnhdcgldopaaRows
import Derived.WalkKit
namespace Go.Proofs.Ytlfbnhdcgldopaa

abbrev E := ByteArray × ByteArray

def fixedL : List E := [
  (⟨#[58, 97, 117, 116, 104, 111, 114, 105, 116, 121]⟩, ⟨#[]⟩),
  (⟨#[58, 109, 101, 116, 104, 111, 100]⟩, ⟨#[71, 69, 84]⟩),
  (⟨#[58, 109, 101, 116, 104, 111, 100]⟩, ⟨#[80, 79, 83, 84]⟩),
  (⟨#[58, 112, 97, 116, 104]⟩, ⟨#[47]⟩),
  (⟨#[58, 112, 97, 116, 104]⟩, ⟨#[47, 105, 110, 100, 101, 120, 46, 104, 116, 109, 108]⟩),
  (⟨#[58, 115, 99, 104, 101, 109, 101]⟩, ⟨#[104, 116, 116, 112]⟩),
  (⟨#[58, 115, 99, 104, 101, 109, 101]⟩, ⟨#[104, 116, 116, 112, 115]⟩),
  (⟨#[58, 115, 116, 97, 116, 117, 115]⟩, ⟨#[50, 48, 48]⟩),
  (⟨#[58, 115, 116, 97, 116, 117, 115]⟩, ⟨#[50, 48, 52]⟩),
  (⟨#[58, 115, 116, 97, 116, 117, 115]⟩, ⟨#[50, 48, 54]⟩),
  (⟨#[58, 115, 116, 97, 116, 117, 115]⟩, ⟨#[51, 48, 52]⟩),
  (⟨#[58, 115, 116, 97, 116, 117, 115]⟩, ⟨#[52, 48, 48]⟩),
  (⟨#[58, 115, 116, 97, 116, 117, 115]⟩, ⟨#[52, 48, 52]⟩),
  (⟨#[58, 115, 116, 97, 116, 117, 115]⟩, ⟨#[53, 48, 48]⟩),
  (⟨#[97, 99, 99, 101, 112, 116, 45, 99, 104, 97, 114, 115, 101, 116]⟩, ⟨#[]⟩),
  (⟨#[97, 99, 99, 101, 112, 116, 45, 101, 110, 99, 111, 100, 105, 110, 103]⟩, ⟨#[103, 122, 105, 112, 44, 32, 100, 101, 102, 108, 97, 116, 101]⟩),
  (⟨#[97, 99, 99, 101, 112, 116, 45, 108, 97, 110, 103, 117, 97, 103, 101]⟩, ⟨#[]⟩),
  (⟨#[97, 99, 99, 101, 112, 116, 45, 114, 97, 110, 103, 101, 115]⟩, ⟨#[]⟩),
  (⟨#[97, 99, 99, 101, 112, 116]⟩, ⟨#[]⟩),
  (⟨#[97, 99, 99, 101, 115, 115, 45, 99, 111, 110, 116, 114, 111, 108, 45, 97, 108, 108, 111, 119, 45, 111, 114, 105, 103, 105, 110]⟩, ⟨#[]⟩),
  (⟨#[97, 103, 101]⟩, ⟨#[]⟩),
  (⟨#[97, 108, 108, 111, 119]⟩, ⟨#[]⟩),
  (⟨#[97, 117, 116, 104, 111, 114, 105, 122, 97, 116, 105, 111, 110]⟩, ⟨#[]⟩),
  (⟨#[99, 97, 99, 104, 101, 45, 99, 111, 110, 116, 114, 111, 108]⟩, ⟨#[]⟩),
  (⟨#[99, 111, 110, 116, 101, 110, 116, 45, 100, 105, 115, 112, 111, 115, 105, 116, 105, 111, 110]⟩, ⟨#[]⟩),
  (⟨#[99, 111, 110, 116, 101, 110, 116, 45, 101, 110, 99, 111, 100, 105, 110, 103]⟩, ⟨#[]⟩),
  (⟨#[99, 111, 110, 116, 101, 110, 116, 45, 108, 97, 110, 103, 117, 97, 103, 101]⟩, ⟨#[]⟩),
  (⟨#[99, 111, 110, 116, 101, 110, 116, 45, 108, 101, 110, 103, 116, 104]⟩, ⟨#[]⟩),
  (⟨#[99, 111, 110, 116, 101, 110, 116, 45, 108, 111, 99, 97, 116, 105, 111, 110]⟩, ⟨#[]⟩),
  (⟨#[99, 111, 110, 116, 101, 110, 116, 45, 114, 97, 110, 103, 101]⟩, ⟨#[]⟩),
  (⟨#[99, 111, 110, 116, 101, 110, 116, 45, 116, 121, 112, 101]⟩, ⟨#[]⟩),
  (⟨#[99, 111, 111, 107, 105, 101]⟩, ⟨#[]⟩),
  (⟨#[100, 97, 116, 101]⟩, ⟨#[]⟩),
  (⟨#[101, 116, 97, 103]⟩, ⟨#[]⟩),
  (⟨#[101, 120, 112, 101, 99, 116]⟩, ⟨#[]⟩),
  (⟨#[101, 120, 112, 105, 114, 101, 115]⟩, ⟨#[]⟩),
  (⟨#[102, 114, 111, 109]⟩, ⟨#[]⟩),
  (⟨#[104, 111, 115, 116]⟩, ⟨#[]⟩),
  (⟨#[105, 102, 45, 109, 97, 116, 99, 104]⟩, ⟨#[]⟩),
  (⟨#[105, 102, 45, 109, 111, 100, 105, 102, 105, 101, 100, 45, 115, 105, 110, 99, 101]⟩, ⟨#[]⟩),
  (⟨#[105, 102, 45, 110, 111, 110, 101, 45, 109, 97, 116, 99, 104]⟩, ⟨#[]⟩),
  (⟨#[105, 102, 45, 114, 97, 110, 103, 101]⟩, ⟨#[]⟩),
  (⟨#[105, 102, 45, 117, 110, 109, 111, 100, 105, 102, 105, 101, 100, 45, 115, 105, 110, 99, 101]⟩, ⟨#[]⟩),
  (⟨#[108, 97, 115, 116, 45, 109, 111, 100, 105, 102, 105, 101, 100]⟩, ⟨#[]⟩),
  (⟨#[108, 105, 110, 107]⟩, ⟨#[]⟩),
  (⟨#[108, 111, 99, 97, 116, 105, 111, 110]⟩, ⟨#[]⟩),
  (⟨#[109, 97, 120, 45, 102, 111, 114, 119, 97, 114, 100, 115]⟩, ⟨#[]⟩),
  (⟨#[112, 114, 111, 120, 121, 45, 97, 117, 116, 104, 101, 110, 116, 105, 99, 97, 116, 101]⟩, ⟨#[]⟩),
  (⟨#[112, 114, 111, 120, 121, 45, 97, 117, 116, 104, 111, 114, 105, 122, 97, 116, 105, 111, 110]⟩, ⟨#[]⟩),
  (⟨#[114, 97, 110, 103, 101]⟩, ⟨#[]⟩),
  (⟨#[114, 101, 102, 101, 114, 101, 114]⟩, ⟨#[]⟩),
  (⟨#[114, 101, 102, 114, 101, 115, 104]⟩, ⟨#[]⟩),
  (⟨#[114, 101, 116, 114, 121, 45, 97, 102, 116, 101, 114]⟩, ⟨#[]⟩),
  (⟨#[115, 101, 114, 118, 101, 114]⟩, ⟨#[]⟩),
  (⟨#[115, 101, 116, 45, 99, 111, 111, 107, 105, 101]⟩, ⟨#[]⟩),
  (⟨#[115, 116, 114, 105, 99, 116, 45, 116, 114, 97, 110, 115, 112, 111, 114, 116, 45, 115, 101, 99, 117, 114, 105, 116, 121]⟩, ⟨#[]⟩),
  (⟨#[116, 114, 97, 110, 115, 102, 101, 114, 45, 101, 110, 99, 111, 100, 105, 110, 103]⟩, ⟨#[]⟩),
  (⟨#[117, 115, 101, 114, 45, 97, 103, 101, 110, 116]⟩, ⟨#[]⟩),
  (⟨#[118, 97, 114, 121]⟩, ⟨#[]⟩),
  (⟨#[118, 105, 97]⟩, ⟨#[]⟩),
  (⟨#[119, 119, 119, 45, 97, 117, 116, 104, 101, 110, 116, 105, 99, 97, 116, 101]⟩, ⟨#[]⟩)]

def esz (e : E) : Nat := e.1.size + e.2.size + 32

def total : List E → Nat
  | [] => 0
  | e :: r => esz e + total r

/-- The greatest number of the first entries whose sizes are together at most m. -/
def keep : Nat → List E → List E
  | _, [] => []
  | m, e :: r => if esz e ≤ m then e :: keep (m - esz e) r else []

theorem total_append (a b : List E) : total (a ++ b) = total a + total b := by
  induction a with
  | nil => simp [total]
  | cons e r ih => simp [total, ih]; omega

theorem total_keep (m : Nat) (l : List E) : total (keep m l) ≤ m := by
  induction l generalizing m with
  | nil => simp [keep, total]
  | cons e r ih =>
    unfold keep
    split
    · have := ih (m - esz e); simp only [total]; omega
    · simp [total]

theorem keep_whole (m : Nat) (l : List E) (h : total l ≤ m) : keep m l = l := by
  induction l generalizing m with
  | nil => rfl
  | cons e r ih =>
    simp only [total] at h
    unfold keep
    rw [if_pos (by omega), ih _ (by omega)]

/-- What is kept of a list whose last entry is over is what is kept of it without that one. -/
theorem keep_snoc (m : Nat) (l : List E) (e : E) (h : m < total (l ++ [e])) : keep m (l ++ [e]) = keep m l := by
  induction l generalizing m with
  | nil =>
    simp only [List.nil_append, total, keep] at h ⊢
    rw [if_neg (by omega)]
  | cons a r ih =>
    simp only [List.cons_append, total] at h ⊢
    unfold keep
    split
    · rw [ih _ (by omega)]
    · rfl

theorem keep_keep (a b : Nat) (l : List E) (h : a ≤ b) : keep a (keep b l) = keep a l := by
  induction l generalizing a b with
  | nil => rfl
  | cons e r ih =>
    rw [keep]
    split
    · rw [keep, keep]
      split
      · rw [ih _ _ (by omega)]
      · rfl
    · rw [keep, keep, if_neg (by omega)]

theorem keep_add (m : Nat) (e : E) (l : List E) : keep m (e :: keep m l) = keep m (e :: l) := by
  rw [keep, keep]
  split
  · rw [keep_keep _ _ _ (by omega)]
  · rfl

theorem length_total (l : List E) : l.length * 32 ≤ total l := by
  induction l with
  | nil => simp [total]
  | cons e r ih => simp only [total, esz, List.length_cons]; omega

theorem keep_zero_lt (m : Nat) (l : List E) (h : m < 32) : keep m l = [] := by
  cases l with
  | nil => rfl
  | cons e r => rw [keep, if_neg (by unfold esz; omega)]

theorem keep_prefix (m : Nat) (l : List E) : ∃ k, k ≤ l.length ∧ keep m l = l.take k := by
  induction l generalizing m with
  | nil => exact ⟨0, by simp, rfl⟩
  | cons e r ih =>
    rw [keep]
    split
    · obtain ⟨k, hk, h⟩ := ih (m - esz e)
      exact ⟨k + 1, by simpa using hk, by rw [h]; rfl⟩
    · exact ⟨0, by simp, rfl⟩

/-- The two cells of an entry. -/
def ecells (e : E) : List Value := [.string e.1, .string e.2]
def encE (e : E) : Value := .agg #[.string e.1, .string e.2]

def cellsOf : List E → List Value
  | [] => []
  | e :: r => .string e.1 :: .string e.2 :: cellsOf r

theorem length_cellsOf (l : List E) : (cellsOf l).length = l.length * 2 := by
  induction l with
  | nil => rfl
  | cons e r ih => simp [cellsOf, ih]; omega

theorem cellsOf_append (a b : List E) : cellsOf (a ++ b) = cellsOf a ++ cellsOf b := by
  induction a with
  | nil => rfl
  | cons e r ih => simp [cellsOf, ih]

theorem cellsOf_take (l : List E) (k : Nat) : cellsOf (l.take k) = (cellsOf l).take (k * 2) := by
  induction l generalizing k with
  | nil => simp [cellsOf]
  | cons e r ih =>
    cases k with
    | zero => simp [cellsOf]
    | succ k => rw [show (k + 1) * 2 = k * 2 + 1 + 1 by omega]; simp [cellsOf, ih]

theorem cellsOf_one (l : List E) : ∀ u ∈ cellsOf l, u.oneCell' = true := by
  induction l with
  | nil => intro u h; cases h
  | cons e r ih =>
    intro u h
    simp only [cellsOf, List.mem_cons] at h
    rcases h with rfl | rfl | h
    · rfl
    · rfl
    · exact ih u h

theorem cellsOf_get (l : List E) (k : Nat) (h : k < l.length) : (cellsOf l)[k * 2]? = some (.string l[k].1) ∧ (cellsOf l)[k * 2 + 1]? = some (.string l[k].2) := by
  induction l generalizing k with
  | nil => exact absurd h (by simp)
  | cons e r ih =>
    cases k with
    | zero => exact ⟨rfl, rfl⟩
    | succ k => rw [show (k + 1) * 2 = k * 2 + 1 + 1 by omega]; simpa [cellsOf] using ih k (by simpa using h)

end Go.Proofs.Ytlfbnhdcgldopaa
