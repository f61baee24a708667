/- Plain numbers and lists: what the bytes of a number say, and the bytes of a number. -/
namespace Go.Proofs.Ythfpidndjcnbcaa

/-- the groups behind a full first byte: 'k' more may come, 'i' have come, 's' is the sum so far -/
def grp : Nat → Nat → Nat → List UInt8 → Nat × Nat × Nat
  | 0, _, _, _ => (0, 0, 20)
  | _ + 1, _, _, [] => (0, 0, 2)
  | k + 1, i, s, c :: r =>
    if 128 ≤ c.toNat then grp k (i + 1) (s + c.toNat % 128 * 128 ^ i) r
    else if 2147483647 < s + c.toNat % 128 * 128 ^ i then (0, 0, 20) else (s + c.toNat % 128 * 128 ^ i, i + 2, 0)

/-- full: the greatest number of so many bits; the lower bits of a number -/
def fl (p : Nat) : Nat := 2 ^ p - 1
def lo (p x : Nat) : Nat := x % 2 ^ p

/-- what Take answers at a legal prefix -/
def takeN (p : Nat) : List UInt8 → Nat × Nat × Nat
  | [] => (0, 0, 2)
  | c :: r => if lo p c.toNat < fl p then (lo p c.toNat, 1, 0) else grp 5 0 (fl p) r

theorem fl_le {p : Nat} (h : p ≤ 8) : fl p ≤ 255 := by
  have := Nat.pow_le_pow_right (n := 2) (by decide) h
  unfold fl; omega
theorem fl_pos {p : Nat} (h : 1 ≤ p) : 1 ≤ fl p := by
  have := Nat.pow_le_pow_right (n := 2) (by decide) h
  unfold fl; omega
theorem lo_le (p x : Nat) : lo p x ≤ fl p := by
  have := Nat.mod_lt x (Nat.two_pow_pos p)
  unfold lo fl; omega

theorem grp_nil (k i s : Nat) : grp (k + 1) i s [] = (0, 0, 2) := rfl
theorem grp_zero (i s : Nat) (l : List UInt8) : grp 0 i s l = (0, 0, 20) := by cases l <;> rfl
theorem grp_more (k i s : Nat) (c : UInt8) (r : List UInt8) (h : 128 ≤ c.toNat) : grp (k + 1) i s (c :: r) = grp k (i + 1) (s + c.toNat % 128 * 128 ^ i) r := by
  simp [grp, h]
theorem grp_big (k i s : Nat) (c : UInt8) (r : List UInt8) (h : ¬ 128 ≤ c.toNat) (h2 : 2147483647 < s + c.toNat % 128 * 128 ^ i) : grp (k + 1) i s (c :: r) = (0, 0, 20) := by
  simp only [grp, if_neg h, if_pos h2]
theorem grp_end (k i s : Nat) (c : UInt8) (r : List UInt8) (h : ¬ 128 ≤ c.toNat) (h2 : ¬ 2147483647 < s + c.toNat % 128 * 128 ^ i) : grp (k + 1) i s (c :: r) = (s + c.toNat % 128 * 128 ^ i, i + 2, 0) := by
  simp only [grp, if_neg h, if_neg h2]

theorem drop_cons (s : ByteArray) (k : Nat) (h : k < s.size) : s.data.toList.drop k = s[k] :: s.data.toList.drop (k + 1) := by
  rw [List.drop_eq_getElem_cons (by simpa using h)]; rfl
theorem drop_none (s : ByteArray) (k : Nat) (h : s.size ≤ k) : s.data.toList.drop k = [] :=
  List.drop_eq_nil_of_le (by simpa using h)

theorem list_cons (s : ByteArray) (h : 0 < s.size) : s.data.toList = s[0] :: s.data.toList.drop 1 := by
  have := drop_cons s 0 h
  simpa using this
theorem list_none (s : ByteArray) (h : ¬ 0 < s.size) : s = ByteArray.empty := by
  apply ByteArray.ext
  apply Array.eq_empty_of_size_eq_zero
  have : s.data.size = s.size := rfl
  omega
def gsum (t : Nat) (s : ByteArray) : Nat × Nat × Nat := grp 5 0 t (s.data.toList.drop 1)

/-- Take, at any prefix -/
def takeI (a : Int) (l : List UInt8) : Nat × Nat × Nat := if 1 ≤ a ∧ a ≤ 8 then takeN a.toNat l else (0, 0, 1)
def takeS (a : Int) (s : ByteArray) : Nat × Nat × Nat := takeI a s.data.toList

/-- the statement's own sum of groups: no bound on the sum -/
def sd : Nat → Nat → Nat → List UInt8 → Nat × Nat
  | 0, _, _, _ => (0, 0)
  | _ + 1, _, _, [] => (0, 0)
  | k + 1, i, s, c :: r =>
    if 128 ≤ c.toNat then sd k (i + 1) (s + c.toNat % 128 * 128 ^ i) r
    else (s + c.toNat % 128 * 128 ^ i, i + 2)
def saidN (p : Nat) : List UInt8 → Nat × Nat
  | [] => (0, 0)
  | c :: r => if lo p c.toNat < fl p then (lo p c.toNat, 1) else sd 5 0 (fl p) r
def saidS (p : Nat) (s : ByteArray) : Nat × Nat := saidN p s.data.toList
theorem sd_zero (i s : Nat) (l : List UInt8) : sd 0 i s l = (0, 0) := by cases l <;> rfl
theorem sd_nil (k i s : Nat) : sd k i s [] = (0, 0) := by cases k <;> rfl
theorem sd_more (k i s : Nat) (c : UInt8) (r : List UInt8) (h : 128 ≤ c.toNat) : sd (k + 1) i s (c :: r) = sd k (i + 1) (s + c.toNat % 128 * 128 ^ i) r := by
  simp [sd, h]
theorem sd_end (k i s : Nat) (c : UInt8) (r : List UInt8) (h : ¬ 128 ≤ c.toNat) : sd (k + 1) i s (c :: r) = (s + c.toNat % 128 * 128 ^ i, i + 2) := by
  simp only [sd, if_neg h]

end Go.Proofs.Ythfpidndjcnbcaa
namespace Go.Proofs.Ythfpidndjcnbcaa

/-- a byte of a small number -/
def B8 (n : Nat) : UInt8 := UInt8.ofNat n
theorem B8_toNat (n : Nat) (h : n < 256) : (B8 n).toNat = n := by unfold B8; simp; omega

/-- the groups of a number: the lowest first, the highest bit of all but the last is 1 -/
def enc : Nat → Nat → List UInt8
  | 0, r => [B8 r]
  | k + 1, r => if r < 128 then [B8 r] else B8 (128 + r % 128) :: enc k (r / 128)

end Go.Proofs.Ythfpidndjcnbcaa
