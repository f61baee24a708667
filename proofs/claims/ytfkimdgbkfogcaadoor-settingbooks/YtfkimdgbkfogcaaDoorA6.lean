/- Fits, made, may. -/
import Derived.Test.YtfkimdgbkfogcaaDoorA1
namespace Go.Proofs.YtfkimdgbkfogcaaDoor
open Go.RowKit
set_option linter.unusedVariables false
set_option linter.unusedSimpArgs false

def fitsS (s : St) : Bool := inB s.tab 0 65536 && inB s.psh 0 1 && inB s.str 0 2147483647 && inB s.win 0 2147483647 && inB s.frm 16384 65536 && inB s.lst 1024 2147483647
set_option maxRecDepth 100000 in
set_option maxHeartbeats 1000000 in
theorem fits_0 (s1 s2 s3 s4 s5 s6 : Int) (w : World)  (h1 : inB s1 0 65536 = false) : Calls Tryd.prog 18 #[.agg #[.int .i64 s1, .int .i64 s2, .int .i64 s3, .int .i64 s4, .int .i64 s5, .int .i64 s6]] w fun e w' => e = .returned (.bool false) ∧ Below w.heap.size w w' := by
  go_enter Tryd.func18, Tryd.ntmps18
  go_wp2_with (first | (go_at_call 39; refine (within_any _ _ _ _).mono ?_; rintro e w' ⟨rfl, rfl⟩))
  go_ret
  exact ⟨rfl, bel1 _ _⟩
set_option maxRecDepth 100000 in
set_option maxHeartbeats 1000000 in
theorem fits_1 (s1 s2 s3 s4 s5 s6 : Int) (w : World) (h1 : inB s1 0 65536 = true) (h2 : inB s2 0 1 = false) : Calls Tryd.prog 18 #[.agg #[.int .i64 s1, .int .i64 s2, .int .i64 s3, .int .i64 s4, .int .i64 s5, .int .i64 s6]] w fun e w' => e = .returned (.bool false) ∧ Below w.heap.size w w' := by
  go_enter Tryd.func18, Tryd.ntmps18
  go_wp2_with (first | (go_at_call 39; refine (within_any _ _ _ _).mono ?_; rintro e w' ⟨rfl, rfl⟩))
  go_ret
  exact ⟨rfl, bel1 _ _⟩
set_option maxRecDepth 100000 in
set_option maxHeartbeats 1000000 in
theorem fits_2 (s1 s2 s3 s4 s5 s6 : Int) (w : World) (h1 : inB s1 0 65536 = true) (h2 : inB s2 0 1 = true) (h3 : inB s3 0 2147483647 = false) : Calls Tryd.prog 18 #[.agg #[.int .i64 s1, .int .i64 s2, .int .i64 s3, .int .i64 s4, .int .i64 s5, .int .i64 s6]] w fun e w' => e = .returned (.bool false) ∧ Below w.heap.size w w' := by
  go_enter Tryd.func18, Tryd.ntmps18
  go_wp2_with (first | (go_at_call 39; refine (within_any _ _ _ _).mono ?_; rintro e w' ⟨rfl, rfl⟩))
  go_ret
  exact ⟨rfl, bel1 _ _⟩
set_option maxRecDepth 100000 in
set_option maxHeartbeats 1000000 in
theorem fits_3 (s1 s2 s3 s4 s5 s6 : Int) (w : World) (h1 : inB s1 0 65536 = true) (h2 : inB s2 0 1 = true) (h3 : inB s3 0 2147483647 = true) (h4 : inB s4 0 2147483647 = false) : Calls Tryd.prog 18 #[.agg #[.int .i64 s1, .int .i64 s2, .int .i64 s3, .int .i64 s4, .int .i64 s5, .int .i64 s6]] w fun e w' => e = .returned (.bool false) ∧ Below w.heap.size w w' := by
  go_enter Tryd.func18, Tryd.ntmps18
  go_wp2_with (first | (go_at_call 39; refine (within_any _ _ _ _).mono ?_; rintro e w' ⟨rfl, rfl⟩))
  go_ret
  exact ⟨rfl, bel1 _ _⟩
set_option maxRecDepth 100000 in
set_option maxHeartbeats 1000000 in
theorem fits_4 (s1 s2 s3 s4 s5 s6 : Int) (w : World) (h1 : inB s1 0 65536 = true) (h2 : inB s2 0 1 = true) (h3 : inB s3 0 2147483647 = true) (h4 : inB s4 0 2147483647 = true) (h5 : inB s5 16384 65536 = false) : Calls Tryd.prog 18 #[.agg #[.int .i64 s1, .int .i64 s2, .int .i64 s3, .int .i64 s4, .int .i64 s5, .int .i64 s6]] w fun e w' => e = .returned (.bool false) ∧ Below w.heap.size w w' := by
  go_enter Tryd.func18, Tryd.ntmps18
  go_wp2_with (first | (go_at_call 39; refine (within_any _ _ _ _).mono ?_; rintro e w' ⟨rfl, rfl⟩))
  go_ret
  exact ⟨rfl, bel1 _ _⟩
set_option maxRecDepth 100000 in
set_option maxHeartbeats 1000000 in
theorem fits_5 (s1 s2 s3 s4 s5 s6 : Int) (w : World) (h1 : inB s1 0 65536 = true) (h2 : inB s2 0 1 = true) (h3 : inB s3 0 2147483647 = true) (h4 : inB s4 0 2147483647 = true) (h5 : inB s5 16384 65536 = true) (h6 : inB s6 1024 2147483647 = false) : Calls Tryd.prog 18 #[.agg #[.int .i64 s1, .int .i64 s2, .int .i64 s3, .int .i64 s4, .int .i64 s5, .int .i64 s6]] w fun e w' => e = .returned (.bool false) ∧ Below w.heap.size w w' := by
  go_enter Tryd.func18, Tryd.ntmps18
  go_wp2_with (first | (go_at_call 39; refine (within_any _ _ _ _).mono ?_; rintro e w' ⟨rfl, rfl⟩))
  go_ret
  exact ⟨rfl, bel1 _ _⟩
set_option maxRecDepth 100000 in
set_option maxHeartbeats 1000000 in
theorem fits_6 (s1 s2 s3 s4 s5 s6 : Int) (w : World) (h1 : inB s1 0 65536 = true) (h2 : inB s2 0 1 = true) (h3 : inB s3 0 2147483647 = true) (h4 : inB s4 0 2147483647 = true) (h5 : inB s5 16384 65536 = true) (h6 : inB s6 1024 2147483647 = true) : Calls Tryd.prog 18 #[.agg #[.int .i64 s1, .int .i64 s2, .int .i64 s3, .int .i64 s4, .int .i64 s5, .int .i64 s6]] w fun e w' => e = .returned (.bool true) ∧ Below w.heap.size w w' := by
  go_enter Tryd.func18, Tryd.ntmps18
  go_wp2_with (first | (go_at_call 39; refine (within_any _ _ _ _).mono ?_; rintro e w' ⟨rfl, rfl⟩))
  go_ret
  exact ⟨rfl, bel1 _ _⟩
theorem fits_any (s : St) (w : World) : Calls Tryd.prog 18 #[.agg s.a] w fun e w' => e = .returned (.bool (fitsS s)) ∧ Below w.heap.size w w' := by
  obtain ⟨s1, s2, s3, s4, s5, s6⟩ := s
  unfold fitsS St.a
  simp only
  cases h1 : inB s1 0 65536
  · exact fits_0 s1 s2 s3 s4 s5 s6 w h1
  cases h2 : inB s2 0 1
  · exact fits_1 s1 s2 s3 s4 s5 s6 w h1 h2
  cases h3 : inB s3 0 2147483647
  · exact fits_2 s1 s2 s3 s4 s5 s6 w h1 h2 h3
  cases h4 : inB s4 0 2147483647
  · exact fits_3 s1 s2 s3 s4 s5 s6 w h1 h2 h3 h4
  cases h5 : inB s5 16384 65536
  · exact fits_4 s1 s2 s3 s4 s5 s6 w h1 h2 h3 h4 h5
  cases h6 : inB s6 1024 2147483647
  · exact fits_5 s1 s2 s3 s4 s5 s6 w h1 h2 h3 h4 h5 h6
  · exact fits_6 s1 s2 s3 s4 s5 s6 w h1 h2 h3 h4 h5 h6

theorem wraps_i64_63 (n : Int) (h₀ : 0 ≤ n) (h₁ : n < 2 ^ 63) : IntKind.i64.wrap n = n := by rw [IntKind.wrap_i64]; omega
/-- of any number: its lower bits -/
theorem and_any (n : Int) (p : Nat) (hp : p ≤ 62) : bits .and .i64 n ((2 ^ p - 1 : Nat) : Int) = n % ((2 ^ p : Nat) : Int) := by
  have hpp : 2 ^ p < 2 ^ 63 := Nat.pow_lt_pow_right (by decide) (by omega)
  have hpos : 0 < 2 ^ p := Nat.two_pow_pos p
  have hd : 2 ^ p ∣ 2 ^ 64 := Nat.pow_dvd_pow 2 (by omega)
  have hb : (BitVec.ofInt 64 ((2 ^ p - 1 : Nat) : Int)).toNat = 2 ^ p - 1 := by
    rw [BitVec.ofInt_natCast, BitVec.toNat_ofNat]; exact Nat.mod_eq_of_lt (by omega)
  have ha : (BitVec.ofInt 64 n).toNat = (n % ((2 ^ 64 : Nat) : Int)).toNat := BitVec.toNat_ofInt n
  have key : (n % ((2 ^ 64 : Nat) : Int)).toNat % 2 ^ p = (n % ((2 ^ p : Nat) : Int)).toNat := by
    have h1 : 0 ≤ n % ((2 ^ 64 : Nat) : Int) := Int.emod_nonneg _ (by decide)
    have h2 : 0 ≤ n % ((2 ^ p : Nat) : Int) := Int.emod_nonneg _ (by omega)
    apply Int.ofNat.inj
    show (((n % ((2 ^ 64 : Nat) : Int)).toNat % 2 ^ p : Nat) : Int) = (((n % ((2 ^ p : Nat) : Int)).toNat : Nat) : Int)
    rw [Int.natCast_emod, Int.toNat_of_nonneg h1, Int.toNat_of_nonneg h2]
    exact Int.emod_emod_of_dvd n (Int.natCast_dvd_natCast.2 hd)
  have h2 : 0 ≤ n % ((2 ^ p : Nat) : Int) := Int.emod_nonneg _ (by omega)
  have h3 : n % ((2 ^ p : Nat) : Int) < ((2 ^ p : Nat) : Int) := Int.emod_lt_of_pos _ (by omega)
  show IntKind.i64.wrap (((BitVec.ofInt 64 n) &&& (BitVec.ofInt 64 ((2 ^ p - 1 : Nat) : Int))).toNat : Int) = _
  rw [BitVec.toNat_and, ha, hb, Nat.and_two_pow_sub_one_eq_mod, key, Int.toNat_of_nonneg h2]
  exact wraps_i64_63 _ h2 (by omega)

/-- a set that fits, of any -/
def madeS (s : St) : St := ⟨s.tab % 65536, s.psh % 2, s.str % 2147483648, s.win % 2147483648, 16384 + s.frm % 32768, 1024 + s.lst % 65536⟩
theorem made_fits (s : St) : fitsS (madeS s) = true := by
  unfold fitsS madeS inB
  simp only [Bool.and_eq_true, decide_eq_true_eq]
  omega

set_option maxRecDepth 100000 in
set_option maxHeartbeats 1000000 in
theorem made_any (s : St) (w : World) : Calls Tryd.prog 16 #[.agg s.a] w fun e w' => e = .returned (.agg (madeS s).a) ∧ Below w.heap.size w w' := by
  obtain ⟨s1, s2, s3, s4, s5, s6⟩ := s
  unfold St.a madeS
  simp only
  have a1 : bits .and .i64 s1 65535 = s1 % 65536 := and_any s1 16 (by decide)
  have a2 : bits .and .i64 s2 1 = s2 % 2 := and_any s2 1 (by decide)
  have a3 : bits .and .i64 s3 2147483647 = s3 % 2147483648 := and_any s3 31 (by decide)
  have a4 : bits .and .i64 s4 2147483647 = s4 % 2147483648 := and_any s4 31 (by decide)
  have a5 : bits .and .i64 s5 32767 = s5 % 32768 := and_any s5 15 (by decide)
  have a6 : bits .and .i64 s6 65535 = s6 % 65536 := and_any s6 16 (by decide)
  obtain ⟨t5, h5, k5⟩ : ∃ t, 16384 + s5 % 32768 = t ∧ wrap64 (16384 + s5 % 32768) = t := ⟨_, rfl, by unfold wrap64; omega⟩
  obtain ⟨t6, h6, k6⟩ : ∃ t, 1024 + s6 % 65536 = t ∧ wrap64 (1024 + s6 % 65536) = t := ⟨_, rfl, by unfold wrap64; omega⟩
  rw [h5, h6]
  go_enter Tryd.func16, Tryd.ntmps16
  go_wp2
  refine bodyPost_ret (results_cell_row (p := 2) (ty := 27) rfl _ _ (w.heap.size + 1) 27 #[.int .i64 (s1 % 65536), .int .i64 (s2 % 2), .int .i64 (s3 % 2147483648), .int .i64 (s4 % 2147483648), .int .i64 t5, .int .i64 t6] (0, 0) _ rfl ?hr Tryd.underlying27 rfl (by kernel_rfl)) rfl ⟨rfl, ?_⟩
  case hr => exact fresh2 _ _ _
  exact bel2 _ _ _

/-- the ranges of what comes of a list that is taken -/
def mayS (s : St) : Prop := (0 ≤ s.tab ∧ s.tab ≤ 2147483647) ∧ (s.psh = 0 ∨ s.psh = 1) ∧ (0 ≤ s.str ∧ s.str ≤ 2147483647) ∧ (0 ≤ s.win ∧ s.win ≤ 2147483647) ∧ (16384 ≤ s.frm ∧ s.frm ≤ 65536) ∧ (0 ≤ s.lst ∧ s.lst ≤ 2147483647)

set_option maxRecDepth 100000 in
set_option maxHeartbeats 1000000 in
theorem may_any (s : St) (h : mayS s) (w : World) : Calls Tryd.prog 21 #[.agg s.a] w fun e w' => e = .returned (.bool true) ∧ Below w.heap.size w w' := by
  obtain ⟨s1, s2, s3, s4, s5, s6⟩ := s
  obtain ⟨⟨h1, h2⟩, h3, ⟨h4, h5⟩, ⟨h6, h7⟩, ⟨h8, h9⟩, h10, h11⟩ := h
  unfold St.a
  simp only at h1 h2 h3 h4 h5 h6 h7 h8 h9 h10 h11 ⊢
  rcases h3 with rfl | rfl
  all_goals
    go_enter Tryd.func21, Tryd.ntmps21
    go_wp2
    go_ret
    exact ⟨rfl, bel1 _ _⟩
end Go.Proofs.YtfkimdgbkfogcaaDoor
