/- strings.IndexRune at a rune from 128 on: the other roads. -/
import Derived.Test.YtacboeeimnikdaaDoorA2
import Derived.Lib.IndexAny
import Derived.Deep.Cut
import Derived.WalkMore
import Derived.Deep.RegionWith
namespace Go.Proofs.YtacboeeimnikdaaDoor
open Go.RowKit
set_option linter.unusedVariables false
set_option linter.unusedSimpArgs false

set_option maxHeartbeats 4000000 in
set_option maxRecDepth 100000 in
theorem indexRune_bad (s : ByteArray) (r : Int) (w : World) (h1 : 128 ≤ r) (hr : r ≠ 65533) (hv : Lib.validRune r = false) : Calls Tryd.prog 109 #[.string s, .int .i32 r] w fun e w' => e = .returned (.int .i64 (-1)) ∧ Below w.heap.size w w' := by
  have a1 : (0 : Int) ≤ r := by omega
  have a2 : ¬ (r < 128) := by omega
  have a3 : decide (r < 128) = false := decide_eq_false a2
  have a4 : (r == 65533) = false := beq_eq_false_iff_ne.2 hr
  have hC : Hid (Calls Tryd.prog 116 #[.int .i32 r] w fun e w' => e = .returned (.bool false) ∧ w' = w) := by
    have := Tryd.utf8_ValidRune r w
    rw [hv] at this
    exact this
  clear hv hr
  go_enter Tryd.func109, Tryd.ntmps109
  go_wp2_with fail
  go_at_call 116
  refine hC.out.mono ?_
  rintro e w' ⟨rfl, rfl⟩
  go_wp2_with fail
  go_ret
  exact ⟨rfl, Below.refl _ _⟩

theorem valid_same (r : Int) (h : Lib.validRune r = true) : Utf8.valid r = true := by
  unfold Lib.validRune at h
  unfold Utf8.valid
  have := of_decide_eq_true h
  simp only [Bool.or_eq_true, Bool.and_eq_true, decide_eq_true_eq]
  omega

theorem idx_none (l : List UInt8) (y : UInt8) (hy : 128 ≤ y.toNat) (hl : ∀ b ∈ l, b.toNat < 128) : Lib.indexByte l y = -1 := by
  induction l with
  | nil => rfl
  | cons b l ih =>
    have h1 : (b == y) = false := beq_eq_false_iff_ne.2 fun e => by have := hl b (by simp); rw [e] at this; omega
    have h2 := ih fun b hb => hl b (by simp [hb])
    simp [Lib.indexByte, h1, h2]

set_option maxHeartbeats 8000000 in
set_option maxRecDepth 100000 in
theorem indexRune_def (s : ByteArray) (r : Int) (w : World) (h1 : 128 ≤ r) (hr : r ≠ 65533) (hv : Lib.validRune r = true) (hs : Asc s) (hsz : s.size ≤ 1000000) : Calls Tryd.prog 109 #[.string s, .int .i32 r] w fun e w' => e = .returned (.int .i64 (-1)) ∧ Below w.heap.size w w' := by
  have a1 : (0 : Int) ≤ r := by omega
  have a2 : ¬ (r < 128) := by omega
  have a3 : decide (r < 128) = false := decide_eq_false a2
  have a4 : (r == 65533) = false := beq_eq_false_iff_ne.2 hr
  have hC : Hid (Calls Tryd.prog 116 #[.int .i32 r] w fun e w' => e = .returned (.bool true) ∧ w' = w) := by
    have := Tryd.utf8_ValidRune r w
    rw [hv] at this
    exact this
  obtain ⟨f1, f2, f3⟩ := encode_facts r (valid_same r hv) h1
  obtain ⟨E, hE⟩ : ∃ E, Utf8.encode r = E := ⟨_, rfl⟩
  rw [hE] at f1 f2 f3
  obtain ⟨m, hm⟩ : ∃ m, E.size = m + 1 := ⟨E.size - 1, by omega⟩
  have hmE : m < E.size := by omega
  obtain ⟨y, hy⟩ : ∃ y : UInt8, E[m]'hmE = y := ⟨_, rfl⟩
  have hy128 : 128 ≤ y.toNat := by
    have := f3 (by omega)
    simp only [hm, Nat.add_sub_cancel] at this
    rw [← hy]
    exact this
  have HS : Hid (Asc s) := hs
  have hm3 : m ≤ 3 := by omega
  clear hv hr hs f1 f2 f3
  by_cases hlt : m < s.size
  · obtain ⟨x, hx⟩ : ∃ x : UInt8, s[m]'hlt = x := ⟨_, rfl⟩
    have hx128 : x.toNat < 128 := by rw [← hx]; exact HS.out m hlt
    have hI2 : Hid (∀ W, (∃ k, s.extract (m + 1) s.size = s.extract k s.size) → Calls Tryd.prog 115 #[.string (s.extract (m + 1) s.size), .int .u8 (y.toNat : Int)] W fun e w' => e = .returned (.int .i64 (-1)) ∧ w' = W) := fun W _ => by
      refine (Tryd.strings_IndexByte _ (y.toNat : Int) W).mono ?_
      rintro e w' ⟨rfl, rfl⟩
      have hb : ((y.toNat : Int)).toNat.toUInt8 = y := by simp
      rw [hb, idx_none _ y hy128 fun b hb => ?_]
      · exact ⟨rfl, rfl⟩
      · rw [ByteArray.data_extract, Array.toList_extract, List.extract_eq_drop_take'] at hb
        have := List.mem_of_mem_take (List.mem_of_mem_drop hb)
        obtain ⟨j, hj, e⟩ := List.getElem_of_mem this
        rw [← e]
        exact HS.out j (by simpa using hj)
    go_enter Tryd.func109, Tryd.ntmps109
    go_wp2_with fail
    go_at_call 116
    refine hC.out.mono ?_
    rintro e w' ⟨rfl, rfl⟩
    go_wp2_with fail
    go_step3
    go_wp2_with fail
    go_loopw [9, 10] (fun iv fv wr => iv = .int .i64 (m : Int) ∧ wr = w') (fun _ _ _ => 0)
    case atStart => exact ⟨rfl, rfl⟩
    case round =>
      obtain ⟨rfl, rfl⟩ := hrel
      have b1 : (m : Int) < (s.size : Int) := by omega
      have b2 : (m : Int) < (E.size : Int) := by omega
      have b3 : ((x.toNat : Int) != (y.toNat : Int)) = true := by simp only [bne_iff_ne, ne_eq]; omega
      have b4 : (m : Int) + 1 ≤ (s.size : Int) := by omega
      have b6 : IntKind.i64.wrap ((m : Int) + 1) = ((m + 1 : Nat) : Int) := by rw [IntKind.wrap_i64]; omega
      have b5 : (0 : Int) ≤ ((m + 1 : Nat) : Int) := by omega
      have b7 : ((m + 1 : Nat) : Int) ≤ (s.size : Int) := by omega
      go_wp2_with fail
      go_step3
      go_wp2_with fail
      go_region
      all_goals
        go_wp2_with fail
        go_region_with (go_at_call 115; refine (hI2.out _ ⟨m + 1, rfl⟩).mono ?_; rintro e w'' ⟨rfl, rfl⟩)
        all_goals
          go_wp2_with fail
          simp (config := { zetaDelta := true }) only [go_sem, Exit.noGoto_ret]
          go_ret
          exact ⟨rfl, by (repeat (first | exact Below.refl _ _ | refine Below.drew ?_))⟩
  · have c1 : ¬ ((m : Int) < (s.size : Int)) := by omega
    go_enter Tryd.func109, Tryd.ntmps109
    go_wp2_with fail
    go_at_call 116
    refine hC.out.mono ?_
    rintro e w' ⟨rfl, rfl⟩
    go_wp2_with fail
    go_step3
    go_wp2_with fail
    go_loopw [9, 10] (fun iv fv wr => iv = .int .i64 (m : Int) ∧ wr = w') (fun _ _ _ => 0)
    case atStart => exact ⟨rfl, rfl⟩
    case round =>
      obtain ⟨rfl, rfl⟩ := hrel
      go_wp2_with fail
      go_simp
      go_ret
      exact ⟨rfl, Below.refl _ _⟩
end Go.Proofs.YtacboeeimnikdaaDoor
