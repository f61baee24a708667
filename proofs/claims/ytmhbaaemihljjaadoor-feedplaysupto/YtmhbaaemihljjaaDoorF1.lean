/- The document's Read. -/
import Derived.Test.YtmhbaaemihljjaaDoorE3
import Derived.Test.YtmhbaaemihljjaaDoorRs4
import Derived.Deep.Cut
namespace Go.Proofs.YtmhbaaemihljjaaDoor
open Go.RowKit
set_option linter.unusedVariables false
set_option linter.unusedSimpArgs false

set_option maxRecDepth 100000 in
set_option maxHeartbeats 2000000 in
theorem rr_bad (T X : Nat) (S : Int) (P : ByteArray) (Pd A : Nat) (w : World) (hX : X < 256) (hPs : P.size ≤ 65536) (hm : mpS T X = true) (hP0 : 0 < P.size) (hPd : P[0].toNat = Pd) (hA : ahS T X = A) (hA6 : A ≤ P.size) (hcmp0 : (P.size : Int) - (A : Int) < (Pd : Int)) :
    Calls Tryd.prog 48 #[.agg #[.int .i64 (T : Int), .int .i64 (X : Int), .int .i64 S, .string ⟨#[]⟩, .int .i64 0, .int .i64 0, .bool false, .int .i64 0, .int .i64 0, .int .i64 0, .slice none 0 0], .string P] w fun e w' => RPost w ((Fr.zero, []), 0, 1, 0) e w' := by
  have hmp : Hid (∀ W : World, Calls Tryd.prog 70 #[.int .i64 (T : Int), .int .i64 (X : Int)] W fun e w' => e = .returned (.bool true) ∧ w' = W) := fun W => by
    have := mayPad_any T X hX W
    rw [hm] at this
    exact this
  obtain ⟨M, hM⟩ : ∃ M : Nat, (9 : Int) + (P.size : Int) = (M : Int) := ⟨9 + P.size, by omega⟩
  have hah : Hid (∀ W : World, Calls Tryd.prog 68 #[.int .i64 (T : Int), .int .i64 (X : Int)] W fun e w' => e = .returned (.int .i64 (A : Int)) ∧ w' = W) := fun W => by rw [← hA]; exact ahead_any T X hX W
  have hP0i : (0 : Int) < (P.size : Int) := by omega
  have hpa : P[0].toNat < 256 := UInt8.toNat_lt _
  have hwA : IntKind.i64.wrap ((P.size : Int) - (A : Int)) = (P.size : Int) - (A : Int) := wraps_i64_63 _ (by omega) (by omega)
  have hcmp : decide ((P.size : Int) - (A : Int) < (Pd : Int)) = true := by simpa using hcmp0
  clear hA hm hcmp0
  go_enter Tryd.func48, Tryd.ntmps48
  go_upto_region 4 with (go_at_call 70; refine (hmp.out _).mono ?_; rintro e w' ⟨rfl, rfl⟩)
  go_cut [30] from 8 (fun x wx => x = .bool true ∧ wx = (((w.alloc (.cells #[.int .i64 (T : Int), .int .i64 (X : Int), .int .i64 S, .string ⟨#[]⟩, .int .i64 (Pd : Int), .int .i64 0, .bool false, .int .i64 0, .int .i64 0, .int .i64 0, .slice none 0 0] 28)).alloc (.cells #[.int .i64 0, .int .i64 0, .int .i64 0, .string ⟨#[]⟩, .int .i64 0, .int .i64 0, .bool false, .int .i64 0, .int .i64 0, .int .i64 0, .slice none 0 0] 28)).alloc (.cells #[.int .i64 0, .int .i64 0] 30)).drew)
  case first =>
    go_region_law (go_simp; go_wp2_with (go_at_call 68; refine (hah.out _).mono ?_; rintro e w' ⟨rfl, rfl⟩))
    all_goals
      go_wp2_with fail
      go_meet
    all_goals exact ⟨rfl, rfl⟩
  case rest =>
    obtain ⟨rfl, rfl⟩ := hcut
    go_wp2_with fail
    refine bodyPost_ret (results_three (p := 4) (ty := 28) (r := 5) (q := 6) (tz := 30) rfl _ _ (w.heap.size + 1) ((w.heap.size + 1) + 1) 28 30 #[.int .i64 0, .int .i64 0, .int .i64 0, .string ⟨#[]⟩, .int .i64 0, .int .i64 0, .bool false, .int .i64 0, .int .i64 0, .int .i64 0, .slice none 0 0] #[.int .i64 1, .int .i64 0] (0, 0) (0, 0) _ _ rfl ?a1 Tryd.underlying28 rfl (by kernel_rfl) rfl ?a2 Tryd.underlying30 rfl (by kernel_rfl)) rfl ?a3
    case a1 => (simp only [heap_al, heap_dr, size_al, size_dr]; repeat (first | rw [if_pos trivial] | rw [if_neg (by omega)] | rw [if_pos (by omega)]))
    case a2 => (simp only [heap_al, heap_dr, size_al, size_dr]; repeat (first | rw [if_pos trivial] | rw [if_neg (by omega)] | rw [if_pos (by omega)]))
    case a3 => exact rpost_bad rfl _ (by (repeat (first | exact Below.refl _ _ | refine Below.drew ?_ | refine Below.alloc ?_ (by first | exact Nat.le_refl _ | (simp only [size_al, size_dr]; omega)) _)))

set_option maxRecDepth 100000 in
set_option maxHeartbeats 2000000 in
theorem ref_short (s : ByteArray) (most : Int) (w : World) (h : s.size < 9) :
    Calls Tryd.prog 34 #[.string s, .int .i64 most] w fun e w' => RPost w (readS s most) e w' := by
  have hq : Hid (readS s most = ((Fr.zero, []), 0, 0, 0)) := by show _ = _; unfold readS; rw [if_pos h]
  have hi : (s.size : Int) < 9 := by omega
  obtain ⟨rr, hrr⟩ : ∃ rr, readS s most = rr := ⟨_, rfl⟩
  rw [hrr] at hq ⊢
  clear hrr
  obtain ⟨m1, hm1⟩ : ∃ m1, max most 16384 = m1 := ⟨_, rfl⟩
  obtain ⟨mm, hmm⟩ : ∃ mm, min m1 65536 = mm := ⟨_, rfl⟩
  have HM1 : Hid (max most 16384 = m1) := hm1
  have HMM : Hid (min m1 65536 = mm) := hmm
  clear hm1 hmm
  go_enter Tryd.func34, Tryd.ntmps34
  go_upto_if 11 with fail
  go_cut [1] from 10 (fun x wx => x = .int .i64 m1 ∧ wx = ((w.alloc (.cells #[.int .i64 0, .int .i64 0, .int .i64 0, .string ⟨#[]⟩, .int .i64 0, .int .i64 0, .bool false, .int .i64 0, .int .i64 0, .int .i64 0, .slice none 0 0] 28)).alloc (.cells #[.int .i64 0, .int .i64 0] 30)))
  case first =>
    by_cases hmo : most < 16384
    · have hmx : Hid (m1 = 16384) := by have := HM1.out; show _ = _; omega
      go_wp2_with fail
      go_meet
      exact ⟨by rw [hmx.out], rfl⟩
    · have hmx : Hid (m1 = most) := by have := HM1.out; show _ = _; omega
      go_wp2_with fail
      go_meet
      exact ⟨by rw [hmx.out], rfl⟩
  case rest =>
   obtain ⟨rfl, rfl⟩ := hcut
   go_upto_if 13 with fail
   go_cut [1] from 10 (fun x wx => x = .int .i64 mm ∧ wx = ((w.alloc (.cells #[.int .i64 0, .int .i64 0, .int .i64 0, .string ⟨#[]⟩, .int .i64 0, .int .i64 0, .bool false, .int .i64 0, .int .i64 0, .int .i64 0, .slice none 0 0] 28)).alloc (.cells #[.int .i64 0, .int .i64 0] 30)))
   case first =>
    by_cases hmo : 65536 < m1
    · have hmx : Hid (mm = 65536) := by have := HMM.out; show _ = _; omega
      go_wp2_with fail
      go_meet
      exact ⟨by rw [hmx.out], rfl⟩
    · have hmx : Hid (mm = m1) := by have := HMM.out; show _ = _; omega
      go_wp2_with fail
      go_meet
      exact ⟨by rw [hmx.out], rfl⟩
   case rest =>
    obtain ⟨rfl, rfl⟩ := hcut
    go_wp2_with fail
    refine bodyPost_ret (results_three (p := 4) (ty := 28) (r := 5) (q := 6) (tz := 30) rfl _ _ w.heap.size (w.heap.size + 1) 28 30 #[.int .i64 0, .int .i64 0, .int .i64 0, .string ⟨#[]⟩, .int .i64 0, .int .i64 0, .bool false, .int .i64 0, .int .i64 0, .int .i64 0, .slice none 0 0] #[.int .i64 0, .int .i64 0] (0, 0) (0, 0) _ _ rfl ?a1 Tryd.underlying28 rfl (by kernel_rfl) rfl ?a2 Tryd.underlying30 rfl (by kernel_rfl)) rfl ?a3
    case a1 => (simp only [heap_al, heap_dr, size_al, size_dr]; repeat (first | rw [if_pos trivial] | rw [if_neg (by omega)] | rw [if_pos (by omega)]))
    case a2 => (simp only [heap_al, heap_dr, size_al, size_dr]; repeat (first | rw [if_pos trivial] | rw [if_neg (by omega)] | rw [if_pos (by omega)]))
    case a3 => exact rpost_bad hq.out _ (by (repeat (first | exact Below.refl _ _ | refine Below.drew ?_ | refine Below.alloc ?_ (by first | exact Nat.le_refl _ | (simp only [size_al, size_dr]; omega)) _)))

set_option maxRecDepth 100000 in
set_option maxHeartbeats 2000000 in
theorem ref_long (s : ByteArray) (most : Int) (w : World) (h : ¬ s.size < 9) (N : Nat) (hN : N = numS (s.extract 0 3)) (hm : min (max most 16384) 65536 < (N : Int)) :
    Calls Tryd.prog 34 #[.string s, .int .i64 most] w fun e w' => RPost w (readS s most) e w' := by
  have hq : Hid (readS s most = ((Fr.zero, []), 0, 6, 0)) := by show _ = _; unfold readS; rw [if_neg h, ← hN, if_pos hm]
  have hi : ¬ (s.size : Int) < 9 := by omega
  have hi3 : (3 : Int) ≤ (s.size : Int) := by omega
  have hs3 : (s.extract 0 3).size ≤ 4 := by rw [ByteArray.size_extract]; omega
  have HN : Hid (N = numS (s.extract 0 3)) := hN
  obtain ⟨rr, hrr⟩ : ∃ rr, readS s most = rr := ⟨_, rfl⟩
  rw [hrr] at hq ⊢
  clear hN h hrr
  obtain ⟨m1, hm1⟩ : ∃ m1, max most 16384 = m1 := ⟨_, rfl⟩
  obtain ⟨mm, hmm⟩ : ∃ mm, min m1 65536 = mm := ⟨_, rfl⟩
  rw [hm1, hmm] at hm
  have HM1 : Hid (max most 16384 = m1) := hm1
  have HMM : Hid (min m1 65536 = mm) := hmm
  clear hm1 hmm
  go_enter Tryd.func34, Tryd.ntmps34
  go_upto_if 11 with fail
  go_cut [1] from 10 (fun x wx => x = .int .i64 m1 ∧ wx = ((w.alloc (.cells #[.int .i64 0, .int .i64 0, .int .i64 0, .string ⟨#[]⟩, .int .i64 0, .int .i64 0, .bool false, .int .i64 0, .int .i64 0, .int .i64 0, .slice none 0 0] 28)).alloc (.cells #[.int .i64 0, .int .i64 0] 30)))
  case first =>
    by_cases hmo : most < 16384
    · have hmx : Hid (m1 = 16384) := by have := HM1.out; show _ = _; omega
      go_wp2_with fail
      go_meet
      exact ⟨by rw [hmx.out], rfl⟩
    · have hmx : Hid (m1 = most) := by have := HM1.out; show _ = _; omega
      go_wp2_with fail
      go_meet
      exact ⟨by rw [hmx.out], rfl⟩
  case rest =>
   obtain ⟨rfl, rfl⟩ := hcut
   go_upto_if 13 with fail
   go_cut [1] from 10 (fun x wx => x = .int .i64 mm ∧ wx = ((w.alloc (.cells #[.int .i64 0, .int .i64 0, .int .i64 0, .string ⟨#[]⟩, .int .i64 0, .int .i64 0, .bool false, .int .i64 0, .int .i64 0, .int .i64 0, .slice none 0 0] 28)).alloc (.cells #[.int .i64 0, .int .i64 0] 30)))
   case first =>
    by_cases hmo : 65536 < m1
    · have hmx : Hid (mm = 65536) := by have := HMM.out; show _ = _; omega
      go_wp2_with fail
      go_meet
      exact ⟨by rw [hmx.out], rfl⟩
    · have hmx : Hid (mm = m1) := by have := HMM.out; show _ = _; omega
      go_wp2_with fail
      go_meet
      exact ⟨by rw [hmx.out], rfl⟩
   case rest =>
    obtain ⟨rfl, rfl⟩ := hcut
    go_wp2_with (go_at_call 43; refine (get_any (s.extract 0 3) _ hs3).mono ?_; rintro e w' ⟨rfl, rfl⟩; rw [← HN.out])
    refine bodyPost_ret (results_three (p := 4) (ty := 28) (r := 5) (q := 6) (tz := 30) rfl _ _ w.heap.size (w.heap.size + 1) 28 30 #[.int .i64 0, .int .i64 0, .int .i64 0, .string ⟨#[]⟩, .int .i64 0, .int .i64 0, .bool false, .int .i64 0, .int .i64 0, .int .i64 0, .slice none 0 0] #[.int .i64 6, .int .i64 0] (0, 0) (0, 0) _ _ rfl ?a1 Tryd.underlying28 rfl (by kernel_rfl) rfl ?a2 Tryd.underlying30 rfl (by kernel_rfl)) rfl ?a3
    case a1 => (simp only [heap_al, heap_dr, size_al, size_dr]; repeat (first | rw [if_pos trivial] | rw [if_neg (by omega)] | rw [if_pos (by omega)]))
    case a2 => (simp only [heap_al, heap_dr, size_al, size_dr]; repeat (first | rw [if_pos trivial] | rw [if_neg (by omega)] | rw [if_pos (by omega)]))
    case a3 => exact rpost_bad hq.out _ (by (repeat (first | exact Below.refl _ _ | refine Below.drew ?_ | refine Below.alloc ?_ (by first | exact Nat.le_refl _ | (simp only [size_al, size_dr]; omega)) _)))

set_option maxRecDepth 100000 in
set_option maxHeartbeats 2000000 in
theorem ref_wanted (s : ByteArray) (most : Int) (w : World) (h : ¬ s.size < 9) (N M : Nat) (hN : N = numS (s.extract 0 3)) (hm : ¬ min (max most 16384) 65536 < (N : Int)) (hM : M = 9 + N) (hw : s.size < M) (hN24 : N < 16777216) :
    Calls Tryd.prog 34 #[.string s, .int .i64 most] w fun e w' => RPost w (readS s most) e w' := by
  have hq : Hid (readS s most = ((Fr.zero, []), 0, 0, 0)) := by show _ = _; unfold readS; rw [if_neg h, ← hN, if_neg hm, ← hM, if_pos hw]
  have hi : ¬ (s.size : Int) < 9 := by omega
  have hi3 : (3 : Int) ≤ (s.size : Int) := by omega
  have hs3 : (s.extract 0 3).size ≤ 4 := by rw [ByteArray.size_extract]; omega
  have hMi : (9 : Int) + (N : Int) = (M : Int) := by omega
  have hw' : (s.size : Int) < (M : Int) := by omega
  have HN : Hid (N = numS (s.extract 0 3)) := hN
  obtain ⟨rr, hrr⟩ : ∃ rr, readS s most = rr := ⟨_, rfl⟩
  rw [hrr] at hq ⊢
  clear hN h hM hw hrr
  obtain ⟨m1, hm1⟩ : ∃ m1, max most 16384 = m1 := ⟨_, rfl⟩
  obtain ⟨mm, hmm⟩ : ∃ mm, min m1 65536 = mm := ⟨_, rfl⟩
  rw [hm1, hmm] at hm
  have HM1 : Hid (max most 16384 = m1) := hm1
  have HMM : Hid (min m1 65536 = mm) := hmm
  clear hm1 hmm
  go_enter Tryd.func34, Tryd.ntmps34
  go_upto_if 11 with fail
  go_cut [1] from 10 (fun x wx => x = .int .i64 m1 ∧ wx = ((w.alloc (.cells #[.int .i64 0, .int .i64 0, .int .i64 0, .string ⟨#[]⟩, .int .i64 0, .int .i64 0, .bool false, .int .i64 0, .int .i64 0, .int .i64 0, .slice none 0 0] 28)).alloc (.cells #[.int .i64 0, .int .i64 0] 30)))
  case first =>
    by_cases hmo : most < 16384
    · have hmx : Hid (m1 = 16384) := by have := HM1.out; show _ = _; omega
      go_wp2_with fail
      go_meet
      exact ⟨by rw [hmx.out], rfl⟩
    · have hmx : Hid (m1 = most) := by have := HM1.out; show _ = _; omega
      go_wp2_with fail
      go_meet
      exact ⟨by rw [hmx.out], rfl⟩
  case rest =>
   obtain ⟨rfl, rfl⟩ := hcut
   go_upto_if 13 with fail
   go_cut [1] from 10 (fun x wx => x = .int .i64 mm ∧ wx = ((w.alloc (.cells #[.int .i64 0, .int .i64 0, .int .i64 0, .string ⟨#[]⟩, .int .i64 0, .int .i64 0, .bool false, .int .i64 0, .int .i64 0, .int .i64 0, .slice none 0 0] 28)).alloc (.cells #[.int .i64 0, .int .i64 0] 30)))
   case first =>
    by_cases hmo : 65536 < m1
    · have hmx : Hid (mm = 65536) := by have := HMM.out; show _ = _; omega
      go_wp2_with fail
      go_meet
      exact ⟨by rw [hmx.out], rfl⟩
    · have hmx : Hid (mm = m1) := by have := HMM.out; show _ = _; omega
      go_wp2_with fail
      go_meet
      exact ⟨by rw [hmx.out], rfl⟩
   case rest =>
    obtain ⟨rfl, rfl⟩ := hcut
    go_wp2_with (go_at_call 43; refine (get_any (s.extract 0 3) _ hs3).mono ?_; rintro e w' ⟨rfl, rfl⟩; rw [← HN.out])
    refine bodyPost_ret (results_three (p := 4) (ty := 28) (r := 5) (q := 6) (tz := 30) rfl _ _ w.heap.size (w.heap.size + 1) 28 30 #[.int .i64 0, .int .i64 0, .int .i64 0, .string ⟨#[]⟩, .int .i64 0, .int .i64 0, .bool false, .int .i64 0, .int .i64 0, .int .i64 0, .slice none 0 0] #[.int .i64 0, .int .i64 0] (0, 0) (0, 0) _ _ rfl ?a1 Tryd.underlying28 rfl (by kernel_rfl) rfl ?a2 Tryd.underlying30 rfl (by kernel_rfl)) rfl ?a3
    case a1 => (simp only [heap_al, heap_dr, size_al, size_dr]; repeat (first | rw [if_pos trivial] | rw [if_neg (by omega)] | rw [if_pos (by omega)]))
    case a2 => (simp only [heap_al, heap_dr, size_al, size_dr]; repeat (first | rw [if_pos trivial] | rw [if_neg (by omega)] | rw [if_pos (by omega)]))
    case a3 => exact rpost_bad hq.out _ (by (repeat (first | exact Below.refl _ _ | refine Below.drew ?_ | refine Below.alloc ?_ (by first | exact Nat.le_refl _ | (simp only [size_al, size_dr]; omega)) _)))

end Go.Proofs.YtmhbaaemihljjaaDoor
