/- The document's Read, from nine bytes on. -/
import Derived.Test.YtmhbaaemihljjaaDoorF1
namespace Go.Proofs.YtmhbaaemihljjaaDoor
open Go.RowKit
set_option linter.unusedVariables false
set_option linter.unusedSimpArgs false

theorem finQ (w wz : World) (f : Fr) (p q : Value) (ps : List (Int × Int)) (c x : Int) (h2 : wz.heap[w.heap.size]? = some (.cells #[.int .i64 0, .int .i64 0, .int .i64 0, .string ⟨#[]⟩, .int .i64 0, .int .i64 0, .bool false, .int .i64 0, .int .i64 0, .int .i64 0, .slice none 0 0] 28 (0, 0))) (h3 : wz.heap[w.heap.size + 1]? = some (.cells #[.int .i64 0, .int .i64 0] 30 (0, 0)))
    (hP : PRow wz q ps) (hfr : ∀ k, q.ownBlock = some k → w.heap.size + 1 + 1 ≤ k) (hbel : Below w.heap.size w wz) :
    ((sets (sets wz w.heap.size (fsets f p)) (w.heap.size + 1) [(0, .int .i64 c), (1, .int .i64 x)])).heap[w.heap.size]? = some (.cells (fv f p) 28 (0, 0)) ∧
    ((sets (sets wz w.heap.size (fsets f p)) (w.heap.size + 1) [(0, .int .i64 c), (1, .int .i64 x)])).heap[w.heap.size + 1]? = some (.cells #[.int .i64 c, .int .i64 x] 30 (0, 0)) ∧
    PRow ((sets (sets wz w.heap.size (fsets f p)) (w.heap.size + 1) [(0, .int .i64 c), (1, .int .i64 x)])) q ps ∧
    Below w.heap.size w ((sets (sets wz w.heap.size (fsets f p)) (w.heap.size + 1) [(0, .int .i64 c), (1, .int .i64 x)])) := by
  refine ⟨?_, ?_, hP.below fun k hk hlt => ?_, ?_⟩
  · rw [sets_other _ _ (by omega), sets_block _ _ _ _ _ _ h2]
    simp only [fsets, fv, List.foldl_cons, List.foldl_nil, List.setIfInBounds_toArray, List.set_cons_zero, List.set_cons_succ]
  · rw [sets_block _ _ _ _ _ _ ((sets_other _ _ (by omega) _ _).trans h3)]
    simp only [List.foldl_cons, List.foldl_nil, List.setIfInBounds_toArray, List.set_cons_zero, List.set_cons_succ]
  · have := hfr k hk
    rw [sets_other _ _ (by omega), sets_other _ _ (by omega)]
  · exact (hbel.trans (sets_below w.heap.size w.heap.size (Nat.le_refl _) (fsets f p) wz)).trans (sets_below (w.heap.size + 1) w.heap.size (by omega) [(0, .int .i64 c), (1, .int .i64 x)] _)

set_option maxRecDepth 100000 in
set_option maxHeartbeats 4000000 in
theorem ref_gs (s : ByteArray) (most : Int) (w : World) (N M T X : Nat) (S KF : Int) (P : ByteArray) (res : (Fr × List (Int × Int)) × Int × Int × Int) (h : ¬ s.size < 9) (hN : N = numS (s.extract 0 3)) (hm : ¬ min (max most 16384) 65536 < (N : Int)) (hM : M = 9 + N) (hw : ¬ s.size < M) (hN24 : N ≤ 65536)
    (hT : s[3].toNat = T) (hS : (numS (s.extract 5 9) : Int) % 2147483648 = S) (hKF : kflags (min (T : Int) 10).toNat = KF) (hX : bits .and .i64 (s[4].toNat : Int) KF = (X : Int)) (hX8 : X < 256) (hP : P = s.extract 9 M) (hs0 : srS T S = false) (hq0 : res = ((Fr.zero, []), 0, 1, 0)) :
    Calls Tryd.prog 34 #[.string s, .int .i64 most] w fun e w' => RPost w res e w' := by
  have hi : ¬ (s.size : Int) < 9 := by omega
  have hi3 : (3 : Int) ≤ (s.size : Int) := by omega
  have hi3' : (3 : Int) < (s.size : Int) := by omega
  have hi4 : (4 : Int) < (s.size : Int) := by omega
  have hi5 : (5 : Int) ≤ (s.size : Int) := by omega
  have hi9 : (9 : Int) ≤ (s.size : Int) := by omega
  have hs3 : (s.extract 0 3).size ≤ 4 := by rw [ByteArray.size_extract]; omega
  have hs5 : (s.extract 5 9).size ≤ 4 := by rw [ByteArray.size_extract]; omega
  have hMi : (9 : Int) + (N : Int) = (M : Int) := by omega
  have hw' : ¬ (s.size : Int) < (M : Int) := by omega
  have hw2 : (M : Int) ≤ (s.size : Int) := by omega
  have h9M : (9 : Int) ≤ (M : Int) := by omega
  have hPn : Hid (P.size = N) := by show _ = _; rw [hP, ByteArray.size_extract]; omega
  have hb3 : s[3].toNat < 256 := UInt8.toNat_lt _
  have hb4 : s[4].toNat < 256 := UInt8.toNat_lt _
  have hwr : IntKind.i64.wrap (s[3].toNat : Int) = (s[3].toNat : Int) := wraps_i64_63 _ (by omega) (by omega)
  have hwr4 : IntKind.i64.wrap (s[4].toNat : Int) = (s[4].toNat : Int) := wraps_i64_63 _ (by omega) (by omega)
  rw [hT] at hwr hb3
  have HN : Hid (N = numS (s.extract 0 3)) := hN
  have hfl : Hid (∀ W : World, Calls Tryd.prog 45 #[.int .i64 (T : Int)] W fun e w' => e = .returned (.int .i64 KF) ∧ w' = W) := fun W => by rw [← hKF]; exact flags_ref T W
  have hsr : Hid (∀ W : World, Calls Tryd.prog 46 #[.int .i64 (T : Int), .int .i64 S] W fun e w' => e = .returned (.bool (srS T S)) ∧ w' = W) := fun W => streamRight_any T S W
  have hlr : Hid (∀ W : World, Calls Tryd.prog 47 #[.int .i64 (T : Int), .int .i64 (X : Int), .int .i64 (P.size : Int)] W fun e w' => e = .returned (.bool (lrS T X P.size)) ∧ w' = W) := fun W => lengthRight_any T X P.size hX8 (by have := hPn.out; omega) W
  replace hP := hP.symm
  obtain ⟨m1, hm1⟩ : ∃ m1, max most 16384 = m1 := ⟨_, rfl⟩
  obtain ⟨mm, hmm⟩ : ∃ mm, min m1 65536 = mm := ⟨_, rfl⟩
  rw [hm1, hmm] at hm
  have HM1 : Hid (max most 16384 = m1) := hm1
  have HMM : Hid (min m1 65536 = mm) := hmm
  clear hm1 hmm
  clear hN hM hw hKF
  go_enter Tryd.func34, Tryd.ntmps34
  go_upto_if 11 with fail
  go_cut [1] from 10 (fun x wx => x = .int .i64 m1 ∧ wx = ((w.alloc (.cells #[.int .i64 0, .int .i64 0, .int .i64 0, .string ⟨#[]⟩, .int .i64 0, .int .i64 0, .bool false, .int .i64 0, .int .i64 0, .int .i64 0, .slice none 0 0] 28)).alloc (.cells #[.int .i64 0, .int .i64 0] 30)))
  case first =>
    by_cases hmo : most < 16384
    · have hmx : Hid (m1 = 16384) := by have := HM1.out; show _ = _; omega
      go_wp2_with fail
      go_meet
      exact ⟨by rw [hmx.out], rfl⟩
    · have hmx : Hid (m1 = most) := by have := HM1.out; show _ = _; omega
      go_wp2_with fail
      go_meet
      exact ⟨by rw [hmx.out], rfl⟩
  case rest =>
   obtain ⟨rfl, rfl⟩ := hcut
   go_upto_if 13 with fail
   go_cut [1] from 10 (fun x wx => x = .int .i64 mm ∧ wx = ((w.alloc (.cells #[.int .i64 0, .int .i64 0, .int .i64 0, .string ⟨#[]⟩, .int .i64 0, .int .i64 0, .bool false, .int .i64 0, .int .i64 0, .int .i64 0, .slice none 0 0] 28)).alloc (.cells #[.int .i64 0, .int .i64 0] 30)))
   case first =>
    by_cases hmo : 65536 < m1
    · have hmx : Hid (mm = 65536) := by have := HMM.out; show _ = _; omega
      go_wp2_with fail
      go_meet
      exact ⟨by rw [hmx.out], rfl⟩
    · have hmx : Hid (mm = m1) := by have := HMM.out; show _ = _; omega
      go_wp2_with fail
      go_meet
      exact ⟨by rw [hmx.out], rfl⟩
   case rest =>
    obtain ⟨rfl, rfl⟩ := hcut
    go_upto_region 12 with (go_at_call 43; refine (get_any (s.extract 0 3) _ hs3).mono ?_; rintro e w' ⟨rfl, rfl⟩; rw [← HN.out])
    go_cut [8] from 10 (fun x wx => x = .pointer (some ⟨w.heap.size + 1 + 1, 0, none⟩) ∧ wx = (((w.alloc (.cells #[.int .i64 0, .int .i64 0, .int .i64 0, .string ⟨#[]⟩, .int .i64 0, .int .i64 0, .bool false, .int .i64 0, .int .i64 0, .int .i64 0, .slice none 0 0] 28)).alloc (.cells #[.int .i64 0, .int .i64 0] 30)).alloc (.cells #[.int .i64 (T : Int), .int .i64 0, .int .i64 S, .string ⟨#[]⟩, .int .i64 0, .int .i64 0, .bool false, .int .i64 0, .int .i64 0, .int .i64 0, .slice none 0 0] 28)).drew)
    case first =>
      go_region_law (go_simp; go_wp2_with (go_at_call 44; refine (id_any _ _ hs5).mono ?_; rintro e w' ⟨rfl, rfl⟩))
      all_goals
        go_wp2_with fail
        go_meet
      all_goals exact ⟨rfl, rfl⟩
    case rest =>
      obtain ⟨rfl, rfl⟩ := hcut
      go_upto_region 13 with fail
      go_cut [] from 10 (fun wx => wx = (((w.alloc (.cells #[.int .i64 0, .int .i64 0, .int .i64 0, .string ⟨#[]⟩, .int .i64 0, .int .i64 0, .bool false, .int .i64 0, .int .i64 0, .int .i64 0, .slice none 0 0] 28)).alloc (.cells #[.int .i64 0, .int .i64 0] 30)).alloc (.cells #[.int .i64 (T : Int), .int .i64 (X : Int), .int .i64 S, .string ⟨#[]⟩, .int .i64 0, .int .i64 0, .bool false, .int .i64 0, .int .i64 0, .int .i64 0, .slice none 0 0] 28)).drew.drew)
      case first =>
        go_region_law (go_simp; go_wp2_with (go_at_call 45; refine (hfl.out _).mono ?_; rintro e w' ⟨rfl, rfl⟩))
        all_goals
          go_wp2_with fail
          go_meet
        all_goals rfl
      case rest =>
        subst hcut
        have hq : Hid (res = ((Fr.zero, []), 0, 1, 0)) := hq0
        clear hq0
        go_wp2_with (first | (go_at_call 46; refine (hsr.out _).mono ?_; rintro e w' ⟨rfl, rfl⟩; simp only [hs0]))
        refine bodyPost_ret (results_three (p := 4) (ty := 28) (r := 5) (q := 6) (tz := 30) rfl _ _ w.heap.size (w.heap.size + 1) 28 30 #[.int .i64 0, .int .i64 0, .int .i64 0, .string ⟨#[]⟩, .int .i64 0, .int .i64 0, .bool false, .int .i64 0, .int .i64 0, .int .i64 0, .slice none 0 0] #[.int .i64 1, .int .i64 0] (0, 0) (0, 0) _ _ rfl ?a1 Tryd.underlying28 rfl (by kernel_rfl) rfl ?a2 Tryd.underlying30 rfl (by kernel_rfl)) rfl ?a3
        case a1 => (simp only [heap_al, heap_dr, size_al, size_dr]; repeat (first | rw [if_pos trivial] | rw [if_neg (by omega)] | rw [if_pos (by omega)]))
        case a2 => (simp only [heap_al, heap_dr, size_al, size_dr]; repeat (first | rw [if_pos trivial] | rw [if_neg (by omega)] | rw [if_pos (by omega)]))
        case a3 => exact rpost_bad hq.out _ (by (repeat (first | exact Below.refl _ _ | refine Below.drew ?_ | refine Below.alloc ?_ (by first | exact Nat.le_refl _ | (simp only [size_al, size_dr]; omega)) _)))

set_option maxRecDepth 100000 in
set_option maxHeartbeats 4000000 in
theorem ref_gl (s : ByteArray) (most : Int) (w : World) (N M T X : Nat) (S KF : Int) (P : ByteArray) (res : (Fr × List (Int × Int)) × Int × Int × Int) (h : ¬ s.size < 9) (hN : N = numS (s.extract 0 3)) (hm : ¬ min (max most 16384) 65536 < (N : Int)) (hM : M = 9 + N) (hw : ¬ s.size < M) (hN24 : N ≤ 65536)
    (hT : s[3].toNat = T) (hS : (numS (s.extract 5 9) : Int) % 2147483648 = S) (hKF : kflags (min (T : Int) 10).toNat = KF) (hX : bits .and .i64 (s[4].toNat : Int) KF = (X : Int)) (hX8 : X < 256) (hP : P = s.extract 9 M) (hs0 : srS T S = true) (hl0 : lrS T X P.size = false) (hT2 : T ≠ 2) (hq0 : res = ((Fr.zero, []), 0, 6, 0)) :
    Calls Tryd.prog 34 #[.string s, .int .i64 most] w fun e w' => RPost w res e w' := by
  have hi : ¬ (s.size : Int) < 9 := by omega
  have hi3 : (3 : Int) ≤ (s.size : Int) := by omega
  have hi3' : (3 : Int) < (s.size : Int) := by omega
  have hi4 : (4 : Int) < (s.size : Int) := by omega
  have hi5 : (5 : Int) ≤ (s.size : Int) := by omega
  have hi9 : (9 : Int) ≤ (s.size : Int) := by omega
  have hs3 : (s.extract 0 3).size ≤ 4 := by rw [ByteArray.size_extract]; omega
  have hs5 : (s.extract 5 9).size ≤ 4 := by rw [ByteArray.size_extract]; omega
  have hMi : (9 : Int) + (N : Int) = (M : Int) := by omega
  have hw' : ¬ (s.size : Int) < (M : Int) := by omega
  have hw2 : (M : Int) ≤ (s.size : Int) := by omega
  have h9M : (9 : Int) ≤ (M : Int) := by omega
  have hPn : Hid (P.size = N) := by show _ = _; rw [hP, ByteArray.size_extract]; omega
  have hb3 : s[3].toNat < 256 := UInt8.toNat_lt _
  have hb4 : s[4].toNat < 256 := UInt8.toNat_lt _
  have hwr : IntKind.i64.wrap (s[3].toNat : Int) = (s[3].toNat : Int) := wraps_i64_63 _ (by omega) (by omega)
  have hwr4 : IntKind.i64.wrap (s[4].toNat : Int) = (s[4].toNat : Int) := wraps_i64_63 _ (by omega) (by omega)
  rw [hT] at hwr hb3
  have HN : Hid (N = numS (s.extract 0 3)) := hN
  have hfl : Hid (∀ W : World, Calls Tryd.prog 45 #[.int .i64 (T : Int)] W fun e w' => e = .returned (.int .i64 KF) ∧ w' = W) := fun W => by rw [← hKF]; exact flags_ref T W
  have hsr : Hid (∀ W : World, Calls Tryd.prog 46 #[.int .i64 (T : Int), .int .i64 S] W fun e w' => e = .returned (.bool (srS T S)) ∧ w' = W) := fun W => streamRight_any T S W
  have hlr : Hid (∀ W : World, Calls Tryd.prog 47 #[.int .i64 (T : Int), .int .i64 (X : Int), .int .i64 (P.size : Int)] W fun e w' => e = .returned (.bool (lrS T X P.size)) ∧ w' = W) := fun W => lengthRight_any T X P.size hX8 (by have := hPn.out; omega) W
  replace hP := hP.symm
  obtain ⟨m1, hm1⟩ : ∃ m1, max most 16384 = m1 := ⟨_, rfl⟩
  obtain ⟨mm, hmm⟩ : ∃ mm, min m1 65536 = mm := ⟨_, rfl⟩
  rw [hm1, hmm] at hm
  have HM1 : Hid (max most 16384 = m1) := hm1
  have HMM : Hid (min m1 65536 = mm) := hmm
  clear hm1 hmm
  clear hN hM hw hKF
  go_enter Tryd.func34, Tryd.ntmps34
  go_upto_if 11 with fail
  go_cut [1] from 10 (fun x wx => x = .int .i64 m1 ∧ wx = ((w.alloc (.cells #[.int .i64 0, .int .i64 0, .int .i64 0, .string ⟨#[]⟩, .int .i64 0, .int .i64 0, .bool false, .int .i64 0, .int .i64 0, .int .i64 0, .slice none 0 0] 28)).alloc (.cells #[.int .i64 0, .int .i64 0] 30)))
  case first =>
    by_cases hmo : most < 16384
    · have hmx : Hid (m1 = 16384) := by have := HM1.out; show _ = _; omega
      go_wp2_with fail
      go_meet
      exact ⟨by rw [hmx.out], rfl⟩
    · have hmx : Hid (m1 = most) := by have := HM1.out; show _ = _; omega
      go_wp2_with fail
      go_meet
      exact ⟨by rw [hmx.out], rfl⟩
  case rest =>
   obtain ⟨rfl, rfl⟩ := hcut
   go_upto_if 13 with fail
   go_cut [1] from 10 (fun x wx => x = .int .i64 mm ∧ wx = ((w.alloc (.cells #[.int .i64 0, .int .i64 0, .int .i64 0, .string ⟨#[]⟩, .int .i64 0, .int .i64 0, .bool false, .int .i64 0, .int .i64 0, .int .i64 0, .slice none 0 0] 28)).alloc (.cells #[.int .i64 0, .int .i64 0] 30)))
   case first =>
    by_cases hmo : 65536 < m1
    · have hmx : Hid (mm = 65536) := by have := HMM.out; show _ = _; omega
      go_wp2_with fail
      go_meet
      exact ⟨by rw [hmx.out], rfl⟩
    · have hmx : Hid (mm = m1) := by have := HMM.out; show _ = _; omega
      go_wp2_with fail
      go_meet
      exact ⟨by rw [hmx.out], rfl⟩
   case rest =>
    obtain ⟨rfl, rfl⟩ := hcut
    go_upto_region 12 with (go_at_call 43; refine (get_any (s.extract 0 3) _ hs3).mono ?_; rintro e w' ⟨rfl, rfl⟩; rw [← HN.out])
    go_cut [8] from 10 (fun x wx => x = .pointer (some ⟨w.heap.size + 1 + 1, 0, none⟩) ∧ wx = (((w.alloc (.cells #[.int .i64 0, .int .i64 0, .int .i64 0, .string ⟨#[]⟩, .int .i64 0, .int .i64 0, .bool false, .int .i64 0, .int .i64 0, .int .i64 0, .slice none 0 0] 28)).alloc (.cells #[.int .i64 0, .int .i64 0] 30)).alloc (.cells #[.int .i64 (T : Int), .int .i64 0, .int .i64 S, .string ⟨#[]⟩, .int .i64 0, .int .i64 0, .bool false, .int .i64 0, .int .i64 0, .int .i64 0, .slice none 0 0] 28)).drew)
    case first =>
      go_region_law (go_simp; go_wp2_with (go_at_call 44; refine (id_any _ _ hs5).mono ?_; rintro e w' ⟨rfl, rfl⟩))
      all_goals
        go_wp2_with fail
        go_meet
      all_goals exact ⟨rfl, rfl⟩
    case rest =>
      obtain ⟨rfl, rfl⟩ := hcut
      go_upto_region 13 with fail
      go_cut [] from 10 (fun wx => wx = (((w.alloc (.cells #[.int .i64 0, .int .i64 0, .int .i64 0, .string ⟨#[]⟩, .int .i64 0, .int .i64 0, .bool false, .int .i64 0, .int .i64 0, .int .i64 0, .slice none 0 0] 28)).alloc (.cells #[.int .i64 0, .int .i64 0] 30)).alloc (.cells #[.int .i64 (T : Int), .int .i64 (X : Int), .int .i64 S, .string ⟨#[]⟩, .int .i64 0, .int .i64 0, .bool false, .int .i64 0, .int .i64 0, .int .i64 0, .slice none 0 0] 28)).drew.drew)
      case first =>
        go_region_law (go_simp; go_wp2_with (go_at_call 45; refine (hfl.out _).mono ?_; rintro e w' ⟨rfl, rfl⟩))
        all_goals
          go_wp2_with fail
          go_meet
        all_goals rfl
      case rest =>
        subst hcut
        have hq : Hid (res = ((Fr.zero, []), 0, 6, 0)) := hq0
        have ht2 : ((T : Int) == 2) = false := by simp; omega
        clear hq0 hT2
        go_wp2_with (first | (go_at_call 46; refine (hsr.out _).mono ?_; rintro e w' ⟨rfl, rfl⟩; simp only [hs0]) | (go_at_call 47; refine (hlr.out _).mono ?_; rintro e w' ⟨rfl, rfl⟩; simp only [hl0]))
        refine bodyPost_ret (results_three (p := 4) (ty := 28) (r := 5) (q := 6) (tz := 30) rfl _ _ w.heap.size (w.heap.size + 1) 28 30 #[.int .i64 0, .int .i64 0, .int .i64 0, .string ⟨#[]⟩, .int .i64 0, .int .i64 0, .bool false, .int .i64 0, .int .i64 0, .int .i64 0, .slice none 0 0] #[.int .i64 6, .int .i64 0] (0, 0) (0, 0) _ _ rfl ?a1 Tryd.underlying28 rfl (by kernel_rfl) rfl ?a2 Tryd.underlying30 rfl (by kernel_rfl)) rfl ?a3
        case a1 => (simp only [heap_al, heap_dr, size_al, size_dr]; repeat (first | rw [if_pos trivial] | rw [if_neg (by omega)] | rw [if_pos (by omega)]))
        case a2 => (simp only [heap_al, heap_dr, size_al, size_dr]; repeat (first | rw [if_pos trivial] | rw [if_neg (by omega)] | rw [if_pos (by omega)]))
        case a3 => exact rpost_bad hq.out _ (by (repeat (first | exact Below.refl _ _ | refine Below.drew ?_ | refine Below.alloc ?_ (by first | exact Nat.le_refl _ | (simp only [size_al, size_dr]; omega)) _)))

set_option maxRecDepth 100000 in
set_option maxHeartbeats 4000000 in
theorem ref_gp (s : ByteArray) (most : Int) (w : World) (N M T X : Nat) (S KF : Int) (P : ByteArray) (res : (Fr × List (Int × Int)) × Int × Int × Int) (h : ¬ s.size < 9) (hN : N = numS (s.extract 0 3)) (hm : ¬ min (max most 16384) 65536 < (N : Int)) (hM : M = 9 + N) (hw : ¬ s.size < M) (hN24 : N ≤ 65536)
    (hT : s[3].toNat = T) (hS : (numS (s.extract 5 9) : Int) % 2147483648 = S) (hKF : kflags (min (T : Int) 10).toNat = KF) (hX : bits .and .i64 (s[4].toNat : Int) KF = (X : Int)) (hX8 : X < 256) (hP : P = s.extract 9 M) (hs0 : srS T S = true) (hl0 : lrS T X P.size = false) (hT2 : Hid (T = 2)) (hq0 : res = ((Fr.zero, []), (M : Int), 6, S)) :
    Calls Tryd.prog 34 #[.string s, .int .i64 most] w fun e w' => RPost w res e w' := by
  have hi : ¬ (s.size : Int) < 9 := by omega
  have hi3 : (3 : Int) ≤ (s.size : Int) := by omega
  have hi3' : (3 : Int) < (s.size : Int) := by omega
  have hi4 : (4 : Int) < (s.size : Int) := by omega
  have hi5 : (5 : Int) ≤ (s.size : Int) := by omega
  have hi9 : (9 : Int) ≤ (s.size : Int) := by omega
  have hs3 : (s.extract 0 3).size ≤ 4 := by rw [ByteArray.size_extract]; omega
  have hs5 : (s.extract 5 9).size ≤ 4 := by rw [ByteArray.size_extract]; omega
  have hMi : (9 : Int) + (N : Int) = (M : Int) := by omega
  have hw' : ¬ (s.size : Int) < (M : Int) := by omega
  have hw2 : (M : Int) ≤ (s.size : Int) := by omega
  have h9M : (9 : Int) ≤ (M : Int) := by omega
  have hPn : Hid (P.size = N) := by show _ = _; rw [hP, ByteArray.size_extract]; omega
  have hb3 : s[3].toNat < 256 := UInt8.toNat_lt _
  have hb4 : s[4].toNat < 256 := UInt8.toNat_lt _
  have hwr : IntKind.i64.wrap (s[3].toNat : Int) = (s[3].toNat : Int) := wraps_i64_63 _ (by omega) (by omega)
  have hwr4 : IntKind.i64.wrap (s[4].toNat : Int) = (s[4].toNat : Int) := wraps_i64_63 _ (by omega) (by omega)
  rw [hT] at hwr hb3
  have HN : Hid (N = numS (s.extract 0 3)) := hN
  have hfl : Hid (∀ W : World, Calls Tryd.prog 45 #[.int .i64 (T : Int)] W fun e w' => e = .returned (.int .i64 KF) ∧ w' = W) := fun W => by rw [← hKF]; exact flags_ref T W
  have hsr : Hid (∀ W : World, Calls Tryd.prog 46 #[.int .i64 (T : Int), .int .i64 S] W fun e w' => e = .returned (.bool (srS T S)) ∧ w' = W) := fun W => streamRight_any T S W
  have hlr : Hid (∀ W : World, Calls Tryd.prog 47 #[.int .i64 (T : Int), .int .i64 (X : Int), .int .i64 (P.size : Int)] W fun e w' => e = .returned (.bool (lrS T X P.size)) ∧ w' = W) := fun W => lengthRight_any T X P.size hX8 (by have := hPn.out; omega) W
  replace hP := hP.symm
  obtain ⟨m1, hm1⟩ : ∃ m1, max most 16384 = m1 := ⟨_, rfl⟩
  obtain ⟨mm, hmm⟩ : ∃ mm, min m1 65536 = mm := ⟨_, rfl⟩
  rw [hm1, hmm] at hm
  have HM1 : Hid (max most 16384 = m1) := hm1
  have HMM : Hid (min m1 65536 = mm) := hmm
  clear hm1 hmm
  clear hN hM hw hKF
  go_enter Tryd.func34, Tryd.ntmps34
  go_upto_if 11 with fail
  go_cut [1] from 10 (fun x wx => x = .int .i64 m1 ∧ wx = ((w.alloc (.cells #[.int .i64 0, .int .i64 0, .int .i64 0, .string ⟨#[]⟩, .int .i64 0, .int .i64 0, .bool false, .int .i64 0, .int .i64 0, .int .i64 0, .slice none 0 0] 28)).alloc (.cells #[.int .i64 0, .int .i64 0] 30)))
  case first =>
    by_cases hmo : most < 16384
    · have hmx : Hid (m1 = 16384) := by have := HM1.out; show _ = _; omega
      go_wp2_with fail
      go_meet
      exact ⟨by rw [hmx.out], rfl⟩
    · have hmx : Hid (m1 = most) := by have := HM1.out; show _ = _; omega
      go_wp2_with fail
      go_meet
      exact ⟨by rw [hmx.out], rfl⟩
  case rest =>
   obtain ⟨rfl, rfl⟩ := hcut
   go_upto_if 13 with fail
   go_cut [1] from 10 (fun x wx => x = .int .i64 mm ∧ wx = ((w.alloc (.cells #[.int .i64 0, .int .i64 0, .int .i64 0, .string ⟨#[]⟩, .int .i64 0, .int .i64 0, .bool false, .int .i64 0, .int .i64 0, .int .i64 0, .slice none 0 0] 28)).alloc (.cells #[.int .i64 0, .int .i64 0] 30)))
   case first =>
    by_cases hmo : 65536 < m1
    · have hmx : Hid (mm = 65536) := by have := HMM.out; show _ = _; omega
      go_wp2_with fail
      go_meet
      exact ⟨by rw [hmx.out], rfl⟩
    · have hmx : Hid (mm = m1) := by have := HMM.out; show _ = _; omega
      go_wp2_with fail
      go_meet
      exact ⟨by rw [hmx.out], rfl⟩
   case rest =>
    obtain ⟨rfl, rfl⟩ := hcut
    go_upto_region 12 with (go_at_call 43; refine (get_any (s.extract 0 3) _ hs3).mono ?_; rintro e w' ⟨rfl, rfl⟩; rw [← HN.out])
    go_cut [8] from 10 (fun x wx => x = .pointer (some ⟨w.heap.size + 1 + 1, 0, none⟩) ∧ wx = (((w.alloc (.cells #[.int .i64 0, .int .i64 0, .int .i64 0, .string ⟨#[]⟩, .int .i64 0, .int .i64 0, .bool false, .int .i64 0, .int .i64 0, .int .i64 0, .slice none 0 0] 28)).alloc (.cells #[.int .i64 0, .int .i64 0] 30)).alloc (.cells #[.int .i64 (T : Int), .int .i64 0, .int .i64 S, .string ⟨#[]⟩, .int .i64 0, .int .i64 0, .bool false, .int .i64 0, .int .i64 0, .int .i64 0, .slice none 0 0] 28)).drew)
    case first =>
      go_region_law (go_simp; go_wp2_with (go_at_call 44; refine (id_any _ _ hs5).mono ?_; rintro e w' ⟨rfl, rfl⟩))
      all_goals
        go_wp2_with fail
        go_meet
      all_goals exact ⟨rfl, rfl⟩
    case rest =>
      obtain ⟨rfl, rfl⟩ := hcut
      go_upto_region 13 with fail
      go_cut [] from 10 (fun wx => wx = (((w.alloc (.cells #[.int .i64 0, .int .i64 0, .int .i64 0, .string ⟨#[]⟩, .int .i64 0, .int .i64 0, .bool false, .int .i64 0, .int .i64 0, .int .i64 0, .slice none 0 0] 28)).alloc (.cells #[.int .i64 0, .int .i64 0] 30)).alloc (.cells #[.int .i64 (T : Int), .int .i64 (X : Int), .int .i64 S, .string ⟨#[]⟩, .int .i64 0, .int .i64 0, .bool false, .int .i64 0, .int .i64 0, .int .i64 0, .slice none 0 0] 28)).drew.drew)
      case first =>
        go_region_law (go_simp; go_wp2_with (go_at_call 45; refine (hfl.out _).mono ?_; rintro e w' ⟨rfl, rfl⟩))
        all_goals
          go_wp2_with fail
          go_meet
        all_goals rfl
      case rest =>
        subst hcut
        have hq : Hid (res = ((Fr.zero, []), (M : Int), 6, S)) := hq0
        have ht2 : ((T : Int) == 2) = true := by have := hT2.out; simp; omega
        have h9P : (9 : Int) + (P.size : Int) = (M : Int) := by have := hPn.out; omega
        clear hq0 hT2
        go_wp2_with (first | (go_at_call 46; refine (hsr.out _).mono ?_; rintro e w' ⟨rfl, rfl⟩; simp only [hs0]) | (go_at_call 47; refine (hlr.out _).mono ?_; rintro e w' ⟨rfl, rfl⟩; simp only [hl0]))
        go_region
        all_goals
          go_wp2_with fail
          refine bodyPost_ret (results_three (p := 4) (ty := 28) (r := 5) (q := 6) (tz := 30) rfl _ _ w.heap.size (w.heap.size + 1) 28 30 #[.int .i64 0, .int .i64 0, .int .i64 0, .string ⟨#[]⟩, .int .i64 0, .int .i64 0, .bool false, .int .i64 0, .int .i64 0, .int .i64 0, .slice none 0 0] #[.int .i64 6, .int .i64 S] (0, 0) (0, 0) _ _ rfl ?a1 Tryd.underlying28 rfl (by kernel_rfl) rfl ?a2 Tryd.underlying30 rfl (by kernel_rfl)) rfl ?a3
          case a1 => (simp only [heap_al, heap_dr, size_al, size_dr]; repeat (first | rw [if_pos trivial] | rw [if_neg (by omega)] | rw [if_pos (by omega)]))
          case a2 => (simp only [heap_al, heap_dr, size_al, size_dr]; repeat (first | rw [if_pos trivial] | rw [if_neg (by omega)] | rw [if_pos (by omega)]))
          case a3 => exact rpost_bad hq.out _ (by (repeat (first | exact Below.refl _ _ | refine Below.drew ?_ | refine Below.alloc ?_ (by first | exact Nat.le_refl _ | (simp only [size_al, size_dr]; omega)) _)))

set_option maxRecDepth 100000 in
set_option maxHeartbeats 4000000 in
theorem ref_gr (s : ByteArray) (most : Int) (w : World) (N M T X : Nat) (S KF : Int) (P : ByteArray) (res : (Fr × List (Int × Int)) × Int × Int × Int) (h : ¬ s.size < 9) (hN : N = numS (s.extract 0 3)) (hm : ¬ min (max most 16384) 65536 < (N : Int)) (hM : M = 9 + N) (hw : ¬ s.size < M) (hN24 : N ≤ 65536)
    (hT : s[3].toNat = T) (hS : (numS (s.extract 5 9) : Int) % 2147483648 = S) (hKF : kflags (min (T : Int) 10).toNat = KF) (hX : bits .and .i64 (s[4].toNat : Int) KF = (X : Int)) (hX8 : X < 256) (hP : P = s.extract 9 M) (hs0 : srS T S = true) (hl0 : lrS T X P.size = true) (hread : ∀ W : World, Calls Tryd.prog 48 #[.agg #[.int .i64 (T : Int), .int .i64 (X : Int), .int .i64 S, .string ⟨#[]⟩, .int .i64 0, .int .i64 0, .bool false, .int .i64 0, .int .i64 0, .int .i64 0, .slice none 0 0], .string P] W fun e w' => RPost W res e w') :
    Calls Tryd.prog 34 #[.string s, .int .i64 most] w fun e w' => RPost w res e w' := by
  have hi : ¬ (s.size : Int) < 9 := by omega
  have hi3 : (3 : Int) ≤ (s.size : Int) := by omega
  have hi3' : (3 : Int) < (s.size : Int) := by omega
  have hi4 : (4 : Int) < (s.size : Int) := by omega
  have hi5 : (5 : Int) ≤ (s.size : Int) := by omega
  have hi9 : (9 : Int) ≤ (s.size : Int) := by omega
  have hs3 : (s.extract 0 3).size ≤ 4 := by rw [ByteArray.size_extract]; omega
  have hs5 : (s.extract 5 9).size ≤ 4 := by rw [ByteArray.size_extract]; omega
  have hMi : (9 : Int) + (N : Int) = (M : Int) := by omega
  have hw' : ¬ (s.size : Int) < (M : Int) := by omega
  have hw2 : (M : Int) ≤ (s.size : Int) := by omega
  have h9M : (9 : Int) ≤ (M : Int) := by omega
  have hPn : Hid (P.size = N) := by show _ = _; rw [hP, ByteArray.size_extract]; omega
  have hb3 : s[3].toNat < 256 := UInt8.toNat_lt _
  have hb4 : s[4].toNat < 256 := UInt8.toNat_lt _
  have hwr : IntKind.i64.wrap (s[3].toNat : Int) = (s[3].toNat : Int) := wraps_i64_63 _ (by omega) (by omega)
  have hwr4 : IntKind.i64.wrap (s[4].toNat : Int) = (s[4].toNat : Int) := wraps_i64_63 _ (by omega) (by omega)
  rw [hT] at hwr hb3
  have HN : Hid (N = numS (s.extract 0 3)) := hN
  have hfl : Hid (∀ W : World, Calls Tryd.prog 45 #[.int .i64 (T : Int)] W fun e w' => e = .returned (.int .i64 KF) ∧ w' = W) := fun W => by rw [← hKF]; exact flags_ref T W
  have hsr : Hid (∀ W : World, Calls Tryd.prog 46 #[.int .i64 (T : Int), .int .i64 S] W fun e w' => e = .returned (.bool (srS T S)) ∧ w' = W) := fun W => streamRight_any T S W
  have hlr : Hid (∀ W : World, Calls Tryd.prog 47 #[.int .i64 (T : Int), .int .i64 (X : Int), .int .i64 (P.size : Int)] W fun e w' => e = .returned (.bool (lrS T X P.size)) ∧ w' = W) := fun W => lengthRight_any T X P.size hX8 (by have := hPn.out; omega) W
  replace hP := hP.symm
  obtain ⟨m1, hm1⟩ : ∃ m1, max most 16384 = m1 := ⟨_, rfl⟩
  obtain ⟨mm, hmm⟩ : ∃ mm, min m1 65536 = mm := ⟨_, rfl⟩
  rw [hm1, hmm] at hm
  have HM1 : Hid (max most 16384 = m1) := hm1
  have HMM : Hid (min m1 65536 = mm) := hmm
  clear hm1 hmm
  clear hN hM hw hKF
  go_enter Tryd.func34, Tryd.ntmps34
  go_upto_if 11 with fail
  go_cut [1] from 10 (fun x wx => x = .int .i64 m1 ∧ wx = ((w.alloc (.cells #[.int .i64 0, .int .i64 0, .int .i64 0, .string ⟨#[]⟩, .int .i64 0, .int .i64 0, .bool false, .int .i64 0, .int .i64 0, .int .i64 0, .slice none 0 0] 28)).alloc (.cells #[.int .i64 0, .int .i64 0] 30)))
  case first =>
    by_cases hmo : most < 16384
    · have hmx : Hid (m1 = 16384) := by have := HM1.out; show _ = _; omega
      go_wp2_with fail
      go_meet
      exact ⟨by rw [hmx.out], rfl⟩
    · have hmx : Hid (m1 = most) := by have := HM1.out; show _ = _; omega
      go_wp2_with fail
      go_meet
      exact ⟨by rw [hmx.out], rfl⟩
  case rest =>
   obtain ⟨rfl, rfl⟩ := hcut
   go_upto_if 13 with fail
   go_cut [1] from 10 (fun x wx => x = .int .i64 mm ∧ wx = ((w.alloc (.cells #[.int .i64 0, .int .i64 0, .int .i64 0, .string ⟨#[]⟩, .int .i64 0, .int .i64 0, .bool false, .int .i64 0, .int .i64 0, .int .i64 0, .slice none 0 0] 28)).alloc (.cells #[.int .i64 0, .int .i64 0] 30)))
   case first =>
    by_cases hmo : 65536 < m1
    · have hmx : Hid (mm = 65536) := by have := HMM.out; show _ = _; omega
      go_wp2_with fail
      go_meet
      exact ⟨by rw [hmx.out], rfl⟩
    · have hmx : Hid (mm = m1) := by have := HMM.out; show _ = _; omega
      go_wp2_with fail
      go_meet
      exact ⟨by rw [hmx.out], rfl⟩
   case rest =>
    obtain ⟨rfl, rfl⟩ := hcut
    go_upto_region 12 with (go_at_call 43; refine (get_any (s.extract 0 3) _ hs3).mono ?_; rintro e w' ⟨rfl, rfl⟩; rw [← HN.out])
    go_cut [8] from 10 (fun x wx => x = .pointer (some ⟨w.heap.size + 1 + 1, 0, none⟩) ∧ wx = (((w.alloc (.cells #[.int .i64 0, .int .i64 0, .int .i64 0, .string ⟨#[]⟩, .int .i64 0, .int .i64 0, .bool false, .int .i64 0, .int .i64 0, .int .i64 0, .slice none 0 0] 28)).alloc (.cells #[.int .i64 0, .int .i64 0] 30)).alloc (.cells #[.int .i64 (T : Int), .int .i64 0, .int .i64 S, .string ⟨#[]⟩, .int .i64 0, .int .i64 0, .bool false, .int .i64 0, .int .i64 0, .int .i64 0, .slice none 0 0] 28)).drew)
    case first =>
      go_region_law (go_simp; go_wp2_with (go_at_call 44; refine (id_any _ _ hs5).mono ?_; rintro e w' ⟨rfl, rfl⟩))
      all_goals
        go_wp2_with fail
        go_meet
      all_goals exact ⟨rfl, rfl⟩
    case rest =>
      obtain ⟨rfl, rfl⟩ := hcut
      go_upto_region 13 with fail
      go_cut [] from 10 (fun wx => wx = (((w.alloc (.cells #[.int .i64 0, .int .i64 0, .int .i64 0, .string ⟨#[]⟩, .int .i64 0, .int .i64 0, .bool false, .int .i64 0, .int .i64 0, .int .i64 0, .slice none 0 0] 28)).alloc (.cells #[.int .i64 0, .int .i64 0] 30)).alloc (.cells #[.int .i64 (T : Int), .int .i64 (X : Int), .int .i64 S, .string ⟨#[]⟩, .int .i64 0, .int .i64 0, .bool false, .int .i64 0, .int .i64 0, .int .i64 0, .slice none 0 0] 28)).drew.drew)
      case first =>
        go_region_law (go_simp; go_wp2_with (go_at_call 45; refine (hfl.out _).mono ?_; rintro e w' ⟨rfl, rfl⟩))
        all_goals
          go_wp2_with fail
          go_meet
        all_goals rfl
      case rest =>
        subst hcut
        obtain ⟨⟨f, ps⟩, n, c, x⟩ := res
        have hq : Hid (∀ W : World, w.heap.size + 1 + 1 ≤ W.heap.size → Below w.heap.size w W → W.heap[w.heap.size]? = some (.cells #[.int .i64 0, .int .i64 0, .int .i64 0, .string ⟨#[]⟩, .int .i64 0, .int .i64 0, .bool false, .int .i64 0, .int .i64 0, .int .i64 0, .slice none 0 0] 28 (0, 0)) → W.heap[w.heap.size + 1]? = some (.cells #[.int .i64 0, .int .i64 0] 30 (0, 0)) → Calls Tryd.prog 48 #[.agg #[.int .i64 (T : Int), .int .i64 (X : Int), .int .i64 S, .string ⟨#[]⟩, .int .i64 0, .int .i64 0, .bool false, .int .i64 0, .int .i64 0, .int .i64 0, .slice none 0 0], .string P] W fun e w' => ∃ pb pl pc, e = .returned (.tuple #[.agg #[.int .i64 f.ty, .int .i64 f.fl, .int .i64 f.st, .string f.data, .int .i64 f.pad, .int .i64 f.dep, .bool f.excl, .int .i64 f.wt, .int .i64 f.code, .int .i64 f.last, .slice pb pl pc], .int .i64 n, .agg #[.int .i64 c, .int .i64 x]]) ∧
            PRow w' (.slice pb pl pc) ps ∧ (∀ k, (Value.slice pb pl pc).ownBlock = some k → w.heap.size + 1 + 1 ≤ k) ∧ Below w.heap.size w w' ∧ w'.heap[w.heap.size]? = some (.cells #[.int .i64 0, .int .i64 0, .int .i64 0, .string ⟨#[]⟩, .int .i64 0, .int .i64 0, .bool false, .int .i64 0, .int .i64 0, .int .i64 0, .slice none 0 0] 28 (0, 0)) ∧ w'.heap[w.heap.size + 1]? = some (.cells #[.int .i64 0, .int .i64 0] 30 (0, 0))) := by
          intro W h3 h4 h5 h6
          refine (hread W).mono ?_
          rintro e w' ⟨p, rfl, q1, q2, q3⟩
          obtain ⟨pb, pc, rfl⟩ := q1.slice
          exact ⟨pb, _, pc, rfl, q1, fun k hk => Nat.le_trans h3 (q2 k hk), h4.trans (q3.mono h4.size), (q3.block _ (by omega)).trans h5, (q3.block _ (by omega)).trans h6⟩
        clear hread
        go_wp2_with (first | (go_at_call 46; refine (hsr.out _).mono ?_; rintro e w' ⟨rfl, rfl⟩; simp only [hs0]) | (go_at_call 47; refine (hlr.out _).mono ?_; rintro e w' ⟨rfl, rfl⟩; simp only [hl0]) | (go_at_call 48; refine (hq.out _ (by simp only [size_al, size_dr]; omega) (by (repeat (first | exact Below.refl _ _ | refine Below.drew ?_ | refine Below.alloc ?_ (by first | exact Nat.le_refl _ | (simp only [size_al, size_dr]; omega)) _))) (by (simp only [heap_al, heap_dr, size_al, size_dr]; repeat (first | rw [if_pos trivial] | rw [if_neg (by omega)] | rw [if_pos (by omega)]))) (by (simp only [heap_al, heap_dr, size_al, size_dr]; repeat (first | rw [if_pos trivial] | rw [if_neg (by omega)] | rw [if_pos (by omega)])))).mono ?_; rintro e wz ⟨pb, pl, pc, rfl, hz1, hz2, hz3, hz4, hz5⟩; have hz4' : FB wz w.heap.size Fr.zero (.slice none 0 0) := hz4; obtain ⟨z0, z1, z2, z3, z4, z5, z6, z7, z8, z9, z10⟩ := hz4'.cells; obtain ⟨y0, y1, y2, y3, y4, y5, y6, y7, y8, y9, y10⟩ := hz4'.frozens; have q0 := cell_of_row _ _ 0 _ _ _ hz5; have q1 := cell_of_row _ _ 1 _ _ _ hz5; have q2 : wz.frozen? ⟨w.heap.size + 1, 0, none⟩ = false := frozen_row hz5 0; have q3 : wz.frozen? ⟨w.heap.size + 1, 1, none⟩ = false := frozen_row hz5 1; replace hz4 : Hid _ := hz4; replace hz5 : Hid _ := hz5; clear hz4'; simp only [Fr.zero, List.getElem?_toArray, List.getElem?_cons_succ, List.getElem?_cons_zero] at z0 z1 z2 z3 z4 z5 z6 z7 z8 z9 z10 q0 q1))
        have hfin := finQ w wz f (.slice pb pl pc) (.slice pb pl pc) ps c x hz4.out hz5.out hz1 hz2 hz3
        simp only [sets, fsets, List.foldl_cons, List.foldl_nil] at hfin
        obtain ⟨x1, x2, x3, x4⟩ := hfin
        refine bodyPost_ret (results_three (p := 4) (ty := 28) (r := 5) (q := 6) (tz := 30) rfl _ _ w.heap.size (w.heap.size + 1) 28 30 _ _ (0, 0) (0, 0) _ _ rfl x1 Tryd.underlying28 rfl (by kernel_rfl) rfl x2 Tryd.underlying30 rfl (by kernel_rfl)) rfl ?_
        exact ⟨_, rfl, x3, fun k hk => by have := hz2 k hk; omega, x4⟩

end Go.Proofs.YtmhbaaemihljjaaDoor
