/- The document's read. -/
import Derived.Test.YtmhbaaemihljjaaDoorE1
import Derived.Test.YtmhbaaemihljjaaDoorA8
namespace Go.Proofs.YtmhbaaemihljjaaDoor
open Go.RowKit
set_option linter.unusedVariables false
set_option linter.unusedSimpArgs false

theorem byteAt_extract (Q : ByteArray) (i j k : Nat) (hj : j ≤ Q.size) (hk : i + k < j) : byteAt (Q.extract i j) k = byteAt Q (i + k) := by
  rw [byteAt_eq _ k (by rw [ByteArray.size_extract]; omega), byteAt_eq _ (i + k) (by omega)]
  simp only [ByteArray.getElem_eq_getElem_data, ByteArray.data_extract, Array.getElem_extract]

theorem extract_none (Q : ByteArray) (n : Nat) : Q.extract n n = ⟨#[]⟩ := by
  apply ByteArray.ext
  apply Array.eq_empty_of_size_eq_zero
  have : (Q.extract n n).size = 0 := by rw [ByteArray.size_extract]; omega
  exact this

set_option maxRecDepth 100000 in
set_option maxHeartbeats 2000000 in
theorem rr_data (T X : Nat) (S : Int) (P Q : ByteArray) (Pd D : Nat) (w : World) (hX : X < 256) (hPs : P.size ≤ 65536) (hm : mpS T X = false) (hg : wgS T X = false) (t5 : ((T : Int) == 5) = false) (t7 : ((T : Int) == 7) = false) (t8 : ((T : Int) == 8) = false) (t3 : ((T : Int) == 3) = false) (t4 : ((T : Int) == 4) = false) (hQ : Q = P) :
    Calls Tryd.prog 48 #[.agg #[.int .i64 (T : Int), .int .i64 (X : Int), .int .i64 S, .string ⟨#[]⟩, .int .i64 0, .int .i64 0, .bool false, .int .i64 0, .int .i64 0, .int .i64 0, .slice none 0 0], .string P] w fun e w' => RPost w (takeS 63 ⟨(T : Int), (X : Int), S, ⟨#[]⟩, 0, 0, false, 0, 0, 0⟩ Q, ((9 + P.size : Nat) : Int), 0, 0) e w' := by
  have hmp : Hid (∀ W : World, Calls Tryd.prog 70 #[.int .i64 (T : Int), .int .i64 (X : Int)] W fun e w' => e = .returned (.bool false) ∧ w' = W) := fun W => by
    have := mayPad_any T X hX W
    rw [hm] at this
    exact this
  have hwg : Hid (∀ (pd : Int) (W : World), Calls Tryd.prog 71 #[.agg #[.int .i64 (T : Int), .int .i64 (X : Int), .int .i64 S, .string ⟨#[]⟩, .int .i64 pd, .int .i64 0, .bool false, .int .i64 0, .int .i64 0, .int .i64 0, .slice none 0 0]] W fun e w' => e = .returned (.bool false) ∧ w' = W.alloc (.cells #[.int .i64 (T : Int), .int .i64 (X : Int), .int .i64 S, .string ⟨#[]⟩, .int .i64 pd, .int .i64 0, .bool false, .int .i64 0, .int .i64 0, .int .i64 0, .slice none 0 0] 28)) := fun pd W => by
    have := weighed_any ⟨(T : Int), (X : Int), S, ⟨#[]⟩, pd, 0, false, 0, 0, 0⟩ (.slice none 0 0) T X rfl rfl hX W
    rw [hg] at this
    exact this
  obtain ⟨M, hM⟩ : ∃ M : Nat, (9 : Int) + (P.size : Int) = (M : Int) := ⟨9 + P.size, by omega⟩
  rw [show ((9 + P.size : Nat) : Int) = (M : Int) by omega]
  subst hQ
  have hq4 : (Q.extract 0 4).size ≤ 4 := by rw [ByteArray.size_extract]; omega
  have hq48 : ((Q.extract 4 Q.size).extract 0 4).size ≤ 4 := by rw [ByteArray.size_extract]; omega
  have hgg : Hid (takeS 63 ⟨(T : Int), (X : Int), S, ⟨#[]⟩, 0, 0, false, 0, 0, 0⟩ Q = ((⟨(T : Int), (X : Int), S, Q, 0, 0, false, 0, 0, 0⟩ : Fr), [])) := by
    show _ = _
    rfl
  clear hm hg
  go_enter Tryd.func48, Tryd.ntmps48
  go_wp2_with (first | (go_at_call 70; refine (hmp.out _).mono ?_; rintro e w' ⟨rfl, rfl⟩) | (go_at_call 71; refine (hwg.out _ _).mono ?_; rintro e w' ⟨rfl, rfl⟩) | (go_at_call 44; refine (id_any _ _ (by first | exact hq4 | exact hq48)).mono ?_; rintro e w' ⟨rfl, rfl⟩) | (go_at_call 43; refine (get_any _ _ (by first | exact hq4 | exact hq48)).mono ?_; rintro e w' ⟨rfl, rfl⟩))
  go_loop [1] (fun x => x = .string Q) (fun _ => 0)
  case atStart => first | rfl | (rw [hqe])
  case round =>
    subst hrel
    go_wp2_with fail
    refine bodyPost_ret (results_three (p := 4) (ty := 28) (r := 5) (q := 6) (tz := 30) rfl _ _ (w.heap.size + 1) (w.heap.size + 1 + 1) 28 30 (fv ⟨(T : Int), (X : Int), S, Q, 0, 0, false, 0, 0, 0⟩ (.slice none 0 0)) #[.int .i64 0, .int .i64 0] (0, 0) (0, 0) _ _ rfl ?a1 Tryd.underlying28 rfl (by kernel_rfl) rfl ?a2 Tryd.underlying30 rfl (by kernel_rfl)) rfl ?a3
    case a1 => (simp only [heap_al, heap_dr, size_al, size_dr]; repeat (first | rw [if_pos trivial] | rw [if_neg (by omega)] | rw [if_pos (by omega)])); try rfl
    case a2 => (simp only [heap_al, heap_dr, size_al, size_dr]; repeat (first | rw [if_pos trivial] | rw [if_neg (by omega)] | rw [if_pos (by omega)]))
    case a3 =>
      rw [hgg.out]
      exact ⟨.slice none 0 0, rfl, PRow.nil _, fun k hk => by simp [Value.ownBlock] at hk, (by (repeat (first | exact Below.refl _ _ | refine Below.drew ?_ | refine Below.alloc ?_ (by first | exact Nat.le_refl _ | (simp only [size_al, size_dr]; omega)) _)))⟩

set_option maxRecDepth 100000 in
set_option maxHeartbeats 2000000 in
theorem rr_dataP (T X : Nat) (S : Int) (P Q : ByteArray) (Pd D : Nat) (w : World) (hX : X < 256) (hPs : P.size ≤ 65536) (hm : mpS T X = true) (hg : wgS T X = false) (t5 : ((T : Int) == 5) = false) (t7 : ((T : Int) == 7) = false) (t8 : ((T : Int) == 8) = false) (t3 : ((T : Int) == 3) = false) (t4 : ((T : Int) == 4) = false) (hP0 : 0 < P.size) (hPd : P[0].toNat = Pd) (hD : (P.size : Int) - (Pd : Int) = (D : Int)) (hA : ahS T X ≤ D) (hD1 : 1 ≤ D) (hQ : Q = P.extract 1 D) :
    Calls Tryd.prog 48 #[.agg #[.int .i64 (T : Int), .int .i64 (X : Int), .int .i64 S, .string ⟨#[]⟩, .int .i64 0, .int .i64 0, .bool false, .int .i64 0, .int .i64 0, .int .i64 0, .slice none 0 0], .string P] w fun e w' => RPost w (takeS 63 ⟨(T : Int), (X : Int), S, ⟨#[]⟩, (Pd : Int), 0, false, 0, 0, 0⟩ Q, ((9 + P.size : Nat) : Int), 0, 0) e w' := by
  have hmp : Hid (∀ W : World, Calls Tryd.prog 70 #[.int .i64 (T : Int), .int .i64 (X : Int)] W fun e w' => e = .returned (.bool true) ∧ w' = W) := fun W => by
    have := mayPad_any T X hX W
    rw [hm] at this
    exact this
  have hwg : Hid (∀ (pd : Int) (W : World), Calls Tryd.prog 71 #[.agg #[.int .i64 (T : Int), .int .i64 (X : Int), .int .i64 S, .string ⟨#[]⟩, .int .i64 pd, .int .i64 0, .bool false, .int .i64 0, .int .i64 0, .int .i64 0, .slice none 0 0]] W fun e w' => e = .returned (.bool false) ∧ w' = W.alloc (.cells #[.int .i64 (T : Int), .int .i64 (X : Int), .int .i64 S, .string ⟨#[]⟩, .int .i64 pd, .int .i64 0, .bool false, .int .i64 0, .int .i64 0, .int .i64 0, .slice none 0 0] 28)) := fun pd W => by
    have := weighed_any ⟨(T : Int), (X : Int), S, ⟨#[]⟩, pd, 0, false, 0, 0, 0⟩ (.slice none 0 0) T X rfl rfl hX W
    rw [hg] at this
    exact this
  obtain ⟨M, hM⟩ : ∃ M : Nat, (9 : Int) + (P.size : Int) = (M : Int) := ⟨9 + P.size, by omega⟩
  rw [show ((9 + P.size : Nat) : Int) = (M : Int) by omega]
  have hP0i : (0 : Int) < (P.size : Int) := by omega
  have hpa : P[0].toNat < 256 := UInt8.toNat_lt _
  have hD1i : (1 : Int) ≤ (D : Int) := by omega
  have hDs : (D : Int) ≤ (P.size : Int) := by omega
  have hah : Hid (∀ W : World, Calls Tryd.prog 68 #[.int .i64 (T : Int), .int .i64 (X : Int)] W fun e w' => e = .returned (.int .i64 (ahS T X : Int)) ∧ w' = W) := fun W => ahead_any T X hX W
  obtain ⟨A, hAA⟩ : ∃ A, ahS T X = A := ⟨_, rfl⟩
  rw [hAA] at hah hA
  have hwA : IntKind.i64.wrap ((P.size : Int) - (A : Int)) = (P.size : Int) - (A : Int) := wraps_i64_63 _ (by omega) (by omega)
  have hcmp : decide ((P.size : Int) - (A : Int) < (Pd : Int)) = false := by simp; omega
  clear hAA
  have hQs : Hid (Q.size = D - 1) := by show _ = _; rw [hQ, ByteArray.size_extract]; omega
  replace hQ := hQ.symm
  have hq4 : (Q.extract 0 4).size ≤ 4 := by rw [ByteArray.size_extract]; omega
  have hq48 : ((Q.extract 4 Q.size).extract 0 4).size ≤ 4 := by rw [ByteArray.size_extract]; omega
  have hgg : Hid (takeS 63 ⟨(T : Int), (X : Int), S, ⟨#[]⟩, (Pd : Int), 0, false, 0, 0, 0⟩ Q = ((⟨(T : Int), (X : Int), S, Q, (Pd : Int), 0, false, 0, 0, 0⟩ : Fr), [])) := by
    show _ = _
    rfl
  clear hm hg
  go_enter Tryd.func48, Tryd.ntmps48
  go_upto_region 4 with (go_at_call 70; refine (hmp.out _).mono ?_; rintro e w' ⟨rfl, rfl⟩)
  go_cut [30] from 8 (fun x wx => x = .bool false ∧ wx = (((w.alloc (.cells #[.int .i64 (T : Int), .int .i64 (X : Int), .int .i64 S, .string ⟨#[]⟩, .int .i64 (Pd : Int), .int .i64 0, .bool false, .int .i64 0, .int .i64 0, .int .i64 0, .slice none 0 0] 28)).alloc (.cells #[.int .i64 0, .int .i64 0, .int .i64 0, .string ⟨#[]⟩, .int .i64 0, .int .i64 0, .bool false, .int .i64 0, .int .i64 0, .int .i64 0, .slice none 0 0] 28)).alloc (.cells #[.int .i64 0, .int .i64 0] 30)).drew)
  case first =>
    go_region_law (go_simp; go_wp2_with (go_at_call 68; refine (hah.out _).mono ?_; rintro e w' ⟨rfl, rfl⟩))
    all_goals
      go_wp2_with fail
      go_meet
    all_goals exact ⟨rfl, rfl⟩
  case rest =>
    obtain ⟨rfl, rfl⟩ := hcut
    go_wp2_with (first | (go_at_call 70; refine (hmp.out _).mono ?_; rintro e w' ⟨rfl, rfl⟩) | (go_at_call 71; refine (hwg.out _ _).mono ?_; rintro e w' ⟨rfl, rfl⟩) | (go_at_call 44; refine (id_any _ _ (by first | exact hq4 | exact hq48)).mono ?_; rintro e w' ⟨rfl, rfl⟩) | (go_at_call 43; refine (get_any _ _ (by first | exact hq4 | exact hq48)).mono ?_; rintro e w' ⟨rfl, rfl⟩))
    go_loop [1] (fun x => x = .string Q) (fun _ => 0)
    case atStart => first | rfl | (rw [hqe])
    case round =>
      subst hrel
      go_wp2_with fail
      refine bodyPost_ret (results_three (p := 4) (ty := 28) (r := 5) (q := 6) (tz := 30) rfl _ _ (w.heap.size + 1) (w.heap.size + 1 + 1) 28 30 (fv ⟨(T : Int), (X : Int), S, Q, (Pd : Int), 0, false, 0, 0, 0⟩ (.slice none 0 0)) #[.int .i64 0, .int .i64 0] (0, 0) (0, 0) _ _ rfl ?a1 Tryd.underlying28 rfl (by kernel_rfl) rfl ?a2 Tryd.underlying30 rfl (by kernel_rfl)) rfl ?a3
      case a1 => (simp only [heap_al, heap_dr, size_al, size_dr]; repeat (first | rw [if_pos trivial] | rw [if_neg (by omega)] | rw [if_pos (by omega)])); try rfl
      case a2 => (simp only [heap_al, heap_dr, size_al, size_dr]; repeat (first | rw [if_pos trivial] | rw [if_neg (by omega)] | rw [if_pos (by omega)]))
      case a3 =>
        rw [hgg.out]
        exact ⟨.slice none 0 0, rfl, PRow.nil _, fun k hk => by simp [Value.ownBlock] at hk, (by (repeat (first | exact Below.refl _ _ | refine Below.drew ?_ | refine Below.alloc ?_ (by first | exact Nat.le_refl _ | (simp only [size_al, size_dr]; omega)) _)))⟩

set_option maxRecDepth 100000 in
set_option maxHeartbeats 2000000 in
theorem rr_h (X : Nat) (S : Int) (P Q : ByteArray) (Pd D : Nat) (w : World) (hX : X < 256) (hPs : P.size ≤ 65536) (hm : mpS 1 X = false) (hg : wgS 1 X = true) (hQ : Q = P) (hQ5 : 5 ≤ Q.size) :
    Calls Tryd.prog 48 #[.agg #[.int .i64 1, .int .i64 (X : Int), .int .i64 S, .string ⟨#[]⟩, .int .i64 0, .int .i64 0, .bool false, .int .i64 0, .int .i64 0, .int .i64 0, .slice none 0 0], .string P] w fun e w' => RPost w (takeS 51 ⟨1, (X : Int), S, ⟨#[]⟩, 0, 0, false, 0, 0, 0⟩ Q, ((9 + P.size : Nat) : Int), 0, 0) e w' := by
  have hmp : Hid (∀ W : World, Calls Tryd.prog 70 #[.int .i64 1, .int .i64 (X : Int)] W fun e w' => e = .returned (.bool false) ∧ w' = W) := fun W => by
    have := mayPad_any 1 X hX W
    rw [hm] at this
    exact this
  have hwg : Hid (∀ (pd : Int) (W : World), Calls Tryd.prog 71 #[.agg #[.int .i64 1, .int .i64 (X : Int), .int .i64 S, .string ⟨#[]⟩, .int .i64 pd, .int .i64 0, .bool false, .int .i64 0, .int .i64 0, .int .i64 0, .slice none 0 0]] W fun e w' => e = .returned (.bool true) ∧ w' = W.alloc (.cells #[.int .i64 1, .int .i64 (X : Int), .int .i64 S, .string ⟨#[]⟩, .int .i64 pd, .int .i64 0, .bool false, .int .i64 0, .int .i64 0, .int .i64 0, .slice none 0 0] 28)) := fun pd W => by
    have := weighed_any ⟨1, (X : Int), S, ⟨#[]⟩, pd, 0, false, 0, 0, 0⟩ (.slice none 0 0) 1 X rfl rfl hX W
    rw [hg] at this
    exact this
  obtain ⟨M, hM⟩ : ∃ M : Nat, (9 : Int) + (P.size : Int) = (M : Int) := ⟨9 + P.size, by omega⟩
  rw [show ((9 + P.size : Nat) : Int) = (M : Int) by omega]
  subst hQ
  have hq4 : (Q.extract 0 4).size ≤ 4 := by rw [ByteArray.size_extract]; omega
  have hq48 : ((Q.extract 4 Q.size).extract 0 4).size ≤ 4 := by rw [ByteArray.size_extract]; omega
  have h4 : (4 : Int) ≤ (Q.size : Int) := by omega
  have h4' : (4 : Int) < (Q.size : Int) := by omega
  have h5 : (5 : Int) ≤ (Q.size : Int) := by omega
  have hq4s : 4 < Q.size := by omega
  have hq44 : Q[4].toNat < 256 := UInt8.toNat_lt _
  obtain ⟨N4, hN4⟩ : ∃ N4, numS (Q.extract 0 4) = N4 := ⟨_, rfl⟩
  have hgg : Hid (takeS 51 ⟨1, (X : Int), S, ⟨#[]⟩, 0, 0, false, 0, 0, 0⟩ Q = ((⟨1, (X : Int), S, (Q.extract 5 Q.size), 0, ((N4 : Int) % 2147483648), (decide (2147483647 < (N4 : Int))), ((Q[4].toNat : Int) + 1), 0, 0⟩ : Fr), [])) := by
    show _ = _
    have e1 : (Q.extract 0 5).extract 0 4 = Q.extract 0 4 := by rw [ByteArray.extract_extract]; congr 1
    have e2 : byteAt (Q.extract 0 5) 4 = Q[4].toNat := by rw [byteAt_extract Q 0 5 4 (by omega) (by omega), Nat.zero_add, byteAt_eq Q 4 (by omega)]
    have e3 : decide (2147483648 ≤ N4) = decide (2147483647 < (N4 : Int)) := by by_cases h : 2147483648 ≤ N4 <;> simp [h] <;> omega
    simp only [takeS, prioS, dataS, e1, e2, hN4, e3]
    simp
  clear hm hg
  go_enter Tryd.func48, Tryd.ntmps48
  go_wp2_with (first | (go_at_call 70; refine (hmp.out _).mono ?_; rintro e w' ⟨rfl, rfl⟩) | (go_at_call 71; refine (hwg.out _ _).mono ?_; rintro e w' ⟨rfl, rfl⟩) | (go_at_call 44; refine (id_any _ _ (by first | exact hq4 | exact hq48)).mono ?_; rintro e w' ⟨rfl, rfl⟩) | (go_at_call 43; refine (get_any _ _ (by first | exact hq4 | exact hq48)).mono ?_; rintro e w' ⟨rfl, rfl⟩))
  go_loop [1] (fun x => x = .string (Q.extract 5 Q.size)) (fun _ => 0)
  case atStart => first | rfl | (rw [hqe])
  case round =>
    subst hrel
    go_wp2_with fail
    refine bodyPost_ret (results_three (p := 4) (ty := 28) (r := 5) (q := 6) (tz := 30) rfl _ _ (w.heap.size + 1) (w.heap.size + 1 + 1) 28 30 (fv ⟨1, (X : Int), S, (Q.extract 5 Q.size), 0, ((N4 : Int) % 2147483648), (decide (2147483647 < (N4 : Int))), ((Q[4].toNat : Int) + 1), 0, 0⟩ (.slice none 0 0)) #[.int .i64 0, .int .i64 0] (0, 0) (0, 0) _ _ rfl ?a1 Tryd.underlying28 rfl (by kernel_rfl) rfl ?a2 Tryd.underlying30 rfl (by kernel_rfl)) rfl ?a3
    case a1 => (simp only [heap_al, heap_dr, size_al, size_dr]; repeat (first | rw [if_pos trivial] | rw [if_neg (by omega)] | rw [if_pos (by omega)])); try rfl
    case a2 => (simp only [heap_al, heap_dr, size_al, size_dr]; repeat (first | rw [if_pos trivial] | rw [if_neg (by omega)] | rw [if_pos (by omega)]))
    case a3 =>
      rw [hgg.out]
      exact ⟨.slice none 0 0, rfl, PRow.nil _, fun k hk => by simp [Value.ownBlock] at hk, (by (repeat (first | exact Below.refl _ _ | refine Below.drew ?_ | refine Below.alloc ?_ (by first | exact Nat.le_refl _ | (simp only [size_al, size_dr]; omega)) _)))⟩

set_option maxRecDepth 100000 in
set_option maxHeartbeats 2000000 in
theorem rr_hP (X : Nat) (S : Int) (P Q : ByteArray) (Pd D : Nat) (w : World) (hX : X < 256) (hPs : P.size ≤ 65536) (hm : mpS 1 X = true) (hg : wgS 1 X = true) (hP0 : 0 < P.size) (hPd : P[0].toNat = Pd) (hD : (P.size : Int) - (Pd : Int) = (D : Int)) (hA : ahS 1 X ≤ D) (hD1 : 1 ≤ D) (hQ : Q = P.extract 1 D) (hQ5 : 5 ≤ Q.size) :
    Calls Tryd.prog 48 #[.agg #[.int .i64 1, .int .i64 (X : Int), .int .i64 S, .string ⟨#[]⟩, .int .i64 0, .int .i64 0, .bool false, .int .i64 0, .int .i64 0, .int .i64 0, .slice none 0 0], .string P] w fun e w' => RPost w (takeS 51 ⟨1, (X : Int), S, ⟨#[]⟩, (Pd : Int), 0, false, 0, 0, 0⟩ Q, ((9 + P.size : Nat) : Int), 0, 0) e w' := by
  have hmp : Hid (∀ W : World, Calls Tryd.prog 70 #[.int .i64 1, .int .i64 (X : Int)] W fun e w' => e = .returned (.bool true) ∧ w' = W) := fun W => by
    have := mayPad_any 1 X hX W
    rw [hm] at this
    exact this
  have hwg : Hid (∀ (pd : Int) (W : World), Calls Tryd.prog 71 #[.agg #[.int .i64 1, .int .i64 (X : Int), .int .i64 S, .string ⟨#[]⟩, .int .i64 pd, .int .i64 0, .bool false, .int .i64 0, .int .i64 0, .int .i64 0, .slice none 0 0]] W fun e w' => e = .returned (.bool true) ∧ w' = W.alloc (.cells #[.int .i64 1, .int .i64 (X : Int), .int .i64 S, .string ⟨#[]⟩, .int .i64 pd, .int .i64 0, .bool false, .int .i64 0, .int .i64 0, .int .i64 0, .slice none 0 0] 28)) := fun pd W => by
    have := weighed_any ⟨1, (X : Int), S, ⟨#[]⟩, pd, 0, false, 0, 0, 0⟩ (.slice none 0 0) 1 X rfl rfl hX W
    rw [hg] at this
    exact this
  obtain ⟨M, hM⟩ : ∃ M : Nat, (9 : Int) + (P.size : Int) = (M : Int) := ⟨9 + P.size, by omega⟩
  rw [show ((9 + P.size : Nat) : Int) = (M : Int) by omega]
  have hP0i : (0 : Int) < (P.size : Int) := by omega
  have hpa : P[0].toNat < 256 := UInt8.toNat_lt _
  have hD1i : (1 : Int) ≤ (D : Int) := by omega
  have hDs : (D : Int) ≤ (P.size : Int) := by omega
  have hah : Hid (∀ W : World, Calls Tryd.prog 68 #[.int .i64 1, .int .i64 (X : Int)] W fun e w' => e = .returned (.int .i64 (ahS 1 X : Int)) ∧ w' = W) := fun W => ahead_any 1 X hX W
  obtain ⟨A, hAA⟩ : ∃ A, ahS 1 X = A := ⟨_, rfl⟩
  rw [hAA] at hah hA
  have hwA : IntKind.i64.wrap ((P.size : Int) - (A : Int)) = (P.size : Int) - (A : Int) := wraps_i64_63 _ (by omega) (by omega)
  have hcmp : decide ((P.size : Int) - (A : Int) < (Pd : Int)) = false := by simp; omega
  clear hAA
  have hQs : Hid (Q.size = D - 1) := by show _ = _; rw [hQ, ByteArray.size_extract]; omega
  replace hQ := hQ.symm
  have hq4 : (Q.extract 0 4).size ≤ 4 := by rw [ByteArray.size_extract]; omega
  have hq48 : ((Q.extract 4 Q.size).extract 0 4).size ≤ 4 := by rw [ByteArray.size_extract]; omega
  have h4 : (4 : Int) ≤ (Q.size : Int) := by omega
  have h4' : (4 : Int) < (Q.size : Int) := by omega
  have h5 : (5 : Int) ≤ (Q.size : Int) := by omega
  have hq4s : 4 < Q.size := by omega
  have hq44 : Q[4].toNat < 256 := UInt8.toNat_lt _
  obtain ⟨N4, hN4⟩ : ∃ N4, numS (Q.extract 0 4) = N4 := ⟨_, rfl⟩
  have hgg : Hid (takeS 51 ⟨1, (X : Int), S, ⟨#[]⟩, (Pd : Int), 0, false, 0, 0, 0⟩ Q = ((⟨1, (X : Int), S, (Q.extract 5 Q.size), (Pd : Int), ((N4 : Int) % 2147483648), (decide (2147483647 < (N4 : Int))), ((Q[4].toNat : Int) + 1), 0, 0⟩ : Fr), [])) := by
    show _ = _
    have e1 : (Q.extract 0 5).extract 0 4 = Q.extract 0 4 := by rw [ByteArray.extract_extract]; congr 1
    have e2 : byteAt (Q.extract 0 5) 4 = Q[4].toNat := by rw [byteAt_extract Q 0 5 4 (by omega) (by omega), Nat.zero_add, byteAt_eq Q 4 (by omega)]
    have e3 : decide (2147483648 ≤ N4) = decide (2147483647 < (N4 : Int)) := by by_cases h : 2147483648 ≤ N4 <;> simp [h] <;> omega
    simp only [takeS, prioS, dataS, e1, e2, hN4, e3]
    simp
  clear hm hg
  go_enter Tryd.func48, Tryd.ntmps48
  go_upto_region 4 with (go_at_call 70; refine (hmp.out _).mono ?_; rintro e w' ⟨rfl, rfl⟩)
  go_cut [30] from 8 (fun x wx => x = .bool false ∧ wx = (((w.alloc (.cells #[.int .i64 1, .int .i64 (X : Int), .int .i64 S, .string ⟨#[]⟩, .int .i64 (Pd : Int), .int .i64 0, .bool false, .int .i64 0, .int .i64 0, .int .i64 0, .slice none 0 0] 28)).alloc (.cells #[.int .i64 0, .int .i64 0, .int .i64 0, .string ⟨#[]⟩, .int .i64 0, .int .i64 0, .bool false, .int .i64 0, .int .i64 0, .int .i64 0, .slice none 0 0] 28)).alloc (.cells #[.int .i64 0, .int .i64 0] 30)).drew)
  case first =>
    go_region_law (go_simp; go_wp2_with (go_at_call 68; refine (hah.out _).mono ?_; rintro e w' ⟨rfl, rfl⟩))
    all_goals
      go_wp2_with fail
      go_meet
    all_goals exact ⟨rfl, rfl⟩
  case rest =>
    obtain ⟨rfl, rfl⟩ := hcut
    go_wp2_with (first | (go_at_call 70; refine (hmp.out _).mono ?_; rintro e w' ⟨rfl, rfl⟩) | (go_at_call 71; refine (hwg.out _ _).mono ?_; rintro e w' ⟨rfl, rfl⟩) | (go_at_call 44; refine (id_any _ _ (by first | exact hq4 | exact hq48)).mono ?_; rintro e w' ⟨rfl, rfl⟩) | (go_at_call 43; refine (get_any _ _ (by first | exact hq4 | exact hq48)).mono ?_; rintro e w' ⟨rfl, rfl⟩))
    go_loop [1] (fun x => x = .string (Q.extract 5 Q.size)) (fun _ => 0)
    case atStart => first | rfl | (rw [hqe])
    case round =>
      subst hrel
      go_wp2_with fail
      refine bodyPost_ret (results_three (p := 4) (ty := 28) (r := 5) (q := 6) (tz := 30) rfl _ _ (w.heap.size + 1) (w.heap.size + 1 + 1) 28 30 (fv ⟨1, (X : Int), S, (Q.extract 5 Q.size), (Pd : Int), ((N4 : Int) % 2147483648), (decide (2147483647 < (N4 : Int))), ((Q[4].toNat : Int) + 1), 0, 0⟩ (.slice none 0 0)) #[.int .i64 0, .int .i64 0] (0, 0) (0, 0) _ _ rfl ?a1 Tryd.underlying28 rfl (by kernel_rfl) rfl ?a2 Tryd.underlying30 rfl (by kernel_rfl)) rfl ?a3
      case a1 => (simp only [heap_al, heap_dr, size_al, size_dr]; repeat (first | rw [if_pos trivial] | rw [if_neg (by omega)] | rw [if_pos (by omega)])); try rfl
      case a2 => (simp only [heap_al, heap_dr, size_al, size_dr]; repeat (first | rw [if_pos trivial] | rw [if_neg (by omega)] | rw [if_pos (by omega)]))
      case a3 =>
        rw [hgg.out]
        exact ⟨.slice none 0 0, rfl, PRow.nil _, fun k hk => by simp [Value.ownBlock] at hk, (by (repeat (first | exact Below.refl _ _ | refine Below.drew ?_ | refine Below.alloc ?_ (by first | exact Nat.le_refl _ | (simp only [size_al, size_dr]; omega)) _)))⟩

end Go.Proofs.YtmhbaaemihljjaaDoor
