/- The document's read. -/
import Derived.Test.YtmhbaaemihljjaaDoorE2
import Derived.Test.YtmhbaaemihljjaaDoorA8
namespace Go.Proofs.YtmhbaaemihljjaaDoor
open Go.RowKit
set_option linter.unusedVariables false
set_option linter.unusedSimpArgs false

set_option maxRecDepth 100000 in
set_option maxHeartbeats 2000000 in
theorem rr_p2 (X : Nat) (S : Int) (P Q : ByteArray) (Pd D : Nat) (w : World) (hX : X < 256) (hPs : P.size ≤ 65536) (hm : mpS 2 X = false) (hg : wgS 2 X = true) (hQ : Q = P) (hQ5 : Q.size = 5) :
    Calls Tryd.prog 48 #[.agg #[.int .i64 2, .int .i64 (X : Int), .int .i64 S, .string ⟨#[]⟩, .int .i64 0, .int .i64 0, .bool false, .int .i64 0, .int .i64 0, .int .i64 0, .slice none 0 0], .string P] w fun e w' => RPost w (takeS 54 ⟨2, (X : Int), S, ⟨#[]⟩, 0, 0, false, 0, 0, 0⟩ Q, ((9 + P.size : Nat) : Int), 0, 0) e w' := by
  have hmp : Hid (∀ W : World, Calls Tryd.prog 70 #[.int .i64 2, .int .i64 (X : Int)] W fun e w' => e = .returned (.bool false) ∧ w' = W) := fun W => by
    have := mayPad_any 2 X hX W
    rw [hm] at this
    exact this
  have hwg : Hid (∀ (pd : Int) (W : World), Calls Tryd.prog 71 #[.agg #[.int .i64 2, .int .i64 (X : Int), .int .i64 S, .string ⟨#[]⟩, .int .i64 pd, .int .i64 0, .bool false, .int .i64 0, .int .i64 0, .int .i64 0, .slice none 0 0]] W fun e w' => e = .returned (.bool true) ∧ w' = W.alloc (.cells #[.int .i64 2, .int .i64 (X : Int), .int .i64 S, .string ⟨#[]⟩, .int .i64 pd, .int .i64 0, .bool false, .int .i64 0, .int .i64 0, .int .i64 0, .slice none 0 0] 28)) := fun pd W => by
    have := weighed_any ⟨2, (X : Int), S, ⟨#[]⟩, pd, 0, false, 0, 0, 0⟩ (.slice none 0 0) 2 X rfl rfl hX W
    rw [hg] at this
    exact this
  obtain ⟨M, hM⟩ : ∃ M : Nat, (9 : Int) + (P.size : Int) = (M : Int) := ⟨9 + P.size, by omega⟩
  rw [show ((9 + P.size : Nat) : Int) = (M : Int) by omega]
  subst hQ
  have hq4 : (Q.extract 0 4).size ≤ 4 := by rw [ByteArray.size_extract]; omega
  have hq48 : ((Q.extract 4 Q.size).extract 0 4).size ≤ 4 := by rw [ByteArray.size_extract]; omega
  have h4 : (4 : Int) ≤ (Q.size : Int) := by omega
  have h4' : (4 : Int) < (Q.size : Int) := by omega
  have h5 : (5 : Int) ≤ (Q.size : Int) := by omega
  have hq4s : 4 < Q.size := by omega
  have hq44 : Q[4].toNat < 256 := UInt8.toNat_lt _
  obtain ⟨N4, hN4⟩ : ∃ N4, numS (Q.extract 0 4) = N4 := ⟨_, rfl⟩
  replace hQ5 : Hid (Q.size = 5) := hQ5
  have hgg : Hid (takeS 54 ⟨2, (X : Int), S, ⟨#[]⟩, 0, 0, false, 0, 0, 0⟩ Q = ((⟨2, (X : Int), S, (Q.extract 5 Q.size), 0, ((N4 : Int) % 2147483648), (decide (2147483647 < (N4 : Int))), ((Q[4].toNat : Int) + 1), 0, 0⟩ : Fr), [])) := by
    show _ = _
    have e2 : byteAt Q 4 = Q[4].toNat := byteAt_eq _ 4 hq4s
    have e3 : decide (2147483648 ≤ N4) = decide (2147483647 < (N4 : Int)) := by by_cases h : 2147483648 ≤ N4 <;> simp [h] <;> omega
    have e4 : Q.extract 5 Q.size = ⟨#[]⟩ := by rw [hQ5.out]; exact extract_none Q 5
    simp only [takeS, prioS, e2, hN4, e3, e4]
    simp
  clear hm hg
  go_enter Tryd.func48, Tryd.ntmps48
  go_wp2_with (first | (go_at_call 70; refine (hmp.out _).mono ?_; rintro e w' ⟨rfl, rfl⟩) | (go_at_call 71; refine (hwg.out _ _).mono ?_; rintro e w' ⟨rfl, rfl⟩) | (go_at_call 44; refine (id_any _ _ (by first | exact hq4 | exact hq48)).mono ?_; rintro e w' ⟨rfl, rfl⟩) | (go_at_call 43; refine (get_any _ _ (by first | exact hq4 | exact hq48)).mono ?_; rintro e w' ⟨rfl, rfl⟩))
  go_loop [1] (fun x => x = .string (Q.extract 5 Q.size)) (fun _ => 0)
  case atStart => first | rfl | (rw [hqe])
  case round =>
    subst hrel
    go_wp2_with fail
    refine bodyPost_ret (results_three (p := 4) (ty := 28) (r := 5) (q := 6) (tz := 30) rfl _ _ (w.heap.size + 1) (w.heap.size + 1 + 1) 28 30 (fv ⟨2, (X : Int), S, (Q.extract 5 Q.size), 0, ((N4 : Int) % 2147483648), (decide (2147483647 < (N4 : Int))), ((Q[4].toNat : Int) + 1), 0, 0⟩ (.slice none 0 0)) #[.int .i64 0, .int .i64 0] (0, 0) (0, 0) _ _ rfl ?a1 Tryd.underlying28 rfl (by kernel_rfl) rfl ?a2 Tryd.underlying30 rfl (by kernel_rfl)) rfl ?a3
    case a1 => (simp only [heap_al, heap_dr, size_al, size_dr]; repeat (first | rw [if_pos trivial] | rw [if_neg (by omega)] | rw [if_pos (by omega)])); try rfl
    case a2 => (simp only [heap_al, heap_dr, size_al, size_dr]; repeat (first | rw [if_pos trivial] | rw [if_neg (by omega)] | rw [if_pos (by omega)]))
    case a3 =>
      rw [hgg.out]
      exact ⟨.slice none 0 0, rfl, PRow.nil _, fun k hk => by simp [Value.ownBlock] at hk, (by (repeat (first | exact Below.refl _ _ | refine Below.drew ?_ | refine Below.alloc ?_ (by first | exact Nat.le_refl _ | (simp only [size_al, size_dr]; omega)) _)))⟩

set_option maxRecDepth 100000 in
set_option maxHeartbeats 2000000 in
theorem rr_r3 (X : Nat) (S : Int) (P Q : ByteArray) (Pd D : Nat) (w : World) (hX : X < 256) (hPs : P.size ≤ 65536) (hm : mpS 3 X = false) (hg : wgS 3 X = false) (hQ : Q = P) (hQ4 : Q.size = 4) :
    Calls Tryd.prog 48 #[.agg #[.int .i64 3, .int .i64 (X : Int), .int .i64 S, .string ⟨#[]⟩, .int .i64 0, .int .i64 0, .bool false, .int .i64 0, .int .i64 0, .int .i64 0, .slice none 0 0], .string P] w fun e w' => RPost w (takeS 56 ⟨3, (X : Int), S, ⟨#[]⟩, 0, 0, false, 0, 0, 0⟩ Q, ((9 + P.size : Nat) : Int), 0, 0) e w' := by
  have hmp : Hid (∀ W : World, Calls Tryd.prog 70 #[.int .i64 3, .int .i64 (X : Int)] W fun e w' => e = .returned (.bool false) ∧ w' = W) := fun W => by
    have := mayPad_any 3 X hX W
    rw [hm] at this
    exact this
  have hwg : Hid (∀ (pd : Int) (W : World), Calls Tryd.prog 71 #[.agg #[.int .i64 3, .int .i64 (X : Int), .int .i64 S, .string ⟨#[]⟩, .int .i64 pd, .int .i64 0, .bool false, .int .i64 0, .int .i64 0, .int .i64 0, .slice none 0 0]] W fun e w' => e = .returned (.bool false) ∧ w' = W.alloc (.cells #[.int .i64 3, .int .i64 (X : Int), .int .i64 S, .string ⟨#[]⟩, .int .i64 pd, .int .i64 0, .bool false, .int .i64 0, .int .i64 0, .int .i64 0, .slice none 0 0] 28)) := fun pd W => by
    have := weighed_any ⟨3, (X : Int), S, ⟨#[]⟩, pd, 0, false, 0, 0, 0⟩ (.slice none 0 0) 3 X rfl rfl hX W
    rw [hg] at this
    exact this
  obtain ⟨M, hM⟩ : ∃ M : Nat, (9 : Int) + (P.size : Int) = (M : Int) := ⟨9 + P.size, by omega⟩
  rw [show ((9 + P.size : Nat) : Int) = (M : Int) by omega]
  subst hQ
  have hq4 : (Q.extract 0 4).size ≤ 4 := by rw [ByteArray.size_extract]; omega
  have hq48 : ((Q.extract 4 Q.size).extract 0 4).size ≤ 4 := by rw [ByteArray.size_extract]; omega
  have h4 : (4 : Int) ≤ (Q.size : Int) := by omega
  obtain ⟨N4, hN4⟩ : ∃ N4, numS (Q.extract 0 4) = N4 := ⟨_, rfl⟩
  replace hQ4 : Hid (Q.size = 4) := hQ4
  have hgg : Hid (takeS 56 ⟨3, (X : Int), S, ⟨#[]⟩, 0, 0, false, 0, 0, 0⟩ Q = ((⟨3, (X : Int), S, (Q.extract 4 Q.size), 0, 0, false, 0, (N4 : Int), 0⟩ : Fr), [])) := by
    show _ = _
    have e0 : Q.extract 0 4 = Q := by rw [← hQ4.out]; simp
    have e4 : Q.extract 4 Q.size = ⟨#[]⟩ := by rw [hQ4.out]; exact extract_none Q 4
    rw [e0] at hN4
    simp only [takeS, codeS, hN4, e4]
    simp
  clear hm hg
  go_enter Tryd.func48, Tryd.ntmps48
  go_wp2_with (first | (go_at_call 70; refine (hmp.out _).mono ?_; rintro e w' ⟨rfl, rfl⟩) | (go_at_call 71; refine (hwg.out _ _).mono ?_; rintro e w' ⟨rfl, rfl⟩) | (go_at_call 44; refine (id_any _ _ (by first | exact hq4 | exact hq48)).mono ?_; rintro e w' ⟨rfl, rfl⟩) | (go_at_call 43; refine (get_any _ _ (by first | exact hq4 | exact hq48)).mono ?_; rintro e w' ⟨rfl, rfl⟩))
  go_loop [1] (fun x => x = .string (Q.extract 4 Q.size)) (fun _ => 0)
  case atStart => first | rfl | (rw [hqe])
  case round =>
    subst hrel
    go_wp2_with fail
    refine bodyPost_ret (results_three (p := 4) (ty := 28) (r := 5) (q := 6) (tz := 30) rfl _ _ (w.heap.size + 1) (w.heap.size + 1 + 1) 28 30 (fv ⟨3, (X : Int), S, (Q.extract 4 Q.size), 0, 0, false, 0, (N4 : Int), 0⟩ (.slice none 0 0)) #[.int .i64 0, .int .i64 0] (0, 0) (0, 0) _ _ rfl ?a1 Tryd.underlying28 rfl (by kernel_rfl) rfl ?a2 Tryd.underlying30 rfl (by kernel_rfl)) rfl ?a3
    case a1 => (simp only [heap_al, heap_dr, size_al, size_dr]; repeat (first | rw [if_pos trivial] | rw [if_neg (by omega)] | rw [if_pos (by omega)])); try rfl
    case a2 => (simp only [heap_al, heap_dr, size_al, size_dr]; repeat (first | rw [if_pos trivial] | rw [if_neg (by omega)] | rw [if_pos (by omega)]))
    case a3 =>
      rw [hgg.out]
      exact ⟨.slice none 0 0, rfl, PRow.nil _, fun k hk => by simp [Value.ownBlock] at hk, (by (repeat (first | exact Below.refl _ _ | refine Below.drew ?_ | refine Below.alloc ?_ (by first | exact Nat.le_refl _ | (simp only [size_al, size_dr]; omega)) _)))⟩

set_option maxRecDepth 100000 in
set_option maxHeartbeats 2000000 in
theorem rr_w8 (X : Nat) (S : Int) (P Q : ByteArray) (Pd D : Nat) (w : World) (hX : X < 256) (hPs : P.size ≤ 65536) (hm : mpS 8 X = false) (hg : wgS 8 X = false) (hQ : Q = P) (hQ4 : Q.size = 4) :
    Calls Tryd.prog 48 #[.agg #[.int .i64 8, .int .i64 (X : Int), .int .i64 S, .string ⟨#[]⟩, .int .i64 0, .int .i64 0, .bool false, .int .i64 0, .int .i64 0, .int .i64 0, .slice none 0 0], .string P] w fun e w' => RPost w (takeS 67 ⟨8, (X : Int), S, ⟨#[]⟩, 0, 0, false, 0, 0, 0⟩ Q, ((9 + P.size : Nat) : Int), 0, 0) e w' := by
  have hmp : Hid (∀ W : World, Calls Tryd.prog 70 #[.int .i64 8, .int .i64 (X : Int)] W fun e w' => e = .returned (.bool false) ∧ w' = W) := fun W => by
    have := mayPad_any 8 X hX W
    rw [hm] at this
    exact this
  have hwg : Hid (∀ (pd : Int) (W : World), Calls Tryd.prog 71 #[.agg #[.int .i64 8, .int .i64 (X : Int), .int .i64 S, .string ⟨#[]⟩, .int .i64 pd, .int .i64 0, .bool false, .int .i64 0, .int .i64 0, .int .i64 0, .slice none 0 0]] W fun e w' => e = .returned (.bool false) ∧ w' = W.alloc (.cells #[.int .i64 8, .int .i64 (X : Int), .int .i64 S, .string ⟨#[]⟩, .int .i64 pd, .int .i64 0, .bool false, .int .i64 0, .int .i64 0, .int .i64 0, .slice none 0 0] 28)) := fun pd W => by
    have := weighed_any ⟨8, (X : Int), S, ⟨#[]⟩, pd, 0, false, 0, 0, 0⟩ (.slice none 0 0) 8 X rfl rfl hX W
    rw [hg] at this
    exact this
  obtain ⟨M, hM⟩ : ∃ M : Nat, (9 : Int) + (P.size : Int) = (M : Int) := ⟨9 + P.size, by omega⟩
  rw [show ((9 + P.size : Nat) : Int) = (M : Int) by omega]
  subst hQ
  have hq4 : (Q.extract 0 4).size ≤ 4 := by rw [ByteArray.size_extract]; omega
  have hq48 : ((Q.extract 4 Q.size).extract 0 4).size ≤ 4 := by rw [ByteArray.size_extract]; omega
  have h4 : (4 : Int) ≤ (Q.size : Int) := by omega
  obtain ⟨N4, hN4⟩ : ∃ N4, numS (Q.extract 0 4) = N4 := ⟨_, rfl⟩
  replace hQ4 : Hid (Q.size = 4) := hQ4
  have hgg : Hid (takeS 67 ⟨8, (X : Int), S, ⟨#[]⟩, 0, 0, false, 0, 0, 0⟩ Q = ((⟨8, (X : Int), S, (Q.extract 4 Q.size), 0, 0, false, 0, 0, ((N4 : Int) % 2147483648)⟩ : Fr), [])) := by
    show _ = _
    have e0 : Q.extract 0 4 = Q := by rw [← hQ4.out]; simp
    have e4 : Q.extract 4 Q.size = ⟨#[]⟩ := by rw [hQ4.out]; exact extract_none Q 4
    rw [e0] at hN4
    simp only [takeS, lastS, hN4, e4]
    simp
  clear hm hg
  go_enter Tryd.func48, Tryd.ntmps48
  go_wp2_with (first | (go_at_call 70; refine (hmp.out _).mono ?_; rintro e w' ⟨rfl, rfl⟩) | (go_at_call 71; refine (hwg.out _ _).mono ?_; rintro e w' ⟨rfl, rfl⟩) | (go_at_call 44; refine (id_any _ _ (by first | exact hq4 | exact hq48)).mono ?_; rintro e w' ⟨rfl, rfl⟩) | (go_at_call 43; refine (get_any _ _ (by first | exact hq4 | exact hq48)).mono ?_; rintro e w' ⟨rfl, rfl⟩))
  go_loop [1] (fun x => x = .string (Q.extract 4 Q.size)) (fun _ => 0)
  case atStart => first | rfl | (rw [hqe])
  case round =>
    subst hrel
    go_wp2_with fail
    refine bodyPost_ret (results_three (p := 4) (ty := 28) (r := 5) (q := 6) (tz := 30) rfl _ _ (w.heap.size + 1) (w.heap.size + 1 + 1) 28 30 (fv ⟨8, (X : Int), S, (Q.extract 4 Q.size), 0, 0, false, 0, 0, ((N4 : Int) % 2147483648)⟩ (.slice none 0 0)) #[.int .i64 0, .int .i64 0] (0, 0) (0, 0) _ _ rfl ?a1 Tryd.underlying28 rfl (by kernel_rfl) rfl ?a2 Tryd.underlying30 rfl (by kernel_rfl)) rfl ?a3
    case a1 => (simp only [heap_al, heap_dr, size_al, size_dr]; repeat (first | rw [if_pos trivial] | rw [if_neg (by omega)] | rw [if_pos (by omega)])); try rfl
    case a2 => (simp only [heap_al, heap_dr, size_al, size_dr]; repeat (first | rw [if_pos trivial] | rw [if_neg (by omega)] | rw [if_pos (by omega)]))
    case a3 =>
      rw [hgg.out]
      exact ⟨.slice none 0 0, rfl, PRow.nil _, fun k hk => by simp [Value.ownBlock] at hk, (by (repeat (first | exact Below.refl _ _ | refine Below.drew ?_ | refine Below.alloc ?_ (by first | exact Nat.le_refl _ | (simp only [size_al, size_dr]; omega)) _)))⟩

set_option maxRecDepth 100000 in
set_option maxHeartbeats 2000000 in
theorem rr_p5 (X : Nat) (S : Int) (P Q : ByteArray) (Pd D : Nat) (w : World) (hX : X < 256) (hPs : P.size ≤ 65536) (hm : mpS 5 X = false) (hg : wgS 5 X = false) (hQ : Q = P) (hQ4 : 4 ≤ Q.size) :
    Calls Tryd.prog 48 #[.agg #[.int .i64 5, .int .i64 (X : Int), .int .i64 S, .string ⟨#[]⟩, .int .i64 0, .int .i64 0, .bool false, .int .i64 0, .int .i64 0, .int .i64 0, .slice none 0 0], .string P] w fun e w' => RPost w (takeS 61 ⟨5, (X : Int), S, ⟨#[]⟩, 0, 0, false, 0, 0, 0⟩ Q, ((9 + P.size : Nat) : Int), 0, 0) e w' := by
  have hmp : Hid (∀ W : World, Calls Tryd.prog 70 #[.int .i64 5, .int .i64 (X : Int)] W fun e w' => e = .returned (.bool false) ∧ w' = W) := fun W => by
    have := mayPad_any 5 X hX W
    rw [hm] at this
    exact this
  have hwg : Hid (∀ (pd : Int) (W : World), Calls Tryd.prog 71 #[.agg #[.int .i64 5, .int .i64 (X : Int), .int .i64 S, .string ⟨#[]⟩, .int .i64 pd, .int .i64 0, .bool false, .int .i64 0, .int .i64 0, .int .i64 0, .slice none 0 0]] W fun e w' => e = .returned (.bool false) ∧ w' = W.alloc (.cells #[.int .i64 5, .int .i64 (X : Int), .int .i64 S, .string ⟨#[]⟩, .int .i64 pd, .int .i64 0, .bool false, .int .i64 0, .int .i64 0, .int .i64 0, .slice none 0 0] 28)) := fun pd W => by
    have := weighed_any ⟨5, (X : Int), S, ⟨#[]⟩, pd, 0, false, 0, 0, 0⟩ (.slice none 0 0) 5 X rfl rfl hX W
    rw [hg] at this
    exact this
  obtain ⟨M, hM⟩ : ∃ M : Nat, (9 : Int) + (P.size : Int) = (M : Int) := ⟨9 + P.size, by omega⟩
  rw [show ((9 + P.size : Nat) : Int) = (M : Int) by omega]
  subst hQ
  have hq4 : (Q.extract 0 4).size ≤ 4 := by rw [ByteArray.size_extract]; omega
  have hq48 : ((Q.extract 4 Q.size).extract 0 4).size ≤ 4 := by rw [ByteArray.size_extract]; omega
  have h4 : (4 : Int) ≤ (Q.size : Int) := by omega
  obtain ⟨N4, hN4⟩ : ∃ N4, numS (Q.extract 0 4) = N4 := ⟨_, rfl⟩
  have hgg : Hid (takeS 61 ⟨5, (X : Int), S, ⟨#[]⟩, 0, 0, false, 0, 0, 0⟩ Q = ((⟨5, (X : Int), S, (Q.extract 4 Q.size), 0, 0, false, 0, 0, ((N4 : Int) % 2147483648)⟩ : Fr), [])) := by
    show _ = _
    simp only [takeS, lastS, dataS, hN4]
    simp
  clear hm hg
  go_enter Tryd.func48, Tryd.ntmps48
  go_wp2_with (first | (go_at_call 70; refine (hmp.out _).mono ?_; rintro e w' ⟨rfl, rfl⟩) | (go_at_call 71; refine (hwg.out _ _).mono ?_; rintro e w' ⟨rfl, rfl⟩) | (go_at_call 44; refine (id_any _ _ (by first | exact hq4 | exact hq48)).mono ?_; rintro e w' ⟨rfl, rfl⟩) | (go_at_call 43; refine (get_any _ _ (by first | exact hq4 | exact hq48)).mono ?_; rintro e w' ⟨rfl, rfl⟩))
  go_loop [1] (fun x => x = .string (Q.extract 4 Q.size)) (fun _ => 0)
  case atStart => first | rfl | (rw [hqe])
  case round =>
    subst hrel
    go_wp2_with fail
    refine bodyPost_ret (results_three (p := 4) (ty := 28) (r := 5) (q := 6) (tz := 30) rfl _ _ (w.heap.size + 1) (w.heap.size + 1 + 1) 28 30 (fv ⟨5, (X : Int), S, (Q.extract 4 Q.size), 0, 0, false, 0, 0, ((N4 : Int) % 2147483648)⟩ (.slice none 0 0)) #[.int .i64 0, .int .i64 0] (0, 0) (0, 0) _ _ rfl ?a1 Tryd.underlying28 rfl (by kernel_rfl) rfl ?a2 Tryd.underlying30 rfl (by kernel_rfl)) rfl ?a3
    case a1 => (simp only [heap_al, heap_dr, size_al, size_dr]; repeat (first | rw [if_pos trivial] | rw [if_neg (by omega)] | rw [if_pos (by omega)])); try rfl
    case a2 => (simp only [heap_al, heap_dr, size_al, size_dr]; repeat (first | rw [if_pos trivial] | rw [if_neg (by omega)] | rw [if_pos (by omega)]))
    case a3 =>
      rw [hgg.out]
      exact ⟨.slice none 0 0, rfl, PRow.nil _, fun k hk => by simp [Value.ownBlock] at hk, (by (repeat (first | exact Below.refl _ _ | refine Below.drew ?_ | refine Below.alloc ?_ (by first | exact Nat.le_refl _ | (simp only [size_al, size_dr]; omega)) _)))⟩

set_option maxRecDepth 100000 in
set_option maxHeartbeats 2000000 in
theorem rr_p5P (X : Nat) (S : Int) (P Q : ByteArray) (Pd D : Nat) (w : World) (hX : X < 256) (hPs : P.size ≤ 65536) (hm : mpS 5 X = true) (hg : wgS 5 X = false) (hP0 : 0 < P.size) (hPd : P[0].toNat = Pd) (hD : (P.size : Int) - (Pd : Int) = (D : Int)) (hA : ahS 5 X ≤ D) (hD1 : 1 ≤ D) (hQ : Q = P.extract 1 D) (hQ4 : 4 ≤ Q.size) :
    Calls Tryd.prog 48 #[.agg #[.int .i64 5, .int .i64 (X : Int), .int .i64 S, .string ⟨#[]⟩, .int .i64 0, .int .i64 0, .bool false, .int .i64 0, .int .i64 0, .int .i64 0, .slice none 0 0], .string P] w fun e w' => RPost w (takeS 61 ⟨5, (X : Int), S, ⟨#[]⟩, (Pd : Int), 0, false, 0, 0, 0⟩ Q, ((9 + P.size : Nat) : Int), 0, 0) e w' := by
  have hmp : Hid (∀ W : World, Calls Tryd.prog 70 #[.int .i64 5, .int .i64 (X : Int)] W fun e w' => e = .returned (.bool true) ∧ w' = W) := fun W => by
    have := mayPad_any 5 X hX W
    rw [hm] at this
    exact this
  have hwg : Hid (∀ (pd : Int) (W : World), Calls Tryd.prog 71 #[.agg #[.int .i64 5, .int .i64 (X : Int), .int .i64 S, .string ⟨#[]⟩, .int .i64 pd, .int .i64 0, .bool false, .int .i64 0, .int .i64 0, .int .i64 0, .slice none 0 0]] W fun e w' => e = .returned (.bool false) ∧ w' = W.alloc (.cells #[.int .i64 5, .int .i64 (X : Int), .int .i64 S, .string ⟨#[]⟩, .int .i64 pd, .int .i64 0, .bool false, .int .i64 0, .int .i64 0, .int .i64 0, .slice none 0 0] 28)) := fun pd W => by
    have := weighed_any ⟨5, (X : Int), S, ⟨#[]⟩, pd, 0, false, 0, 0, 0⟩ (.slice none 0 0) 5 X rfl rfl hX W
    rw [hg] at this
    exact this
  obtain ⟨M, hM⟩ : ∃ M : Nat, (9 : Int) + (P.size : Int) = (M : Int) := ⟨9 + P.size, by omega⟩
  rw [show ((9 + P.size : Nat) : Int) = (M : Int) by omega]
  have hP0i : (0 : Int) < (P.size : Int) := by omega
  have hpa : P[0].toNat < 256 := UInt8.toNat_lt _
  have hD1i : (1 : Int) ≤ (D : Int) := by omega
  have hDs : (D : Int) ≤ (P.size : Int) := by omega
  have hah : Hid (∀ W : World, Calls Tryd.prog 68 #[.int .i64 5, .int .i64 (X : Int)] W fun e w' => e = .returned (.int .i64 (ahS 5 X : Int)) ∧ w' = W) := fun W => ahead_any 5 X hX W
  obtain ⟨A, hAA⟩ : ∃ A, ahS 5 X = A := ⟨_, rfl⟩
  rw [hAA] at hah hA
  have hwA : IntKind.i64.wrap ((P.size : Int) - (A : Int)) = (P.size : Int) - (A : Int) := wraps_i64_63 _ (by omega) (by omega)
  have hcmp : decide ((P.size : Int) - (A : Int) < (Pd : Int)) = false := by simp; omega
  clear hAA
  have hQs : Hid (Q.size = D - 1) := by show _ = _; rw [hQ, ByteArray.size_extract]; omega
  replace hQ := hQ.symm
  have hq4 : (Q.extract 0 4).size ≤ 4 := by rw [ByteArray.size_extract]; omega
  have hq48 : ((Q.extract 4 Q.size).extract 0 4).size ≤ 4 := by rw [ByteArray.size_extract]; omega
  have h4 : (4 : Int) ≤ (Q.size : Int) := by omega
  obtain ⟨N4, hN4⟩ : ∃ N4, numS (Q.extract 0 4) = N4 := ⟨_, rfl⟩
  have hgg : Hid (takeS 61 ⟨5, (X : Int), S, ⟨#[]⟩, (Pd : Int), 0, false, 0, 0, 0⟩ Q = ((⟨5, (X : Int), S, (Q.extract 4 Q.size), (Pd : Int), 0, false, 0, 0, ((N4 : Int) % 2147483648)⟩ : Fr), [])) := by
    show _ = _
    simp only [takeS, lastS, dataS, hN4]
    simp
  clear hm hg
  go_enter Tryd.func48, Tryd.ntmps48
  go_upto_region 4 with (go_at_call 70; refine (hmp.out _).mono ?_; rintro e w' ⟨rfl, rfl⟩)
  go_cut [30] from 8 (fun x wx => x = .bool false ∧ wx = (((w.alloc (.cells #[.int .i64 5, .int .i64 (X : Int), .int .i64 S, .string ⟨#[]⟩, .int .i64 (Pd : Int), .int .i64 0, .bool false, .int .i64 0, .int .i64 0, .int .i64 0, .slice none 0 0] 28)).alloc (.cells #[.int .i64 0, .int .i64 0, .int .i64 0, .string ⟨#[]⟩, .int .i64 0, .int .i64 0, .bool false, .int .i64 0, .int .i64 0, .int .i64 0, .slice none 0 0] 28)).alloc (.cells #[.int .i64 0, .int .i64 0] 30)).drew)
  case first =>
    go_region_law (go_simp; go_wp2_with (go_at_call 68; refine (hah.out _).mono ?_; rintro e w' ⟨rfl, rfl⟩))
    all_goals
      go_wp2_with fail
      go_meet
    all_goals exact ⟨rfl, rfl⟩
  case rest =>
    obtain ⟨rfl, rfl⟩ := hcut
    go_wp2_with (first | (go_at_call 70; refine (hmp.out _).mono ?_; rintro e w' ⟨rfl, rfl⟩) | (go_at_call 71; refine (hwg.out _ _).mono ?_; rintro e w' ⟨rfl, rfl⟩) | (go_at_call 44; refine (id_any _ _ (by first | exact hq4 | exact hq48)).mono ?_; rintro e w' ⟨rfl, rfl⟩) | (go_at_call 43; refine (get_any _ _ (by first | exact hq4 | exact hq48)).mono ?_; rintro e w' ⟨rfl, rfl⟩))
    go_loop [1] (fun x => x = .string (Q.extract 4 Q.size)) (fun _ => 0)
    case atStart => first | rfl | (rw [hqe])
    case round =>
      subst hrel
      go_wp2_with fail
      refine bodyPost_ret (results_three (p := 4) (ty := 28) (r := 5) (q := 6) (tz := 30) rfl _ _ (w.heap.size + 1) (w.heap.size + 1 + 1) 28 30 (fv ⟨5, (X : Int), S, (Q.extract 4 Q.size), (Pd : Int), 0, false, 0, 0, ((N4 : Int) % 2147483648)⟩ (.slice none 0 0)) #[.int .i64 0, .int .i64 0] (0, 0) (0, 0) _ _ rfl ?a1 Tryd.underlying28 rfl (by kernel_rfl) rfl ?a2 Tryd.underlying30 rfl (by kernel_rfl)) rfl ?a3
      case a1 => (simp only [heap_al, heap_dr, size_al, size_dr]; repeat (first | rw [if_pos trivial] | rw [if_neg (by omega)] | rw [if_pos (by omega)])); try rfl
      case a2 => (simp only [heap_al, heap_dr, size_al, size_dr]; repeat (first | rw [if_pos trivial] | rw [if_neg (by omega)] | rw [if_pos (by omega)]))
      case a3 =>
        rw [hgg.out]
        exact ⟨.slice none 0 0, rfl, PRow.nil _, fun k hk => by simp [Value.ownBlock] at hk, (by (repeat (first | exact Below.refl _ _ | refine Below.drew ?_ | refine Below.alloc ?_ (by first | exact Nat.le_refl _ | (simp only [size_al, size_dr]; omega)) _)))⟩

set_option maxRecDepth 100000 in
set_option maxHeartbeats 2000000 in
theorem rr_g7 (X : Nat) (S : Int) (P Q : ByteArray) (Pd D : Nat) (w : World) (hX : X < 256) (hPs : P.size ≤ 65536) (hm : mpS 7 X = false) (hg : wgS 7 X = false) (hQ : Q = P) (hQ8 : 8 ≤ Q.size) :
    Calls Tryd.prog 48 #[.agg #[.int .i64 7, .int .i64 (X : Int), .int .i64 S, .string ⟨#[]⟩, .int .i64 0, .int .i64 0, .bool false, .int .i64 0, .int .i64 0, .int .i64 0, .slice none 0 0], .string P] w fun e w' => RPost w (takeS 65 ⟨7, (X : Int), S, ⟨#[]⟩, 0, 0, false, 0, 0, 0⟩ Q, ((9 + P.size : Nat) : Int), 0, 0) e w' := by
  have hmp : Hid (∀ W : World, Calls Tryd.prog 70 #[.int .i64 7, .int .i64 (X : Int)] W fun e w' => e = .returned (.bool false) ∧ w' = W) := fun W => by
    have := mayPad_any 7 X hX W
    rw [hm] at this
    exact this
  have hwg : Hid (∀ (pd : Int) (W : World), Calls Tryd.prog 71 #[.agg #[.int .i64 7, .int .i64 (X : Int), .int .i64 S, .string ⟨#[]⟩, .int .i64 pd, .int .i64 0, .bool false, .int .i64 0, .int .i64 0, .int .i64 0, .slice none 0 0]] W fun e w' => e = .returned (.bool false) ∧ w' = W.alloc (.cells #[.int .i64 7, .int .i64 (X : Int), .int .i64 S, .string ⟨#[]⟩, .int .i64 pd, .int .i64 0, .bool false, .int .i64 0, .int .i64 0, .int .i64 0, .slice none 0 0] 28)) := fun pd W => by
    have := weighed_any ⟨7, (X : Int), S, ⟨#[]⟩, pd, 0, false, 0, 0, 0⟩ (.slice none 0 0) 7 X rfl rfl hX W
    rw [hg] at this
    exact this
  obtain ⟨M, hM⟩ : ∃ M : Nat, (9 : Int) + (P.size : Int) = (M : Int) := ⟨9 + P.size, by omega⟩
  rw [show ((9 + P.size : Nat) : Int) = (M : Int) by omega]
  subst hQ
  have hq4 : (Q.extract 0 4).size ≤ 4 := by rw [ByteArray.size_extract]; omega
  have hq48 : ((Q.extract 4 Q.size).extract 0 4).size ≤ 4 := by rw [ByteArray.size_extract]; omega
  have h4 : (4 : Int) ≤ (Q.size : Int) := by omega
  obtain ⟨N4, hN4⟩ : ∃ N4, numS (Q.extract 0 4) = N4 := ⟨_, rfl⟩
  obtain ⟨U, hU⟩ : ∃ U, Q.extract 4 Q.size = U := ⟨_, rfl⟩
  have hUs : Hid (U.size = Q.size - 4) := by show _ = _; rw [← hU, ByteArray.size_extract]; omega
  have hU4 : (4 : Int) ≤ (U.size : Int) := by have := hUs.out; omega
  rw [hU] at hq48
  obtain ⟨N8, hN8⟩ : ∃ N8, numS (U.extract 0 4) = N8 := ⟨_, rfl⟩
  have hgg : Hid (takeS 65 ⟨7, (X : Int), S, ⟨#[]⟩, 0, 0, false, 0, 0, 0⟩ Q = ((⟨7, (X : Int), S, (U.extract 4 U.size), 0, 0, false, 0, (N8 : Int), ((N4 : Int) % 2147483648)⟩ : Fr), [])) := by
    show _ = _
    have e1 : U.extract 0 4 = Q.extract 4 8 := by rw [← hU, ByteArray.extract_extract]; congr 1; omega
    have e2 : U.extract 4 U.size = Q.extract 8 Q.size := by rw [hUs.out, ← hU, ByteArray.extract_extract]; congr 1; omega
    rw [e1] at hN8
    simp only [takeS, lastS, codeS, dataS, hN4, hN8, e2]
    simp
  clear hm hg
  go_enter Tryd.func48, Tryd.ntmps48
  go_wp2_with (first | (go_at_call 70; refine (hmp.out _).mono ?_; rintro e w' ⟨rfl, rfl⟩) | (go_at_call 71; refine (hwg.out _ _).mono ?_; rintro e w' ⟨rfl, rfl⟩) | (go_at_call 44; refine (id_any _ _ (by first | exact hq4 | exact hq48)).mono ?_; rintro e w' ⟨rfl, rfl⟩) | (go_at_call 43; refine (get_any _ _ (by first | exact hq4 | exact hq48)).mono ?_; rintro e w' ⟨rfl, rfl⟩))
  go_loop [1] (fun x => x = .string (U.extract 4 U.size)) (fun _ => 0)
  case atStart => first | rfl | (rw [hqe])
  case round =>
    subst hrel
    go_wp2_with fail
    refine bodyPost_ret (results_three (p := 4) (ty := 28) (r := 5) (q := 6) (tz := 30) rfl _ _ (w.heap.size + 1) (w.heap.size + 1 + 1) 28 30 (fv ⟨7, (X : Int), S, (U.extract 4 U.size), 0, 0, false, 0, (N8 : Int), ((N4 : Int) % 2147483648)⟩ (.slice none 0 0)) #[.int .i64 0, .int .i64 0] (0, 0) (0, 0) _ _ rfl ?a1 Tryd.underlying28 rfl (by kernel_rfl) rfl ?a2 Tryd.underlying30 rfl (by kernel_rfl)) rfl ?a3
    case a1 => (simp only [heap_al, heap_dr, size_al, size_dr]; repeat (first | rw [if_pos trivial] | rw [if_neg (by omega)] | rw [if_pos (by omega)])); try rfl
    case a2 => (simp only [heap_al, heap_dr, size_al, size_dr]; repeat (first | rw [if_pos trivial] | rw [if_neg (by omega)] | rw [if_pos (by omega)]))
    case a3 =>
      rw [hgg.out]
      exact ⟨.slice none 0 0, rfl, PRow.nil _, fun k hk => by simp [Value.ownBlock] at hk, (by (repeat (first | exact Below.refl _ _ | refine Below.drew ?_ | refine Below.alloc ?_ (by first | exact Nat.le_refl _ | (simp only [size_al, size_dr]; omega)) _)))⟩

end Go.Proofs.YtmhbaaemihljjaaDoor
