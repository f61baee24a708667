import Derived.Test.YtfmljlflnpmceaaGreatDoorVf2
namespace Go.Proofs.YtfmljlflnpmceaaGreatDoor.Fm
open Go.RowKit
set_option linter.unusedVariables false
set_option linter.unusedSimpArgs false
set_option maxRecDepth 100000 in
set_option maxHeartbeats 8000000 in
theorem parse_bad (b : ByteArray) (w : World) (hs : 9 ≤ b.size) (hw : 2 ≤ w.heap.size) (hK : Kinds w) (hlim : b.size ≤ 140737488355328)
    (T S L : Int) (ki : Nat) (pd : Bool) (R : ByteArray) (k1 : Nat) (k2 : Int) (k3 k4 : Nat) (hT : T = (b[3].toNat : Int)) (hS : S = (numS (b.extract 5 9) : Int) % 2147483648) (hki : (min T 10).toNat = ki)
    (hL : bits .and .i64 (b[4].toNat : Int) (kflags ki) = L) (hpd : (decide (T < 10) && hasF L 8) = pd) (hR : R = b.extract 9 b.size) (hkd : kd T L = (k1, k2, k3, k4)) (h68 : pd = true → k1 = 116) (hbad : S < kfrom ki ∨ kto ki < S) (hl2 : k4 = 99 → b.size / 6 * 16 ≤ 140737488355328) :
    Calls Tryz.prog 50 #[.string b] w fun e w' => PPost w (parseB T S L ki pd R (k1, k2, k3, k4)) e w' := by
  have h3 : (3 : Int) < (b.size : Int) := by omega
  have h4 : (4 : Int) < (b.size : Int) := by omega
  have h5 : (5 : Int) ≤ (b.size : Int) := by omega
  have h9 : (9 : Int) ≤ (b.size : Int) := by omega
  have hs4 : (b.extract 5 9).size ≤ 4 := by rw [ByteArray.size_extract]; omega
  have hb3 : b[3].toNat < 256 := UInt8.toNat_lt _
  have hb4 : b[4].toNat < 256 := UInt8.toNat_lt _
  have hwr : IntKind.i64.wrap (b[3].toNat : Int) = (b[3].toNat : Int) := wraps_i64_63 _ (by omega) (by omega)
  have hwr4 : IntKind.i64.wrap (b[4].toNat : Int) = (b[4].toNat : Int) := wraps_i64_63 _ (by omega) (by omega)
  have hand := and31 (numS (b.extract 5 9) : Int)
  have hRs : R.size + 9 = b.size := by rw [hR, ByteArray.size_extract]; omega
  obtain ⟨hk0, hk1, hk2⟩ := Kinds.cell hK ki (by omega)
  obtain ⟨KF, hKF⟩ : ∃ KF, kflags ki = KF := ⟨_, rfl⟩
  obtain ⟨KA, hKA⟩ : ∃ KA, kfrom ki = KA := ⟨_, rfl⟩
  obtain ⟨KB, hKB⟩ : ∃ KB, kto ki = KB := ⟨_, rfl⟩
  rw [hKF] at hk0 hL
  rw [hKA] at hk1
  rw [hKA, hKB] at hbad
  rw [hKB] at hk2
  obtain ⟨res, hres⟩ : ∃ res, res = parseB T S L ki pd R (k1, k2, k3, k4) := ⟨_, rfl⟩
  have HS : Hid (res = parseB T S L ki pd R (k1, k2, k3, k4)) := hres
  rw [← hres]
  unfold parseB at hres
  rw [hKA, hKB] at hres
  have HRES : Hid _ := hres
  have h0w : 1 < w.heap.size := hw
  have h1w : ¬ (1 = w.heap.size) := by omega
  have h2w : ¬ (w.heap.size = 0) := by omega
  have h3w : ¬ (0 = w.heap.size) := by omega
  have h4w : 0 < w.heap.size := by omega
  have h5w : ¬ (w.heap.size = 1) := by omega
  have hT0 : 0 ≤ T := by omega
  have hTmin : min T 10 < 11 := by omega
  have hTm0 : 0 ≤ min T 10 := by omega
  have HT : Hid (T = (b[3].toNat : Int)) := hT
  have HSS : Hid (S = (numS (b.extract 5 9) : Int) % 2147483648) := hS
  have HRR : Hid (R = b.extract 9 b.size) := hR
  have HL2 : Hid (k4 = 99 → b.size / 6 * 16 ≤ 140737488355328) := hl2
  have H68 : Hid (pd = true → k1 = 116) := h68
  have HKD : Hid (kd T L = (k1, k2, k3, k4)) := hkd
  have HPD : Hid ((decide (T < 10) && hasF L 8) = pd) := hpd
  clear hres hKA hKB hl2 h68
  go_enter Tryz.func50, Tryz.ntmps50
  go_upto_region 1 with fail
  go_cut [4] from 10 (fun x wx => x = .pointer (some ⟨w.heap.size + 1 + 1, 0, none⟩) ∧ wx = (((w.alloc (.cells #[.int .i64 0, .int .i64 0, .int .i64 0, .string ⟨#[]⟩, .int .i64 0, .int .i64 0, .bool false, .int .i64 0, .int .i64 0, .int .i64 0, .slice none 0 0] 31)).alloc (.cells #[.int .i64 0, .int .i64 0] 106)).alloc (.cells #[.int .i64 T, .int .i64 0, .int .i64 S, .string ⟨#[]⟩, .int .i64 0, .int .i64 0, .bool false, .int .i64 0, .int .i64 0, .int .i64 0, .slice none 0 0] 31)).drew)
  case first =>
    clear hkd hR hL hki hpd
    go_region_law (go_simp; go_wp2_with (go_at_call 69; refine (number_any (b.extract 5 9) _ hs4).mono ?_; rintro e w' ⟨rfl, rfl⟩))
    all_goals
      go_wp2_with fail
      go_meet
    all_goals exact ⟨rfl, by rw [HT.out, HSS.out]⟩
  case rest =>
    obtain ⟨rfl, rfl⟩ := hcut
    clear hT hS hand hwr hkd hpd
    go_upto_region 3 with fail
    go_cut [5] from 10 (fun x wx => x = .pointer (some ⟨w.heap.size + 1 + 1 + 1, 0, none⟩) ∧ wx = ((((w.alloc (.cells #[.int .i64 0, .int .i64 0, .int .i64 0, .string ⟨#[]⟩, .int .i64 0, .int .i64 0, .bool false, .int .i64 0, .int .i64 0, .int .i64 0, .slice none 0 0] 31)).alloc (.cells #[.int .i64 0, .int .i64 0] 106)).alloc (.cells #[.int .i64 T, .int .i64 L, .int .i64 S, .string ⟨#[]⟩, .int .i64 0, .int .i64 0, .bool false, .int .i64 0, .int .i64 0, .int .i64 0, .slice none 0 0] 31)).alloc (.cells #[.int .i64 KF, .int .i64 KA, .int .i64 KB] 129)).drew.drew)
    case first =>
      clear hR
      go_region
      all_goals
        go_wp2_with fail
        go_meet
      all_goals exact ⟨rfl, rfl⟩
    case rest =>
      obtain ⟨rfl, rfl⟩ := hcut
      clear hk0 hk1 hk2 hki hKF hL hwr4 hb3 hb4 h3 h4 h5 hs4 hT0 hTmin hTm0
      have hq : Hid (res = ((Fr.zero, []), 1, 0)) := by show _ = _; rw [HRES.out, if_pos hbad]
      clear hR
      by_cases hb1 : S < KA
      · go_wp2_with fail
        refine bodyPost_ret (results_two (p := 2) (ty := 31) (q := 3) (tz := 106) rfl _ _ w.heap.size (w.heap.size + 1) 31 106 #[.int .i64 0, .int .i64 0, .int .i64 0, .string ⟨#[]⟩, .int .i64 0, .int .i64 0, .bool false, .int .i64 0, .int .i64 0, .int .i64 0, .slice none 0 0] #[.int .i64 1, .int .i64 0] (0, 0) (0, 0) _ _ rfl ?a1 Tryz.underlying31 rfl (by kernel_rfl) rfl ?a2 Tryz.underlying106 rfl (by kernel_rfl)) rfl ?a3
        case a1 => (simp only [heap_al, heap_dr, size_al, size_dr]; repeat (first | rw [if_pos trivial] | rw [if_neg (by omega)] | rw [if_pos (by omega)]))
        case a2 => (simp only [heap_al, heap_dr, size_al, size_dr]; repeat (first | rw [if_pos trivial] | rw [if_neg (by omega)] | rw [if_pos (by omega)]))
        case a3 => exact ppost_bad hq.out _ (by (repeat (first | exact Below.refl _ _ | refine Below.drew ?_ | refine Below.alloc ?_ (by first | exact Nat.le_refl _ | (simp only [size_al, size_dr]; omega)) _)))
      · have hb2 : KB < S := by omega
        have hb1' : decide (S < KA) = false := by simpa using hb1
        go_wp2_with fail
        refine bodyPost_ret (results_two (p := 2) (ty := 31) (q := 3) (tz := 106) rfl _ _ w.heap.size (w.heap.size + 1) 31 106 #[.int .i64 0, .int .i64 0, .int .i64 0, .string ⟨#[]⟩, .int .i64 0, .int .i64 0, .bool false, .int .i64 0, .int .i64 0, .int .i64 0, .slice none 0 0] #[.int .i64 1, .int .i64 0] (0, 0) (0, 0) _ _ rfl ?a1 Tryz.underlying31 rfl (by kernel_rfl) rfl ?a2 Tryz.underlying106 rfl (by kernel_rfl)) rfl ?a3
        case a1 => (simp only [heap_al, heap_dr, size_al, size_dr]; repeat (first | rw [if_pos trivial] | rw [if_neg (by omega)] | rw [if_pos (by omega)]))
        case a2 => (simp only [heap_al, heap_dr, size_al, size_dr]; repeat (first | rw [if_pos trivial] | rw [if_neg (by omega)] | rw [if_pos (by omega)]))
        case a3 => exact ppost_bad hq.out _ (by (repeat (first | exact Below.refl _ _ | refine Below.drew ?_ | refine Below.alloc ?_ (by first | exact Nat.le_refl _ | (simp only [size_al, size_dr]; omega)) _)))

end Go.Proofs.YtfmljlflnpmceaaGreatDoor.Fm
