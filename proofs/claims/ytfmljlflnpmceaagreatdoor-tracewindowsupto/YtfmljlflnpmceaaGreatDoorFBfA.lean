import Derived.Test.YtfmljlflnpmceaaGreatDoorVf2
namespace Go.Proofs.YtfmljlflnpmceaaGreatDoor.Fm
open Go.RowKit
set_option linter.unusedVariables false
set_option linter.unusedSimpArgs false
set_option maxRecDepth 100000 in
set_option maxHeartbeats 8000000 in
theorem parse_fA (b : ByteArray) (w : World) (hs : 9 ≤ b.size) (hw : 2 ≤ w.heap.size) (hK : Kinds w) (hlim : b.size ≤ 140737488355328)
    (T S L : Int) (ki : Nat) (pd : Bool) (R : ByteArray) (k1 : Nat) (k2 : Int) (k3 k4 : Nat) (hT : T = (b[3].toNat : Int)) (hS : S = (numS (b.extract 5 9) : Int) % 2147483648) (hki : (min T 10).toNat = ki)
    (hL : bits .and .i64 (b[4].toNat : Int) (kflags ki) = L) (hpd : (decide (T < 10) && hasF L 8) = pd) (hR : R = b.extract 9 b.size) (hkd : kd T L = (k1, k2, k3, k4)) (h68 : pd = true → k1 = 116) (hbad : ¬ (S < kfrom ki ∨ kto ki < S)) (hpdv : pd = false) (hA : ftS k1 k2 (R.size : Int) = true) (hl2 : k4 = 99 → b.size / 6 * 16 ≤ 140737488355328) :
    Calls Tryz.prog 50 #[.string b] w fun e w' => PPost w (parseB T S L ki pd R (k1, k2, k3, k4)) e w' := by
  have h3 : (3 : Int) < (b.size : Int) := by omega
  have h4 : (4 : Int) < (b.size : Int) := by omega
  have h5 : (5 : Int) ≤ (b.size : Int) := by omega
  have h9 : (9 : Int) ≤ (b.size : Int) := by omega
  have hs4 : (b.extract 5 9).size ≤ 4 := by rw [ByteArray.size_extract]; omega
  have hb3 : b[3].toNat < 256 := UInt8.toNat_lt _
  have hb4 : b[4].toNat < 256 := UInt8.toNat_lt _
  have hwr : IntKind.i64.wrap (b[3].toNat : Int) = (b[3].toNat : Int) := wraps_i64_63 _ (by omega) (by omega)
  have hwr4 : IntKind.i64.wrap (b[4].toNat : Int) = (b[4].toNat : Int) := wraps_i64_63 _ (by omega) (by omega)
  have hand := and31 (numS (b.extract 5 9) : Int)
  have hRs : R.size + 9 = b.size := by rw [hR, ByteArray.size_extract]; omega
  obtain ⟨hk0, hk1, hk2⟩ := Kinds.cell hK ki (by omega)
  obtain ⟨KF, hKF⟩ : ∃ KF, kflags ki = KF := ⟨_, rfl⟩
  obtain ⟨KA, hKA⟩ : ∃ KA, kfrom ki = KA := ⟨_, rfl⟩
  obtain ⟨KB, hKB⟩ : ∃ KB, kto ki = KB := ⟨_, rfl⟩
  rw [hKF] at hk0 hL
  rw [hKA] at hk1
  rw [hKA, hKB] at hbad
  rw [hKB] at hk2
  obtain ⟨res, hres⟩ : ∃ res, res = parseB T S L ki pd R (k1, k2, k3, k4) := ⟨_, rfl⟩
  have HS : Hid (res = parseB T S L ki pd R (k1, k2, k3, k4)) := hres
  rw [← hres]
  unfold parseB at hres
  rw [hKA, hKB] at hres
  have HRES : Hid _ := hres
  have h0w : 1 < w.heap.size := hw
  have h1w : ¬ (1 = w.heap.size) := by omega
  have h2w : ¬ (w.heap.size = 0) := by omega
  have h3w : ¬ (0 = w.heap.size) := by omega
  have h4w : 0 < w.heap.size := by omega
  have h5w : ¬ (w.heap.size = 1) := by omega
  have hT0 : 0 ≤ T := by omega
  have hTmin : min T 10 < 11 := by omega
  have hTm0 : 0 ≤ min T 10 := by omega
  have HT : Hid (T = (b[3].toNat : Int)) := hT
  have HSS : Hid (S = (numS (b.extract 5 9) : Int) % 2147483648) := hS
  have HRR : Hid (R = b.extract 9 b.size) := hR
  have HL2 : Hid (k4 = 99 → b.size / 6 * 16 ≤ 140737488355328) := hl2
  have H68 : Hid (pd = true → k1 = 116) := h68
  have HKD : Hid (kd T L = (k1, k2, k3, k4)) := hkd
  have HPD : Hid ((decide (T < 10) && hasF L 8) = pd) := hpd
  clear hres hKA hKB hl2 h68
  go_enter Tryz.func50, Tryz.ntmps50
  go_upto_region 1 with fail
  go_cut [4] from 10 (fun x wx => x = .pointer (some ⟨w.heap.size + 1 + 1, 0, none⟩) ∧ wx = (((w.alloc (.cells #[.int .i64 0, .int .i64 0, .int .i64 0, .string ⟨#[]⟩, .int .i64 0, .int .i64 0, .bool false, .int .i64 0, .int .i64 0, .int .i64 0, .slice none 0 0] 31)).alloc (.cells #[.int .i64 0, .int .i64 0] 106)).alloc (.cells #[.int .i64 T, .int .i64 0, .int .i64 S, .string ⟨#[]⟩, .int .i64 0, .int .i64 0, .bool false, .int .i64 0, .int .i64 0, .int .i64 0, .slice none 0 0] 31)).drew)
  case first =>
    clear hkd hR hL hki hpd
    go_region_law (go_simp; go_wp2_with (go_at_call 69; refine (number_any (b.extract 5 9) _ hs4).mono ?_; rintro e w' ⟨rfl, rfl⟩))
    all_goals
      go_wp2_with fail
      go_meet
    all_goals exact ⟨rfl, by rw [HT.out, HSS.out]⟩
  case rest =>
    obtain ⟨rfl, rfl⟩ := hcut
    clear hT hS hand hwr hkd hpd
    go_upto_region 3 with fail
    go_cut [5] from 10 (fun x wx => x = .pointer (some ⟨w.heap.size + 1 + 1 + 1, 0, none⟩) ∧ wx = ((((w.alloc (.cells #[.int .i64 0, .int .i64 0, .int .i64 0, .string ⟨#[]⟩, .int .i64 0, .int .i64 0, .bool false, .int .i64 0, .int .i64 0, .int .i64 0, .slice none 0 0] 31)).alloc (.cells #[.int .i64 0, .int .i64 0] 106)).alloc (.cells #[.int .i64 T, .int .i64 L, .int .i64 S, .string ⟨#[]⟩, .int .i64 0, .int .i64 0, .bool false, .int .i64 0, .int .i64 0, .int .i64 0, .slice none 0 0] 31)).alloc (.cells #[.int .i64 KF, .int .i64 KA, .int .i64 KB] 129)).drew.drew)
    case first =>
      clear hR
      go_region
      all_goals
        go_wp2_with fail
        go_meet
      all_goals exact ⟨rfl, rfl⟩
    case rest =>
      obtain ⟨rfl, rfl⟩ := hcut
      clear hk0 hk1 hk2 hki hKF hL hwr4 hb3 hb4 h3 h4 h5 hs4 hT0 hTmin hTm0
      have hg1 : decide (S < KA) = false := by simp; omega
      have hg2 : decide (KB < S) = false := by simp; omega
      have hpay : Hid (∀ W : World, Calls Tryz.prog 67 #[.agg #[.int .i64 T, .int .i64 L, .int .i64 S, .string ⟨#[]⟩, .int .i64 0, .int .i64 0, .bool false, .int .i64 0, .int .i64 0, .int .i64 0, .slice none 0 0]] W fun e w' => e = .returned (.agg #[.func (.func k1) #[] #[.pointer (some ⟨W.heap.size + 1 + 1, 0, none⟩)], .func (.func k3) #[] #[], .func (.func k4) #[] #[]]) ∧ w' = ((W.alloc (.cells #[.int .i64 T, .int .i64 L, .int .i64 S, .string ⟨#[]⟩, .int .i64 0, .int .i64 0, .bool false, .int .i64 0, .int .i64 0, .int .i64 0, .slice none 0 0] 31)).alloc (.cells #[.func (.func k1) #[] #[.pointer (some ⟨W.heap.size + 1 + 1, 0, none⟩)], .func (.func k3) #[] #[], .func (.func k4) #[] #[]] 125)).alloc (.cells #[.int .i64 k2] 3)) := by
        intro W
        have h := payloadOf_any ⟨T, L, S, ⟨#[]⟩, 0, 0, false, 0, 0, 0⟩ (.slice none 0 0) W
        simp only [PayOf, HKD.out, pv, fv] at h
        exact h
      replace HRES : Hid _ := (HRES.out.trans (if_neg hbad))
      go_upto_region 6 with fail
      go_cut [6, 7, 8] from 10 (fun x y z wx => y = .string R ∧ z = .int .i64 0 ∧ ((x = .pointer (some ⟨w.heap.size + 1 + 1 + 1 + 1 + 1 + 1 + 1, 0, none⟩) ∧ wx = ((((((((w.alloc (.cells #[.int .i64 0, .int .i64 0, .int .i64 0, .string ⟨#[]⟩, .int .i64 0, .int .i64 0, .bool false, .int .i64 0, .int .i64 0, .int .i64 0, .slice none 0 0] 31)).alloc (.cells #[.int .i64 0, .int .i64 0] 106)).alloc (.cells #[.int .i64 T, .int .i64 L, .int .i64 S, .string ⟨#[]⟩, .int .i64 0, .int .i64 0, .bool false, .int .i64 0, .int .i64 0, .int .i64 0, .slice none 0 0] 31)).alloc (.cells #[.int .i64 KF, .int .i64 KA, .int .i64 KB] 129)).alloc (.cells #[.int .i64 T, .int .i64 L, .int .i64 S, .string ⟨#[]⟩, .int .i64 0, .int .i64 0, .bool false, .int .i64 0, .int .i64 0, .int .i64 0, .slice none 0 0] 31)).alloc (.cells #[.func (.func k1) #[] #[.pointer (some ⟨w.heap.size + 1 + 1 + 1 + 1 + 1 + 1, 0, none⟩)], .func (.func k3) #[] #[], .func (.func k4) #[] #[]] 125)).alloc (.cells #[.int .i64 k2] 3)).alloc (.cells #[.func (.func k1) #[] #[.pointer (some ⟨w.heap.size + 1 + 1 + 1 + 1 + 1 + 1, 0, none⟩)], .func (.func k3) #[] #[], .func (.func k4) #[] #[]] 125)).drew.drew.drew) ∨ (x = .pointer (some ⟨w.heap.size + 1 + 1 + 1 + 1, 0, none⟩) ∧ wx = ((((((((w.alloc (.cells #[.int .i64 0, .int .i64 0, .int .i64 0, .string ⟨#[]⟩, .int .i64 0, .int .i64 0, .bool false, .int .i64 0, .int .i64 0, .int .i64 0, .slice none 0 0] 31)).alloc (.cells #[.int .i64 0, .int .i64 0] 106)).alloc (.cells #[.int .i64 T, .int .i64 L, .int .i64 S, .string ⟨#[]⟩, .int .i64 0, .int .i64 0, .bool false, .int .i64 0, .int .i64 0, .int .i64 0, .slice none 0 0] 31)).alloc (.cells #[.int .i64 KF, .int .i64 KA, .int .i64 KB] 129)).alloc (.cells #[.func (.func k1) #[] #[.pointer (some ⟨w.heap.size + 1 + 1 + 1 + 1 + 1 + 1 + 1, 0, none⟩)], .func (.func k3) #[] #[], .func (.func k4) #[] #[]] 125)).alloc (.cells #[.int .i64 T, .int .i64 L, .int .i64 S, .string ⟨#[]⟩, .int .i64 0, .int .i64 0, .bool false, .int .i64 0, .int .i64 0, .int .i64 0, .slice none 0 0] 31)).alloc (.cells #[.func (.func k1) #[] #[.pointer (some ⟨w.heap.size + 1 + 1 + 1 + 1 + 1 + 1 + 1, 0, none⟩)], .func (.func k3) #[] #[], .func (.func k4) #[] #[]] 125)).alloc (.cells #[.int .i64 k2] 3)).drew.drew.drew)))
      case first =>
        go_region_law (go_simp; go_wp2_with (go_at_call 67; refine (hpay.out _).mono ?_; rintro e w' ⟨rfl, rfl⟩))
        all_goals
          go_wp2_with fail
          go_meet
        all_goals
          refine ⟨by rw [HRR.out], rfl, ?_⟩
          first | exact .inl ⟨rfl, rfl⟩ | exact .inr ⟨rfl, rfl⟩
      case rest =>
        clear hR
        obtain ⟨rfl, rfl, hcut⟩ := hcut
        have hpad : Hid (∀ (P : Int) (W : World), Calls Tryz.prog 66 #[.agg #[.int .i64 T, .int .i64 L, .int .i64 S, .string ⟨#[]⟩, .int .i64 P, .int .i64 0, .bool false, .int .i64 0, .int .i64 0, .int .i64 0, .slice none 0 0]] W fun e w' => e = .returned (.bool pd) ∧ w' = W.alloc (.cells #[.int .i64 T, .int .i64 L, .int .i64 S, .string ⟨#[]⟩, .int .i64 P, .int .i64 0, .bool false, .int .i64 0, .int .i64 0, .int .i64 0, .slice none 0 0] 31)) := by
          intro P W
          have h := padded_any ⟨T, L, S, ⟨#[]⟩, P, 0, false, 0, 0, 0⟩ (.slice none 0 0) W
          simp only [padS, fv, HPD.out] at h
          exact h
        have hlen : Hid (∀ (W : World), Calls Tryz.prog 70 #[.agg #[.int .i64 T, .int .i64 L, .int .i64 S, .string ⟨#[]⟩, .int .i64 0, .int .i64 0, .bool false, .int .i64 0, .int .i64 0, .int .i64 0, .slice none 0 0]] W fun e w' => e = .returned (.agg #[.int .i64 6, .int .i64 (if T = 2 then S else 0)]) ∧ w' = (W.alloc (.cells #[.int .i64 T, .int .i64 L, .int .i64 S, .string ⟨#[]⟩, .int .i64 0, .int .i64 0, .bool false, .int .i64 0, .int .i64 0, .int .i64 0, .slice none 0 0] 31)).alloc (.cells #[.int .i64 6, .int .i64 (if T = 2 then S else 0)] 106)) := by
          intro W
          have h := lengthFault_any ⟨T, L, S, ⟨#[]⟩, 0, 0, false, 0, 0, 0⟩ (.slice none 0 0) W
          simp only [lenF, fv] at h
          exact h
        have hfit : Hid (∀ (n : Int) (g : Nat) (W : World), W.heap[g]? = some (.cells #[.int .i64 k2] 3 (0, 0)) → Calls Tryz.prog k1 #[.int .i64 n, .pointer (some ⟨g, 0, none⟩)] W fun e w' => e = .returned (.bool (ftS k1 k2 n)) ∧ w' = W) := fun n g W hc => kd_fits HKD.out n g W (by rw [cell_of_row _ _ _ _ _ _ hc]; rfl)
        obtain ⟨hc1, _, hc4⟩ := kd_calls HKD.out
        obtain ⟨E, hE⟩ : ∃ E : Int, (if T = 2 then S else 0) = E := ⟨_, rfl⟩
        rw [hE] at HRES hlen
        clear hE
        obtain rfl : pd = false := hpdv
        simp only [Bool.false_eq_true, if_false, Int.natCast_zero, Int.sub_zero, Nat.sub_zero] at HRES
        have hRR : R.extract 0 R.size = R := by simp
        have hB : True := trivial
        rw [if_neg (by rw [hA]; simp), if_neg (by rw [hA]; simp), hRR] at HRES
        have htake : Hid (∀ W : World, FB W (w.heap.size + 1 + 1) ⟨T, L, S, ⟨#[]⟩, 0, 0, false, 0, 0, 0⟩ (.slice none 0 0) → Calls Tryz.prog k4 #[.pointer (some ⟨w.heap.size + 1 + 1, 0, none⟩), .string R] W fun e w' => e = .returned (.tuple #[]) ∧ ∃ p, FB w' (w.heap.size + 1 + 1) (takeS k4 ⟨T, L, S, ⟨#[]⟩, 0, 0, false, 0, 0, 0⟩ R).1 p ∧ PRow w' p (takeS k4 ⟨T, L, S, ⟨#[]⟩, 0, 0, false, 0, 0, 0⟩ R).2 ∧ (∀ k, p.ownBlock = some k → W.heap.size ≤ k) ∧ Kp (w.heap.size + 1 + 1) W w') :=
          fun W hF => take_any HKD.out W _ _ R hF hA (by omega) (fun e => Nat.le_trans (Nat.mul_le_mul_right 16 (Nat.div_le_div_right (by omega))) (HL2.out e))
        rcases hcut with ⟨rfl, rfl⟩ | ⟨rfl, rfl⟩
        · go_wp2_with (first | (go_at_call 66; refine (hpad.out _ _).mono ?_; rintro e w' ⟨rfl, rfl⟩) | (go_at_call 70; refine (hlen.out _).mono ?_; rintro e w' ⟨rfl, rfl⟩) | (refine (hfit.out _ _ _ (by (simp only [heap_al, heap_dr, size_al, size_dr]; repeat (first | rw [if_pos trivial] | rw [if_neg (by omega)] | rw [if_pos (by omega)])))).mono ?_; rintro e w' ⟨rfl, rfl⟩; simp only [hA, hB]))
          go_cut [] from 10 (fun wx => ∃ p, FB wx (w.heap.size + 1 + 1) (takeS k4 ⟨T, L, S, ⟨#[]⟩, 0, 0, false, 0, 0, 0⟩ R).1 p ∧ PRow wx p (takeS k4 ⟨T, L, S, ⟨#[]⟩, 0, 0, false, 0, 0, 0⟩ R).2 ∧ (∀ k, p.ownBlock = some k → w.heap.size + 1 + 1 < k) ∧ wx.heap[w.heap.size]? = some (.cells #[.int .i64 0, .int .i64 0, .int .i64 0, .string ⟨#[]⟩, .int .i64 0, .int .i64 0, .bool false, .int .i64 0, .int .i64 0, .int .i64 0, .slice none 0 0] 31 (0, 0)) ∧ wx.heap[w.heap.size + 1]? = some (.cells #[.int .i64 0, .int .i64 0] 106 (0, 0)) ∧ Below w.heap.size w wx)
          case first =>
            go_region_law (go_simp; go_wp2_with (refine (htake.out _ (by unfold FB; (simp only [heap_al, heap_dr, size_al, size_dr]; repeat (first | rw [if_pos trivial] | rw [if_neg (by omega)] | rw [if_pos (by omega)])); rfl)).mono ?_; rintro e wz ⟨rfl, p, hz1, hz2, hz3, hz4⟩))
            all_goals
              go_wp2_with fail
              go_meet
            all_goals
              exact ⟨p, hz1, hz2, fun k hk => Nat.lt_of_lt_of_le (by simp only [size_al, size_dr]; omega) (hz3 k hk), (hz4.block _ (by simp only [size_al, size_dr]; omega) (by omega)).trans (by (simp only [heap_al, heap_dr, size_al, size_dr]; repeat (first | rw [if_pos trivial] | rw [if_neg (by omega)] | rw [if_pos (by omega)]))), (hz4.block _ (by simp only [size_al, size_dr]; omega) (by omega)).trans (by (simp only [heap_al, heap_dr, size_al, size_dr]; repeat (first | rw [if_pos trivial] | rw [if_neg (by omega)] | rw [if_pos (by omega)]))), Below.trans (by (repeat (first | exact Below.refl _ _ | refine Below.drew ?_ | refine Below.alloc ?_ (by first | exact Nat.le_refl _ | (simp only [size_al, size_dr]; omega)) _))) (hz4.below (by simp only [size_al, size_dr]; omega) (by omega))⟩
          case rest =>
            obtain ⟨p, hF, hPr, hfr, hr2, hr3, hbel⟩ := hcut
            obtain ⟨g, hg⟩ : ∃ g, (takeS k4 ⟨T, L, S, ⟨#[]⟩, 0, 0, false, 0, 0, 0⟩ R).1 = g := ⟨_, rfl⟩
            rw [hg] at hF
            have hF' : Hid (FB wc (w.heap.size + 1 + 1) g p) := hF
            obtain ⟨c0, c1, c2, c3, c4, c5, c6, c7, c8, c9, c10⟩ := hF.cells
            have hr2' : FB wc w.heap.size Fr.zero (.slice none 0 0) := hr2
            obtain ⟨z0, z1, z2, z3, z4, z5, z6, z7, z8, z9, z10⟩ := hr2'.cells
            obtain ⟨y0, y1, y2, y3, y4, y5, y6, y7, y8, y9, y10⟩ := hr2'.frozens
            have q0 := cell_of_row _ _ 0 _ _ _ hr3
            have q1 := cell_of_row _ _ 1 _ _ _ hr3
            have q2 : wc.frozen? ⟨w.heap.size + 1, 0, none⟩ = false := by simp only [World.frozen?]; rw [hr3]; rfl
            have q3 : wc.frozen? ⟨w.heap.size + 1, 1, none⟩ = false := by simp only [World.frozen?]; rw [hr3]; rfl
            simp only [Fr.zero, List.getElem?_toArray, List.getElem?_cons_succ, List.getElem?_cons_zero] at z0 z1 z2 z3 z4 z5 z6 z7 z8 z9 z10 q0 q1
            have HR2 : Hid (wc.heap[w.heap.size]? = some (.cells #[.int .i64 0, .int .i64 0, .int .i64 0, .string ⟨#[]⟩, .int .i64 0, .int .i64 0, .bool false, .int .i64 0, .int .i64 0, .int .i64 0, .slice none 0 0] 31 (0, 0))) := hr2
            have HR3 : Hid (wc.heap[w.heap.size + 1]? = some (.cells #[.int .i64 0, .int .i64 0] 106 (0, 0))) := hr3
            clear hF hr2 hr2' hr3
            have hfin := fin13 w wc g _ _ HR2.out HR3.out hPr hfr hbel
            simp only [sets, fsets, List.foldl_cons, List.foldl_nil] at hfin
            replace hfin : Hid _ := hfin
            obtain ⟨pb, pc, rfl⟩ := hPr.slice
            clear hF' HR2 HR3 hPr hbel
            go_wp2_with fail
            obtain ⟨x1, x2, x3, x4⟩ := hfin.out
            refine bodyPost_ret (results_two (p := 2) (ty := 31) (q := 3) (tz := 106) rfl _ _ w.heap.size (w.heap.size + 1) 31 106 _ _ (0, 0) (0, 0) _ _ rfl x1 Tryz.underlying31 rfl (by kernel_rfl) rfl x2 Tryz.underlying106 rfl (by kernel_rfl)) rfl ?_
            refine ⟨_, ?_, ?_, fun k hk => by have := hfr k hk; omega, x4⟩
            · rw [HRES.out, hg]
            · rw [HRES.out]; exact x3
        · go_wp2_with (first | (go_at_call 66; refine (hpad.out _ _).mono ?_; rintro e w' ⟨rfl, rfl⟩) | (go_at_call 70; refine (hlen.out _).mono ?_; rintro e w' ⟨rfl, rfl⟩) | (refine (hfit.out _ _ _ (by (simp only [heap_al, heap_dr, size_al, size_dr]; repeat (first | rw [if_pos trivial] | rw [if_neg (by omega)] | rw [if_pos (by omega)])))).mono ?_; rintro e w' ⟨rfl, rfl⟩; simp only [hA, hB]))
          go_cut [] from 10 (fun wx => ∃ p, FB wx (w.heap.size + 1 + 1) (takeS k4 ⟨T, L, S, ⟨#[]⟩, 0, 0, false, 0, 0, 0⟩ R).1 p ∧ PRow wx p (takeS k4 ⟨T, L, S, ⟨#[]⟩, 0, 0, false, 0, 0, 0⟩ R).2 ∧ (∀ k, p.ownBlock = some k → w.heap.size + 1 + 1 < k) ∧ wx.heap[w.heap.size]? = some (.cells #[.int .i64 0, .int .i64 0, .int .i64 0, .string ⟨#[]⟩, .int .i64 0, .int .i64 0, .bool false, .int .i64 0, .int .i64 0, .int .i64 0, .slice none 0 0] 31 (0, 0)) ∧ wx.heap[w.heap.size + 1]? = some (.cells #[.int .i64 0, .int .i64 0] 106 (0, 0)) ∧ Below w.heap.size w wx)
          case first =>
            go_region_law (go_simp; go_wp2_with (refine (htake.out _ (by unfold FB; (simp only [heap_al, heap_dr, size_al, size_dr]; repeat (first | rw [if_pos trivial] | rw [if_neg (by omega)] | rw [if_pos (by omega)])); rfl)).mono ?_; rintro e wz ⟨rfl, p, hz1, hz2, hz3, hz4⟩))
            all_goals
              go_wp2_with fail
              go_meet
            all_goals
              exact ⟨p, hz1, hz2, fun k hk => Nat.lt_of_lt_of_le (by simp only [size_al, size_dr]; omega) (hz3 k hk), (hz4.block _ (by simp only [size_al, size_dr]; omega) (by omega)).trans (by (simp only [heap_al, heap_dr, size_al, size_dr]; repeat (first | rw [if_pos trivial] | rw [if_neg (by omega)] | rw [if_pos (by omega)]))), (hz4.block _ (by simp only [size_al, size_dr]; omega) (by omega)).trans (by (simp only [heap_al, heap_dr, size_al, size_dr]; repeat (first | rw [if_pos trivial] | rw [if_neg (by omega)] | rw [if_pos (by omega)]))), Below.trans (by (repeat (first | exact Below.refl _ _ | refine Below.drew ?_ | refine Below.alloc ?_ (by first | exact Nat.le_refl _ | (simp only [size_al, size_dr]; omega)) _))) (hz4.below (by simp only [size_al, size_dr]; omega) (by omega))⟩
          case rest =>
            obtain ⟨p, hF, hPr, hfr, hr2, hr3, hbel⟩ := hcut
            obtain ⟨g, hg⟩ : ∃ g, (takeS k4 ⟨T, L, S, ⟨#[]⟩, 0, 0, false, 0, 0, 0⟩ R).1 = g := ⟨_, rfl⟩
            rw [hg] at hF
            have hF' : Hid (FB wc (w.heap.size + 1 + 1) g p) := hF
            obtain ⟨c0, c1, c2, c3, c4, c5, c6, c7, c8, c9, c10⟩ := hF.cells
            have hr2' : FB wc w.heap.size Fr.zero (.slice none 0 0) := hr2
            obtain ⟨z0, z1, z2, z3, z4, z5, z6, z7, z8, z9, z10⟩ := hr2'.cells
            obtain ⟨y0, y1, y2, y3, y4, y5, y6, y7, y8, y9, y10⟩ := hr2'.frozens
            have q0 := cell_of_row _ _ 0 _ _ _ hr3
            have q1 := cell_of_row _ _ 1 _ _ _ hr3
            have q2 : wc.frozen? ⟨w.heap.size + 1, 0, none⟩ = false := by simp only [World.frozen?]; rw [hr3]; rfl
            have q3 : wc.frozen? ⟨w.heap.size + 1, 1, none⟩ = false := by simp only [World.frozen?]; rw [hr3]; rfl
            simp only [Fr.zero, List.getElem?_toArray, List.getElem?_cons_succ, List.getElem?_cons_zero] at z0 z1 z2 z3 z4 z5 z6 z7 z8 z9 z10 q0 q1
            have HR2 : Hid (wc.heap[w.heap.size]? = some (.cells #[.int .i64 0, .int .i64 0, .int .i64 0, .string ⟨#[]⟩, .int .i64 0, .int .i64 0, .bool false, .int .i64 0, .int .i64 0, .int .i64 0, .slice none 0 0] 31 (0, 0))) := hr2
            have HR3 : Hid (wc.heap[w.heap.size + 1]? = some (.cells #[.int .i64 0, .int .i64 0] 106 (0, 0))) := hr3
            clear hF hr2 hr2' hr3
            have hfin := fin13 w wc g _ _ HR2.out HR3.out hPr hfr hbel
            simp only [sets, fsets, List.foldl_cons, List.foldl_nil] at hfin
            replace hfin : Hid _ := hfin
            obtain ⟨pb, pc, rfl⟩ := hPr.slice
            clear hF' HR2 HR3 hPr hbel
            go_wp2_with fail
            obtain ⟨x1, x2, x3, x4⟩ := hfin.out
            refine bodyPost_ret (results_two (p := 2) (ty := 31) (q := 3) (tz := 106) rfl _ _ w.heap.size (w.heap.size + 1) 31 106 _ _ (0, 0) (0, 0) _ _ rfl x1 Tryz.underlying31 rfl (by kernel_rfl) rfl x2 Tryz.underlying106 rfl (by kernel_rfl)) rfl ?_
            refine ⟨_, ?_, ?_, fun k hk => by have := hfr k hk; omega, x4⟩
            · rw [HRES.out, hg]
            · rw [HRES.out]; exact x3

end Go.Proofs.YtfmljlflnpmceaaGreatDoor.Fm
