/- spelt. -/
import Derived.Test.YtbifmikndpeafaaDoorF2
namespace Go.Proofs.YtbifmikndpeafaaDoor
open Go.RowKit
set_option linter.unusedVariables false
set_option linter.unusedSimpArgs false
theorem upC_int {x : UInt8} (h1 : 97 ≤ x.toNat) (h2 : x.toNat ≤ 122) : ((upC true x).toNat : Int) = (x.toNat : Int) - 32 := by rw [upC_yes h1 h2]; omega
set_option maxHeartbeats 8000000 in
set_option maxRecDepth 100000 in
theorem sp_any (o : Og) (m : Int) (nm : Bool) (w : World) (hm0 : 0 ≤ m) (hm1 : m ≤ 18446744073709551615) (hr : rtB o = true) : Calls Tryd.prog 13 #[.agg (ogv o), .int .u64 m, .bool nm] w fun e w' => e = .returned (.string (spS o m nm)) ∧ Below w.heap.size w w' := by
  obtain ⟨hu, hh, hp1, hp2⟩ := rtB_iff.1 hr
  have hz := host_size hh
  obtain ⟨n, hn⟩ : ∃ n, w.heap.size = n := ⟨_, rfl⟩
  have HN : Hid (w.heap.size = n) := hn
  unfold ogv
  obtain ⟨V, hV⟩ : ∃ V, w.alloc (.cells #[.string o.s, .string o.h, .int .i64 o.p] 23) = V := ⟨_, rfl⟩
  have HO : Hid (OB V n o) := by show OB _ _ _; unfold OB; rw [← hV, ← hn, heap_al, if_pos rfl]; rfl
  have HB0 : Hid (Below n w V) := by rw [← hV, ← hn]; exact bel1 _ _
  have HL : Hid (o.h.data.toList.length = o.h.size) := (Lib.size_eq o.h).symm
  have HSC : Hid (o.s = httpS ∧ usP o.s = 80 ∨ o.s = httpsS ∧ usP o.s = 443) := by
    rcases usP_cases o.s with h | h | h
    · exact .inl h
    · exact .inr h
    · exact absurd h.2.2 hu
  clear hh hr hu
  go_enter Tryd.func13, Tryd.ntmps13
  go_wp2_with fail
  clear hV hn
  go_loopw [7, 8, 9] (fun bv iv _ wr => ∃ (i k c : Nat) (b : Option Addr), bv = .slice b k c ∧ iv = .int .i64 (i : Int) ∧ i ≤ o.h.size ∧ k ≤ 253 ∧ Hid (k = i ∧ Rw V wr (.slice b k c) (up m (o.h.data.toList.take i)))) (fun _ iv _ _ => o.h.size - (intOf iv).toNat)
  case atStart => exact ⟨0, 0, 0, none, rfl, rfl, by omega, by omega, rfl, by simpa [up] using Rw.nil V⟩
  case round =>
    obtain ⟨i, k, c, b, rfl, rfl, hi, hk, hJ⟩ := hrel
    have OW : Hid (OB wr n o) := HO.out.below hJ.out.2.2.1
    obtain ⟨d0, d1, d2, _, _, _⟩ := OW.out.cells
    by_cases hlt : i < o.h.size
    · have a1 : (i : Int) < (o.h.size : Int) := by omega
      obtain ⟨x, hx⟩ : ∃ x : UInt8, o.h[i]'hlt = x := ⟨_, rfl⟩
      have HLt : Hid (i < o.h.data.toList.length) := by rw [HL.out]; exact hlt
      have HX : Hid (o.h.data.toList[i]'HLt.out = x) := by show _ = _; rw [← hx]; exact getL hlt
      have HLen : Hid ((o.h.data.toList.take i).length = i) := by show _ = _; rw [List.length_take]; have := HLt.out; omega
      have HST : Hid (∀ y, upC (upB m i) x = y → up m (o.h.data.toList.take (i + 1)) = up m (o.h.data.toList.take i) ++ [y]) := fun y hy => by
        rw [List.take_succ_eq_append_getElem HLt.out, HX.out, up_snoc, HLen.out, hy]
      have HUL : Hid ((up m (o.h.data.toList.take i)).length = i) := by show _ = _; rw [up_len]; exact HLen.out
      have hx8 := x.toNat_lt
      obtain ⟨β, hβ⟩ : ∃ β : Int, bits .and .u64 (m / 2 ^ (i % 60)) 1 = β := ⟨_, rfl⟩
      have HUB : Hid (upB m i = (β == 1)) := by show _ = _; unfold upB; rw [hβ]
      cases hb : (β == 1)
      · obtain ⟨b3, c3, w3, e3, e4⟩ := hJ.out.2.app (by rw [HUL.out]; exact hJ.out.1) (by rw [HUL.out]; omega) x (x.toNat : Int) rfl
        have HN2 : Hid (k + 1 = i + 1 ∧ Rw V w3 (.slice b3 (k + 1) c3) (up m (o.h.data.toList.take (i + 1)))) := ⟨by rw [hJ.out.1], by rw [HST.out x (upC_no (by rw [HUB.out, hb]; simp))]; exact e4⟩
        have hk2 : k + 1 ≤ 253 := by have := hJ.out.1; omega
        replace e3 : Hid _ := e3
        clear hJ e4
        go_wp2_with (at_builtin; refine Lib.wpList_append_run _ rfl _ _ _ _ rfl _ _ rfl rfl _ _ e3.out ?_)
        go_roundw
        case rel => exact ⟨i + 1, k + 1, c3, b3, by first | rfl | simp, by simp, by omega, by omega, HN2.out⟩
        case measure => first | (simp [intOf]; done) | (simp [intOf]; omega)
      · by_cases g1 : 97 ≤ x.toNat
        · have c1 : (x.toNat : Int) ≥ 97 := by omega
          by_cases g2 : x.toNat ≤ 122
          · have c2' : (x.toNat : Int) ≤ 122 := by omega
            obtain ⟨y, hy⟩ : ∃ y, upC true x = y := ⟨_, rfl⟩
            have hyi := upC_int g1 g2
            rw [hy] at hyi
            have hw8 : IntKind.u8.wrap ((x.toNat : Int) - 32) = (x.toNat : Int) - 32 := by rw [IntKind.wrap_u8]; omega
            obtain ⟨b3, c3, w3, e3, e4⟩ := hJ.out.2.app (by rw [HUL.out]; exact hJ.out.1) (by rw [HUL.out]; omega) y ((x.toNat : Int) - 32) hyi
            have HN2 : Hid (k + 1 = i + 1 ∧ Rw V w3 (.slice b3 (k + 1) c3) (up m (o.h.data.toList.take (i + 1)))) := ⟨by rw [hJ.out.1], by rw [HST.out y (by rw [HUB.out, hb]; exact hy)]; exact e4⟩
            have hk2 : k + 1 ≤ 253 := by have := hJ.out.1; omega
            clear hyi hy
            replace e3 : Hid _ := e3
            clear hJ e4
            go_wp2_with (at_builtin; refine Lib.wpList_append_run _ rfl _ _ _ _ rfl _ _ rfl rfl _ _ e3.out ?_)
            go_roundw
            case rel => exact ⟨i + 1, k + 1, c3, b3, by first | rfl | simp, by simp, by omega, by omega, HN2.out⟩
            case measure => first | (simp [intOf]; done) | (simp [intOf]; omega)
          · have c2' : ¬ (x.toNat : Int) ≤ 122 := by omega
            obtain ⟨b3, c3, w3, e3, e4⟩ := hJ.out.2.app (by rw [HUL.out]; exact hJ.out.1) (by rw [HUL.out]; omega) x (x.toNat : Int) rfl
            have HN2 : Hid (k + 1 = i + 1 ∧ Rw V w3 (.slice b3 (k + 1) c3) (up m (o.h.data.toList.take (i + 1)))) := ⟨by rw [hJ.out.1], by rw [HST.out x (upC_no (by omega))]; exact e4⟩
            have hk2 : k + 1 ≤ 253 := by have := hJ.out.1; omega
            replace e3 : Hid _ := e3
            clear hJ e4
            go_wp2_with (at_builtin; refine Lib.wpList_append_run _ rfl _ _ _ _ rfl _ _ rfl rfl _ _ e3.out ?_)
            go_roundw
            case rel => exact ⟨i + 1, k + 1, c3, b3, by first | rfl | simp, by simp, by omega, by omega, HN2.out⟩
            case measure => first | (simp [intOf]; done) | (simp [intOf]; omega)
        · have c1 : ¬ (x.toNat : Int) ≥ 97 := by omega
          obtain ⟨b3, c3, w3, e3, e4⟩ := hJ.out.2.app (by rw [HUL.out]; exact hJ.out.1) (by rw [HUL.out]; omega) x (x.toNat : Int) rfl
          have HN2 : Hid (k + 1 = i + 1 ∧ Rw V w3 (.slice b3 (k + 1) c3) (up m (o.h.data.toList.take (i + 1)))) := ⟨by rw [hJ.out.1], by rw [HST.out x (upC_no (by omega))]; exact e4⟩
          have hk2 : k + 1 ≤ 253 := by have := hJ.out.1; omega
          replace e3 : Hid _ := e3
          clear hJ e4
          go_wp2_with (at_builtin; refine Lib.wpList_append_run _ rfl _ _ _ _ rfl _ _ rfl rfl _ _ e3.out ?_)
          go_roundw
          case rel => exact ⟨i + 1, k + 1, c3, b3, by first | rfl | simp, by simp, by omega, by omega, HN2.out⟩
          case measure => first | (simp [intOf]; done) | (simp [intOf]; omega)
    · obtain rfl : i = o.h.size := by omega
      have a1 : ¬ (o.h.size : Int) < (o.h.size : Int) := by omega
      have HR : Hid (Rw V wr (.slice b k c) (up m o.h.data.toList)) := by have := hJ.out.2; rw [← HL.out, List.take_length] at this; exact this
      have HK : Hid (k = (up m o.h.data.toList).length) := by show _ = _; rw [up_len, HL.out]; exact hJ.out.1
      clear hJ
      cases nm
      · by_cases hpu : o.p = usP o.s
        · have HT : Hid (spS o m false = bt (up m o.h.data.toList)) := by show _ = _; unfold spS spL spT; rw [decide_eq_true hpu]; simp
          rcases HSC.out with ⟨hs, hU⟩ | ⟨hs, hU⟩
          · rw [hs] at d0
            rw [hpu, hU] at d2
            unfold httpS at d0
            clear hs hU hpu hp1 hp2
            have hcv := conv_row' (R.isIn HR.out.1)
            have HBe : Hid (Below n w wr) := HB0.out.trans (HR.out.2.1.mono (by have := HO.out.lt; omega))
            go_wp2_with fail
            go_ret
            exact ⟨by rw [HT.out]; rfl, by rw [HN.out]; exact HBe.out⟩
          · rw [hs] at d0
            rw [hpu, hU] at d2
            unfold httpsS at d0
            clear hs hU hpu hp1 hp2
            have hcv := conv_row' (R.isIn HR.out.1)
            have HBe : Hid (Below n w wr) := HB0.out.trans (HR.out.2.1.mono (by have := HO.out.lt; omega))
            go_wp2_with fail
            go_ret
            exact ⟨by rw [HT.out]; rfl, by rw [HN.out]; exact HBe.out⟩
        · have HT : Hid (spS o m false = bt (up m o.h.data.toList ++ 58 :: Lib.decDigits o.p.toNat)) := by show _ = _; unfold spS spL spT; rw [decide_eq_false hpu]; simp
          rcases HSC.out with ⟨hs, hU⟩ | ⟨hs, hU⟩
          · rw [hs] at d0
            have hq : (o.p == 80) = false := beq_eq_false_iff_ne.2 (by rw [← hU]; exact hpu)
            unfold httpS at d0
            clear hs hU hpu
            obtain ⟨P, hP⟩ : ∃ P : Nat, o.p = (P : Int) := ⟨o.p.toNat, by omega⟩
            have HPn : Hid (o.p.toNat = P ∧ 1 ≤ P ∧ P ≤ 65535) := by refine ⟨?_, ?_, ?_⟩ <;> omega
            have hP65 : P ≤ 65535 := HPn.out.2.2
            rw [hP] at d2
            rw [hP] at hq
            obtain ⟨b2, c2, w2, e3, e2⟩ := HR.out.app HK.out (by rw [up_len, HL.out]; omega) 58 58 rfl
            have HK2 : Hid (k + 1 = (up m o.h.data.toList ++ [58]).length) := by show _ = _; rw [List.length_append, HK.out]; rfl
            have O2 : Hid (OB w2 n o) := HO.out.below e2.2.1
            have HR2 : Hid (Rw V w2 (.slice b2 (k + 1) c2) (up m o.h.data.toList ++ [58])) := e2
            replace e3 : Hid _ := e3
            obtain ⟨g0, g1, g2, _, _, _⟩ := O2.out.cells
            rw [hP] at g2
            have hkk : k + 1 ≤ 254 := by omega
            clear e2 HR hp1 hp2
            go_wp2_with (at_builtin; refine Lib.wpList_append_run _ rfl _ _ _ _ rfl _ _ rfl rfl _ _ e3.out ?_)
            clear d0 d1 d2 g0 g1 g2 hP
            go_loopw [10, 11] (fun mv dv' wq => ∃ (M kd cd : Nat) (bd : Option Addr) (D : List UInt8), mv = .int .i64 (M : Int) ∧ dv' = .slice bd kd cd ∧ M ≤ 65535 ∧ kd ≤ 5 ∧ Hid (kd = D.length ∧ dz M ++ D.reverse = dz P ∧ Rw w2 wq (.slice bd kd cd) D)) (fun mv _ _ => (intOf mv).toNat)
            case atStart => exact ⟨P, 0, 0, none, [], rfl, rfl, hP65, by omega, rfl, by simp, Rw.nil w2⟩
            case round =>
              obtain ⟨M, kd, cd, bd, D, rfl, rfl, hM, hkd, hJ⟩ := hrel
              have HD5 : Hid (∀ (D' : List UInt8) (M' : Nat), dz M' ++ D'.reverse = dz P → D'.length ≤ 5) := fun D' M' h => by
                have h2 := congrArg List.length h
                have h3 : (dz P).length ≤ 5 := by
                  unfold dz
                  split
                  · simp
                  · exact dec_len 4 P (by have := HPn.out.2.2; omega)
                rw [List.length_append, List.length_reverse] at h2
                omega
              by_cases hM0 : 0 < M
              · have hM' : (M : Int) > 0 := by omega
                obtain ⟨r, hr⟩ : ∃ r, M % 10 = r := ⟨_, rfl⟩
                obtain ⟨Q, hQ⟩ : ∃ Q, M / 10 = Q := ⟨_, rfl⟩
                have hr9 : r ≤ 9 := by omega
                have hTm : (M : Int).tmod 10 = (r : Int) := by rw [← hr, Int.tmod_eq_emod_of_nonneg (by omega)]; omega
                have hDv : (M : Int).tdiv 10 = (Q : Int) := by rw [← hQ, Int.tdiv_eq_ediv_of_nonneg (by omega)]; omega
                have hQM : Q < M := by omega
                have hw8 : IntKind.u8.wrap (48 + (r : Int)) = 48 + (r : Int) := by rw [IntKind.wrap_u8]; omega
                obtain ⟨b3, c3, w3, e3, e4⟩ := hJ.out.2.2.app hJ.out.1 (by have := hJ.out.1; omega) (dgB r) (48 + (r : Int)) (by unfold dgB; rw [UInt8.toNat_ofNat']; omega)
                have HN2 : Hid (kd + 1 = (D ++ [dgB r]).length ∧ dz Q ++ (D ++ [dgB r]).reverse = dz P ∧ Rw w2 w3 (.slice b3 (kd + 1) c3) (D ++ [dgB r])) := by
                  refine ⟨by simp [hJ.out.1], ?_, e4⟩
                  rw [← hJ.out.2.1, dz_step hM0, hQ, hr, List.reverse_append, List.append_assoc]
                  rfl
                have hk5 : kd + 1 ≤ 5 := by rw [HN2.out.1]; exact HD5.out _ _ HN2.out.2.1
                replace e3 : Hid _ := e3
                clear hJ e4 hr hQ
                go_wp2_with (at_builtin; refine Lib.wpList_append_run _ rfl _ _ _ _ rfl _ _ rfl rfl _ _ e3.out ?_)
                go_roundw
                case rel => exact ⟨Q, kd + 1, c3, b3, _, by first | rfl | simp, by first | rfl | simp, by omega, hk5, HN2.out⟩
                case measure => first | (simp [intOf]; done) | (simp [intOf]; omega)
              · obtain rfl : M = 0 := by omega
                have hM' : ¬ ((0 : Nat) : Int) > 0 := by omega
                have HDz : Hid (D.reverse = Lib.decDigits P) := by
                  have h1 := hJ.out.2.1
                  have h2 : dz 0 = [] := rfl
                  rw [h2, List.nil_append] at h1
                  show _ = _
                  rw [h1]
                  unfold dz
                  rw [if_neg (by have := HPn.out.2.1; omega)]
                have HRd : Hid (Rw w2 wr (.slice bd kd cd) D) := hJ.out.2.2
                have HKd : Hid (kd = D.length) := hJ.out.1
                have hkd1 : 1 ≤ kd := by
                  rcases Nat.eq_zero_or_pos kd with e | e
                  · exfalso
                    have h1 := HDz.out
                    have h2 : D = [] := List.eq_nil_of_length_eq_zero (by rw [← HKd.out]; exact e)
                    rw [h2] at h1
                    have h3 : (Lib.decDigits P).length = 0 := by rw [← h1]; rfl
                    have h4 : (Lib.decDigits P).length ≥ 1 := by
                      rw [Lib.decDigits]
                      split
                      · simp
                      · simp
                    omega
                  · exact e
                obtain ⟨G, capd, hbd⟩ : ∃ G capd, (Value.slice bd kd cd) = .slice (some ⟨G, 0, none⟩) kd capd := by
                  rcases HRd.out.1.2 with ⟨hv, h0⟩ | ⟨G, cap, cur, hv, _⟩
                  · rw [← HKd.out] at h0
                    omega
                  · exact ⟨G, cap, by rw [hv, HKd.out]⟩
                injection hbd with hb1 hb2 hb3
                subst hb1
                subst hb3
                clear hb2
                have HRg : Hid (Rg V G wr (.slice b2 (k + 1) c2) (up m o.h.data.toList ++ [58])) := by
                  refine ⟨HR2.out.1.below HRd.out.2.1, HR2.out.2.1.trans (HRd.out.2.1.mono HR2.out.2.1.size), fun j hj => ⟨HR2.out.2.2 j hj, ?_⟩, ?_⟩
                  · have h1 := HR2.out.1.lt j hj
                    have h2 := HRd.out.2.2 G rfl
                    omega
                  · exact HRd.out.1.lt G rfl
                have HdI : Hid (∀ W : World, W.heap[G]? = wr.heap[G]? → ∀ j (hj : j < D.length), W.cell? ⟨G, j, none⟩ = some (.int .u8 (D[j].toNat : Int))) := fun W hW j hj => by
                  have h1 := HRd.out.1.isIn.get okB j hj
                  obtain ⟨B', off, cap', e, hB', hc⟩ := h1
                  injection e with e1 e2 e3'
                  injection e1 with e1
                  injection e1 with e11 e12
                  have h2 := hc 0 (.int .u8 (D[j].toNat : Int)) rfl
                  rw [← e11, ← e12] at h2
                  unfold World.cell? at h2 ⊢
                  simp only at h2 ⊢
                  rw [hW]
                  simp only [EB] at h2
                  simpa using h2
                clear hJ
                obtain ⟨X, hX⟩ : ∃ X, wr = X := ⟨_, rfl⟩
                rw [hX] at HRg HdI HRd ⊢
                go_wp2_with fail
                go_loopw [7, 12] (fun bv jv wq => ∃ (J kb cb : Nat) (bb : Option Addr), bv = .slice bb kb cb ∧ jv = .int .i64 ((J : Int) - 1) ∧ J ≤ kd ∧ kb ≤ 259 ∧ Hid (kb = k + 1 + (kd - J) ∧ Rg V G wq (.slice bb kb cb) (up m o.h.data.toList ++ [58] ++ (D.drop J).reverse) ∧ wq.heap[G]? = X.heap[G]?)) (fun _ jv _ => (intOf jv + 1).toNat)
                case atStart => exact ⟨kd, k + 1, c2, b2, rfl, rfl, by omega, by omega, by omega, by rw [List.drop_of_length_le (by rw [HKd.out]; exact Nat.le_refl _)]; simpa using HRg.out, rfl⟩
                case round =>
                  obtain ⟨J, kb, cb, bb, rfl, rfl, hJ1, hkb, hJ⟩ := hrel
                  by_cases hJ0 : 0 < J
                  · obtain ⟨t, ht⟩ : ∃ t : Nat, J = t + 1 := ⟨J - 1, by omega⟩
                    have ht1 : (J : Int) - 1 = (t : Int) := by omega
                    have ht2 : (t : Int) ≥ 0 := by omega
                    have htk : t < kd := by omega
                    have htk' : (t : Int) < (kd : Int) := by omega
                    have HtD : Hid (t < D.length) := by rw [← HKd.out]; exact htk
                    obtain ⟨y, hy⟩ : ∃ y, D[t]'HtD.out = y := ⟨_, rfl⟩
                    have hcell := HdI.out wr hJ.out.2.2 t HtD.out
                    rw [hy] at hcell
                    have HLb : Hid (kb = (up m o.h.data.toList ++ [58] ++ (D.drop J).reverse).length) := by
                      show _ = _
                      rw [List.length_append, ← HK2.out, List.length_reverse, List.length_drop, ← HKd.out]
                      exact hJ.out.1
                    obtain ⟨b3, c3, w3, e3, e4, e5⟩ := hJ.out.2.1.app HLb.out (by rw [← HLb.out]; omega) y
                    have HN2 : Hid (kb + 1 = k + 1 + (kd - t) ∧ Rg V G w3 (.slice b3 (kb + 1) c3) (up m o.h.data.toList ++ [58] ++ (D.drop t).reverse) ∧ w3.heap[G]? = X.heap[G]?) := by
                      refine ⟨by have := hJ.out.1; omega, ?_, e5.trans hJ.out.2.2⟩
                      rw [List.drop_eq_getElem_cons HtD.out, hy, List.reverse_cons, ← List.append_assoc, ← ht]
                      exact e4
                    have hkb2 : kb + 1 ≤ 259 := by rw [HN2.out.1]; omega
                    replace e3 : Hid _ := e3
                    have hlg : (wr.heap[G]?).isSome = true ∨ True := .inr trivial
                    rw [ht1]
                    clear hJ e4 e5 hy ht hlg
                    go_wp2_with (at_builtin; refine Lib.wpList_append_run _ rfl _ _ _ _ rfl _ _ rfl rfl _ _ e3.out ?_)
                    go_roundw
                    case rel => exact ⟨t, kb + 1, c3, b3, by first | rfl | simp, by first | rfl | simp, by omega, hkb2, HN2.out⟩
                    case measure => first | (simp [intOf]; done) | (simp [intOf]; omega)
                  · obtain rfl : J = 0 := by omega
                    have hneg : ¬ ((0 : Nat) : Int) - 1 ≥ 0 := by omega
                    have hF := hJ.out.2.1
                    rw [List.drop_zero, HDz.out, List.append_assoc, List.singleton_append] at hF
                    have hcv := conv_row' (R.isIn hF.1)
                    have HBe : Hid (Below n w wr) := HB0.out.trans (hF.2.1.mono (by have := HO.out.lt; omega))
                    have HTT : Hid (bt (up m o.h.data.toList ++ 58 :: Lib.decDigits P) = spS o m false) := by show _ = _; rw [HT.out, HPn.out.1]
                    clear hJ hF
                    go_wp2_with fail
                    go_ret
                    exact ⟨by rw [← HTT.out]; rfl, by rw [HN.out]; exact HBe.out⟩
          · rw [hs] at d0
            have hq : (o.p == 443) = false := beq_eq_false_iff_ne.2 (by rw [← hU]; exact hpu)
            unfold httpsS at d0
            clear hs hU hpu
            obtain ⟨P, hP⟩ : ∃ P : Nat, o.p = (P : Int) := ⟨o.p.toNat, by omega⟩
            have HPn : Hid (o.p.toNat = P ∧ 1 ≤ P ∧ P ≤ 65535) := by refine ⟨?_, ?_, ?_⟩ <;> omega
            have hP65 : P ≤ 65535 := HPn.out.2.2
            rw [hP] at d2
            rw [hP] at hq
            obtain ⟨b2, c2, w2, e3, e2⟩ := HR.out.app HK.out (by rw [up_len, HL.out]; omega) 58 58 rfl
            have HK2 : Hid (k + 1 = (up m o.h.data.toList ++ [58]).length) := by show _ = _; rw [List.length_append, HK.out]; rfl
            have O2 : Hid (OB w2 n o) := HO.out.below e2.2.1
            have HR2 : Hid (Rw V w2 (.slice b2 (k + 1) c2) (up m o.h.data.toList ++ [58])) := e2
            replace e3 : Hid _ := e3
            obtain ⟨g0, g1, g2, _, _, _⟩ := O2.out.cells
            rw [hP] at g2
            have hkk : k + 1 ≤ 254 := by omega
            clear e2 HR hp1 hp2
            go_wp2_with (at_builtin; refine Lib.wpList_append_run _ rfl _ _ _ _ rfl _ _ rfl rfl _ _ e3.out ?_)
            clear d0 d1 d2 g0 g1 g2 hP
            go_loopw [10, 11] (fun mv dv' wq => ∃ (M kd cd : Nat) (bd : Option Addr) (D : List UInt8), mv = .int .i64 (M : Int) ∧ dv' = .slice bd kd cd ∧ M ≤ 65535 ∧ kd ≤ 5 ∧ Hid (kd = D.length ∧ dz M ++ D.reverse = dz P ∧ Rw w2 wq (.slice bd kd cd) D)) (fun mv _ _ => (intOf mv).toNat)
            case atStart => exact ⟨P, 0, 0, none, [], rfl, rfl, hP65, by omega, rfl, by simp, Rw.nil w2⟩
            case round =>
              obtain ⟨M, kd, cd, bd, D, rfl, rfl, hM, hkd, hJ⟩ := hrel
              have HD5 : Hid (∀ (D' : List UInt8) (M' : Nat), dz M' ++ D'.reverse = dz P → D'.length ≤ 5) := fun D' M' h => by
                have h2 := congrArg List.length h
                have h3 : (dz P).length ≤ 5 := by
                  unfold dz
                  split
                  · simp
                  · exact dec_len 4 P (by have := HPn.out.2.2; omega)
                rw [List.length_append, List.length_reverse] at h2
                omega
              by_cases hM0 : 0 < M
              · have hM' : (M : Int) > 0 := by omega
                obtain ⟨r, hr⟩ : ∃ r, M % 10 = r := ⟨_, rfl⟩
                obtain ⟨Q, hQ⟩ : ∃ Q, M / 10 = Q := ⟨_, rfl⟩
                have hr9 : r ≤ 9 := by omega
                have hTm : (M : Int).tmod 10 = (r : Int) := by rw [← hr, Int.tmod_eq_emod_of_nonneg (by omega)]; omega
                have hDv : (M : Int).tdiv 10 = (Q : Int) := by rw [← hQ, Int.tdiv_eq_ediv_of_nonneg (by omega)]; omega
                have hQM : Q < M := by omega
                have hw8 : IntKind.u8.wrap (48 + (r : Int)) = 48 + (r : Int) := by rw [IntKind.wrap_u8]; omega
                obtain ⟨b3, c3, w3, e3, e4⟩ := hJ.out.2.2.app hJ.out.1 (by have := hJ.out.1; omega) (dgB r) (48 + (r : Int)) (by unfold dgB; rw [UInt8.toNat_ofNat']; omega)
                have HN2 : Hid (kd + 1 = (D ++ [dgB r]).length ∧ dz Q ++ (D ++ [dgB r]).reverse = dz P ∧ Rw w2 w3 (.slice b3 (kd + 1) c3) (D ++ [dgB r])) := by
                  refine ⟨by simp [hJ.out.1], ?_, e4⟩
                  rw [← hJ.out.2.1, dz_step hM0, hQ, hr, List.reverse_append, List.append_assoc]
                  rfl
                have hk5 : kd + 1 ≤ 5 := by rw [HN2.out.1]; exact HD5.out _ _ HN2.out.2.1
                replace e3 : Hid _ := e3
                clear hJ e4 hr hQ
                go_wp2_with (at_builtin; refine Lib.wpList_append_run _ rfl _ _ _ _ rfl _ _ rfl rfl _ _ e3.out ?_)
                go_roundw
                case rel => exact ⟨Q, kd + 1, c3, b3, _, by first | rfl | simp, by first | rfl | simp, by omega, hk5, HN2.out⟩
                case measure => first | (simp [intOf]; done) | (simp [intOf]; omega)
              · obtain rfl : M = 0 := by omega
                have hM' : ¬ ((0 : Nat) : Int) > 0 := by omega
                have HDz : Hid (D.reverse = Lib.decDigits P) := by
                  have h1 := hJ.out.2.1
                  have h2 : dz 0 = [] := rfl
                  rw [h2, List.nil_append] at h1
                  show _ = _
                  rw [h1]
                  unfold dz
                  rw [if_neg (by have := HPn.out.2.1; omega)]
                have HRd : Hid (Rw w2 wr (.slice bd kd cd) D) := hJ.out.2.2
                have HKd : Hid (kd = D.length) := hJ.out.1
                have hkd1 : 1 ≤ kd := by
                  rcases Nat.eq_zero_or_pos kd with e | e
                  · exfalso
                    have h1 := HDz.out
                    have h2 : D = [] := List.eq_nil_of_length_eq_zero (by rw [← HKd.out]; exact e)
                    rw [h2] at h1
                    have h3 : (Lib.decDigits P).length = 0 := by rw [← h1]; rfl
                    have h4 : (Lib.decDigits P).length ≥ 1 := by
                      rw [Lib.decDigits]
                      split
                      · simp
                      · simp
                    omega
                  · exact e
                obtain ⟨G, capd, hbd⟩ : ∃ G capd, (Value.slice bd kd cd) = .slice (some ⟨G, 0, none⟩) kd capd := by
                  rcases HRd.out.1.2 with ⟨hv, h0⟩ | ⟨G, cap, cur, hv, _⟩
                  · rw [← HKd.out] at h0
                    omega
                  · exact ⟨G, cap, by rw [hv, HKd.out]⟩
                injection hbd with hb1 hb2 hb3
                subst hb1
                subst hb3
                clear hb2
                have HRg : Hid (Rg V G wr (.slice b2 (k + 1) c2) (up m o.h.data.toList ++ [58])) := by
                  refine ⟨HR2.out.1.below HRd.out.2.1, HR2.out.2.1.trans (HRd.out.2.1.mono HR2.out.2.1.size), fun j hj => ⟨HR2.out.2.2 j hj, ?_⟩, ?_⟩
                  · have h1 := HR2.out.1.lt j hj
                    have h2 := HRd.out.2.2 G rfl
                    omega
                  · exact HRd.out.1.lt G rfl
                have HdI : Hid (∀ W : World, W.heap[G]? = wr.heap[G]? → ∀ j (hj : j < D.length), W.cell? ⟨G, j, none⟩ = some (.int .u8 (D[j].toNat : Int))) := fun W hW j hj => by
                  have h1 := HRd.out.1.isIn.get okB j hj
                  obtain ⟨B', off, cap', e, hB', hc⟩ := h1
                  injection e with e1 e2 e3'
                  injection e1 with e1
                  injection e1 with e11 e12
                  have h2 := hc 0 (.int .u8 (D[j].toNat : Int)) rfl
                  rw [← e11, ← e12] at h2
                  unfold World.cell? at h2 ⊢
                  simp only at h2 ⊢
                  rw [hW]
                  simp only [EB] at h2
                  simpa using h2
                clear hJ
                obtain ⟨X, hX⟩ : ∃ X, wr = X := ⟨_, rfl⟩
                rw [hX] at HRg HdI HRd ⊢
                go_wp2_with fail
                go_loopw [7, 12] (fun bv jv wq => ∃ (J kb cb : Nat) (bb : Option Addr), bv = .slice bb kb cb ∧ jv = .int .i64 ((J : Int) - 1) ∧ J ≤ kd ∧ kb ≤ 259 ∧ Hid (kb = k + 1 + (kd - J) ∧ Rg V G wq (.slice bb kb cb) (up m o.h.data.toList ++ [58] ++ (D.drop J).reverse) ∧ wq.heap[G]? = X.heap[G]?)) (fun _ jv _ => (intOf jv + 1).toNat)
                case atStart => exact ⟨kd, k + 1, c2, b2, rfl, rfl, by omega, by omega, by omega, by rw [List.drop_of_length_le (by rw [HKd.out]; exact Nat.le_refl _)]; simpa using HRg.out, rfl⟩
                case round =>
                  obtain ⟨J, kb, cb, bb, rfl, rfl, hJ1, hkb, hJ⟩ := hrel
                  by_cases hJ0 : 0 < J
                  · obtain ⟨t, ht⟩ : ∃ t : Nat, J = t + 1 := ⟨J - 1, by omega⟩
                    have ht1 : (J : Int) - 1 = (t : Int) := by omega
                    have ht2 : (t : Int) ≥ 0 := by omega
                    have htk : t < kd := by omega
                    have htk' : (t : Int) < (kd : Int) := by omega
                    have HtD : Hid (t < D.length) := by rw [← HKd.out]; exact htk
                    obtain ⟨y, hy⟩ : ∃ y, D[t]'HtD.out = y := ⟨_, rfl⟩
                    have hcell := HdI.out wr hJ.out.2.2 t HtD.out
                    rw [hy] at hcell
                    have HLb : Hid (kb = (up m o.h.data.toList ++ [58] ++ (D.drop J).reverse).length) := by
                      show _ = _
                      rw [List.length_append, ← HK2.out, List.length_reverse, List.length_drop, ← HKd.out]
                      exact hJ.out.1
                    obtain ⟨b3, c3, w3, e3, e4, e5⟩ := hJ.out.2.1.app HLb.out (by rw [← HLb.out]; omega) y
                    have HN2 : Hid (kb + 1 = k + 1 + (kd - t) ∧ Rg V G w3 (.slice b3 (kb + 1) c3) (up m o.h.data.toList ++ [58] ++ (D.drop t).reverse) ∧ w3.heap[G]? = X.heap[G]?) := by
                      refine ⟨by have := hJ.out.1; omega, ?_, e5.trans hJ.out.2.2⟩
                      rw [List.drop_eq_getElem_cons HtD.out, hy, List.reverse_cons, ← List.append_assoc, ← ht]
                      exact e4
                    have hkb2 : kb + 1 ≤ 259 := by rw [HN2.out.1]; omega
                    replace e3 : Hid _ := e3
                    have hlg : (wr.heap[G]?).isSome = true ∨ True := .inr trivial
                    rw [ht1]
                    clear hJ e4 e5 hy ht hlg
                    go_wp2_with (at_builtin; refine Lib.wpList_append_run _ rfl _ _ _ _ rfl _ _ rfl rfl _ _ e3.out ?_)
                    go_roundw
                    case rel => exact ⟨t, kb + 1, c3, b3, by first | rfl | simp, by first | rfl | simp, by omega, hkb2, HN2.out⟩
                    case measure => first | (simp [intOf]; done) | (simp [intOf]; omega)
                  · obtain rfl : J = 0 := by omega
                    have hneg : ¬ ((0 : Nat) : Int) - 1 ≥ 0 := by omega
                    have hF := hJ.out.2.1
                    rw [List.drop_zero, HDz.out, List.append_assoc, List.singleton_append] at hF
                    have hcv := conv_row' (R.isIn hF.1)
                    have HBe : Hid (Below n w wr) := HB0.out.trans (hF.2.1.mono (by have := HO.out.lt; omega))
                    have HTT : Hid (bt (up m o.h.data.toList ++ 58 :: Lib.decDigits P) = spS o m false) := by show _ = _; rw [HT.out, HPn.out.1]
                    clear hJ hF
                    go_wp2_with fail
                    go_ret
                    exact ⟨by rw [← HTT.out]; rfl, by rw [HN.out]; exact HBe.out⟩
      · have HT : Hid (spS o m true = bt (up m o.h.data.toList ++ 58 :: Lib.decDigits o.p.toNat)) := by show _ = _; unfold spS spL spT; simp
        obtain ⟨P, hP⟩ : ∃ P : Nat, o.p = (P : Int) := ⟨o.p.toNat, by omega⟩
        have HPn : Hid (o.p.toNat = P ∧ 1 ≤ P ∧ P ≤ 65535) := by refine ⟨?_, ?_, ?_⟩ <;> omega
        have hP65 : P ≤ 65535 := HPn.out.2.2
        rw [hP] at d2
        obtain ⟨b2, c2, w2, e3, e2⟩ := HR.out.app HK.out (by rw [up_len, HL.out]; omega) 58 58 rfl
        have HK2 : Hid (k + 1 = (up m o.h.data.toList ++ [58]).length) := by show _ = _; rw [List.length_append, HK.out]; rfl
        have O2 : Hid (OB w2 n o) := HO.out.below e2.2.1
        have HR2 : Hid (Rw V w2 (.slice b2 (k + 1) c2) (up m o.h.data.toList ++ [58])) := e2
        replace e3 : Hid _ := e3
        obtain ⟨g0, g1, g2, _, _, _⟩ := O2.out.cells
        rw [hP] at g2
        have hkk : k + 1 ≤ 254 := by omega
        clear e2 HR hp1 hp2
        go_wp2_with (at_builtin; refine Lib.wpList_append_run _ rfl _ _ _ _ rfl _ _ rfl rfl _ _ e3.out ?_)
        clear d0 d1 d2 g0 g1 g2 hP
        go_loopw [10, 11] (fun mv dv' wq => ∃ (M kd cd : Nat) (bd : Option Addr) (D : List UInt8), mv = .int .i64 (M : Int) ∧ dv' = .slice bd kd cd ∧ M ≤ 65535 ∧ kd ≤ 5 ∧ Hid (kd = D.length ∧ dz M ++ D.reverse = dz P ∧ Rw w2 wq (.slice bd kd cd) D)) (fun mv _ _ => (intOf mv).toNat)
        case atStart => exact ⟨P, 0, 0, none, [], rfl, rfl, hP65, by omega, rfl, by simp, Rw.nil w2⟩
        case round =>
          obtain ⟨M, kd, cd, bd, D, rfl, rfl, hM, hkd, hJ⟩ := hrel
          have HD5 : Hid (∀ (D' : List UInt8) (M' : Nat), dz M' ++ D'.reverse = dz P → D'.length ≤ 5) := fun D' M' h => by
            have h2 := congrArg List.length h
            have h3 : (dz P).length ≤ 5 := by
              unfold dz
              split
              · simp
              · exact dec_len 4 P (by have := HPn.out.2.2; omega)
            rw [List.length_append, List.length_reverse] at h2
            omega
          by_cases hM0 : 0 < M
          · have hM' : (M : Int) > 0 := by omega
            obtain ⟨r, hr⟩ : ∃ r, M % 10 = r := ⟨_, rfl⟩
            obtain ⟨Q, hQ⟩ : ∃ Q, M / 10 = Q := ⟨_, rfl⟩
            have hr9 : r ≤ 9 := by omega
            have hTm : (M : Int).tmod 10 = (r : Int) := by rw [← hr, Int.tmod_eq_emod_of_nonneg (by omega)]; omega
            have hDv : (M : Int).tdiv 10 = (Q : Int) := by rw [← hQ, Int.tdiv_eq_ediv_of_nonneg (by omega)]; omega
            have hQM : Q < M := by omega
            have hw8 : IntKind.u8.wrap (48 + (r : Int)) = 48 + (r : Int) := by rw [IntKind.wrap_u8]; omega
            obtain ⟨b3, c3, w3, e3, e4⟩ := hJ.out.2.2.app hJ.out.1 (by have := hJ.out.1; omega) (dgB r) (48 + (r : Int)) (by unfold dgB; rw [UInt8.toNat_ofNat']; omega)
            have HN2 : Hid (kd + 1 = (D ++ [dgB r]).length ∧ dz Q ++ (D ++ [dgB r]).reverse = dz P ∧ Rw w2 w3 (.slice b3 (kd + 1) c3) (D ++ [dgB r])) := by
              refine ⟨by simp [hJ.out.1], ?_, e4⟩
              rw [← hJ.out.2.1, dz_step hM0, hQ, hr, List.reverse_append, List.append_assoc]
              rfl
            have hk5 : kd + 1 ≤ 5 := by rw [HN2.out.1]; exact HD5.out _ _ HN2.out.2.1
            replace e3 : Hid _ := e3
            clear hJ e4 hr hQ
            go_wp2_with (at_builtin; refine Lib.wpList_append_run _ rfl _ _ _ _ rfl _ _ rfl rfl _ _ e3.out ?_)
            go_roundw
            case rel => exact ⟨Q, kd + 1, c3, b3, _, by first | rfl | simp, by first | rfl | simp, by omega, hk5, HN2.out⟩
            case measure => first | (simp [intOf]; done) | (simp [intOf]; omega)
          · obtain rfl : M = 0 := by omega
            have hM' : ¬ ((0 : Nat) : Int) > 0 := by omega
            have HDz : Hid (D.reverse = Lib.decDigits P) := by
              have h1 := hJ.out.2.1
              have h2 : dz 0 = [] := rfl
              rw [h2, List.nil_append] at h1
              show _ = _
              rw [h1]
              unfold dz
              rw [if_neg (by have := HPn.out.2.1; omega)]
            have HRd : Hid (Rw w2 wr (.slice bd kd cd) D) := hJ.out.2.2
            have HKd : Hid (kd = D.length) := hJ.out.1
            have hkd1 : 1 ≤ kd := by
              rcases Nat.eq_zero_or_pos kd with e | e
              · exfalso
                have h1 := HDz.out
                have h2 : D = [] := List.eq_nil_of_length_eq_zero (by rw [← HKd.out]; exact e)
                rw [h2] at h1
                have h3 : (Lib.decDigits P).length = 0 := by rw [← h1]; rfl
                have h4 : (Lib.decDigits P).length ≥ 1 := by
                  rw [Lib.decDigits]
                  split
                  · simp
                  · simp
                omega
              · exact e
            obtain ⟨G, capd, hbd⟩ : ∃ G capd, (Value.slice bd kd cd) = .slice (some ⟨G, 0, none⟩) kd capd := by
              rcases HRd.out.1.2 with ⟨hv, h0⟩ | ⟨G, cap, cur, hv, _⟩
              · rw [← HKd.out] at h0
                omega
              · exact ⟨G, cap, by rw [hv, HKd.out]⟩
            injection hbd with hb1 hb2 hb3
            subst hb1
            subst hb3
            clear hb2
            have HRg : Hid (Rg V G wr (.slice b2 (k + 1) c2) (up m o.h.data.toList ++ [58])) := by
              refine ⟨HR2.out.1.below HRd.out.2.1, HR2.out.2.1.trans (HRd.out.2.1.mono HR2.out.2.1.size), fun j hj => ⟨HR2.out.2.2 j hj, ?_⟩, ?_⟩
              · have h1 := HR2.out.1.lt j hj
                have h2 := HRd.out.2.2 G rfl
                omega
              · exact HRd.out.1.lt G rfl
            have HdI : Hid (∀ W : World, W.heap[G]? = wr.heap[G]? → ∀ j (hj : j < D.length), W.cell? ⟨G, j, none⟩ = some (.int .u8 (D[j].toNat : Int))) := fun W hW j hj => by
              have h1 := HRd.out.1.isIn.get okB j hj
              obtain ⟨B', off, cap', e, hB', hc⟩ := h1
              injection e with e1 e2 e3'
              injection e1 with e1
              injection e1 with e11 e12
              have h2 := hc 0 (.int .u8 (D[j].toNat : Int)) rfl
              rw [← e11, ← e12] at h2
              unfold World.cell? at h2 ⊢
              simp only at h2 ⊢
              rw [hW]
              simp only [EB] at h2
              simpa using h2
            clear hJ
            obtain ⟨X, hX⟩ : ∃ X, wr = X := ⟨_, rfl⟩
            rw [hX] at HRg HdI HRd ⊢
            go_wp2_with fail
            go_loopw [7, 12] (fun bv jv wq => ∃ (J kb cb : Nat) (bb : Option Addr), bv = .slice bb kb cb ∧ jv = .int .i64 ((J : Int) - 1) ∧ J ≤ kd ∧ kb ≤ 259 ∧ Hid (kb = k + 1 + (kd - J) ∧ Rg V G wq (.slice bb kb cb) (up m o.h.data.toList ++ [58] ++ (D.drop J).reverse) ∧ wq.heap[G]? = X.heap[G]?)) (fun _ jv _ => (intOf jv + 1).toNat)
            case atStart => exact ⟨kd, k + 1, c2, b2, rfl, rfl, by omega, by omega, by omega, by rw [List.drop_of_length_le (by rw [HKd.out]; exact Nat.le_refl _)]; simpa using HRg.out, rfl⟩
            case round =>
              obtain ⟨J, kb, cb, bb, rfl, rfl, hJ1, hkb, hJ⟩ := hrel
              by_cases hJ0 : 0 < J
              · obtain ⟨t, ht⟩ : ∃ t : Nat, J = t + 1 := ⟨J - 1, by omega⟩
                have ht1 : (J : Int) - 1 = (t : Int) := by omega
                have ht2 : (t : Int) ≥ 0 := by omega
                have htk : t < kd := by omega
                have htk' : (t : Int) < (kd : Int) := by omega
                have HtD : Hid (t < D.length) := by rw [← HKd.out]; exact htk
                obtain ⟨y, hy⟩ : ∃ y, D[t]'HtD.out = y := ⟨_, rfl⟩
                have hcell := HdI.out wr hJ.out.2.2 t HtD.out
                rw [hy] at hcell
                have HLb : Hid (kb = (up m o.h.data.toList ++ [58] ++ (D.drop J).reverse).length) := by
                  show _ = _
                  rw [List.length_append, ← HK2.out, List.length_reverse, List.length_drop, ← HKd.out]
                  exact hJ.out.1
                obtain ⟨b3, c3, w3, e3, e4, e5⟩ := hJ.out.2.1.app HLb.out (by rw [← HLb.out]; omega) y
                have HN2 : Hid (kb + 1 = k + 1 + (kd - t) ∧ Rg V G w3 (.slice b3 (kb + 1) c3) (up m o.h.data.toList ++ [58] ++ (D.drop t).reverse) ∧ w3.heap[G]? = X.heap[G]?) := by
                  refine ⟨by have := hJ.out.1; omega, ?_, e5.trans hJ.out.2.2⟩
                  rw [List.drop_eq_getElem_cons HtD.out, hy, List.reverse_cons, ← List.append_assoc, ← ht]
                  exact e4
                have hkb2 : kb + 1 ≤ 259 := by rw [HN2.out.1]; omega
                replace e3 : Hid _ := e3
                have hlg : (wr.heap[G]?).isSome = true ∨ True := .inr trivial
                rw [ht1]
                clear hJ e4 e5 hy ht hlg
                go_wp2_with (at_builtin; refine Lib.wpList_append_run _ rfl _ _ _ _ rfl _ _ rfl rfl _ _ e3.out ?_)
                go_roundw
                case rel => exact ⟨t, kb + 1, c3, b3, by first | rfl | simp, by first | rfl | simp, by omega, hkb2, HN2.out⟩
                case measure => first | (simp [intOf]; done) | (simp [intOf]; omega)
              · obtain rfl : J = 0 := by omega
                have hneg : ¬ ((0 : Nat) : Int) - 1 ≥ 0 := by omega
                have hF := hJ.out.2.1
                rw [List.drop_zero, HDz.out, List.append_assoc, List.singleton_append] at hF
                have hcv := conv_row' (R.isIn hF.1)
                have HBe : Hid (Below n w wr) := HB0.out.trans (hF.2.1.mono (by have := HO.out.lt; omega))
                have HTT : Hid (bt (up m o.h.data.toList ++ 58 :: Lib.decDigits P) = spS o m true) := by show _ = _; rw [HT.out, HPn.out.1]
                clear hJ hF
                go_wp2_with fail
                go_ret
                exact ⟨by rw [← HTT.out]; rfl, by rw [HN.out]; exact HBe.out⟩
end Go.Proofs.YtbifmikndpeafaaDoor
