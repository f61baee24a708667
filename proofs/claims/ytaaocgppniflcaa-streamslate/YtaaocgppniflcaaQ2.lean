/- StreamsLate. -/
import Derived.Test.YtaaocgppniflcaaQ0
import Derived.Test.YtaaocgppniflcaaP2
namespace Go.Proofs.Ytaaocgppniflcaa
open Go.RowKit Go.Maps
set_option linter.unusedVariables false
set_option linter.unusedSimpArgs false

theorem ty_neL {W : World} {q p b : Nat} {T : Tb} {c : Array Value} {t : TypeId} (h : W.heap[q]? = some (.cells c t)) (ti : TI W p b T) (ht : t ≠ 61) : ¬ (q = p ∨ q = b) := by
  rintro (e | e)
  · rw [e, ti.blk] at h; injection h with h; injection h with _ h; exact ht h.symm
  · obtain ⟨es, clock, hb, _⟩ := ti.mp
    rw [e, hb] at h
    cases h
theorem Tw.call0 {w W : World} {p0 b0 p1 b1 : Nat} {A B : Tb} (h : Tw w W p0 b0 p1 b1 A B) (id : Int) (g : Bool) (k : Int) (hid : I64 id) :
    Calls Try.prog 19 #[.pointer (some ⟨p0, 0, none⟩), .int .i64 id, .agg #[.bool g, .int .i64 k]] W fun e W' => e = .returned (.agg #[.int .i64 (A.doo id g k).2.1, .int .i64 (A.doo id g k).2.2]) ∧ Tw w W' p0 b0 p1 b1 (A.doo id g k).1 B ∧ K2s p0 b0 W W' :=
  (do_any W p0 b0 A id g k h.t0 hid).mono fun e W' ⟨h1, h2, h3⟩ => ⟨h1, h.do0 h2 h3, h3⟩
theorem Tw.call1 {w W : World} {p0 b0 p1 b1 : Nat} {A B : Tb} (h : Tw w W p0 b0 p1 b1 A B) (id : Int) (g : Bool) (k : Int) (hid : I64 id) :
    Calls Try.prog 19 #[.pointer (some ⟨p1, 0, none⟩), .int .i64 id, .agg #[.bool g, .int .i64 k]] W fun e W' => e = .returned (.agg #[.int .i64 (B.doo id g k).2.1, .int .i64 (B.doo id g k).2.2]) ∧ Tw w W' p0 b0 p1 b1 A (B.doo id g k).1 ∧ K2s p1 b1 W W' :=
  (do_any W p1 b1 B id g k h.t1 hid).mono fun e W' ⟨h1, h2, h3⟩ => ⟨h1, h.do1 h2 h3, h3⟩
theorem blk_keep {W W' : World} {q p b : Nat} {T : Tb} {c : Array Value} {t : TypeId} (h : W.heap[q]? = some (.cells c t)) (ti : TI W p b T) (ht : t ≠ 61) (hk : K2s p b W W') : W'.heap[q]? = some (.cells c t) :=
  (hk.block _ (heap_lt h) (ty_neL h ti ht)).trans h
theorem row_keep {W W' : World} {p b : Nat} {T : Tb} {v : Value} {l : List Int} (h : R EI W v l) (ti : TI W p b T) (hk : K2s p b W W') : R EI W' v l := by
  refine h.stays fun k hkv hkl => ?_
  obtain ⟨c, hc⟩ := h.ty k hkv
  exact hk.block _ hkl (ty_neL hc ti (by decide))

set_option maxRecDepth 100000 in
set_option maxHeartbeats 8000000 in
theorem streamsLate_any (cl : Bool) (v : Value) (os : List OP) (id : Int) (lv : Value) (ks : List Int) (w : World) (ho : In EO w v os) (hi : ∀ o ∈ os, I64 o.2.1) (hid : I64 id) (hl : In EK w lv ks) :
    Calls Try.prog 6 #[.bool cl, v, .int .i64 id, lv] w fun e w' => e = .returned (.bool true) ∧ Below w.heap.size w w' := by
  have HO : Hid (In EO w v os) := ho
  have HI : Hid (∀ o ∈ os, I64 o.2.1) := hi
  have HL : Hid (In EK w lv ks) := hl
  obtain ⟨vb, vc, rfl, hv1, hv2⟩ := ho.slice
  obtain ⟨lb, lc, rfl, hl1, hl2⟩ := hl.slice
  clear ho hi hl
  obtain ⟨n, hn⟩ : ∃ n, os.length = n := ⟨_, rfl⟩
  have HN : Hid (os.length = n) := hn
  rw [hn] at HO hv1 ⊢
  clear hn
  obtain ⟨m, hm⟩ : ∃ m, ks.length = m := ⟨_, rfl⟩
  have HM : Hid (ks.length = m) := hm
  rw [hm] at HL hl1 ⊢
  clear hm
  go_enter Try.func6, Try.ntmps6
  go_wp2_with fail
  refine (new_at cl _).mono ?_
  rintro e w1 ⟨p0, b0, rfl, t0, hB0, n0, m0⟩
  go_wp2_with fail
  refine (new_at (!cl) _).mono ?_
  rintro e w2 ⟨p1, b1, rfl, t1, hB1, n1, m1⟩
  have hT := Tw.start hB0 t0 n0 m0 t1 hB1 n1 m1
  clear hB0 t0 n0 m0 t1 hB1 n1 m1
  go_wp2_with fail
  refine (first_any _).mono ?_
  rintro e w3 ⟨rfl, hB3⟩
  have HT : Hid (Tw w w3 p0 b0 p1 b1 (Tb.new cl) (Tb.new (!cl))) := hT.below hB3
  have HMr : Hid (Mir (Tb.new cl) (Tb.new (!cl))) := Mir.new cl
  clear hT hB3
  go_wp2_with fail
  go_loopw [11] (fun x wr => ∃ (k : Nat) (A B : Tb), k ≤ n ∧ x = .int .i64 (k : Int) ∧ Hid (Tw w wr p0 b0 p1 b1 A B) ∧ Hid (Mir A B)) (fun x _ => n - (intOf x).toNat)
  case atStart => exact ⟨0, _, _, by omega, rfl, HT, HMr⟩
  case round =>
    obtain ⟨k, A, B, hk, hx, hT, hMr⟩ := hrel
    subst hx
    clear HT HMr
    by_cases hlt : k < n
    · have hl := HN.out
      have hin := HO.out.below (hT.out.bel)
      obtain ⟨B', off, cap, e, hBl, d0, d1, d2, d3⟩ := hin.op k (by omega)
      injection e with e1 e2 e3
      subst e1
      clear e2 e3 hin
      have hio := HI.out _ (List.getElem_mem (show k < os.length by omega))
      obtain ⟨o, hoo⟩ : ∃ o, os[k]'(by omega) = o := ⟨_, rfl⟩
      rw [hoo] at d0 d1 d2 d3 hio
      clear hoo hl
      obtain ⟨two, oid, g, kd⟩ := o
      simp only at d0 d1 d2 d3 hio
      have hT1 := hT.out.below (bel1 wr (.cells #[.bool two, .int .i64 oid, .bool g, .int .i64 kd] 29))
      have hop : (wr.alloc (.cells #[.bool two, .int .i64 oid, .bool g, .int .i64 kd] 29)).heap[wr.heap.size]? = some (.cells #[.bool two, .int .i64 oid, .bool g, .int .i64 kd] 29) := heap_alloc_new _ _
      have oka := hT1.t0.ok
      have okb := hT1.t1.ok
      cases two
      · have hstep := hMr.out.step oka okb oid kd
        have hc1 := hT1.call0 oid false kd hio
        have hc2 := fun (W : World) (h : Tw w W p0 b0 p1 b1 (A.doo oid false kd).1 B) => h.call1 oid true kd hio
        rcases hstep with ⟨hx4, hsame⟩ | ⟨hx0, _, hm'⟩
        · rw [hx4, hsame] at hc1
          clear hc2 hx4
          go_wp2_with fail
          refine hc1.mono ?_
          rintro e w5 ⟨rfl, hT5, hk5⟩
          clear hc1
          go_wp2_with fail
          go_roundw
          case rel => exact ⟨k + 1, A, B, by omega, by simp, hT5.below (bel1 w5 _), hMr⟩
          case measure => simp [intOf]; omega
        · rw [hx0] at hc1
          clear hx0
          go_wp2_with fail
          refine hc1.mono ?_
          rintro e w5 ⟨rfl, hT5, hk5⟩
          have hop5 := blk_keep hop hT1.t0 (by decide) hk5
          have ho1 := cell_blk hop5 1
          have ho3 := cell_blk hop5 3
          have hol := heap_lt hop5
          simp only [List.getElem?_toArray, List.getElem?_cons_zero, List.getElem?_cons_succ] at ho1 ho3
          have hc3 := hc2 _ (hT5.below (bel1 w5 (.cells #[.int .i64 0, .int .i64 (A.doo oid false kd).2.2] 44)))
          clear hc1 hc2 hk5 hop hop5 hT1
          go_wp2_with fail
          refine hc3.mono ?_
          rintro e w6 ⟨rfl, hT6, hk6⟩
          clear hc3
          go_wp2_with fail
          go_roundw
          case rel => exact ⟨k + 1, _, _, by omega, by simp, hT6, hm'⟩
          case measure => simp [intOf]; omega
      · have hstep := hMr.out.sym.step okb oka oid kd
        have hc1 := hT1.call1 oid false kd hio
        have hc2 := fun (W : World) (h : Tw w W p0 b0 p1 b1 A (B.doo oid false kd).1) => h.call0 oid true kd hio
        rcases hstep with ⟨hx4, hsame⟩ | ⟨hx0, _, hm'⟩
        · rw [hx4, hsame] at hc1
          clear hc2 hx4
          go_wp2_with fail
          refine hc1.mono ?_
          rintro e w5 ⟨rfl, hT5, hk5⟩
          clear hc1
          go_wp2_with fail
          go_roundw
          case rel => exact ⟨k + 1, A, B, by omega, by simp, hT5.below (bel1 w5 _), hMr⟩
          case measure => simp [intOf]; omega
        · rw [hx0] at hc1
          clear hx0
          go_wp2_with fail
          refine hc1.mono ?_
          rintro e w5 ⟨rfl, hT5, hk5⟩
          have hop5 := blk_keep hop hT1.t1 (by decide) hk5
          have ho1 := cell_blk hop5 1
          have ho3 := cell_blk hop5 3
          have hol := heap_lt hop5
          simp only [List.getElem?_toArray, List.getElem?_cons_zero, List.getElem?_cons_succ] at ho1 ho3
          have hc3 := hc2 _ (hT5.below (bel1 w5 (.cells #[.int .i64 0, .int .i64 (B.doo oid false kd).2.2] 44)))
          clear hc1 hc2 hk5 hop hop5 hT1
          go_wp2_with fail
          refine hc3.mono ?_
          rintro e w6 ⟨rfl, hT6, hk6⟩
          clear hc3
          go_wp2_with fail
          go_roundw
          case rel => exact ⟨k + 1, _, _, by omega, by simp, hT6, hm'.sym⟩
          case measure => simp [intOf]; omega
    · obtain rfl : k = n := by omega
      have hT1 := hT.out
      have oka := hT1.t0.ok
      have hc1 := hT1.call0 id false 6 hid
      rcases reset_cut oka id with h4 | ⟨h0, hcut, hborn⟩
      · rw [h4] at hc1
        go_wp2_with fail
        refine hc1.mono ?_
        rintro e w5 ⟨rfl, hT5, hk5⟩
        have hT6 := hT5.below (bel1 w5 (.cells #[.int .i64 4, .int .i64 (A.doo id false 6).2.2] 44))
        have hcc : ∀ N, Calls Try.prog 21 #[.pointer (some ⟨p0, 0, none⟩), .int .i64 id] ((w5.alloc (.cells #[.int .i64 4, .int .i64 (A.doo id false 6).2.2] 44)).drewN N) fun e w' => e = .returned (.bool ((A.doo id false 6).1.cut id)) ∧ w' = (w5.alloc (.cells #[.int .i64 4, .int .i64 (A.doo id false 6).2.2] 44)).drewN N := fun N => cut_any _ p0 b0 _ id (hT6.t0.stays rfl rfl) hid
        have hbel := hT6.bel
        clear hc1 hT5 hk5 hT6 hT hMr hT1 oka HI
        generalize (A.doo id false 6).1.cut id = cu at hcc
        generalize (A.doo id false 6).2.2 = c5 at hcc hbel ⊢
        cases cu
        · go_wp2_with fail
          go_quiet (first | (go_at_call 21; refine Calls.quiet_of_same (hcc _)))
          go_wp2
          go_ret
          exact ⟨rfl, hbel.os, hbel.tape, hbel.output, hbel.size, hbel.block⟩
        · go_wp2_with fail
          go_quiet (first | (go_at_call 21; refine Calls.quiet_of_same (hcc _)))
          go_wp2
          go_ret
          exact ⟨rfl, hbel.os, hbel.tape, hbel.output, hbel.size, hbel.block⟩
      · rw [h0] at hc1
        have HBo : Hid (B.Born id) := hMr.out.born hborn
        clear h0 hborn
        obtain ⟨A', hA'⟩ : ∃ A', (A.doo id false 6).1 = A' := ⟨_, rfl⟩
        rw [hA'] at hc1 hcut
        clear hA'
        have HCut : Hid (A'.cut id = true) := hcut
        go_wp2_with fail
        refine hc1.mono ?_
        rintro e w5 ⟨rfl, hT5, hk5⟩
        have hT6 := hT5.below (bel1 w5 (.cells #[.int .i64 0, .int .i64 (A.doo id false 6).2.2] 44))
        have hcc : ∀ N, Calls Try.prog 21 #[.pointer (some ⟨p0, 0, none⟩), .int .i64 id] ((w5.alloc (.cells #[.int .i64 0, .int .i64 (A.doo id false 6).2.2] 44)).drewN N) fun e w' => e = .returned (.bool true) ∧ w' = (w5.alloc (.cells #[.int .i64 0, .int .i64 (A.doo id false 6).2.2] 44)).drewN N := fun N => by
          have := cut_any ((w5.alloc (.cells #[.int .i64 0, .int .i64 (A.doo id false 6).2.2] 44)).drewN N) p0 b0 _ id (hT6.t0.stays rfl rfl) hid
          rw [hcut] at this
          exact this
        have hT7 : ∀ N, Tw w ((w5.alloc (.cells #[.int .i64 0, .int .i64 (A.doo id false 6).2.2] 44)).drewN N) p0 b0 p1 b1 A' B := fun N => hT6.below ⟨rfl, rfl, rfl, Nat.le_refl _, fun _ _ => rfl⟩
        clear hc1 hT5 hk5 hT6 hT hMr hT1 oka hcut
        generalize (A.doo id false 6).2.2 = c5 at hcc hT7 ⊢
        go_wp2_with fail
        go_quiet (first | (go_at_call 21; refine Calls.quiet_of_same (hcc _)))
        clear hcc
        have hlive := live_any _ p0 b0 A' (hT7 nq).t0
        have hT8 := hT7 nq
        clear hT7
        go_wp2_with fail
        refine hlive.mono ?_
        rintro e w6 ⟨rv, rfl, hR, hrn, hB6⟩
        have HT8 : Hid (Tw w w6 p0 b0 p1 b1 A' B) := hT8.below hB6
        have HR : Hid (R EI w6 rv A'.live) := hR
        clear hlive hT8 hB6 hR hrn
        go_wp2_with fail
        go_loopw [18] (fun x wr => ∃ (k : Nat) (B : Tb), k ≤ m ∧ x = .int .i64 (k : Int) ∧ Hid (Tw w wr p0 b0 p1 b1 A' B) ∧ Hid (B.Born id) ∧ Hid (R EI wr rv A'.live)) (fun x _ => m - (intOf x).toNat)
        case atStart => exact ⟨0, _, by omega, rfl, HT8, HBo, HR⟩
        case round =>
          obtain ⟨j, C, hj, hx, hT, hBo, hRR⟩ := hrel
          subst hx
          clear HT8 HBo HR
          by_cases hlt : j < m
          · have hl := HM.out
            have hT1 := hT.out
            obtain ⟨B', off, cap, e, hBl, d0⟩ := (HL.out.below hT1.bel).kind j (by omega)
            injection e with e1 e2 e3
            subst e1
            clear e2 e3
            have hlate : ∀ W, Tw w W p0 b0 p1 b1 A' (C.doo id false (ks[j]'(by omega))).1 → W.cell? ⟨B', off + j, none⟩ = some (.int .i64 (ks[j]'(by omega))) ∧ B' < W.heap.size := fun W h => by
              obtain ⟨B2, off2, cap2, e, hBl2, d2⟩ := (HL.out.below h.bel).kind j (by omega)
              injection e with e1 e2 e3
              injection e1 with e1
              injection e1 with e4 e5 e6
              subst e4 e5
              exact ⟨d2, hBl2⟩
            obtain ⟨kd, hkd⟩ : ∃ kd, ks[j]'(by omega) = kd := ⟨_, rfl⟩
            rw [hkd] at d0 hlate
            clear hkd hl
            have hc1 := hT1.call1 id false kd hid
            have hrow := fun (W : World) (hk : K2s p1 b1 wr W) => row_keep hRR.out hT1.t1 hk
            have HBo2 : Hid ((C.doo id false kd).1.Born id) := hBo.out.doo hT1.t1.ok id false kd
            by_cases hz : (C.doo id false kd).2.1 = 0
            · have hig := late_ignored hT1.t0.ok hT1.t1.ok HCut.out hBo.out hz
              rw [hz] at hc1
              have hc2 := fun (W : World) (h : Tw w W p0 b0 p1 b1 A' (C.doo id false kd).1) => h.call0 id true kd hid
              rw [hig] at hc2
              have hst := hT1.t0.ok.cut_st HCut.out
              clear hz hig
              obtain ⟨C', hC'⟩ : ∃ C', (C.doo id false kd).1 = C' := ⟨_, rfl⟩
              rw [hC'] at hc1 hc2 hlate HBo2
              generalize (C.doo id false kd).2.2 = c6 at hc1
              clear hC' hT1
              go_wp2_with fail
              refine hc1.mono ?_
              rintro e w7 ⟨rfl, hT7, hk7⟩
              have hr7 := (hrow _ hk7).below (bel1 w7 (.cells #[.int .i64 0, .int .i64 c6] 44))
              have hT8 := hT7.below (bel1 w7 (.cells #[.int .i64 0, .int .i64 c6] 44))
              obtain ⟨d1, d2⟩ := hlate _ hT8
              have hc3 := hc2 _ hT8
              clear hc1 hc2 hk7 hT7 hrow hlate d0 hBl
              go_wp2_with fail
              refine hc3.mono ?_
              rintro e w8 ⟨rfl, hT9, hk9⟩
              have hr9 := (row_keep hr7 hT8.t0 hk9).below (bel1 w8 (.cells #[.int .i64 1, .int .i64 0] 44))
              have hTa := hT9.below (bel1 w8 (.cells #[.int .i64 1, .int .i64 0] 44))
              have hs1 := state_any _ p0 b0 A' id hTa.t0 hid
              rw [hst] at hs1
              clear hc3 hk9 hT9 hr7 hT8 d1 d2 hst
              go_wp2_with fail
              refine hs1.mono ?_
              rintro e w9 ⟨rfl, hB9⟩
              replace hTa := hTa.below hB9
              replace hr9 := hr9.below hB9
              have hcu := cut_any _ p0 b0 A' id hTa.t0 hid
              rw [HCut.out] at hcu
              clear hs1 hB9
              go_wp2_with fail
              refine hcu.mono ?_
              rintro e w9 ⟨rfl, rfl⟩
              have hlv := live_any _ p0 b0 A' hTa.t0
              clear hcu
              go_wp2_with fail
              refine hlv.mono ?_
              rintro e wa ⟨rv2, rfl, hR2, _, hBa⟩
              replace hTa := hTa.below hBa
              replace hr9 := hr9.below hBa
              have hsm := sameInts_eq _ rv2 rv A'.live hR2.isIn hr9.isIn
              clear hlv hBa hR2
              go_wp2_with fail
              refine hsm.mono ?_
              rintro e wb ⟨rfl, hBb⟩
              replace hTa := hTa.below hBb
              replace hr9 := hr9.below hBb
              clear hsm hBb
              go_wp2_with fail
              go_roundw
              case rel => exact ⟨j + 1, C', by omega, by simp, hTa, HBo2, hr9⟩
              case measure => simp [intOf]; omega
            · have ez : ((C.doo id false kd).2.1 == 0) = false := beq_eq_false_iff_ne.2 hz
              clear hz hlate hT1
              generalize (C.doo id false kd).2.1 = v6 at hc1 ez
              generalize (C.doo id false kd).2.2 = c6 at hc1
              obtain ⟨C', hC'⟩ : ∃ C', (C.doo id false kd).1 = C' := ⟨_, rfl⟩
              rw [hC'] at hc1 HBo2
              clear hC'
              go_wp2_with fail
              refine hc1.mono ?_
              rintro e w7 ⟨rfl, hT7, hk7⟩
              have hr7 := (hrow _ hk7).below (bel1 w7 (.cells #[.int .i64 v6, .int .i64 c6] 44))
              have hT8 := hT7.below (bel1 w7 (.cells #[.int .i64 v6, .int .i64 c6] 44))
              clear hc1 hk7 hT7 hrow
              go_wp2_with fail
              go_roundw
              case rel => exact ⟨j + 1, C', by omega, by simp, hT8, HBo2, hr7⟩
              case measure => simp [intOf]; omega
          · obtain rfl : j = m := by omega
            have hT1 := hT.out
            have hc1 := hT1.call1 id true 6 hid
            have hst := reset_got hT1.t1.ok hBo.out
            have hok := Tb.doo_ok hT1.t1.ok id true 6
            have hnl := hok.not_live hst
            have hna := hT1.t0.ok.not_live (hT1.t0.ok.cut_st HCut.out)
            obtain ⟨C', hC'⟩ : ∃ C', (C.doo id true 6).1 = C' := ⟨_, rfl⟩
            rw [hC'] at hc1 hst hnl
            clear hC' hok hT1 hT hBo hRR
            go_wp2_with fail
            refine hc1.mono ?_
            rintro e w7 ⟨rfl, hT7, hk7⟩
            have hs1 := state_any _ p1 b1 C' id hT7.t1 hid
            rw [hst] at hs1
            clear hc1 hk7 hst
            go_wp2_with fail
            refine hs1.mono ?_
            rintro e w9 ⟨rfl, hB9⟩
            replace hT7 := hT7.below hB9
            have hlv := live_any _ p0 b0 A' hT7.t0
            clear hs1 hB9
            go_wp2_with fail
            refine hlv.mono ?_
            rintro e wa ⟨rv2, rfl, hR2, _, hBa⟩
            replace hT7 := hT7.below hBa
            have hin1 := in_any _ rv2 A'.live id hR2.isIn
            rw [decide_eq_false hna] at hin1
            clear hlv hBa hR2
            go_wp2_with fail
            refine hin1.mono ?_
            rintro e wa ⟨rfl, rfl⟩
            have hlv := live_any _ p1 b1 C' hT7.t1
            clear hin1
            go_wp2_with fail
            refine hlv.mono ?_
            rintro e wb ⟨rv3, rfl, hR3, _, hBb⟩
            replace hT7 := hT7.below hBb
            have hin1 := in_any _ rv3 C'.live id hR3.isIn
            rw [decide_eq_false hnl] at hin1
            clear hlv hBb hR3
            go_wp2_with fail
            refine hin1.mono ?_
            rintro e wb ⟨rfl, rfl⟩
            have hbel := hT7.bel
            clear hin1 hT7
            go_wp2
            go_ret
            exact ⟨rfl, hbel⟩
end Go.Proofs.Ytaaocgppniflcaa
