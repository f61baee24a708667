/- ManifestPlans. -/
import Derived.Test.YtldnibkgdpeocaaG3
namespace Go.Proofs.Ytldnibkgdpeocaa
open Go.RowKit Go.Maps
open Go.Shelf
set_option linter.unusedVariables false
set_option linter.unusedSimpArgs false

set_option maxHeartbeats 32000000 in
set_option maxRecDepth 100000 in
theorem plans_any (x z : SV) (rs : List Ru) (aq : List Tg) (most : Int) (w : World) (hI : In ER w (sv x) rs) (hC : PsIn w rs) (hA : In ET w (sv z) aq) (hz : rs.length ≤ 1048576) (hz2 : ∀ r ∈ rs, r.l.length ≤ 1048576 ∧ tz r.t ∧ ∀ c ∈ r.l, tz c) (hz3 : aq.length ≤ 1048576 ∧ ∀ c ∈ aq, tz c) :
    Calls Try.prog 6 #[sv x, sv z, .int .i64 most] w fun e w' => e = .returned (.bool true) ∧ Below w.heap.size w w' := by
  have HI : Hid (In ER w (sv x) rs) := hI
  have HC : Hid (PsIn w rs) := hC
  have HA : Hid (In ET w (sv z) aq) := hA
  have HZ : Hid (rs.length ≤ 1048576) := hz
  have HZ2 : Hid (∀ r ∈ rs, r.l.length ≤ 1048576 ∧ tz r.t ∧ ∀ c ∈ r.l, tz c) := hz2
  have HZ3 : Hid (aq.length ≤ 1048576 ∧ ∀ c ∈ aq, tz c) := hz3
  have HLE : Hid (Calls Try.prog 16 #[sv x] w fun e w' => LePost (rs.map puR) w e w') := lent_any x rs w hI hC hz fun r hr => (hz2 r hr).1
  have HOW : Hid (∀ W, Below w.heap.size w W → Calls Try.prog 9 #[sv x] W fun e w' => OwPost (rs.map puR) W e w') := fun W hW => own_any x rs W (hI.below hW) (hC.below hW) (by omega) fun r hr => by have := (hz2 r hr).1; omega
  have HKP : Hid (∀ (W : World) (y : SV) (ls : List Ru), Below w.heap.size w W → Ln w W y ls → ls.map puR = rs.map puR → Calls Try.prog 18 #[sv y, sv x] W fun e w' => e = .returned (.bool true) ∧ Below W.heap.size W w') := fun W y ls hW hL hp => kept_any w y x ls rs W hL (hI.below hW) (hC.below hW) hp hz fun r hr => (hz2 r hr).1
  obtain ⟨b, c, e, m1, m2⟩ := hI.slice
  obtain ⟨b', c', e', m3, m4⟩ := hA.slice
  obtain ⟨sb, sl, sc⟩ := x
  obtain ⟨qb, ql, qc⟩ := z
  simp only [sv] at e e' HI HA HLE HOW HKP ⊢
  injection e with e1 e2 e3
  injection e' with f1 f2 f3
  subst e1 e2 e3 f1 f2 f3
  clear hI hC hA hz hz2 hz3
  go_enter Try.func6, Try.ntmps6
  go_wp2_with fail
  go_at_call 16
  refine HLE.out.mono ?_
  rintro e w1 ⟨⟨yb, yl, yc⟩, ls, rfl, hLn, hps, hb1⟩
  have HLn : Hid (Ln w w1 (yb, yl, yc) ls) := hLn
  have HPS : Hid (ls.map puR = rs.map puR) := hps
  have HB1 : Hid (Below w.heap.size w w1) := hb1
  have HOF : Hid (Calls Try.prog 8 #[sv (yb, yl, yc)] w1 fun e w' => OfPost ls w1 e w') := of_any (yb, yl, yc) ls w1 hLn.isIn.1 hLn.isIn.2
  have HOE : Hid (ofE ls = ofE rs) := ofE_eq hps
  clear hLn hps hb1 HLE
  simp only [sv] at HOF ⊢
  go_wp2_with fail
  go_at_call 8
  refine HOF.out.mono ?_
  rintro e w2 ⟨hb2, hcase⟩
  have HB12 : Hid (Below w1.heap.size w1 w2) := hb2
  have HB2 : Hid (Below w.heap.size w w2) := HB1.out.trans (hb2.mono HB1.out.size)
  rw [HOE.out, HPS.out] at hcase
  by_cases h0 : ofE rs = 0
  · obtain ⟨g, rfl, hMn⟩ : ∃ g, e = .returned (.tuple #[.pointer (some ⟨g, 0, none⟩), .int .i64 0]) ∧ Mn w1 w2 g (rs.map puR) := by
      rcases hcase with ⟨h, _⟩ | ⟨_, h⟩
      · exact absurd h0 h
      · exact h
    have HM2 : Hid (MM w2 w1.heap.size w2.heap.size g (rs.map puR)) := MM.of hMn
    have H0 : Hid (ofE rs = 0) := h0
    clear hMn hcase hb2 h0 HOF
    go_wp2_with fail
    go_at_call 9
    refine (HOW.out w2 HB2.out).mono ?_
    rintro e w3 ⟨⟨ob, ol, oc⟩, rs3, rfl, hR3, hP3, hps3, hb3, _⟩
    have HB23 : Hid (Below w2.heap.size w2 w3) := hb3
    have HRO : Hid (Calls Try.prog 17 #[sv (ob, ol, oc)] w3 fun e w' => ROfPost rs3 w3 e w') := rof_any (ob, ol, oc) rs3 w3 hR3.isIn (fun r hr => (hP3 r hr).isIn) (pu_all hps3 (P := fun p => tz p.1 ∧ ∀ c ∈ p.2, tz c) fun r hr => (HZ2.out r hr).2)
    have HP3 : Hid (rs3.map puR = rs.map puR) := hps3
    clear hR3 hP3 hps3 hb3
    simp only [sv] at HRO ⊢
    go_wp2_with fail
    go_at_call 17
    refine HRO.out.mono ?_
    rintro e w4 ⟨hb4, hcase⟩
    rw [ofE_eq HP3.out, HP3.out] at hcase
    obtain ⟨g2, v, rfl, hDm⟩ : ∃ g2 v, e = .returned (.tuple #[.pointer (some ⟨g2, 0, none⟩), .int .i64 0]) ∧ Dm w4 w3.heap.size g2 v (rs.map puR) := by
      rcases hcase with ⟨h, _⟩ | ⟨_, h⟩
      · exact absurd H0.out h
      · exact h
    have hb14 : Below w1.heap.size w1 w4 := HB12.out.trans ((HB23.out.trans (hb4.mono HB23.out.size)).mono HB12.out.size)
    have HK4 : Hid (Kp w w1.heap.size w1.heap.size w2.heap.size g w3.heap.size g2 v (rs.map puR) w4) := ⟨HB1.out.trans (hb14.mono HB1.out.size), (HM2.out.below HB23.out).below hb4, hDm, Nat.le_refl _, Nat.le_trans HB12.out.size HB23.out.size, hb4.size⟩
    have HL4 : Hid (Ln w w4 (yb, yl, yc) ls) := HLn.out.below hb14
    have HKK : Hid (Calls Try.prog 18 #[.slice yb yl yc, .slice sb rs.length sc] w4 fun e w' => e = .returned (.bool true) ∧ Below w4.heap.size w4 w') := HKP.out w4 (yb, yl, yc) ls HK4.out.bel HL4.out HPS.out
    clear hcase hDm hb4 HRO HM2
    go_wp2_with fail
    go_at_call 18
    refine HKK.out.mono ?_
    rintro e w5 ⟨rfl, hb5⟩
    have hb15 : Below w1.heap.size w1 w5 := hb14.trans (hb5.mono hb14.size)
    have HK5 : Hid (Kp w w1.heap.size w1.heap.size w2.heap.size g w3.heap.size g2 v (rs.map puR) w5) := HK4.out.below hb5
    have HB15 : Hid (Below w1.heap.size w1 w5) := hb15
    clear hb5 hb14 hb15 HKK HK4 HL4
    go_wp2_with fail
    go_at_call 10
    refine (first_any _).mono ?_
    rintro e w6 ⟨rfl, hb6⟩
    have HK6 : Hid (Kp w w1.heap.size w1.heap.size w2.heap.size g w3.heap.size g2 v (rs.map puR) w6) := HK5.out.below hb6
    have hb16 : Below w1.heap.size w1 w6 := HB15.out.trans (hb6.mono HB15.out.size)
    have hL6 := HLn.out.below hb16
    have hlen : ls.length = rs.length := by have := congrArg List.length HPS.out; simpa using this
    obtain ⟨n, hn⟩ : ∃ n, n = ls.length := ⟨_, rfl⟩
    have hyl := HLn.out.len
    simp only at hyl
    have hrow1 := HLn.out.row
    simp only at hrow1
    obtain ⟨gg, hgg⟩ : ∃ gg, yb = some ⟨gg, 0, none⟩ ∧ w.heap.size ≤ gg ∧ gg < w1.heap.size := by
      rcases hrow1.2 with ⟨e, h0⟩ | ⟨g', cap, cur, e, _, hg, _⟩
      · cases e
      · injection e with e1 e2 e3
        exact ⟨g', e1, HLn.out.new g' (by rw [e1]; rfl), heap_lt hg⟩
    obtain ⟨rfl, hg1, hg2⟩ := hgg
    have HGG : Hid (w.heap.size ≤ gg ∧ gg < w1.heap.size) := ⟨hg1, hg2⟩
    obtain ⟨b9, c9, e9, k3, k4⟩ := hrow1.slice
    injection e9 with x1 x2 x3
    rw [← x3] at k3 k4
    simp only [List.length_append, List.length_singleton] at k3
    have HN : Hid (n = ls.length ∧ n = rs.length) := ⟨hn, by omega⟩
    have hn64 : n ≤ 64 := by have := (of_len H0.out).1; omega
    have HN8 : Hid (∀ r ∈ ls, r.l.length ≤ 8) := pu_all HPS.out (P := fun p => p.2.length ≤ 8) (of_len H0.out).2
    have HRW : Hid (R ER w6 (.slice (some ⟨gg, 0, none⟩) (n + 1) yc) (oL ls 0)) := by rw [hn]; exact hL6.row
    have HWB : Hid (∀ r ∈ ls, Wb w.heap.size w1.heap.size w6 r) := fun r hr => (Wb.of (HLn.out.each r hr)).stays fun k c hk => hb16.block k (heap_lt hk)
    have hyn : yl = n := by omega
    have k5 : n ≤ yc := by omega
    subst hyn
    clear hb6 hb16 hL6 hlen hn hyl hrow1 hg1 hg2 x1 x2 x3 k3 HK5 HB15
    go_wp2_with fail
    go_loopw [12, 13] (fun iv _ wr => ∃ i : Nat, iv = .int .i64 (i : Int) ∧ i ≤ yl ∧ Hid (R ER wr (.slice (some ⟨gg, 0, none⟩) (yl + 1) yc) (oL ls i)) ∧ Hid (∀ r ∈ ls, Wb w.heap.size w1.heap.size wr r) ∧ Hid (Kp w w1.heap.size w1.heap.size w2.heap.size g w3.heap.size g2 v (rs.map puR) wr)) (fun iv _ _ => yl - (intOf iv).toNat)
    case atStart => exact ⟨0, rfl, by omega, HRW.out, HWB.out, HK6.out⟩
    case round =>
      obtain ⟨i, rfl, hi, hR, hW, hK⟩ := hrel
      by_cases hlt : i < yl
      · have l1 : (i : Int) < (yl : Int) := by omega
        have hil : i < ls.length := by have := HN.out; omega
        have hio : i < (oL ls i).length := by rw [oL_len (by omega)]; omega
        obtain ⟨s, hs⟩ : ∃ s, ls[i] = s := ⟨_, rfl⟩
        have HS8 : Hid (s.l.length ≤ 8) := by rw [← hs]; exact HN8.out _ (List.getElem_mem hil)
        have HSM : Hid (s ∈ ls) := by rw [← hs]; exact List.getElem_mem hil
        have HSG : Hid ((oL ls i)[i]'hio = s) := by rw [← hs]; exact oL_get hil
        have HSL : Hid (s.y.2.1 = s.l.length) := by rw [← hs]; exact (HLn.out.each _ (List.getElem_mem hil)).2.1
        clear hs
        obtain ⟨T2, ⟨zb, zl, zc⟩, l2⟩ := s
        simp only at HS8 HSL
        obtain ⟨L, hL⟩ : ∃ L, L = l2.length := ⟨_, rfl⟩
        have HL : Hid (L = l2.length) := hL
        have hzl : zl = L := by rw [hL]; exact HSL.out
        subst hzl
        have h8 : zl ≤ 8 := by rw [hL]; exact HS8.out
        have HCG : Hid (∀ V, R ER V (.slice (some ⟨gg, 0, none⟩) (yl + 1) yc) (oL ls i) → V.cell? ⟨gg, i * 3 + 2, none⟩ = some (.slice zb zl zc)) := fun V h => by
          obtain ⟨B, off, cap, e, hB, hc⟩ := h.isIn.get okR i hio
          injection e with e1
          injection e1 with e1
          injection e1 with e1 e4
          have := hc 2 _ rfl
          rw [HSG.out] at this
          rw [← e1, ← e4, Nat.zero_add] at this
          exact this
        clear hL HSL
        have c2 := HCG.out wr hR.out
        go_wp2_with fail
        go_loopw [13] (fun jv wr => ∃ j : Nat, jv = .int .i64 (j : Int) ∧ j ≤ zl ∧ Hid (R ER wr (.slice (some ⟨gg, 0, none⟩) (yl + 1) yc) (oL ls i)) ∧ Hid (∀ r ∈ ls, Wb w.heap.size w1.heap.size wr r) ∧ Hid (Kp w w1.heap.size w1.heap.size w2.heap.size g w3.heap.size g2 v (rs.map puR) wr)) (fun jv _ => zl - (intOf jv).toNat)
        case atStart => exact ⟨0, rfl, by omega, hR.out, hW.out, hK.out⟩
        case round =>
          obtain ⟨j, rfl, hj, hRj, hWj, hKj⟩ := hrel
          have c3 := HCG.out wr hRj.out
          by_cases hjl : j < zl
          · have l2' : (j : Int) < (zl : Int) := by omega
            have HW0 := hWj.out _ HSM.out
            obtain ⟨gz, cur, z1, z2, z3, z4, z5, z6, z7⟩ := HW0.resolve_left (fun e => by simp only at e; have := HL.out; rw [e] at this; simp at this; omega)
            simp only [sv] at z1 z2 z3 z7
            injection z1 with z1 za zb'
            clear za zb'
            subst z1
            have hj2 : j * 2 + 1 < cur.size := by have := HL.out; omega
            have hne : gg ≠ gz := fun e => by
              obtain ⟨cc, hcc⟩ := hRj.out.ty gg rfl
              rw [e, z6] at hcc
              injection hcc with hcc
              injection hcc with _ hcc
              simp [ER] at hcc
            have HZ6 : Hid (∀ V, Below wr.heap.size wr V → V.heap[gz]? = some (.cells cur 26 (0, 0))) := fun V hV => (hV.block _ (heap_lt z6)).trans z6
            have HZB : Hid (w.heap.size ≤ gz ∧ gz < w1.heap.size) := ⟨z4, z5⟩
            have HRn : Hid (∀ V, Below wr.heap.size wr V → R ER (setT V gz j (aS, ⟨#[47, 119, 114, 105, 116, 116, 101, 110]⟩)) (.slice (some ⟨gg, 0, none⟩) (yl + 1) yc) (oL ls i)) := fun V hV => (hRj.out.below hV).stays fun k hk _ => by
              simp [Value.ownBlock] at hk
              subst hk
              unfold setT
              rw [setCell_other _ _ _ _ _ hne, setCell_other _ _ _ _ _ hne]
            have HKn : Hid (∀ V, Below wr.heap.size wr V → Kp w w1.heap.size w1.heap.size w2.heap.size g w3.heap.size g2 v (rs.map puR) (setT V gz j (aS, ⟨#[47, 119, 114, 105, 116, 116, 101, 110]⟩))) := fun V hV => (hKj.out.below hV).ks (A := fun k => k = gz) (fun k e => by rw [e]; exact HZB.out) (setT_ks _ _ _ _ _ rfl)
            have HWn : Hid (∀ V, Below wr.heap.size wr V → ∀ r ∈ ls, Wb w.heap.size w1.heap.size (setT V gz j (aS, ⟨#[47, 119, 114, 105, 116, 116, 101, 110]⟩)) r) := fun V hV r hr => ((hWj.out r hr).stays fun k c hk => hV.block k (heap_lt hk)).set _ _ _
            have HCY : Hid (∀ V, Below wr.heap.size wr V → V.cell? ⟨gg, i * 3 + 2, none⟩ = some (.slice (some ⟨gz, 0, none⟩) zl zc)) := fun V hV => HCG.out V (hRj.out.below hV)
            clear z2 z3 z4 z5 z6 z7 HW0
            go_wp2_with fail
            have hbW : Below wr.heap.size wr wr.drew := (Below.refl _ _).drew
            refine wp_region_held_drew (S := (fun V => V.cell? ⟨gg, i * 3 + 2, none⟩ = some (.slice (some ⟨gz, 0, none⟩) zl zc))) (by kernel_rfl) (HCY.out _ hbW) (fun hHeld => ?_)
            generalize hWg : World.drew _ = W at hbW hHeld ⊢
            clear hWg
            refine wpAnyH_take (i := 0) (oi := { dst := some 72, op := Op.move (Operand.tmp 7), type := 23, pos := "law.go:83", after := #[], guard := none }) (v := ?vv1) rfl (by kernel_rfl) (by kernel_rfl) (by kernel_rfl) (fun _ _ _ h => h) (Or.inl ⟨by rfl, ?hy1⟩) (by assumption) ?_
            case hy1 => (intro w hSw; (try dsimp only at hSw); go_simp; all_goals with_reducible rfl)
            try simp only [Act.put, List.setIfInBounds_toArray, List.set_cons_zero, List.set_cons_succ]
            refine wpAnyH_take (i := 1) (oi := { dst := some 73, op := Op.move (Operand.tmp 12), type := 3, pos := "law.go:83", after := #[], guard := none }) (v := ?vv2) rfl (by kernel_rfl) (by kernel_rfl) (by kernel_rfl) (fun _ _ _ h => h) (Or.inl ⟨by rfl, ?hy2⟩) (by assumption) ?_
            case hy2 => (intro w hSw; (try dsimp only at hSw); go_simp; all_goals with_reducible rfl)
            try simp only [Act.put, List.setIfInBounds_toArray, List.set_cons_zero, List.set_cons_succ]
            refine wpAnyH_take (i := 2) (oi := { dst := some 74, op := Op.indexAddr 23 (Operand.tmp 72) (Operand.tmp 73), type := 0, pos := "law.go:83", after := #[{ on := 0, ground := Ground.data }, { on := 1, ground := Ground.data }], guard := none }) (v := ?vv3) rfl (by kernel_rfl) (by kernel_rfl) (by kernel_rfl) (fun _ _ _ h => h) (Or.inl ⟨by rfl, ?hy3⟩) (by assumption) ?_
            case hy3 => (intro w hSw; (try dsimp only at hSw); go_simp; all_goals with_reducible rfl)
            try simp only [Act.put, List.setIfInBounds_toArray, List.set_cons_zero, List.set_cons_succ]
            refine wpAnyH_take (i := 3) (oi := { dst := some 75, op := Op.fieldAddr 29 (Operand.tmp 74) 1, type := 0, pos := "law.go:83", after := #[{ on := 2, ground := Ground.data }], guard := none }) (v := ?vv4) rfl (by kernel_rfl) (by kernel_rfl) (by kernel_rfl) (fun _ _ _ h => h) (Or.inl ⟨by rfl, ?hy4⟩) (by assumption) ?_
            case hy4 => (intro w hSw; (try dsimp only at hSw); go_simp; all_goals with_reducible rfl)
            try simp only [Act.put, List.setIfInBounds_toArray, List.set_cons_zero, List.set_cons_succ]
            refine wpAnyH_take (i := 4) (oi := { dst := some 76, op := Op.load 27 (Operand.tmp 75), type := 27, pos := "law.go:83", after := #[{ on := 3, ground := Ground.data }], guard := none }) (v := ?vv5) rfl (by kernel_rfl) (by kernel_rfl) (by kernel_rfl) (fun _ _ _ h => h) (Or.inl ⟨by rfl, ?hy5⟩) (by assumption) ?_
            case hy5 => (intro w hSw; (try dsimp only at hSw); go_simp; all_goals with_reducible rfl)
            try simp only [Act.put, List.setIfInBounds_toArray, List.set_cons_zero, List.set_cons_succ]
            refine wpAnyH_take (i := 5) (oi := { dst := some 77, op := Op.move (Operand.tmp 13), type := 3, pos := "law.go:83", after := #[], guard := none }) (v := ?vv6) rfl (by kernel_rfl) (by kernel_rfl) (by kernel_rfl) (fun _ _ _ h => h) (Or.inl ⟨by rfl, ?hy6⟩) (by assumption) ?_
            case hy6 => (intro w hSw; (try dsimp only at hSw); go_simp; all_goals with_reducible rfl)
            try simp only [Act.put, List.setIfInBounds_toArray, List.set_cons_zero, List.set_cons_succ]
            refine wpAnyH_ready (rs := [6]) (by kernel_rfl) (by simp) ?_
            refine AllReadyH.cons (o := { dst := some 78, op := Op.call { callee := Callee.value (Operand.func 19), args := #[Operand.const (Value.string { data := #[47, 119, 114, 105, 116, 116, 101, 110] })], argTypes := #[9] }, type := 26, pos := "law.go:83", after := #[], guard := none }) rfl (fun K hK => ?_) AllReadyH.nil
            go_simp
            refine (at' _ _).mono ?_
            rintro e' Wx ⟨rfl, bX⟩
            have hbWx : Below wr.heap.size wr Wx := hbW.trans (bX.mono hbW.size)
            clear bX
            go_wp2_with fail
            refine hK.out _ _ (HCY.out _ hbWx) (fun hHeld => ?_)
            clear hK K
            try simp only [Act.put, List.setIfInBounds_toArray, List.set_cons_zero, List.set_cons_succ]
            refine wpAnyH_take (i := 7) (oi := { dst := some 79, op := Op.indexAddr 27 (Operand.tmp 76) (Operand.tmp 77), type := 0, pos := "law.go:83", after := #[{ on := 4, ground := Ground.data }, { on := 5, ground := Ground.data }, { on := 0, ground := Ground.phase }, { on := 1, ground := Ground.phase }, { on := 2, ground := Ground.phase }, { on := 3, ground := Ground.phase }, { on := 4, ground := Ground.phase }, { on := 5, ground := Ground.phase }, { on := 6, ground := Ground.phase }], guard := none }) (v := ?vv7) rfl (by kernel_rfl) (by kernel_rfl) (by kernel_rfl) (fun _ _ _ h => h) (Or.inl ⟨by rfl, ?hy7⟩) (by assumption) ?_
            case hy7 => (intro w hSw; (try dsimp only at hSw); go_simp; all_goals with_reducible rfl)
            try simp only [Act.put, List.setIfInBounds_toArray, List.set_cons_zero, List.set_cons_succ]
            refine wpAnyH_ready (rs := [8]) (by kernel_rfl) (by simp) ?_
            refine AllReadyH.cons (o := { dst := none, op := Op.store 26 (Operand.tmp 79) (Operand.tmp 78), type := 0, pos := "law.go:83", after := #[{ on := 7, ground := Ground.data }, { on := 6, ground := Ground.data }, { on := 6, ground := Ground.chain }, { on := 0, ground := Ground.phase }, { on := 1, ground := Ground.phase }, { on := 2, ground := Ground.phase }, { on := 3, ground := Ground.phase }, { on := 4, ground := Ground.phase }, { on := 5, ground := Ground.phase }, { on := 6, ground := Ground.phase }], guard := none }) rfl (fun K hK => ?_) AllReadyH.nil
            have hg := HZ6.out _ hbWx
            have f0 : Wx.cell? ⟨gz, j * 2, none⟩ = some (cur[j * 2]'(by omega)) := by rw [cell_blk hg]; simp
            have f1 : Wx.cell? ⟨gz, j * 2 + 1, none⟩ = some (cur[j * 2 + 1]'(by omega)) := by rw [cell_blk hg]; simp
            have f2 := frozen_blk hg (j * 2)
            have f3 := frozen_blk hg (j * 2 + 1)
            have HRN := HRn.out _ hbWx
            have HKN := HKn.out _ hbWx
            have HWN := HWn.out _ hbWx
            have HSN : Hid (World.cell? (setT Wx gz j (aS, ⟨#[47, 119, 114, 105, 116, 116, 101, 110]⟩)) ⟨gg, i * 3 + 2, none⟩ = some (.slice (some ⟨gz, 0, none⟩) zl zc)) := HCG.out _ HRN
            unfold setT aS at HRN HKN HWN HSN
            simp only at HRN HKN HWN HSN
            clear hg
            go_simp
            go_wp2_with fail
            refine hK.out _ _ HSN.out (fun hHeld => ?_)
            clear hK K
            try simp only [Act.put, List.setIfInBounds_toArray, List.set_cons_zero, List.set_cons_succ]
            refine wpAnyH_done (by kernel_rfl) ?_ _
            have HRQ : Hid _ := HRN
            have HKQ : Hid _ := HKN
            have HWQ : Hid _ := HWN
            clear HRN HKN HWN f0 f1 f2 f3
            go_wp2_with fail
            go_roundw
            case rel => exact ⟨j + 1, by simp, by omega, HRQ.out, HWQ.out, HKQ.out⟩
            case measure => simp [intOf] <;> omega
          · have l2' : ¬ (j : Int) < (zl : Int) := by omega
            obtain ⟨g', cap', e5, x1, x2, g2', x3, g3, g4, x4⟩ := hRj.out.setc okR i 0 hio (by decide)
            injection e5 with e5 e6 e7
            clear e6 e7
            injection e5 with e5
            injection e5 with e5 e6
            clear e6
            subst e5
            rw [HSG.out] at g3
            have HF : Hid (∀ V, Below wr.heap.size wr V → (V.cell? ⟨gg, i * 3, none⟩ = some (.string T2.1) ∧ V.cell? ⟨gg, i * 3 + 1, none⟩ = some (.string T2.2) ∧ V.cell? ⟨gg, i * 3 + 2, none⟩ = some (.slice zb zl zc)) ∧ V.frozen? ⟨gg, i * 3, none⟩ = false ∧ V.frozen? ⟨gg, i * 3 + 1, none⟩ = false ∧ V.frozen? ⟨gg, i * 3 + 2, none⟩ = false) := fun V hV => by
              obtain ⟨cc, hcc⟩ := hRj.out.ty gg rfl
              have hb' := (hV.block _ (heap_lt hcc)).trans hcc
              exact ⟨⟨(hV.cell (p := ⟨gg, _, none⟩) (heap_lt hcc)).trans (g3 0 _ rfl), (hV.cell (p := ⟨gg, _, none⟩) (heap_lt hcc)).trans (g3 1 _ rfl), (hV.cell (p := ⟨gg, _, none⟩) (heap_lt hcc)).trans (g3 2 _ rfl)⟩, frozen_blk hb' _, frozen_blk hb' _, frozen_blk hb' _⟩
            clear x1 x2 x3 x4 g2' g3 g4 c2
            go_wp2_with fail
            go_at_call 19
            refine (at' _ _).mono ?_
            rintro e w8 ⟨rfl, hb8⟩
            obtain ⟨⟨f0, f1, f2⟩, f3, f4, f5⟩ := HF.out w8 hb8
            have HRn : Hid (R ER (setU w8 gg i ovU) (.slice (some ⟨gg, 0, none⟩) (yl + 1) yc) (oL ls (i + 1))) := by have := (hRj.out.below hb8).setU i hio ovU; rw [oL_set hil] at this; exact this
            have HKn : Hid (Kp w w1.heap.size w1.heap.size w2.heap.size g w3.heap.size g2 v (rs.map puR) (setU w8 gg i ovU)) := (hKj.out.below hb8).ks (A := fun k => k = gg) (fun k e => by rw [e]; exact HGG.out) (setU_ks _ _ _ _ _ rfl)
            have HWn : Hid (∀ r ∈ ls, Wb w.heap.size w1.heap.size (setU w8 gg i ovU) r) := fun r hr => ((hWj.out r hr).stays fun k c hk => hb8.block k (heap_lt hk)).stays fun k c hk => by
              have hne : k ≠ gg := fun e => by
                obtain ⟨cc, hcc⟩ := (hRj.out.below hb8).ty gg rfl
                rw [e, hcc] at hk
                injection hk with hk
                injection hk with _ hk
                simp [ER] at hk
              unfold setU
              rw [setCell_other _ _ _ _ _ hne, setCell_other _ _ _ _ _ hne, setCell_other _ _ _ _ _ hne]
            unfold setU ovU aS ovS at HRn HKn HWn
            simp only [sv] at HRn HKn HWn
            have l3 : i < yl + 1 := by omega
            clear hb8
            go_wp2_with fail
            go_roundw
            case rel => exact ⟨i + 1, by simp, by omega, HRn.out, HWn.out, HKn.out⟩
            case measure => simp [intOf] <;> omega
      · have l1 : ¬ (i : Int) < (yl : Int) := by omega
        clear hR hW
        obtain ⟨w7, hw7⟩ : ∃ w7, w7 = wr := ⟨_, rfl⟩
        subst hw7
        obtain ⟨ab, ac, w8, hrun, hRa, hGa⟩ := app okT w7 (.slice none 0 0) [] (R.nil _ _) (.slice qb aq.length qc) aq (HA.out.below hK.out.bel) (by have := HZ3.out.1; simp [ET]; omega)
        simp only [List.length_nil, Nat.zero_add, List.nil_append] at hrun hRa hGa
        have HRUN : Hid ((Builtin.append_ #[27, 27] 27 #[.slice none 0 0, .slice qb aq.length qc]).run Try.prog w7 = .ok (.slice ab aq.length ac) w8) := hrun
        have HR8 : Hid (R ET w8 (.slice ab aq.length ac) aq) := hRa
        have HG8 : Hid (Gr w7 w8 (.slice none 0 0) (.slice ab aq.length ac)) := hGa
        have HK7 : Hid (Kp w w1.heap.size w1.heap.size w2.heap.size g w3.heap.size g2 v (rs.map puR) w7) := hK.out
        clear hrun hRa hGa hK
        go_wp2_with (at_builtin; refine Lib.wpList_append_run _ rfl _ _ _ _ rfl _ _ rfl rfl _ _ HRUN.out ?_)
        clear HRUN
        go_loopw [14, 15] (fun tv iv wr => ∃ (i : Nat) (lv : SV) (LL : List Tg), iv = .int .i64 (i : Int) ∧ i ≤ rs.length ∧ tv = sv lv ∧ Hid (R ET wr (sv lv) LL) ∧ Hid ((∀ c ∈ LL, tz c) ∧ LL.length ≤ 1048576 + 9 * i) ∧ Hid (Gr w7 wr (.slice none 0 0) (sv lv))) (fun _ iv _ => rs.length - (intOf iv).toNat)
        case atStart => exact ⟨0, (ab, aq.length, ac), aq, rfl, by omega, rfl, HR8.out, ⟨HZ3.out.2, by have := HZ3.out.1; omega⟩, HG8.out⟩
        case round =>
          obtain ⟨i, ⟨lb, ll, lc⟩, LL, rfl, hi, rfl, hRl, hLL, hGl⟩ := hrel
          have HB7 : Hid (Below w7.heap.size w7 wr) := hGl.out.fresh
          have HBw : Hid (Below w.heap.size w wr) := HK7.out.bel.trans (HB7.out.mono HK7.out.bel.size)
          obtain ⟨b0, c0, e0, k6, k7⟩ := hRl.out.slice
          simp only [sv] at e0 hRl hGl ⊢
          injection e0 with y1 y2 y3
          subst y1 y2 y3
          by_cases hlt2 : i < rs.length
          · have l2' : (i : Int) < (rs.length : Int) := by omega
            obtain ⟨Bk, off, cap, e, hBk, hc⟩ := HI.out.ru i hlt2
            injection e with e1 e2 e3
            clear e2 e3
            subst e1
            obtain ⟨r, hr⟩ : ∃ r, rs[i] = r := ⟨_, rfl⟩
            rw [hr] at hc
            have hrz := HZ2.out r (by rw [← hr]; exact List.getElem_mem hlt2)
            have hr8 := (of_len H0.out).2 r (by rw [← hr]; exact List.getElem_mem hlt2)
            have hrI := HC.out r (by rw [← hr]; exact List.getElem_mem hlt2)
            have h64 := (of_len H0.out).1
            obtain ⟨⟨ta, tp⟩, ⟨ub, ul, uc⟩, l2⟩ := r
            simp only [sv] at hc hrz hr8 hrI
            obtain ⟨c0, c1, c2⟩ := hc wr HBw.out
            have hb9 : Below w7.heap.size w7 (wr.alloc (.cells #[.string ta, .string tp] 26)) := HB7.out.trans ((bel1 _ _).mono HB7.out.size)
            obtain ⟨gb, gc, w9, hrun, hR9, hG9⟩ := app okT (wr.alloc (.cells #[.string ta, .string tp] 26)) (.slice lb LL.length lc) LL (hRl.out.below (bel1 _ _)) (.slice (some ⟨wr.heap.size, 0, none⟩) 1 1) [(ta, tp)] (in_one (E := ET) _ _ (ta, tp) #[.string ta, .string tp] 26 (0, 0) (by rw [heap_al, if_pos rfl]) rfl) (by have := hLL.out.2; simp [ET]; omega)
            simp only [List.length_singleton] at hrun hR9 hG9
            have hGw9 : Gr w7 w9 (.slice none 0 0) (.slice gb (LL.length + 1) gc) := (hGl.out.trans (Gr.below (bel1 _ _) _)).trans hG9
            have hBw9 : Below w.heap.size w w9 := HK7.out.bel.trans (hGw9.fresh.mono HK7.out.bel.size)
            obtain ⟨db, dc, wa, hruna, hRa, hGa⟩ := app okT w9 (.slice gb (LL.length + 1) gc) (LL ++ [(ta, tp)]) hR9 (.slice ub ul uc) l2 (hrI.below hBw9) (by have := hLL.out.2; simp [ET]; omega)
            simp only [List.length_append, List.length_singleton] at hruna hRa hGa
            obtain ⟨d0, d1, d2⟩ := hc w9 hBw9
            have HRA : Hid ((Builtin.append_ #[27, 27] 27 #[.slice lb LL.length lc, .slice (some ⟨wr.heap.size, 0, none⟩) 1 1]).run Try.prog (wr.alloc (.cells #[.string ta, .string tp] 26)) = .ok (.slice gb (LL.length + 1) gc) w9) := hrun
            have HRB : Hid ((Builtin.append_ #[27, 27] 27 #[.slice gb (LL.length + 1) gc, .slice ub ul uc]).run Try.prog w9 = .ok (.slice db (LL.length + 1 + l2.length) dc) wa) := hruna
            have HRN : Hid (R ET wa (.slice db (LL.length + 1 + l2.length) dc) (LL ++ [(ta, tp)] ++ l2)) := hRa
            have HGN : Hid (Gr w7 wa (.slice none 0 0) (.slice db (LL.length + 1 + l2.length) dc)) := hGw9.trans hGa
            have HLN : Hid ((∀ c ∈ LL ++ [(ta, tp)] ++ l2, tz c) ∧ (LL ++ [(ta, tp)] ++ l2).length ≤ 1048576 + 9 * (i + 1)) := ⟨fun c hc' => by
              rcases List.mem_append.1 hc' with h | h
              · rcases List.mem_append.1 h with h | h
                · exact hLL.out.1 c h
                · rw [List.mem_singleton.1 h]; exact hrz.2.1
              · exact hrz.2.2 c h, by have := hLL.out.2; simp; omega⟩
            clear hc hr hrz hr8 hrI hrun hR9 hG9 hGw9 hBw9 hruna hRa hGa hb9
            go_upto_region 21 with (at_builtin; refine Lib.wpList_append_run _ rfl _ _ _ _ rfl _ _ rfl rfl _ _ HRA.out ?_)
            clear HRA c0 c1 c2
            go_wp2_with (at_builtin; refine Lib.wpList_append_run _ rfl _ _ _ _ rfl _ _ rfl rfl _ _ HRB.out ?_)
            go_roundw
            case rel => exact ⟨i + 1, (db, LL.length + 1 + l2.length, dc), LL ++ [(ta, tp)] ++ l2, by simp, by omega, rfl, HRN.out, HLN.out, HGN.out⟩
            case measure => simp [intOf] <;> omega
          · have l2' : ¬ (i : Int) < (rs.length : Int) := by omega
            obtain ⟨wb, hwb⟩ : ∃ wb, wb = wr := ⟨_, rfl⟩
            subst hwb
            have HKb : Hid (Kp w w1.heap.size w1.heap.size w2.heap.size g w3.heap.size g2 v (rs.map puR) wb) := HK7.out.below HB7.out
            have HNS : Hid (∀ t, (nmP (rs.map puR) t).length ≤ 8) := fun t => nm_short H0.out t
            have hl63 : LL.length ≤ lc := k6
            go_wp2_with fail
            go_loopw [16] (fun iv wr => ∃ i : Nat, iv = .int .i64 (i : Int) ∧ i ≤ LL.length ∧ Hid (Below wb.heap.size wb wr)) (fun iv _ => LL.length - (intOf iv).toNat)
            case atStart => exact ⟨0, rfl, by omega, Below.refl _ _⟩
            case round =>
              obtain ⟨i2, rfl, hi2, hb⟩ := hrel
              have HKr : Hid (Kp w w1.heap.size w1.heap.size w2.heap.size g w3.heap.size g2 v (rs.map puR) wr) := HKb.out.below hb.out
              by_cases hlt3 : i2 < LL.length
              · have l3 : (i2 : Int) < (LL.length : Int) := by omega
                obtain ⟨Bl, ol', cl, el, hBl, hcl⟩ := hRl.out.isIn.tg i2 hlt3
                injection el with e1 e2 e3
                clear e2 e3
                subst e1
                obtain ⟨T, hT⟩ : ∃ T, LL[i2] = T := ⟨_, rfl⟩
                rw [hT] at hcl
                have HTZ : Hid (tz T) := by rw [← hT]; exact hLL.out.1 _ (List.getElem_mem hlt3)
                have HCy : Hid (∀ V, Below wr.heap.size wr V → V.cell? ⟨Bl, ol' + i2 * 2, none⟩ = some (.string T.1) ∧ V.cell? ⟨Bl, ol' + i2 * 2 + 1, none⟩ = some (.string T.2)) := fun V hV => hcl V (hb.out.trans (hV.mono hb.out.size))
                clear hcl hT
                obtain ⟨ta, tp⟩ := T
                simp only at HCy
                have HP1 : Hid (∀ V m, Below wr.heap.size wr V → Calls Try.prog 12 #[.pointer (some ⟨g, 0, none⟩), .agg #[.string ta, .string tp], .int .i64 m] V fun e w' => PlPost (plan (nmP (rs.map puR)) (ta, tp) m) V e w') := fun V m hV => (HKr.out.below hV).man.plan (ta, tp) HTZ.out m
                have HP2 : Hid (∀ V m, Below wr.heap.size wr V → Calls Try.prog 20 #[.pointer (some ⟨g2, 0, none⟩), .agg #[.string ta, .string tp], .int .i64 m] V fun e w' => PlPost (plan (nmP (rs.map puR)) (ta, tp) m) V e w') := fun V m hV => rplan_any w3.heap.size g2 v (rs.map puR) HNS.out (ta, tp) m V (HKr.out.below hV).doc (HKr.out.below hV).le.2.2
                go_wp2_with fail
                have hbW : Below wr.heap.size wr wr.drew := (Below.refl _ _).drew
                refine wp_region_held_drew (S := (fun V => V.cell? ⟨Bl, ol' + i2 * 2, none⟩ = some (.string ta) ∧ V.cell? ⟨Bl, ol' + i2 * 2 + 1, none⟩ = some (.string tp))) (by kernel_rfl) (HCy.out _ hbW) (fun hHeld => ?_)
                generalize hWg : World.drew _ = W at hbW hHeld ⊢
                clear hWg
                refine wpAnyH_take (i := 0) (oi := { dst := some 114, op := Op.move (Operand.tmp 8), type := 30, pos := "law.go:93", after := #[], guard := none }) (v := ?vv8) rfl (by kernel_rfl) (by kernel_rfl) (by kernel_rfl) (fun _ _ _ h => h) (Or.inl ⟨by rfl, ?hy8⟩) (by assumption) ?_
                case hy8 => (intro w hSw; (try dsimp only at hSw); go_simp; all_goals with_reducible rfl)
                try simp only [Act.put, List.setIfInBounds_toArray, List.set_cons_zero, List.set_cons_succ]
                refine wpAnyH_take (i := 1) (oi := { dst := some 115, op := Op.move (Operand.tmp 14), type := 27, pos := "law.go:93", after := #[], guard := none }) (v := ?vv9) rfl (by kernel_rfl) (by kernel_rfl) (by kernel_rfl) (fun _ _ _ h => h) (Or.inl ⟨by rfl, ?hy9⟩) (by assumption) ?_
                case hy9 => (intro w hSw; (try dsimp only at hSw); go_simp; all_goals with_reducible rfl)
                try simp only [Act.put, List.setIfInBounds_toArray, List.set_cons_zero, List.set_cons_succ]
                refine wpAnyH_take (i := 2) (oi := { dst := some 116, op := Op.move (Operand.tmp 16), type := 3, pos := "law.go:93", after := #[], guard := none }) (v := ?vv10) rfl (by kernel_rfl) (by kernel_rfl) (by kernel_rfl) (fun _ _ _ h => h) (Or.inl ⟨by rfl, ?hy10⟩) (by assumption) ?_
                case hy10 => (intro w hSw; (try dsimp only at hSw); go_simp; all_goals with_reducible rfl)
                try simp only [Act.put, List.setIfInBounds_toArray, List.set_cons_zero, List.set_cons_succ]
                refine wpAnyH_take (i := 3) (oi := { dst := some 117, op := Op.indexAddr 27 (Operand.tmp 115) (Operand.tmp 116), type := 0, pos := "law.go:93", after := #[{ on := 1, ground := Ground.data }, { on := 2, ground := Ground.data }], guard := none }) (v := ?vv11) rfl (by kernel_rfl) (by kernel_rfl) (by kernel_rfl) (fun _ _ _ h => h) (Or.inl ⟨by rfl, ?hy11⟩) (by assumption) ?_
                case hy11 => (intro w hSw; (try dsimp only at hSw); go_simp; all_goals with_reducible rfl)
                try simp only [Act.put, List.setIfInBounds_toArray, List.set_cons_zero, List.set_cons_succ]
                refine wpAnyH_take (i := 4) (oi := { dst := some 118, op := Op.load 26 (Operand.tmp 117), type := 26, pos := "law.go:93", after := #[{ on := 3, ground := Ground.data }], guard := none }) (v := ?vv12) rfl (by kernel_rfl) (by kernel_rfl) (by kernel_rfl) (fun _ _ _ h => h) (Or.inl ⟨by rfl, ?hy12⟩) (by assumption) ?_
                case hy12 => (intro w hSw; (try dsimp only at hSw); go_simp; all_goals with_reducible rfl)
                try simp only [Act.put, List.setIfInBounds_toArray, List.set_cons_zero, List.set_cons_succ]
                refine wpAnyH_take (i := 5) (oi := { dst := some 119, op := Op.move (Operand.tmp 2), type := 3, pos := "law.go:93", after := #[], guard := none }) (v := ?vv13) rfl (by kernel_rfl) (by kernel_rfl) (by kernel_rfl) (fun _ _ _ h => h) (Or.inl ⟨by rfl, ?hy13⟩) (by assumption) ?_
                case hy13 => (intro w hSw; (try dsimp only at hSw); go_simp; all_goals with_reducible rfl)
                try simp only [Act.put, List.setIfInBounds_toArray, List.set_cons_zero, List.set_cons_succ]
                refine wpAnyH_take (i := 7) (oi := { dst := some 121, op := Op.move (Operand.tmp 10), type := 43, pos := "law.go:93", after := #[], guard := none }) (v := ?vv14) rfl (by kernel_rfl) (by kernel_rfl) (by kernel_rfl) (fun _ _ _ h => h) (Or.inl ⟨by rfl, ?hy14⟩) (by assumption) ?_
                case hy14 => (intro w hSw; (try dsimp only at hSw); go_simp; all_goals with_reducible rfl)
                try simp only [Act.put, List.setIfInBounds_toArray, List.set_cons_zero, List.set_cons_succ]
                refine wpAnyH_take (i := 8) (oi := { dst := some 122, op := Op.move (Operand.tmp 14), type := 27, pos := "law.go:93", after := #[], guard := none }) (v := ?vv15) rfl (by kernel_rfl) (by kernel_rfl) (by kernel_rfl) (fun _ _ _ h => h) (Or.inl ⟨by rfl, ?hy15⟩) (by assumption) ?_
                case hy15 => (intro w hSw; (try dsimp only at hSw); go_simp; all_goals with_reducible rfl)
                try simp only [Act.put, List.setIfInBounds_toArray, List.set_cons_zero, List.set_cons_succ]
                refine wpAnyH_take (i := 9) (oi := { dst := some 123, op := Op.move (Operand.tmp 16), type := 3, pos := "law.go:93", after := #[], guard := none }) (v := ?vv16) rfl (by kernel_rfl) (by kernel_rfl) (by kernel_rfl) (fun _ _ _ h => h) (Or.inl ⟨by rfl, ?hy16⟩) (by assumption) ?_
                case hy16 => (intro w hSw; (try dsimp only at hSw); go_simp; all_goals with_reducible rfl)
                try simp only [Act.put, List.setIfInBounds_toArray, List.set_cons_zero, List.set_cons_succ]
                refine wpAnyH_take (i := 10) (oi := { dst := some 124, op := Op.indexAddr 27 (Operand.tmp 122) (Operand.tmp 123), type := 0, pos := "law.go:93", after := #[{ on := 8, ground := Ground.data }, { on := 9, ground := Ground.data }], guard := none }) (v := ?vv17) rfl (by kernel_rfl) (by kernel_rfl) (by kernel_rfl) (fun _ _ _ h => h) (Or.inl ⟨by rfl, ?hy17⟩) (by assumption) ?_
                case hy17 => (intro w hSw; (try dsimp only at hSw); go_simp; all_goals with_reducible rfl)
                try simp only [Act.put, List.setIfInBounds_toArray, List.set_cons_zero, List.set_cons_succ]
                refine wpAnyH_take (i := 11) (oi := { dst := some 125, op := Op.load 26 (Operand.tmp 124), type := 26, pos := "law.go:93", after := #[{ on := 10, ground := Ground.data }], guard := none }) (v := ?vv18) rfl (by kernel_rfl) (by kernel_rfl) (by kernel_rfl) (fun _ _ _ h => h) (Or.inl ⟨by rfl, ?hy18⟩) (by assumption) ?_
                case hy18 => (intro w hSw; (try dsimp only at hSw); go_simp; all_goals with_reducible rfl)
                try simp only [Act.put, List.setIfInBounds_toArray, List.set_cons_zero, List.set_cons_succ]
                refine wpAnyH_take (i := 12) (oi := { dst := some 126, op := Op.move (Operand.tmp 2), type := 3, pos := "law.go:93", after := #[], guard := none }) (v := ?vv19) rfl (by kernel_rfl) (by kernel_rfl) (by kernel_rfl) (fun _ _ _ h => h) (Or.inl ⟨by rfl, ?hy19⟩) (by assumption) ?_
                case hy19 => (intro w hSw; (try dsimp only at hSw); go_simp; all_goals with_reducible rfl)
                try simp only [Act.put, List.setIfInBounds_toArray, List.set_cons_zero, List.set_cons_succ]
                refine wpAnyH_ready (rs := [6]) (by kernel_rfl) (by simp) ?_
                refine AllReadyH.cons (o := { dst := some 120, op := Op.call { callee := Callee.value (Operand.func 12), args := #[Operand.tmp 114, Operand.tmp 118, Operand.tmp 119], argTypes := #[30, 26, 3] }, type := 27, pos := "law.go:93", after := #[{ on := 0, ground := Ground.data }, { on := 4, ground := Ground.data }, { on := 5, ground := Ground.data }], guard := none }) rfl (fun K hK => ?_) AllReadyH.nil
                obtain ⟨PM, hPM⟩ : ∃ PM, plan (nmP (rs.map puR)) (ta, tp) most = PM := ⟨_, rfl⟩
                have HPM : Hid (plan (nmP (rs.map puR)) (ta, tp) most = PM) := hPM
                clear hPM
                go_simp
                refine (HP1.out _ most hbW).mono ?_
                rintro e' Wx ⟨⟨pb, pl, pc⟩, rfl, hRx, bX, _⟩
                rw [HPM.out] at hRx
                have hbWx : Below wr.heap.size wr Wx := hbW.trans (bX.mono hbW.size)
                have Rp : Hid (R ET Wx (.slice pb pl pc) PM) := hRx
                clear bX hRx
                simp only [sv]
                go_wp2_with fail
                refine hK.out _ _ (HCy.out _ hbWx) (fun hHeld => ?_)
                clear hK K
                try simp only [Act.put, List.setIfInBounds_toArray, List.set_cons_zero, List.set_cons_succ]
                refine wpAnyH_ready (rs := [13]) (by kernel_rfl) (by simp) ?_
                refine AllReadyH.cons (o := { dst := some 127, op := Op.call { callee := Callee.value (Operand.func 20), args := #[Operand.tmp 121, Operand.tmp 125, Operand.tmp 126], argTypes := #[43, 26, 3] }, type := 27, pos := "law.go:93", after := #[{ on := 7, ground := Ground.data }, { on := 11, ground := Ground.data }, { on := 12, ground := Ground.data }, { on := 6, ground := Ground.chain }], guard := none }) rfl (fun K hK => ?_) AllReadyH.nil
                go_simp
                refine (HP2.out _ most hbWx).mono ?_
                rintro e' Wxx ⟨⟨qb, ql, qc⟩, rfl, hRx, bX, _⟩
                rw [HPM.out] at hRx
                have hbWxx : Below wr.heap.size wr Wxx := hbWx.trans (bX.mono hbWx.size)
                have Rq : Hid (R ET Wxx (.slice qb ql qc) PM) := hRx
                have Rp2 : Hid (R ET Wxx (.slice pb pl pc) PM) := Rp.out.below bX
                clear bX hRx
                simp only [sv]
                go_wp2_with fail
                refine hK.out _ _ (HCy.out _ hbWxx) (fun hHeld => ?_)
                clear hK K
                try simp only [Act.put, List.setIfInBounds_toArray, List.set_cons_zero, List.set_cons_succ]
                refine wpAnyH_ready (rs := [14]) (by kernel_rfl) (by simp) ?_
                refine AllReadyH.cons (o := { dst := some 128, op := Op.call { callee := Callee.value (Operand.func 13), args := #[Operand.tmp 120, Operand.tmp 127], argTypes := #[27, 27] }, type := 4, pos := "law.go:93", after := #[{ on := 6, ground := Ground.data }, { on := 13, ground := Ground.data }, { on := 13, ground := Ground.chain }], guard := none }) rfl (fun K hK => ?_) AllReadyH.nil
                have HSS : Hid (Calls Try.prog 13 #[.slice pb pl pc, .slice qb ql qc] Wxx fun e w' => e = .returned (.bool true) ∧ Below Wxx.heap.size Wxx w') := by
                  have := same_any (pb, pl, pc) (qb, ql, qc) PM PM Wxx Rp2.out.isIn Rq.out.isIn
                  rw [decide_eq_true rfl] at this
                  exact this
                go_simp
                refine HSS.out.mono ?_
                rintro e' Wxxx ⟨rfl, bX⟩
                have hbWxxx : Below wr.heap.size wr Wxxx := hbWxx.trans (bX.mono hbWxx.size)
                clear bX HSS
                go_wp2_with fail
                refine hK.out _ _ (HCy.out _ hbWxxx) (fun hHeld => ?_)
                clear hK K
                try simp only [Act.put, List.setIfInBounds_toArray, List.set_cons_zero, List.set_cons_succ]
                refine wpAnyH_take (i := 15) (oi := { dst := some 129, op := Op.unOp UnOp.not 4 (Operand.tmp 128), type := 4, pos := "law.go:93", after := #[{ on := 14, ground := Ground.data }], guard := none }) (v := ?vv20) rfl (by kernel_rfl) (by kernel_rfl) (by kernel_rfl) (fun _ _ _ h => h) (Or.inl ⟨by rfl, ?hy20⟩) (by assumption) ?_
                case hy20 => (intro w hSw; (try dsimp only at hSw); go_simp; all_goals with_reducible rfl)
                try simp only [Act.put, List.setIfInBounds_toArray, List.set_cons_zero, List.set_cons_succ]
                refine wpAnyH_take (i := 16) (oi := { dst := some 130, op := Op.move (Operand.tmp 129), type := 4, pos := "law.go:93", after := #[{ on := 15, ground := Ground.data }, { on := 14, ground := Ground.chain }], guard := none }) (v := ?vv21) rfl (by kernel_rfl) (by kernel_rfl) (by kernel_rfl) (fun _ _ _ h => h) (Or.inl ⟨by rfl, ?hy21⟩) (by assumption) ?_
                case hy21 => (intro w hSw; (try dsimp only at hSw); go_simp; all_goals with_reducible rfl)
                try simp only [Act.put, List.setIfInBounds_toArray, List.set_cons_zero, List.set_cons_succ]
                refine wpAnyH_take (i := 17) (oi := { dst := some 131, op := Op.move (Operand.tmp 8), type := 30, pos := "law.go:93", after := #[{ on := 16, ground := Ground.guard }], guard := some (16, false) }) (v := ?vv22) rfl (by kernel_rfl) (by kernel_rfl) (by kernel_rfl) (fun _ _ _ h => h) (Or.inl ⟨by rfl, ?hy22⟩) (by assumption) ?_
                case hy22 => (intro w hSw; (try dsimp only at hSw); go_simp; all_goals with_reducible rfl)
                try simp only [Act.put, List.setIfInBounds_toArray, List.set_cons_zero, List.set_cons_succ]
                refine wpAnyH_take (i := 18) (oi := { dst := some 132, op := Op.move (Operand.tmp 14), type := 27, pos := "law.go:93", after := #[{ on := 16, ground := Ground.guard }], guard := some (16, false) }) (v := ?vv23) rfl (by kernel_rfl) (by kernel_rfl) (by kernel_rfl) (fun _ _ _ h => h) (Or.inl ⟨by rfl, ?hy23⟩) (by assumption) ?_
                case hy23 => (intro w hSw; (try dsimp only at hSw); go_simp; all_goals with_reducible rfl)
                try simp only [Act.put, List.setIfInBounds_toArray, List.set_cons_zero, List.set_cons_succ]
                refine wpAnyH_take (i := 19) (oi := { dst := some 133, op := Op.move (Operand.tmp 16), type := 3, pos := "law.go:93", after := #[{ on := 16, ground := Ground.guard }], guard := some (16, false) }) (v := ?vv24) rfl (by kernel_rfl) (by kernel_rfl) (by kernel_rfl) (fun _ _ _ h => h) (Or.inl ⟨by rfl, ?hy24⟩) (by assumption) ?_
                case hy24 => (intro w hSw; (try dsimp only at hSw); go_simp; all_goals with_reducible rfl)
                try simp only [Act.put, List.setIfInBounds_toArray, List.set_cons_zero, List.set_cons_succ]
                refine wpAnyH_take (i := 20) (oi := { dst := some 134, op := Op.indexAddr 27 (Operand.tmp 132) (Operand.tmp 133), type := 0, pos := "law.go:93", after := #[{ on := 18, ground := Ground.data }, { on := 19, ground := Ground.data }, { on := 16, ground := Ground.guard }], guard := some (16, false) }) (v := ?vv25) rfl (by kernel_rfl) (by kernel_rfl) (by kernel_rfl) (fun _ _ _ h => h) (Or.inl ⟨by rfl, ?hy25⟩) (by assumption) ?_
                case hy25 => (intro w hSw; (try dsimp only at hSw); go_simp; all_goals with_reducible rfl)
                try simp only [Act.put, List.setIfInBounds_toArray, List.set_cons_zero, List.set_cons_succ]
                refine wpAnyH_take (i := 21) (oi := { dst := some 135, op := Op.load 26 (Operand.tmp 134), type := 26, pos := "law.go:93", after := #[{ on := 20, ground := Ground.data }, { on := 16, ground := Ground.guard }], guard := some (16, false) }) (v := ?vv26) rfl (by kernel_rfl) (by kernel_rfl) (by kernel_rfl) (fun _ _ _ h => h) (Or.inl ⟨by rfl, ?hy26⟩) (by assumption) ?_
                case hy26 => (intro w hSw; (try dsimp only at hSw); go_simp; all_goals with_reducible rfl)
                try simp only [Act.put, List.setIfInBounds_toArray, List.set_cons_zero, List.set_cons_succ]
                refine wpAnyH_take (i := 23) (oi := { dst := some 137, op := Op.move (Operand.tmp 10), type := 43, pos := "law.go:93", after := #[{ on := 16, ground := Ground.guard }], guard := some (16, false) }) (v := ?vv27) rfl (by kernel_rfl) (by kernel_rfl) (by kernel_rfl) (fun _ _ _ h => h) (Or.inl ⟨by rfl, ?hy27⟩) (by assumption) ?_
                case hy27 => (intro w hSw; (try dsimp only at hSw); go_simp; all_goals with_reducible rfl)
                try simp only [Act.put, List.setIfInBounds_toArray, List.set_cons_zero, List.set_cons_succ]
                refine wpAnyH_take (i := 24) (oi := { dst := some 138, op := Op.move (Operand.tmp 14), type := 27, pos := "law.go:93", after := #[{ on := 16, ground := Ground.guard }], guard := some (16, false) }) (v := ?vv28) rfl (by kernel_rfl) (by kernel_rfl) (by kernel_rfl) (fun _ _ _ h => h) (Or.inl ⟨by rfl, ?hy28⟩) (by assumption) ?_
                case hy28 => (intro w hSw; (try dsimp only at hSw); go_simp; all_goals with_reducible rfl)
                try simp only [Act.put, List.setIfInBounds_toArray, List.set_cons_zero, List.set_cons_succ]
                refine wpAnyH_take (i := 25) (oi := { dst := some 139, op := Op.move (Operand.tmp 16), type := 3, pos := "law.go:93", after := #[{ on := 16, ground := Ground.guard }], guard := some (16, false) }) (v := ?vv29) rfl (by kernel_rfl) (by kernel_rfl) (by kernel_rfl) (fun _ _ _ h => h) (Or.inl ⟨by rfl, ?hy29⟩) (by assumption) ?_
                case hy29 => (intro w hSw; (try dsimp only at hSw); go_simp; all_goals with_reducible rfl)
                try simp only [Act.put, List.setIfInBounds_toArray, List.set_cons_zero, List.set_cons_succ]
                refine wpAnyH_take (i := 26) (oi := { dst := some 140, op := Op.indexAddr 27 (Operand.tmp 138) (Operand.tmp 139), type := 0, pos := "law.go:93", after := #[{ on := 24, ground := Ground.data }, { on := 25, ground := Ground.data }, { on := 16, ground := Ground.guard }], guard := some (16, false) }) (v := ?vv30) rfl (by kernel_rfl) (by kernel_rfl) (by kernel_rfl) (fun _ _ _ h => h) (Or.inl ⟨by rfl, ?hy30⟩) (by assumption) ?_
                case hy30 => (intro w hSw; (try dsimp only at hSw); go_simp; all_goals with_reducible rfl)
                try simp only [Act.put, List.setIfInBounds_toArray, List.set_cons_zero, List.set_cons_succ]
                refine wpAnyH_take (i := 27) (oi := { dst := some 141, op := Op.load 26 (Operand.tmp 140), type := 26, pos := "law.go:93", after := #[{ on := 26, ground := Ground.data }, { on := 16, ground := Ground.guard }], guard := some (16, false) }) (v := ?vv31) rfl (by kernel_rfl) (by kernel_rfl) (by kernel_rfl) (fun _ _ _ h => h) (Or.inl ⟨by rfl, ?hy31⟩) (by assumption) ?_
                case hy31 => (intro w hSw; (try dsimp only at hSw); go_simp; all_goals with_reducible rfl)
                try simp only [Act.put, List.setIfInBounds_toArray, List.set_cons_zero, List.set_cons_succ]
                refine wpAnyH_ready (rs := [22]) (by kernel_rfl) (by simp) ?_
                refine AllReadyH.cons (o := { dst := some 136, op := Op.call { callee := Callee.value (Operand.func 12), args := #[Operand.tmp 131, Operand.tmp 135, Operand.const (Value.int IntKind.i64 8)], argTypes := #[30, 26, 3] }, type := 27, pos := "law.go:93", after := #[{ on := 17, ground := Ground.data }, { on := 21, ground := Ground.data }, { on := 16, ground := Ground.chain }, { on := 16, ground := Ground.guard }], guard := some (16, false) }) rfl (fun K hK => ?_) AllReadyH.nil
                obtain ⟨P8, hP8⟩ : ∃ P8, plan (nmP (rs.map puR)) (ta, tp) 8 = P8 := ⟨_, rfl⟩
                have HP8 : Hid (plan (nmP (rs.map puR)) (ta, tp) 8 = P8) := hP8
                clear hP8
                go_simp
                refine (HP1.out _ 8 hbWxxx).mono ?_
                rintro e' Wxxxx ⟨⟨ub, ul, uc⟩, rfl, hRx, bX, _⟩
                rw [HP8.out] at hRx
                have hbWxxxx : Below wr.heap.size wr Wxxxx := hbWxxx.trans (bX.mono hbWxxx.size)
                have Ru : Hid (R ET Wxxxx (.slice ub ul uc) P8) := hRx
                clear bX hRx
                simp only [sv]
                go_wp2_with fail
                refine hK.out _ _ (HCy.out _ hbWxxxx) (fun hHeld => ?_)
                clear hK K
                try simp only [Act.put, List.setIfInBounds_toArray, List.set_cons_zero, List.set_cons_succ]
                refine wpAnyH_ready (rs := [28]) (by kernel_rfl) (by simp) ?_
                refine AllReadyH.cons (o := { dst := some 142, op := Op.call { callee := Callee.value (Operand.func 20), args := #[Operand.tmp 137, Operand.tmp 141, Operand.const (Value.int IntKind.i64 8)], argTypes := #[43, 26, 3] }, type := 27, pos := "law.go:93", after := #[{ on := 23, ground := Ground.data }, { on := 27, ground := Ground.data }, { on := 22, ground := Ground.chain }, { on := 16, ground := Ground.guard }], guard := some (16, false) }) rfl (fun K hK => ?_) AllReadyH.nil
                go_simp
                refine (HP2.out _ 8 hbWxxxx).mono ?_
                rintro e' Wxxxxx ⟨⟨vb, vl, vc⟩, rfl, hRx, bX, _⟩
                rw [HP8.out] at hRx
                have hbWxxxxx : Below wr.heap.size wr Wxxxxx := hbWxxxx.trans (bX.mono hbWxxxx.size)
                have Rv : Hid (R ET Wxxxxx (.slice vb vl vc) P8) := hRx
                have Ru2 : Hid (R ET Wxxxxx (.slice ub ul uc) P8) := Ru.out.below bX
                clear bX hRx
                simp only [sv]
                go_wp2_with fail
                refine hK.out _ _ (HCy.out _ hbWxxxxx) (fun hHeld => ?_)
                clear hK K
                try simp only [Act.put, List.setIfInBounds_toArray, List.set_cons_zero, List.set_cons_succ]
                refine wpAnyH_ready (rs := [29]) (by kernel_rfl) (by simp) ?_
                refine AllReadyH.cons (o := { dst := some 143, op := Op.call { callee := Callee.value (Operand.func 13), args := #[Operand.tmp 136, Operand.tmp 142], argTypes := #[27, 27] }, type := 4, pos := "law.go:93", after := #[{ on := 22, ground := Ground.data }, { on := 28, ground := Ground.data }, { on := 28, ground := Ground.chain }, { on := 16, ground := Ground.guard }], guard := some (16, false) }) rfl (fun K hK => ?_) AllReadyH.nil
                have HSS : Hid (Calls Try.prog 13 #[.slice ub ul uc, .slice vb vl vc] Wxxxxx fun e w' => e = .returned (.bool true) ∧ Below Wxxxxx.heap.size Wxxxxx w') := by
                  have := same_any (ub, ul, uc) (vb, vl, vc) P8 P8 Wxxxxx Ru2.out.isIn Rv.out.isIn
                  rw [decide_eq_true rfl] at this
                  exact this
                go_simp
                refine HSS.out.mono ?_
                rintro e' Wxxxxxx ⟨rfl, bX⟩
                have hbWxxxxxx : Below wr.heap.size wr Wxxxxxx := hbWxxxxx.trans (bX.mono hbWxxxxx.size)
                clear bX HSS
                go_wp2_with fail
                refine hK.out _ _ (HCy.out _ hbWxxxxxx) (fun hHeld => ?_)
                clear hK K
                try simp only [Act.put, List.setIfInBounds_toArray, List.set_cons_zero, List.set_cons_succ]
                refine wpAnyH_take (i := 30) (oi := { dst := some 144, op := Op.unOp UnOp.not 4 (Operand.tmp 143), type := 4, pos := "law.go:93", after := #[{ on := 29, ground := Ground.data }, { on := 16, ground := Ground.guard }], guard := some (16, false) }) (v := ?vv32) rfl (by kernel_rfl) (by kernel_rfl) (by kernel_rfl) (fun _ _ _ h => h) (Or.inl ⟨by rfl, ?hy32⟩) (by assumption) ?_
                case hy32 => (intro w hSw; (try dsimp only at hSw); go_simp; all_goals with_reducible rfl)
                try simp only [Act.put, List.setIfInBounds_toArray, List.set_cons_zero, List.set_cons_succ]
                refine wpAnyH_take (i := 31) (oi := { dst := some 145, op := Op.pick (Operand.tmp 130) (Operand.const (Value.bool true)) (Operand.tmp 144), type := 4, pos := "law.go:93", after := #[{ on := 16, ground := Ground.data }, { on := 30, ground := Ground.data }], guard := none }) (v := ?vv33) rfl (by kernel_rfl) (by kernel_rfl) (by kernel_rfl) (fun _ _ _ h => h) (Or.inl ⟨by rfl, ?hy33⟩) (by assumption) ?_
                case hy33 => (intro w hSw; (try dsimp only at hSw); go_simp; all_goals with_reducible rfl)
                try simp only [Act.put, List.setIfInBounds_toArray, List.set_cons_zero, List.set_cons_succ]
                refine wpAnyH_done (by kernel_rfl) ?_ _
                have HBn : Hid (Below wb.heap.size wb Wxxxxxx) := hb.out.trans (hbWxxxxxx.mono hb.out.size)
                go_wp2_with fail
                go_roundw
                case rel => exact ⟨i2 + 1, by simp, by omega, HBn.out⟩
                case measure => simp [intOf] <;> omega
              · have l3 : ¬ (i2 : Int) < (LL.length : Int) := by omega
                go_wp2_with fail
                go_ret
                exact ⟨rfl, HKr.out.bel⟩
  · have H0 : Hid (ofE rs ≠ 0) := h0
    have he : e = .returned (.tuple #[.pointer none, .int .i64 (ofE rs)]) := by
      rcases hcase with ⟨_, h⟩ | ⟨h, _⟩
      · exact h
      · exact absurd h h0
    subst he
    clear hcase hb2 h0 HOF
    obtain ⟨E, hE⟩ : ∃ E, ofE rs = E := ⟨_, rfl⟩
    have HE : Hid (ofE rs = E) := hE
    rw [hE]
    clear hE
    go_wp2_with fail
    go_at_call 9
    refine (HOW.out w2 HB2.out).mono ?_
    rintro e w3 ⟨⟨ob, ol, oc⟩, rs3, rfl, hR3, hP3, hps3, hb3, _⟩
    have HB23 : Hid (Below w2.heap.size w2 w3) := hb3
    have HRO : Hid (Calls Try.prog 17 #[sv (ob, ol, oc)] w3 fun e w' => ROfPost rs3 w3 e w') := rof_any (ob, ol, oc) rs3 w3 hR3.isIn (fun r hr => (hP3 r hr).isIn) (pu_all hps3 (P := fun p => tz p.1 ∧ ∀ c ∈ p.2, tz c) fun r hr => (HZ2.out r hr).2)
    have HP3 : Hid (rs3.map puR = rs.map puR) := hps3
    clear hR3 hP3 hps3 hb3
    simp only [sv] at HRO ⊢
    go_wp2_with fail
    go_at_call 17
    refine HRO.out.mono ?_
    rintro e w4 ⟨hb4, hcase⟩
    rw [ofE_eq HP3.out] at hcase
    have he : e = .returned (.tuple #[.pointer none, .int .i64 E]) := by
      rcases hcase with ⟨_, h⟩ | ⟨h, _⟩
      · rw [HE.out] at h; exact h
      · exact absurd h H0.out
    subst he
    have hb14 : Below w1.heap.size w1 w4 := HB12.out.trans ((HB23.out.trans (hb4.mono HB23.out.size)).mono HB12.out.size)
    have HB4 : Hid (Below w.heap.size w w4) := HB1.out.trans (hb14.mono HB1.out.size)
    have HKK : Hid (Calls Try.prog 18 #[.slice yb yl yc, .slice sb rs.length sc] w4 fun e w' => e = .returned (.bool true) ∧ Below w4.heap.size w4 w') := HKP.out w4 (yb, yl, yc) ls HB4.out (HLn.out.below hb14) HPS.out
    clear hcase hb4 HRO hb14
    go_wp2_with fail
    go_at_call 18
    refine HKK.out.mono ?_
    rintro e w5 ⟨rfl, hb5⟩
    have HB5 : Hid (Below w.heap.size w w5) := HB4.out.trans (hb5.mono HB4.out.size)
    clear hb5 HKK
    go_wp2_with fail
    go_at_call 10
    refine (first_any _).mono ?_
    rintro e w6 ⟨rfl, hb6⟩
    have HB6 : Hid (Below w.heap.size w w6) := HB5.out.trans (hb6.mono HB5.out.size)
    clear hb6
    go_wp2_with fail
    go_ret
    exact ⟨rfl, HB6.out⟩
end Go.Proofs.Ytldnibkgdpeocaa
