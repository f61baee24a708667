/- ManifestDown. -/
import Derived.Test.YtldnibkgdpeocaaS3
namespace Go.Proofs.Ytldnibkgdpeocaa
open Go.RowKit Go.Maps
open Go.Shelf
set_option linter.unusedVariables false
set_option linter.unusedSimpArgs false

theorem mkR_z (es : List Eg) : (mkR es 16).length * 56 ≤ 140737488355328 ∧ ∀ p ∈ mkR es 16, p.2.length * 32 ≤ 140737488355328 := ⟨by have := mkR_len es 16; omega, fun p hp => by have := ((mkR_ok es).each p hp).1; omega⟩
theorem first_of {T : List Tg} {l : List Tg} {of : Tg} {k : Nat} (hk : k < l.length) (h1 : mayB of T l[k] = true) (h2 : ∀ j (hj : j < l.length), j < k → mayB of T l[j] = false) : l.find? (mayB of T) = some l[k] :=
  List.find?_eq_some_iff_getElem.2 ⟨h1, k, hk, rfl, fun j hj => by rw [h2 j (by omega) hj]; rfl⟩

set_option maxHeartbeats 16000000 in
set_option maxRecDepth 100000 in
theorem down_any (x : SV) (es : List Eg) (fr : Int) (w : World) (hI : In EE w (sv x) es) : Calls Try.prog 5 #[sv x, .int .i64 fr] w fun e w' => e = .returned (.bool true) ∧ Below w.heap.size w w' := by
  obtain ⟨NM, hNM⟩ : ∃ NM, nmP (mkR es 16) = NM := ⟨_, rfl⟩
  have HNM : Hid (nmP (mkR es 16) = NM) := hNM
  have HMD : Hid (Calls Try.prog 7 #[sv x] w fun e w' => OwPost (mkR es 16) w e w') := made_any x es w hI
  clear hI hNM
  obtain ⟨sb, sl, sc⟩ := x
  simp only [sv] at HMD ⊢
  go_enter Try.func5, Try.ntmps5
  go_wp2_with fail
  go_at_call 7
  refine HMD.out.mono ?_
  intro e w1 hp
  obtain ⟨⟨rb, rl, rc⟩, rfl, hRd, hb⟩ := hp.rd
  have HR1 : Hid (Rd w1 (rb, rl, rc) (mkR es 16)) := hRd
  have HW1 : Hid (Below w.heap.size w w1) := hb
  have HOW : Hid (Calls Try.prog 9 #[sv (rb, rl, rc)] w1 fun e w' => ∃ y : SV, e = .returned (sv y) ∧ Rd w' y (mkR es 16) ∧ Below w1.heap.size w1 w') := hRd.own (mkR_z es).1 (mkR_z es).2
  clear hp hRd hb HMD
  simp only [sv] at HOW ⊢
  go_wp2_with fail
  go_at_call 9
  refine HOW.out.mono ?_
  rintro e w2 ⟨⟨ob, ol, oc⟩, rfl, hRo, hb⟩
  have HR2 : Hid (Rd w2 (rb, rl, rc) (mkR es 16)) := HR1.out.below hb
  have HW2 : Hid (Below w.heap.size w w2) := HW1.out.trans (hb.mono HW1.out.size)
  have HOF : Hid (Calls Try.prog 8 #[sv (ob, ol, oc)] w2 fun e w' => ∃ g, e = .returned (.tuple #[.pointer (some ⟨g, 0, none⟩), .int .i64 0]) ∧ MM w' w2.heap.size w'.heap.size g (mkR es 16) ∧ Below w2.heap.size w2 w') := hRo.of (mkR_ok es)
  clear hRo hb HOW HR1 HW1
  simp only [sv] at HOF ⊢
  go_wp2_with fail
  go_at_call 8
  refine HOF.out.mono ?_
  rintro e w3 ⟨g, rfl, hM, hb⟩
  have HR3 : Hid (Rd w3 (rb, rl, rc) (mkR es 16)) := HR2.out.below hb
  have HW3 : Hid (Below w.heap.size w w3) := HW2.out.trans (hb.mono HW2.out.size)
  have HM3 : Hid (MM w3 w2.heap.size w3.heap.size g (mkR es 16)) := hM
  clear hM hb HOF HR2 HW2
  go_wp2_with fail
  go_at_call 10
  refine (first_any _).mono ?_
  rintro e w4 ⟨rfl, hb⟩
  have HR4 : Hid (Rd w4 (rb, rl, rc) (mkR es 16)) := HR3.out.below hb
  have HW4 : Hid (Below w.heap.size w w4) := HW3.out.trans (hb.mono HW3.out.size)
  have HM4 : Hid (MM w4 w2.heap.size w3.heap.size g (mkR es 16)) := HM3.out.below hb
  clear hb HR3 HW3 HM3
  obtain ⟨T, hT⟩ : ∃ T, pgT (pgN fr) = T := ⟨_, rfl⟩
  have HPG : Hid (∀ W, Calls Try.prog 11 #[.int .i64 fr] W fun e w' => e = .returned (.agg (tgv T)) ∧ Below W.heap.size W w') := fun W => by rw [← hT]; exact page_any fr W
  have HTZ : Hid (tz T) := by rw [← hT]; exact pg_tz _
  clear hT
  obtain ⟨Ta, Tp⟩ := T
  unfold tgv at HPG
  simp only at HPG
  go_wp2_with fail
  go_at_call 11
  refine (HPG.out _).mono ?_
  rintro e w5 ⟨rfl, hb⟩
  obtain ⟨W6, hW6⟩ : ∃ W6, W6 = w5.alloc (.cells #[.string Ta, .string Tp] 26) := ⟨_, rfl⟩
  obtain ⟨q, hq⟩ : ∃ q, q = w5.heap.size := ⟨_, rfl⟩
  have hb6 : Below w4.heap.size w4 W6 := by rw [hW6]; exact hb.trans ((bel1 _ _).mono hb.size)
  have HR6 : Hid (Rd W6 (rb, rl, rc) (mkR es 16)) := HR4.out.below hb6
  have HW6 : Hid (Below w.heap.size w W6) := HW4.out.trans (hb6.mono HW4.out.size)
  have HM6 : Hid (MM W6 w2.heap.size w3.heap.size g (mkR es 16)) := HM4.out.below hb6
  have s0 : W6.cell? ⟨q, 0, none⟩ = some (.string Ta) := by rw [hW6, hq]; exact cell_blk (c := #[.string Ta, .string Tp]) (t := 26) (by rw [heap_al, if_pos rfl]) 0
  have s1 : W6.cell? ⟨q, 1, none⟩ = some (.string Tp) := by rw [hW6, hq]; exact cell_blk (c := #[.string Ta, .string Tp]) (t := 26) (by rw [heap_al, if_pos rfl]) 1
  have HPN : Hid (Calls Try.prog 12 #[.pointer (some ⟨g, 0, none⟩), .agg (tgv (Ta, Tp)), .int .i64 8] W6 fun e w' => PlPost (plan (nmP (mkR es 16)) (Ta, Tp) 8) W6 e w') := HM6.out.plan (Ta, Tp) HTZ.out 8
  clear hb hb6 HR4 HW4 HM4 HPG
  unfold tgv at HPN
  simp only at HPN
  go_upto_region 6 with fail
  rw [← hW6, ← hq]
  clear hW6 hq
  go_wp2_with fail
  go_at_call 12
  refine HPN.out.mono ?_
  rintro e w7 ⟨⟨pb, pl, pc⟩, rfl, hR, hb, hnew⟩
  rw [HNM.out] at hR
  obtain ⟨PL, hPL⟩ : ∃ PL, plan NM (Ta, Tp) 8 = PL := ⟨_, rfl⟩
  have HPL : Hid (plan NM (Ta, Tp) 8 = PL) := hPL
  rw [hPL] at hR
  have HPI : Hid (In ET w7 (sv (pb, pl, pc)) PL) := hR.isIn
  have HW7 : Hid (Below w.heap.size w w7) := HW6.out.trans (hb.mono HW6.out.size)
  have HR7 : Hid (Rd w7 (rb, rl, rc) (mkR es 16)) := HR6.out.below hb
  have HTc : Hid (∀ V, Below w7.heap.size w7 V → V.cell? ⟨q, 0, none⟩ = some (.string Ta) ∧ V.cell? ⟨q, 1, none⟩ = some (.string Tp)) := fun V hV => by
    have hl := World.block_lt_of_cell? _ _ s0
    have hl7 : q < w7.heap.size := Nat.lt_of_lt_of_le hl hb.size
    exact ⟨(hV.cell hl7).trans ((hb.cell hl).trans s0), (hV.cell (p := ⟨q, 1, none⟩) hl7).trans ((hb.cell (p := ⟨q, 1, none⟩) hl).trans s1)⟩
  obtain ⟨lb, lc, el, k1, k2⟩ := hR.slice
  simp only [sv] at el HPI ⊢
  injection el with e1 e2 e3
  subst e1 e2 e3
  clear hR hb hnew hPL HPN s0 s1 HR6 HW6 HM6
  have HDW : Hid (Dwn NM (Ta, Tp) PL) := by rw [← HPL.out]; exact plan_down NM (Ta, Tp)
  have HP8 : Hid (PL.length ≤ 8) := by rw [← HPL.out]; exact plan_len NM (Ta, Tp) 8
  go_wp2_with fail
  go_loopw [10] (fun kv wr => ∃ i : Nat, kv = .int .i64 (i : Int) ∧ i ≤ PL.length ∧ Hid (Below w7.heap.size w7 wr)) (fun kv _ => PL.length - (intOf kv).toNat)
  case atStart => exact ⟨0, rfl, by omega, Below.refl _ _⟩
  case round =>
    obtain ⟨i, rfl, hi, hb⟩ := hrel
    obtain ⟨i1, hi1⟩ : ∃ i1, i + 1 = i1 := ⟨_, rfl⟩
    have hw1 : wrap64 ((i : Int) + 1) = (i1 : Int) := by have := HP8.out; unfold wrap64; omega
    have hw2 : IntKind.i64.wrap ((i : Int) + 1) = (i1 : Int) := by have := HP8.out; rw [IntKind.wrap_i64]; omega
    by_cases hlt : i1 < PL.length
    · have l1 : (i1 : Int) < (PL.length : Int) := by omega
      have l3 : (i1 : Int) ≤ (pc : Int) := by omega
      have HI1 : Hid (i + 1 = i1) := hi1
      have hi0 : i < PL.length := by omega
      clear hi1
      obtain ⟨Bl, ol, cl, el, hBl, hcl⟩ := HPI.out.tg i hi0
      injection el with e1 e2 e3
      clear e2 e3
      subst e1
      obtain ⟨Z, hZ⟩ : ∃ Z, PL[i]'hi0 = Z := ⟨_, rfl⟩
      rw [hZ] at hcl
      have HZZ : Hid (PL[i]'hi0 = Z) := hZ
      obtain ⟨c0, c1⟩ := hcl wr hb.out
      have HNX : Hid (Calls Try.prog 15 #[.slice rb rl rc, .agg (tgv Z)] wr fun e w' => ∃ y : SV, e = .returned (sv y) ∧ In ET w' (sv y) (NM Z) ∧ Below wr.heap.size wr w') := by have := (HR7.out.below hb.out).names Z; rw [HNM.out] at this; exact this
      clear hcl hZ
      obtain ⟨Za, Zp⟩ := Z
      unfold tgv at HNX
      simp only at HNX c0 c1
      go_wp2_with fail
      go_at_call 15
      refine HNX.out.mono ?_
      rintro e v1 ⟨y, rfl, hIn, hb1⟩
      have HNI : Hid (In ET v1 (sv y) (NM (Za, Zp))) := hIn
      have HB1 : Hid (Below w7.heap.size w7 v1) := hb.out.trans (hb1.mono hb.out.size)
      obtain ⟨nb, nc, en, n1, n2⟩ := hIn.slice
      obtain ⟨N, hN⟩ : ∃ N, NM (Za, Zp) = N := ⟨_, rfl⟩
      rw [hN] at HNI en n1
      have HN : Hid (NM (Za, Zp) = N) := hN
      obtain ⟨yb, yl, yc⟩ := y
      simp only [sv] at en HNI ⊢
      injection en with e1 e2 e3
      subst e1 e2 e3
      clear hIn hb1 hN HNX c0 c1
      go_wp2_with fail
      go_loopw [12] (fun jv wr => ∃ j : Nat, jv = .int .i64 (j : Int) ∧ j ≤ N.length ∧ Hid (∀ j' (h : j' < N.length), j' < j → mayB (Ta, Tp) (PL.take (i1)) N[j'] = false) ∧ Hid (Below v1.heap.size v1 wr)) (fun jv _ => N.length - (intOf jv).toNat)
      case atStart => exact ⟨0, rfl, by omega, fun j _ h => absurd h (by omega), Below.refl _ _⟩
      case round =>
        obtain ⟨j, rfl, hj, hno, hbj⟩ := hrel
        have HBj : Hid (Below w7.heap.size w7 wr) := HB1.out.trans (hbj.out.mono HB1.out.size)
        by_cases hjl : j < N.length
        · have l2 : (j : Int) < (N.length : Int) := by omega
          obtain ⟨Bn, on, cn, en, hBn, hcn⟩ := HNI.out.tg j hjl
          injection en with e1 e2 e3
          clear e2 e3
          subst e1
          obtain ⟨Y, hY⟩ : ∃ Y, N[j] = Y := ⟨_, rfl⟩
          rw [hY] at hcn
          have HY : Hid (N[j]'hjl = Y) := hY
          clear hY
          obtain ⟨Ya, Yp⟩ := Y
          simp only at hcn
          have HCy : Hid (∀ V, Below wr.heap.size wr V → (V.cell? ⟨Bn, on + j * 2, none⟩ = some (.string Ya) ∧ V.cell? ⟨Bn, on + j * 2 + 1, none⟩ = some (.string Yp) ∧ V.cell? ⟨q, 0, none⟩ = some (.string Ta) ∧ V.cell? ⟨q, 1, none⟩ = some (.string Tp))) := fun V hV => by
            have h1 := hcn V (hbj.out.trans (hV.mono hbj.out.size))
            have h2 := HTc.out V (HBj.out.trans (hV.mono HBj.out.size))
            exact ⟨h1.1, h1.2, h2.1, h2.2⟩
          have hq := eql_tg Ya Yp Ta Tp
          clear hcn
          cases hE : decide ((Ya, Yp) = (Ta, Tp))
          · rw [hE] at hq
            have HE : Hid ((Ya, Yp) ≠ (Ta, Tp)) := of_decide_eq_false hE
            clear hE
            have HXI : Hid (∀ V, Below wr.heap.size wr V → Calls Try.prog 14 #[.slice (some ⟨Bl, ol, none⟩) (i1) pc, .agg #[.string Ya, .string Yp]] V fun e w' => e = .returned (.bool (inB (PL.take (i1)) (Ya, Yp))) ∧ Below V.heap.size V w') := fun V hV => in_any (some ⟨Bl, ol, none⟩, i1, pc) (PL.take (i1)) (Ya, Yp) V (((HPI.out.take okT (i1) (by omega)).below HBj.out).below hV)
            cases hin : inB (PL.take (i1)) (Ya, Yp)
            · rw [hin] at HXI
              have HMY : Hid (mayB (Ta, Tp) (PL.take (i1)) (Ya, Yp) = true) := mayB_iff.2 ⟨HE.out, inB_not.1 hin⟩
              have HNEXT : Hid (PL[i1]'hlt = (Ya, Yp)) := by
                have hf := first_of (of := (Ta, Tp)) (T := PL.take (i1)) hjl (by rw [HY.out]; exact HMY.out) hno.out
                rw [HY.out] at hf
                have e := HI1.out
                subst e
                exact HDW.out i hlt (Ya, Yp) (by rw [HZZ.out, HN.out]; exact hf)
              obtain ⟨Bm, om, cm, em, hBm, hcm⟩ := HPI.out.tg (i1) hlt
              injection em with e1 e2 e3
              injection e1 with e1
              injection e1 with e1 e4 _
              clear e2 e3
              subst e1 e4
              rw [HNEXT.out] at hcm
              have HCm : Hid (∀ V, Below wr.heap.size wr V → V.cell? ⟨Bl, ol + (i1) * 2, none⟩ = some (.string Ya) ∧ V.cell? ⟨Bl, ol + (i1) * 2 + 1, none⟩ = some (.string Yp)) := fun V hV => hcm V (HBj.out.trans (hV.mono HBj.out.size))
              clear hin hcm
              go_wp2_with fail
              have hbW : Below wr.heap.size wr wr.drew := (Below.refl _ _).drew
              refine wp_region_held_drew (S := (fun V => V.cell? ⟨Bn, on + j * 2, none⟩ = some (.string Ya) ∧ V.cell? ⟨Bn, on + j * 2 + 1, none⟩ = some (.string Yp) ∧ V.cell? ⟨q, 0, none⟩ = some (.string Ta) ∧ V.cell? ⟨q, 1, none⟩ = some (.string Tp))) (by kernel_rfl) (HCy.out _ hbW) (fun hHeld => ?_)
              generalize hWg : World.drew _ = W at hbW hHeld ⊢
              clear hWg
              refine wpAnyH_take (i := 0) (oi := { dst := some 55, op := Op.move (Operand.tmp 11), type := 27, pos := "outright.go:114", after := #[], guard := none }) (v := ?vv25) rfl (by kernel_rfl) (by kernel_rfl) (by kernel_rfl) (fun _ _ _ h => h) (Or.inl ⟨by rfl, ?hy25⟩) (by assumption) ?_
              case hy25 => (intro w hSw; (try dsimp only at hSw); go_simp; all_goals with_reducible rfl)
              try simp only [Act.put, List.setIfInBounds_toArray, List.set_cons_zero, List.set_cons_succ]
              refine wpAnyH_take (i := 1) (oi := { dst := some 56, op := Op.move (Operand.tmp 12), type := 3, pos := "outright.go:114", after := #[], guard := none }) (v := ?vv26) rfl (by kernel_rfl) (by kernel_rfl) (by kernel_rfl) (fun _ _ _ h => h) (Or.inl ⟨by rfl, ?hy26⟩) (by assumption) ?_
              case hy26 => (intro w hSw; (try dsimp only at hSw); go_simp; all_goals with_reducible rfl)
              try simp only [Act.put, List.setIfInBounds_toArray, List.set_cons_zero, List.set_cons_succ]
              refine wpAnyH_take (i := 2) (oi := { dst := some 57, op := Op.indexAddr 27 (Operand.tmp 55) (Operand.tmp 56), type := 0, pos := "outright.go:114", after := #[{ on := 0, ground := Ground.data }, { on := 1, ground := Ground.data }], guard := none }) (v := ?vv27) rfl (by kernel_rfl) (by kernel_rfl) (by kernel_rfl) (fun _ _ _ h => h) (Or.inl ⟨by rfl, ?hy27⟩) (by assumption) ?_
              case hy27 => (intro w hSw; (try dsimp only at hSw); go_simp; all_goals with_reducible rfl)
              try simp only [Act.put, List.setIfInBounds_toArray, List.set_cons_zero, List.set_cons_succ]
              refine wpAnyH_take (i := 3) (oi := { dst := some 58, op := Op.load 26 (Operand.tmp 57), type := 26, pos := "outright.go:114", after := #[{ on := 2, ground := Ground.data }], guard := none }) (v := ?vv28) rfl (by kernel_rfl) (by kernel_rfl) (by kernel_rfl) (fun _ _ _ h => h) (Or.inl ⟨by rfl, ?hy28⟩) (by assumption) ?_
              case hy28 => (intro w hSw; (try dsimp only at hSw); go_simp; all_goals with_reducible rfl)
              try simp only [Act.put, List.setIfInBounds_toArray, List.set_cons_zero, List.set_cons_succ]
              refine wpAnyH_take (i := 4) (oi := { dst := some 59, op := Op.load 26 (Operand.tmp 8), type := 26, pos := "outright.go:114", after := #[], guard := none }) (v := ?vv29) rfl (by kernel_rfl) (by kernel_rfl) (by kernel_rfl) (fun _ _ _ h => h) (Or.inl ⟨by rfl, ?hy29⟩) (by assumption) ?_
              case hy29 => (intro w hSw; (try dsimp only at hSw); go_simp; all_goals with_reducible rfl)
              try simp only [Act.put, List.setIfInBounds_toArray, List.set_cons_zero, List.set_cons_succ]
              refine wpAnyH_take (i := 5) (oi := { dst := some 60, op := Op.binOp BinOp.eql 26 (Operand.tmp 58) (Operand.tmp 59) 26, type := 4, pos := "outright.go:114", after := #[{ on := 3, ground := Ground.data }, { on := 4, ground := Ground.data }], guard := none }) (v := ?vv30) rfl (by kernel_rfl) (by kernel_rfl) (by kernel_rfl) (fun _ _ _ h => h) (Or.inl ⟨by rfl, ?hy30⟩) (by assumption) ?_
              case hy30 => (intro w hSw; (try dsimp only at hSw); go_simp; all_goals with_reducible rfl)
              try simp only [Act.put, List.setIfInBounds_toArray, List.set_cons_zero, List.set_cons_succ]
              refine wpAnyH_take (i := 6) (oi := { dst := some 61, op := Op.move (Operand.tmp 60), type := 4, pos := "outright.go:114", after := #[{ on := 5, ground := Ground.data }], guard := none }) (v := ?vv31) rfl (by kernel_rfl) (by kernel_rfl) (by kernel_rfl) (fun _ _ _ h => h) (Or.inl ⟨by rfl, ?hy31⟩) (by assumption) ?_
              case hy31 => (intro w hSw; (try dsimp only at hSw); go_simp; all_goals with_reducible rfl)
              try simp only [Act.put, List.setIfInBounds_toArray, List.set_cons_zero, List.set_cons_succ]
              refine wpAnyH_take (i := 7) (oi := { dst := some 62, op := Op.move (Operand.tmp 9), type := 27, pos := "outright.go:114", after := #[{ on := 6, ground := Ground.guard }], guard := some (6, false) }) (v := ?vv32) rfl (by kernel_rfl) (by kernel_rfl) (by kernel_rfl) (fun _ _ _ h => h) (Or.inl ⟨by rfl, ?hy32⟩) (by assumption) ?_
              case hy32 => (intro w hSw; (try dsimp only at hSw); go_simp; all_goals with_reducible rfl)
              try simp only [Act.put, List.setIfInBounds_toArray, List.set_cons_zero, List.set_cons_succ]
              refine wpAnyH_take (i := 8) (oi := { dst := some 63, op := Op.move (Operand.tmp 10), type := 3, pos := "outright.go:114", after := #[{ on := 6, ground := Ground.guard }], guard := some (6, false) }) (v := ?vv33) rfl (by kernel_rfl) (by kernel_rfl) (by kernel_rfl) (fun _ _ _ h => h) (Or.inl ⟨by rfl, ?hy33⟩) (by assumption) ?_
              case hy33 => (intro w hSw; (try dsimp only at hSw); go_simp; all_goals with_reducible rfl)
              try simp only [Act.put, List.setIfInBounds_toArray, List.set_cons_zero, List.set_cons_succ]
              refine wpAnyH_take (i := 9) (oi := { dst := some 64, op := Op.binOp BinOp.add 3 (Operand.tmp 63) (Operand.const (Value.int IntKind.i64 1)) 3, type := 3, pos := "outright.go:114", after := #[{ on := 8, ground := Ground.data }, { on := 6, ground := Ground.guard }], guard := some (6, false) }) (v := ?vv34) rfl (by kernel_rfl) (by kernel_rfl) (by kernel_rfl) (fun _ _ _ h => h) (Or.inl ⟨by rfl, ?hy34⟩) (by assumption) ?_
              case hy34 => (intro w hSw; (try dsimp only at hSw); go_simp; all_goals with_reducible rfl)
              try simp only [Act.put, List.setIfInBounds_toArray, List.set_cons_zero, List.set_cons_succ]
              refine wpAnyH_take (i := 10) (oi := { dst := some 65, op := Op.slice 27 (Operand.tmp 62) none (some (Operand.tmp 64)) none, type := 27, pos := "outright.go:114", after := #[{ on := 7, ground := Ground.data }, { on := 9, ground := Ground.data }, { on := 6, ground := Ground.guard }], guard := some (6, false) }) (v := ?vv35) rfl (by kernel_rfl) (by kernel_rfl) (by kernel_rfl) (fun _ _ _ h => h) (Or.inl ⟨by rfl, ?hy35⟩) (by assumption) ?_
              case hy35 => (intro w hSw; (try dsimp only at hSw); go_simp; all_goals with_reducible rfl)
              try simp only [Act.put, List.setIfInBounds_toArray, List.set_cons_zero, List.set_cons_succ]
              refine wpAnyH_take (i := 11) (oi := { dst := some 66, op := Op.move (Operand.tmp 11), type := 27, pos := "outright.go:114", after := #[{ on := 6, ground := Ground.guard }], guard := some (6, false) }) (v := ?vv36) rfl (by kernel_rfl) (by kernel_rfl) (by kernel_rfl) (fun _ _ _ h => h) (Or.inl ⟨by rfl, ?hy36⟩) (by assumption) ?_
              case hy36 => (intro w hSw; (try dsimp only at hSw); go_simp; all_goals with_reducible rfl)
              try simp only [Act.put, List.setIfInBounds_toArray, List.set_cons_zero, List.set_cons_succ]
              refine wpAnyH_take (i := 12) (oi := { dst := some 67, op := Op.move (Operand.tmp 12), type := 3, pos := "outright.go:114", after := #[{ on := 6, ground := Ground.guard }], guard := some (6, false) }) (v := ?vv37) rfl (by kernel_rfl) (by kernel_rfl) (by kernel_rfl) (fun _ _ _ h => h) (Or.inl ⟨by rfl, ?hy37⟩) (by assumption) ?_
              case hy37 => (intro w hSw; (try dsimp only at hSw); go_simp; all_goals with_reducible rfl)
              try simp only [Act.put, List.setIfInBounds_toArray, List.set_cons_zero, List.set_cons_succ]
              refine wpAnyH_take (i := 13) (oi := { dst := some 68, op := Op.indexAddr 27 (Operand.tmp 66) (Operand.tmp 67), type := 0, pos := "outright.go:114", after := #[{ on := 11, ground := Ground.data }, { on := 12, ground := Ground.data }, { on := 6, ground := Ground.guard }], guard := some (6, false) }) (v := ?vv38) rfl (by kernel_rfl) (by kernel_rfl) (by kernel_rfl) (fun _ _ _ h => h) (Or.inl ⟨by rfl, ?hy38⟩) (by assumption) ?_
              case hy38 => (intro w hSw; (try dsimp only at hSw); go_simp; all_goals with_reducible rfl)
              try simp only [Act.put, List.setIfInBounds_toArray, List.set_cons_zero, List.set_cons_succ]
              refine wpAnyH_take (i := 14) (oi := { dst := some 69, op := Op.load 26 (Operand.tmp 68), type := 26, pos := "outright.go:114", after := #[{ on := 13, ground := Ground.data }, { on := 6, ground := Ground.guard }], guard := some (6, false) }) (v := ?vv39) rfl (by kernel_rfl) (by kernel_rfl) (by kernel_rfl) (fun _ _ _ h => h) (Or.inl ⟨by rfl, ?hy39⟩) (by assumption) ?_
              case hy39 => (intro w hSw; (try dsimp only at hSw); go_simp; all_goals with_reducible rfl)
              try simp only [Act.put, List.setIfInBounds_toArray, List.set_cons_zero, List.set_cons_succ]
              refine wpAnyH_ready (rs := [15]) (by kernel_rfl) (by simp) ?_
              refine AllReadyH.cons (o := { dst := some 70, op := Op.call { callee := Callee.value (Operand.func 14), args := #[Operand.tmp 65, Operand.tmp 69], argTypes := #[27, 26] }, type := 4, pos := "outright.go:114", after := #[{ on := 10, ground := Ground.data }, { on := 14, ground := Ground.data }, { on := 6, ground := Ground.chain }, { on := 6, ground := Ground.guard }], guard := some (6, false) }) rfl (fun K hK => ?_) AllReadyH.nil
              go_simp
              refine (HXI.out _ hbW).mono ?_
              rintro e' Wx ⟨rfl, bX⟩
              have hbWx : Below wr.heap.size wr Wx := hbW.trans (bX.mono hbW.size)
              clear bX
              go_wp2_with fail
              refine hK.out _ _ (HCy.out _ hbWx) (fun hHeld => ?_)
              clear hK K
              try simp only [Act.put, List.setIfInBounds_toArray, List.set_cons_zero, List.set_cons_succ]
              refine wpAnyH_take (i := 16) (oi := { dst := some 71, op := Op.pick (Operand.tmp 61) (Operand.const (Value.bool true)) (Operand.tmp 70), type := 4, pos := "outright.go:114", after := #[{ on := 6, ground := Ground.data }, { on := 15, ground := Ground.data }], guard := none }) (v := ?vv40) rfl (by kernel_rfl) (by kernel_rfl) (by kernel_rfl) (fun _ _ _ h => h) (Or.inl ⟨by rfl, ?hy40⟩) (by assumption) ?_
              case hy40 => (intro w hSw; (try dsimp only at hSw); go_simp; all_goals with_reducible rfl)
              try simp only [Act.put, List.setIfInBounds_toArray, List.set_cons_zero, List.set_cons_succ]
              refine wpAnyH_done (by kernel_rfl) ?_ _
              have HBn : Hid (Below v1.heap.size v1 Wx) := hbj.out.trans (hbWx.mono hbj.out.size)
              have HB7 : Hid (Below w7.heap.size w7 Wx) := HBj.out.trans (hbWx.mono HBj.out.size)
              have hcy := HCy.out _ hbWx
              have hcm := HCm.out _ hbWx
              obtain ⟨f0, f1, f2, f3⟩ := hcy
              obtain ⟨f4, f5⟩ := hcm
              have hq2 := neq_tg Ya Yp Ya Yp
              rw [decide_eq_true rfl] at hq2
              have HBd : Hid (Below w7.heap.size w7 Wx.drew) := HB7.out.drew
              clear hq hbWx hHeld
              go_wp2_with fail
              go_region
              clear f0 f1 f2 f3 f4 f5 hq2
              go_wp2_with fail
              go_roundw
              case rel => exact ⟨i1, by rfl, by omega, HBd.out⟩
              case measure => have := HI1.out; simp [intOf]; omega
            · rw [hin] at HXI
              have HMY : Hid (mayB (Ta, Tp) (PL.take (i1)) (Ya, Yp) = false) := Bool.eq_false_iff.2 fun h => (mayB_iff.1 h).2 (inB_iff.1 hin)
              clear hin
              go_wp2_with fail
              have hbW : Below wr.heap.size wr wr.drew := (Below.refl _ _).drew
              refine wp_region_held_drew (S := (fun V => V.cell? ⟨Bn, on + j * 2, none⟩ = some (.string Ya) ∧ V.cell? ⟨Bn, on + j * 2 + 1, none⟩ = some (.string Yp) ∧ V.cell? ⟨q, 0, none⟩ = some (.string Ta) ∧ V.cell? ⟨q, 1, none⟩ = some (.string Tp))) (by kernel_rfl) (HCy.out _ hbW) (fun hHeld => ?_)
              generalize hWg : World.drew _ = W at hbW hHeld ⊢
              clear hWg
              refine wpAnyH_take (i := 0) (oi := { dst := some 55, op := Op.move (Operand.tmp 11), type := 27, pos := "outright.go:114", after := #[], guard := none }) (v := ?vv9) rfl (by kernel_rfl) (by kernel_rfl) (by kernel_rfl) (fun _ _ _ h => h) (Or.inl ⟨by rfl, ?hy9⟩) (by assumption) ?_
              case hy9 => (intro w hSw; (try dsimp only at hSw); go_simp; all_goals with_reducible rfl)
              try simp only [Act.put, List.setIfInBounds_toArray, List.set_cons_zero, List.set_cons_succ]
              refine wpAnyH_take (i := 1) (oi := { dst := some 56, op := Op.move (Operand.tmp 12), type := 3, pos := "outright.go:114", after := #[], guard := none }) (v := ?vv10) rfl (by kernel_rfl) (by kernel_rfl) (by kernel_rfl) (fun _ _ _ h => h) (Or.inl ⟨by rfl, ?hy10⟩) (by assumption) ?_
              case hy10 => (intro w hSw; (try dsimp only at hSw); go_simp; all_goals with_reducible rfl)
              try simp only [Act.put, List.setIfInBounds_toArray, List.set_cons_zero, List.set_cons_succ]
              refine wpAnyH_take (i := 2) (oi := { dst := some 57, op := Op.indexAddr 27 (Operand.tmp 55) (Operand.tmp 56), type := 0, pos := "outright.go:114", after := #[{ on := 0, ground := Ground.data }, { on := 1, ground := Ground.data }], guard := none }) (v := ?vv11) rfl (by kernel_rfl) (by kernel_rfl) (by kernel_rfl) (fun _ _ _ h => h) (Or.inl ⟨by rfl, ?hy11⟩) (by assumption) ?_
              case hy11 => (intro w hSw; (try dsimp only at hSw); go_simp; all_goals with_reducible rfl)
              try simp only [Act.put, List.setIfInBounds_toArray, List.set_cons_zero, List.set_cons_succ]
              refine wpAnyH_take (i := 3) (oi := { dst := some 58, op := Op.load 26 (Operand.tmp 57), type := 26, pos := "outright.go:114", after := #[{ on := 2, ground := Ground.data }], guard := none }) (v := ?vv12) rfl (by kernel_rfl) (by kernel_rfl) (by kernel_rfl) (fun _ _ _ h => h) (Or.inl ⟨by rfl, ?hy12⟩) (by assumption) ?_
              case hy12 => (intro w hSw; (try dsimp only at hSw); go_simp; all_goals with_reducible rfl)
              try simp only [Act.put, List.setIfInBounds_toArray, List.set_cons_zero, List.set_cons_succ]
              refine wpAnyH_take (i := 4) (oi := { dst := some 59, op := Op.load 26 (Operand.tmp 8), type := 26, pos := "outright.go:114", after := #[], guard := none }) (v := ?vv13) rfl (by kernel_rfl) (by kernel_rfl) (by kernel_rfl) (fun _ _ _ h => h) (Or.inl ⟨by rfl, ?hy13⟩) (by assumption) ?_
              case hy13 => (intro w hSw; (try dsimp only at hSw); go_simp; all_goals with_reducible rfl)
              try simp only [Act.put, List.setIfInBounds_toArray, List.set_cons_zero, List.set_cons_succ]
              refine wpAnyH_take (i := 5) (oi := { dst := some 60, op := Op.binOp BinOp.eql 26 (Operand.tmp 58) (Operand.tmp 59) 26, type := 4, pos := "outright.go:114", after := #[{ on := 3, ground := Ground.data }, { on := 4, ground := Ground.data }], guard := none }) (v := ?vv14) rfl (by kernel_rfl) (by kernel_rfl) (by kernel_rfl) (fun _ _ _ h => h) (Or.inl ⟨by rfl, ?hy14⟩) (by assumption) ?_
              case hy14 => (intro w hSw; (try dsimp only at hSw); go_simp; all_goals with_reducible rfl)
              try simp only [Act.put, List.setIfInBounds_toArray, List.set_cons_zero, List.set_cons_succ]
              refine wpAnyH_take (i := 6) (oi := { dst := some 61, op := Op.move (Operand.tmp 60), type := 4, pos := "outright.go:114", after := #[{ on := 5, ground := Ground.data }], guard := none }) (v := ?vv15) rfl (by kernel_rfl) (by kernel_rfl) (by kernel_rfl) (fun _ _ _ h => h) (Or.inl ⟨by rfl, ?hy15⟩) (by assumption) ?_
              case hy15 => (intro w hSw; (try dsimp only at hSw); go_simp; all_goals with_reducible rfl)
              try simp only [Act.put, List.setIfInBounds_toArray, List.set_cons_zero, List.set_cons_succ]
              refine wpAnyH_take (i := 7) (oi := { dst := some 62, op := Op.move (Operand.tmp 9), type := 27, pos := "outright.go:114", after := #[{ on := 6, ground := Ground.guard }], guard := some (6, false) }) (v := ?vv16) rfl (by kernel_rfl) (by kernel_rfl) (by kernel_rfl) (fun _ _ _ h => h) (Or.inl ⟨by rfl, ?hy16⟩) (by assumption) ?_
              case hy16 => (intro w hSw; (try dsimp only at hSw); go_simp; all_goals with_reducible rfl)
              try simp only [Act.put, List.setIfInBounds_toArray, List.set_cons_zero, List.set_cons_succ]
              refine wpAnyH_take (i := 8) (oi := { dst := some 63, op := Op.move (Operand.tmp 10), type := 3, pos := "outright.go:114", after := #[{ on := 6, ground := Ground.guard }], guard := some (6, false) }) (v := ?vv17) rfl (by kernel_rfl) (by kernel_rfl) (by kernel_rfl) (fun _ _ _ h => h) (Or.inl ⟨by rfl, ?hy17⟩) (by assumption) ?_
              case hy17 => (intro w hSw; (try dsimp only at hSw); go_simp; all_goals with_reducible rfl)
              try simp only [Act.put, List.setIfInBounds_toArray, List.set_cons_zero, List.set_cons_succ]
              refine wpAnyH_take (i := 9) (oi := { dst := some 64, op := Op.binOp BinOp.add 3 (Operand.tmp 63) (Operand.const (Value.int IntKind.i64 1)) 3, type := 3, pos := "outright.go:114", after := #[{ on := 8, ground := Ground.data }, { on := 6, ground := Ground.guard }], guard := some (6, false) }) (v := ?vv18) rfl (by kernel_rfl) (by kernel_rfl) (by kernel_rfl) (fun _ _ _ h => h) (Or.inl ⟨by rfl, ?hy18⟩) (by assumption) ?_
              case hy18 => (intro w hSw; (try dsimp only at hSw); go_simp; all_goals with_reducible rfl)
              try simp only [Act.put, List.setIfInBounds_toArray, List.set_cons_zero, List.set_cons_succ]
              refine wpAnyH_take (i := 10) (oi := { dst := some 65, op := Op.slice 27 (Operand.tmp 62) none (some (Operand.tmp 64)) none, type := 27, pos := "outright.go:114", after := #[{ on := 7, ground := Ground.data }, { on := 9, ground := Ground.data }, { on := 6, ground := Ground.guard }], guard := some (6, false) }) (v := ?vv19) rfl (by kernel_rfl) (by kernel_rfl) (by kernel_rfl) (fun _ _ _ h => h) (Or.inl ⟨by rfl, ?hy19⟩) (by assumption) ?_
              case hy19 => (intro w hSw; (try dsimp only at hSw); go_simp; all_goals with_reducible rfl)
              try simp only [Act.put, List.setIfInBounds_toArray, List.set_cons_zero, List.set_cons_succ]
              refine wpAnyH_take (i := 11) (oi := { dst := some 66, op := Op.move (Operand.tmp 11), type := 27, pos := "outright.go:114", after := #[{ on := 6, ground := Ground.guard }], guard := some (6, false) }) (v := ?vv20) rfl (by kernel_rfl) (by kernel_rfl) (by kernel_rfl) (fun _ _ _ h => h) (Or.inl ⟨by rfl, ?hy20⟩) (by assumption) ?_
              case hy20 => (intro w hSw; (try dsimp only at hSw); go_simp; all_goals with_reducible rfl)
              try simp only [Act.put, List.setIfInBounds_toArray, List.set_cons_zero, List.set_cons_succ]
              refine wpAnyH_take (i := 12) (oi := { dst := some 67, op := Op.move (Operand.tmp 12), type := 3, pos := "outright.go:114", after := #[{ on := 6, ground := Ground.guard }], guard := some (6, false) }) (v := ?vv21) rfl (by kernel_rfl) (by kernel_rfl) (by kernel_rfl) (fun _ _ _ h => h) (Or.inl ⟨by rfl, ?hy21⟩) (by assumption) ?_
              case hy21 => (intro w hSw; (try dsimp only at hSw); go_simp; all_goals with_reducible rfl)
              try simp only [Act.put, List.setIfInBounds_toArray, List.set_cons_zero, List.set_cons_succ]
              refine wpAnyH_take (i := 13) (oi := { dst := some 68, op := Op.indexAddr 27 (Operand.tmp 66) (Operand.tmp 67), type := 0, pos := "outright.go:114", after := #[{ on := 11, ground := Ground.data }, { on := 12, ground := Ground.data }, { on := 6, ground := Ground.guard }], guard := some (6, false) }) (v := ?vv22) rfl (by kernel_rfl) (by kernel_rfl) (by kernel_rfl) (fun _ _ _ h => h) (Or.inl ⟨by rfl, ?hy22⟩) (by assumption) ?_
              case hy22 => (intro w hSw; (try dsimp only at hSw); go_simp; all_goals with_reducible rfl)
              try simp only [Act.put, List.setIfInBounds_toArray, List.set_cons_zero, List.set_cons_succ]
              refine wpAnyH_take (i := 14) (oi := { dst := some 69, op := Op.load 26 (Operand.tmp 68), type := 26, pos := "outright.go:114", after := #[{ on := 13, ground := Ground.data }, { on := 6, ground := Ground.guard }], guard := some (6, false) }) (v := ?vv23) rfl (by kernel_rfl) (by kernel_rfl) (by kernel_rfl) (fun _ _ _ h => h) (Or.inl ⟨by rfl, ?hy23⟩) (by assumption) ?_
              case hy23 => (intro w hSw; (try dsimp only at hSw); go_simp; all_goals with_reducible rfl)
              try simp only [Act.put, List.setIfInBounds_toArray, List.set_cons_zero, List.set_cons_succ]
              refine wpAnyH_ready (rs := [15]) (by kernel_rfl) (by simp) ?_
              refine AllReadyH.cons (o := { dst := some 70, op := Op.call { callee := Callee.value (Operand.func 14), args := #[Operand.tmp 65, Operand.tmp 69], argTypes := #[27, 26] }, type := 4, pos := "outright.go:114", after := #[{ on := 10, ground := Ground.data }, { on := 14, ground := Ground.data }, { on := 6, ground := Ground.chain }, { on := 6, ground := Ground.guard }], guard := some (6, false) }) rfl (fun K hK => ?_) AllReadyH.nil
              go_simp
              refine (HXI.out _ hbW).mono ?_
              rintro e' Wx ⟨rfl, bX⟩
              have hbWx : Below wr.heap.size wr Wx := hbW.trans (bX.mono hbW.size)
              clear bX
              go_wp2_with fail
              refine hK.out _ _ (HCy.out _ hbWx) (fun hHeld => ?_)
              clear hK K
              try simp only [Act.put, List.setIfInBounds_toArray, List.set_cons_zero, List.set_cons_succ]
              refine wpAnyH_take (i := 16) (oi := { dst := some 71, op := Op.pick (Operand.tmp 61) (Operand.const (Value.bool true)) (Operand.tmp 70), type := 4, pos := "outright.go:114", after := #[{ on := 6, ground := Ground.data }, { on := 15, ground := Ground.data }], guard := none }) (v := ?vv24) rfl (by kernel_rfl) (by kernel_rfl) (by kernel_rfl) (fun _ _ _ h => h) (Or.inl ⟨by rfl, ?hy24⟩) (by assumption) ?_
              case hy24 => (intro w hSw; (try dsimp only at hSw); go_simp; all_goals with_reducible rfl)
              try simp only [Act.put, List.setIfInBounds_toArray, List.set_cons_zero, List.set_cons_succ]
              refine wpAnyH_done (by kernel_rfl) ?_ _
              have HBn : Hid (Below v1.heap.size v1 Wx) := hbj.out.trans (hbWx.mono hbj.out.size)
              have HB7 : Hid (Below w7.heap.size w7 Wx) := HBj.out.trans (hbWx.mono HBj.out.size)
              go_wp2_with fail
              go_roundw
              case rel =>
                refine ⟨j + 1, by simp, by omega, fun j' hj' h => ?_, HBn.out⟩
                by_cases hjj : j' = j
                · subst hjj
                  rw [HY.out]
                  exact HMY.out
                · exact hno.out j' hj' (by omega)
              case measure => simp [intOf]; omega
          · rw [hE] at hq
            have HE : Hid ((Ya, Yp) = (Ta, Tp)) := (of_decide_eq_true hE : (Ya, Yp) = (Ta, Tp))
            have HMY : Hid (mayB (Ta, Tp) (PL.take (i1)) (Ya, Yp) = false) := Bool.eq_false_iff.2 fun h => (mayB_iff.1 h).1 HE.out
            clear hE
            go_wp2_with fail
            have hbW : Below wr.heap.size wr wr.drew := (Below.refl _ _).drew
            refine wp_region_held_drew (S := (fun V => V.cell? ⟨Bn, on + j * 2, none⟩ = some (.string Ya) ∧ V.cell? ⟨Bn, on + j * 2 + 1, none⟩ = some (.string Yp) ∧ V.cell? ⟨q, 0, none⟩ = some (.string Ta) ∧ V.cell? ⟨q, 1, none⟩ = some (.string Tp))) (by kernel_rfl) (HCy.out _ hbW) (fun hHeld => ?_)
            generalize hWg : World.drew _ = W at hbW hHeld ⊢
            clear hWg
            refine wpAnyH_take (i := 0) (oi := { dst := some 55, op := Op.move (Operand.tmp 11), type := 27, pos := "outright.go:114", after := #[], guard := none }) (v := ?vv1) rfl (by kernel_rfl) (by kernel_rfl) (by kernel_rfl) (fun _ _ _ h => h) (Or.inl ⟨by rfl, ?hy1⟩) (by assumption) ?_
            case hy1 => (intro w hSw; (try dsimp only at hSw); go_simp; all_goals with_reducible rfl)
            try simp only [Act.put, List.setIfInBounds_toArray, List.set_cons_zero, List.set_cons_succ]
            refine wpAnyH_take (i := 1) (oi := { dst := some 56, op := Op.move (Operand.tmp 12), type := 3, pos := "outright.go:114", after := #[], guard := none }) (v := ?vv2) rfl (by kernel_rfl) (by kernel_rfl) (by kernel_rfl) (fun _ _ _ h => h) (Or.inl ⟨by rfl, ?hy2⟩) (by assumption) ?_
            case hy2 => (intro w hSw; (try dsimp only at hSw); go_simp; all_goals with_reducible rfl)
            try simp only [Act.put, List.setIfInBounds_toArray, List.set_cons_zero, List.set_cons_succ]
            refine wpAnyH_take (i := 2) (oi := { dst := some 57, op := Op.indexAddr 27 (Operand.tmp 55) (Operand.tmp 56), type := 0, pos := "outright.go:114", after := #[{ on := 0, ground := Ground.data }, { on := 1, ground := Ground.data }], guard := none }) (v := ?vv3) rfl (by kernel_rfl) (by kernel_rfl) (by kernel_rfl) (fun _ _ _ h => h) (Or.inl ⟨by rfl, ?hy3⟩) (by assumption) ?_
            case hy3 => (intro w hSw; (try dsimp only at hSw); go_simp; all_goals with_reducible rfl)
            try simp only [Act.put, List.setIfInBounds_toArray, List.set_cons_zero, List.set_cons_succ]
            refine wpAnyH_take (i := 3) (oi := { dst := some 58, op := Op.load 26 (Operand.tmp 57), type := 26, pos := "outright.go:114", after := #[{ on := 2, ground := Ground.data }], guard := none }) (v := ?vv4) rfl (by kernel_rfl) (by kernel_rfl) (by kernel_rfl) (fun _ _ _ h => h) (Or.inl ⟨by rfl, ?hy4⟩) (by assumption) ?_
            case hy4 => (intro w hSw; (try dsimp only at hSw); go_simp; all_goals with_reducible rfl)
            try simp only [Act.put, List.setIfInBounds_toArray, List.set_cons_zero, List.set_cons_succ]
            refine wpAnyH_take (i := 4) (oi := { dst := some 59, op := Op.load 26 (Operand.tmp 8), type := 26, pos := "outright.go:114", after := #[], guard := none }) (v := ?vv5) rfl (by kernel_rfl) (by kernel_rfl) (by kernel_rfl) (fun _ _ _ h => h) (Or.inl ⟨by rfl, ?hy5⟩) (by assumption) ?_
            case hy5 => (intro w hSw; (try dsimp only at hSw); go_simp; all_goals with_reducible rfl)
            try simp only [Act.put, List.setIfInBounds_toArray, List.set_cons_zero, List.set_cons_succ]
            refine wpAnyH_take (i := 5) (oi := { dst := some 60, op := Op.binOp BinOp.eql 26 (Operand.tmp 58) (Operand.tmp 59) 26, type := 4, pos := "outright.go:114", after := #[{ on := 3, ground := Ground.data }, { on := 4, ground := Ground.data }], guard := none }) (v := ?vv6) rfl (by kernel_rfl) (by kernel_rfl) (by kernel_rfl) (fun _ _ _ h => h) (Or.inl ⟨by rfl, ?hy6⟩) (by assumption) ?_
            case hy6 => (intro w hSw; (try dsimp only at hSw); go_simp; all_goals with_reducible rfl)
            try simp only [Act.put, List.setIfInBounds_toArray, List.set_cons_zero, List.set_cons_succ]
            refine wpAnyH_take (i := 6) (oi := { dst := some 61, op := Op.move (Operand.tmp 60), type := 4, pos := "outright.go:114", after := #[{ on := 5, ground := Ground.data }], guard := none }) (v := ?vv7) rfl (by kernel_rfl) (by kernel_rfl) (by kernel_rfl) (fun _ _ _ h => h) (Or.inl ⟨by rfl, ?hy7⟩) (by assumption) ?_
            case hy7 => (intro w hSw; (try dsimp only at hSw); go_simp; all_goals with_reducible rfl)
            try simp only [Act.put, List.setIfInBounds_toArray, List.set_cons_zero, List.set_cons_succ]
            refine wpAnyH_take (i := 7) (oi := { dst := some 62, op := Op.move (Operand.tmp 9), type := 27, pos := "outright.go:114", after := #[{ on := 6, ground := Ground.guard }], guard := some (6, false) }) (v := undef) rfl (by kernel_rfl) (by kernel_rfl) (by kernel_rfl) (fun _ _ _ h => h) (Or.inr ⟨by rfl, rfl⟩) (by assumption) ?_
            try simp only [Act.put, List.setIfInBounds_toArray, List.set_cons_zero, List.set_cons_succ]
            refine wpAnyH_take (i := 8) (oi := { dst := some 63, op := Op.move (Operand.tmp 10), type := 3, pos := "outright.go:114", after := #[{ on := 6, ground := Ground.guard }], guard := some (6, false) }) (v := undef) rfl (by kernel_rfl) (by kernel_rfl) (by kernel_rfl) (fun _ _ _ h => h) (Or.inr ⟨by rfl, rfl⟩) (by assumption) ?_
            try simp only [Act.put, List.setIfInBounds_toArray, List.set_cons_zero, List.set_cons_succ]
            refine wpAnyH_take (i := 9) (oi := { dst := some 64, op := Op.binOp BinOp.add 3 (Operand.tmp 63) (Operand.const (Value.int IntKind.i64 1)) 3, type := 3, pos := "outright.go:114", after := #[{ on := 8, ground := Ground.data }, { on := 6, ground := Ground.guard }], guard := some (6, false) }) (v := undef) rfl (by kernel_rfl) (by kernel_rfl) (by kernel_rfl) (fun _ _ _ h => h) (Or.inr ⟨by rfl, rfl⟩) (by assumption) ?_
            try simp only [Act.put, List.setIfInBounds_toArray, List.set_cons_zero, List.set_cons_succ]
            refine wpAnyH_take (i := 10) (oi := { dst := some 65, op := Op.slice 27 (Operand.tmp 62) none (some (Operand.tmp 64)) none, type := 27, pos := "outright.go:114", after := #[{ on := 7, ground := Ground.data }, { on := 9, ground := Ground.data }, { on := 6, ground := Ground.guard }], guard := some (6, false) }) (v := undef) rfl (by kernel_rfl) (by kernel_rfl) (by kernel_rfl) (fun _ _ _ h => h) (Or.inr ⟨by rfl, rfl⟩) (by assumption) ?_
            try simp only [Act.put, List.setIfInBounds_toArray, List.set_cons_zero, List.set_cons_succ]
            refine wpAnyH_take (i := 11) (oi := { dst := some 66, op := Op.move (Operand.tmp 11), type := 27, pos := "outright.go:114", after := #[{ on := 6, ground := Ground.guard }], guard := some (6, false) }) (v := undef) rfl (by kernel_rfl) (by kernel_rfl) (by kernel_rfl) (fun _ _ _ h => h) (Or.inr ⟨by rfl, rfl⟩) (by assumption) ?_
            try simp only [Act.put, List.setIfInBounds_toArray, List.set_cons_zero, List.set_cons_succ]
            refine wpAnyH_take (i := 12) (oi := { dst := some 67, op := Op.move (Operand.tmp 12), type := 3, pos := "outright.go:114", after := #[{ on := 6, ground := Ground.guard }], guard := some (6, false) }) (v := undef) rfl (by kernel_rfl) (by kernel_rfl) (by kernel_rfl) (fun _ _ _ h => h) (Or.inr ⟨by rfl, rfl⟩) (by assumption) ?_
            try simp only [Act.put, List.setIfInBounds_toArray, List.set_cons_zero, List.set_cons_succ]
            refine wpAnyH_take (i := 13) (oi := { dst := some 68, op := Op.indexAddr 27 (Operand.tmp 66) (Operand.tmp 67), type := 0, pos := "outright.go:114", after := #[{ on := 11, ground := Ground.data }, { on := 12, ground := Ground.data }, { on := 6, ground := Ground.guard }], guard := some (6, false) }) (v := undef) rfl (by kernel_rfl) (by kernel_rfl) (by kernel_rfl) (fun _ _ _ h => h) (Or.inr ⟨by rfl, rfl⟩) (by assumption) ?_
            try simp only [Act.put, List.setIfInBounds_toArray, List.set_cons_zero, List.set_cons_succ]
            refine wpAnyH_take (i := 14) (oi := { dst := some 69, op := Op.load 26 (Operand.tmp 68), type := 26, pos := "outright.go:114", after := #[{ on := 13, ground := Ground.data }, { on := 6, ground := Ground.guard }], guard := some (6, false) }) (v := undef) rfl (by kernel_rfl) (by kernel_rfl) (by kernel_rfl) (fun _ _ _ h => h) (Or.inr ⟨by rfl, rfl⟩) (by assumption) ?_
            try simp only [Act.put, List.setIfInBounds_toArray, List.set_cons_zero, List.set_cons_succ]
            refine wpAnyH_take (i := 15) (oi := { dst := some 70, op := Op.call { callee := Callee.value (Operand.func 14), args := #[Operand.tmp 65, Operand.tmp 69], argTypes := #[27, 26] }, type := 4, pos := "outright.go:114", after := #[{ on := 10, ground := Ground.data }, { on := 14, ground := Ground.data }, { on := 6, ground := Ground.chain }, { on := 6, ground := Ground.guard }], guard := some (6, false) }) (v := undef) rfl (by kernel_rfl) (by kernel_rfl) (by kernel_rfl) (fun _ _ _ h => h) (Or.inr ⟨by rfl, rfl⟩) (by assumption) ?_
            try simp only [Act.put, List.setIfInBounds_toArray, List.set_cons_zero, List.set_cons_succ]
            refine wpAnyH_take (i := 16) (oi := { dst := some 71, op := Op.pick (Operand.tmp 61) (Operand.const (Value.bool true)) (Operand.tmp 70), type := 4, pos := "outright.go:114", after := #[{ on := 6, ground := Ground.data }, { on := 15, ground := Ground.data }], guard := none }) (v := ?vv8) rfl (by kernel_rfl) (by kernel_rfl) (by kernel_rfl) (fun _ _ _ h => h) (Or.inl ⟨by rfl, ?hy8⟩) (by assumption) ?_
            case hy8 => (intro w hSw; (try dsimp only at hSw); go_simp; all_goals with_reducible rfl)
            try simp only [Act.put, List.setIfInBounds_toArray, List.set_cons_zero, List.set_cons_succ]
            refine wpAnyH_done (by kernel_rfl) ?_ _
            have HBn : Hid (Below v1.heap.size v1 W) := hbj.out.trans (hbW.mono hbj.out.size)
            have HB7 : Hid (Below w7.heap.size w7 W) := HBj.out.trans (hbW.mono HBj.out.size)
            go_wp2_with fail
            go_roundw
            case rel =>
              refine ⟨j + 1, by simp, by omega, fun j' hj' h => ?_, HBn.out⟩
              by_cases hjj : j' = j
              · subst hjj
                rw [HY.out]
                exact HMY.out
              · exact hno.out j' hj' (by omega)
            case measure => simp [intOf]; omega
        · have l2 : ¬ (j : Int) < (N.length : Int) := by omega
          go_wp2_with fail
          go_roundw
          case rel => exact ⟨i1, by rfl, by omega, HBj.out⟩
          case measure => have := HI1.out; simp [intOf]; omega
    · have l1 : ¬ (i1 : Int) < (PL.length : Int) := by omega
      have HBe : Hid (Below w.heap.size w wr) := HW7.out.trans (hb.out.mono HW7.out.size)
      go_wp2_with fail
      go_ret
      exact ⟨rfl, HBe.out⟩
end Go.Proofs.Ytldnibkgdpeocaa
