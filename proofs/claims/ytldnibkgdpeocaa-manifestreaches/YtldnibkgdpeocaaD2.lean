/- ManifestReaches. -/
import Derived.Test.YtldnibkgdpeocaaD1
import Derived.Deep.CutBlock
namespace Go.Proofs.Ytldnibkgdpeocaa
open Go.RowKit Go.Maps
open Go.Shelf
set_option linter.unusedVariables false
set_option linter.unusedSimpArgs false

/-- is it named by the page, or by one of these? -/
def byB (nm : Tg → List Tg) (of : Tg) (T : List Tg) (y : Tg) : Bool := inB (nm of) y || T.any fun z => inB (nm z) y
theorem byB_snoc (nm : Tg → List Tg) (of : Tg) (T : List Tg) (z y : Tg) : byB nm of (T ++ [z]) y = (byB nm of T y || inB (nm z) y) := by
  unfold byB
  simp [List.any_append, Bool.or_assoc]
theorem by_all {nm : Tg → List Tg} {of : Tg} {T : List Tg} (h : Nmd nm of T) (i : Nat) (hi : i < T.length) : byB nm of (T.take i) T[i] = true := by
  unfold byB
  rw [Bool.or_eq_true]
  rcases h i hi with h | ⟨j, hj, hji, h⟩
  · exact .inl (inB_iff.2 h)
  · refine .inr (List.any_eq_true.2 ⟨T[j], ?_, inB_iff.2 h⟩)
    rw [List.mem_take_iff_getElem]
    exact ⟨j, by omega, rfl⟩
theorem not_before {T : List Tg} (h : T.Nodup) (i : Nat) (hi : i < T.length) : inB (T.take i) T[i] = false := inB_not.2 fun hm => by
  rw [List.mem_take_iff_getElem] at hm
  obtain ⟨j, hj, e⟩ := hm
  exact (List.pairwise_iff_getElem.1 h) j i (by omega) hi (by omega) e

set_option maxHeartbeats 32000000 in
set_option maxRecDepth 100000 in
theorem reaches_any (x : SV) (es : List Eg) (fr : Int) (w : World) (hI : In EE w (sv x) es) : Calls Try.prog 4 #[sv x, .int .i64 fr] w fun e w' => e = .returned (.bool true) ∧ Below w.heap.size w w' := by
  obtain ⟨NM, hNM⟩ : ∃ NM, nmP (mkR es 16) = NM := ⟨_, rfl⟩
  have HNM : Hid (nmP (mkR es 16) = NM) := hNM
  have HMD : Hid (Calls Try.prog 7 #[sv x] w fun e w' => OwPost (mkR es 16) w e w') := made_any x es w hI
  clear hI hNM
  obtain ⟨sb, sl, sc⟩ := x
  simp only [sv] at HMD ⊢
  go_enter Try.func4, Try.ntmps4
  go_wp2_with fail
  go_at_call 7
  refine HMD.out.mono ?_
  intro e w1 hp
  obtain ⟨⟨rb, rl, rc⟩, rfl, hRd, hb⟩ := hp.rd
  have HR1 : Hid (Rd w1 (rb, rl, rc) (mkR es 16)) := hRd
  have HW1 : Hid (Below w.heap.size w w1) := hb
  have HOW : Hid (Calls Try.prog 9 #[sv (rb, rl, rc)] w1 fun e w' => ∃ y : SV, e = .returned (sv y) ∧ Rd w' y (mkR es 16) ∧ Below w1.heap.size w1 w') := hRd.own (mkR_z es).1 (mkR_z es).2
  clear hp hRd hb HMD
  simp only [sv] at HOW ⊢
  go_wp2_with fail
  go_at_call 9
  refine HOW.out.mono ?_
  rintro e w2 ⟨⟨ob, ol, oc⟩, rfl, hRo, hb⟩
  have HR2 : Hid (Rd w2 (rb, rl, rc) (mkR es 16)) := HR1.out.below hb
  have HW2 : Hid (Below w.heap.size w w2) := HW1.out.trans (hb.mono HW1.out.size)
  have HOF : Hid (Calls Try.prog 8 #[sv (ob, ol, oc)] w2 fun e w' => ∃ g, e = .returned (.tuple #[.pointer (some ⟨g, 0, none⟩), .int .i64 0]) ∧ MM w' w2.heap.size w'.heap.size g (mkR es 16) ∧ Below w2.heap.size w2 w') := hRo.of (mkR_ok es)
  clear hRo hb HOW HR1 HW1
  simp only [sv] at HOF ⊢
  go_wp2_with fail
  go_at_call 8
  refine HOF.out.mono ?_
  rintro e w3 ⟨g, rfl, hM, hb⟩
  have HR3 : Hid (Rd w3 (rb, rl, rc) (mkR es 16)) := HR2.out.below hb
  have HW3 : Hid (Below w.heap.size w w3) := HW2.out.trans (hb.mono HW2.out.size)
  have HM3 : Hid (MM w3 w2.heap.size w3.heap.size g (mkR es 16)) := hM
  clear hM hb HOF HR2 HW2
  go_wp2_with fail
  go_at_call 10
  refine (first_any _).mono ?_
  rintro e w4 ⟨rfl, hb⟩
  have HR4 : Hid (Rd w4 (rb, rl, rc) (mkR es 16)) := HR3.out.below hb
  have HW4 : Hid (Below w.heap.size w w4) := HW3.out.trans (hb.mono HW3.out.size)
  have HM4 : Hid (MM w4 w2.heap.size w3.heap.size g (mkR es 16)) := HM3.out.below hb
  clear hb HR3 HW3 HM3
  obtain ⟨T, hT⟩ : ∃ T, pgT (pgN fr) = T := ⟨_, rfl⟩
  have HPG : Hid (∀ W, Calls Try.prog 11 #[.int .i64 fr] W fun e w' => e = .returned (.agg (tgv T)) ∧ Below W.heap.size W w') := fun W => by rw [← hT]; exact page_any fr W
  have HTZ : Hid (tz T) := by rw [← hT]; exact pg_tz _
  clear hT
  obtain ⟨Ta, Tp⟩ := T
  unfold tgv at HPG
  simp only at HPG
  go_wp2_with fail
  go_at_call 11
  refine (HPG.out _).mono ?_
  rintro e w5 ⟨rfl, hb⟩
  obtain ⟨W6, hW6⟩ : ∃ W6, W6 = w5.alloc (.cells #[.string Ta, .string Tp] 26) := ⟨_, rfl⟩
  obtain ⟨q, hq⟩ : ∃ q, q = w5.heap.size := ⟨_, rfl⟩
  have hb6 : Below w4.heap.size w4 W6 := by rw [hW6]; exact hb.trans ((bel1 _ _).mono hb.size)
  have HR6 : Hid (Rd W6 (rb, rl, rc) (mkR es 16)) := HR4.out.below hb6
  have HW6 : Hid (Below w.heap.size w W6) := HW4.out.trans (hb6.mono HW4.out.size)
  have HM6 : Hid (MM W6 w2.heap.size w3.heap.size g (mkR es 16)) := HM4.out.below hb6
  have s0 : W6.cell? ⟨q, 0, none⟩ = some (.string Ta) := by rw [hW6, hq]; exact cell_blk (c := #[.string Ta, .string Tp]) (t := 26) (by rw [heap_al, if_pos rfl]) 0
  have s1 : W6.cell? ⟨q, 1, none⟩ = some (.string Tp) := by rw [hW6, hq]; exact cell_blk (c := #[.string Ta, .string Tp]) (t := 26) (by rw [heap_al, if_pos rfl]) 1
  have HPN : Hid (Calls Try.prog 12 #[.pointer (some ⟨g, 0, none⟩), .agg (tgv (Ta, Tp)), .int .i64 8] W6 fun e w' => PlPost (plan (nmP (mkR es 16)) (Ta, Tp) 8) W6 e w') := HM6.out.plan (Ta, Tp) HTZ.out 8
  clear hb hb6 HR4 HW4 HM4 HPG
  unfold tgv at HPN
  simp only at HPN
  go_upto_region 6 with fail
  rw [← hW6, ← hq]
  clear hW6 hq
  go_wp2_with fail
  go_at_call 12
  refine HPN.out.mono ?_
  rintro e w7 ⟨⟨pb, pl, pc⟩, rfl, hR, hb, hnew⟩
  rw [HNM.out] at hR
  obtain ⟨PL, hPL⟩ : ∃ PL, plan NM (Ta, Tp) 8 = PL := ⟨_, rfl⟩
  have HPL : Hid (plan NM (Ta, Tp) 8 = PL) := hPL
  rw [hPL] at hR
  have HPI : Hid (In ET w7 (sv (pb, pl, pc)) PL) := hR.isIn
  have HW7 : Hid (Below w.heap.size w w7) := HW6.out.trans (hb.mono HW6.out.size)
  have HR7 : Hid (Rd w7 (rb, rl, rc) (mkR es 16)) := HR6.out.below hb
  have HTc : Hid (∀ V, Below w7.heap.size w7 V → V.cell? ⟨q, 0, none⟩ = some (.string Ta) ∧ V.cell? ⟨q, 1, none⟩ = some (.string Tp)) := fun V hV => by
    have hl := World.block_lt_of_cell? _ _ s0
    have hl7 : q < w7.heap.size := Nat.lt_of_lt_of_le hl hb.size
    exact ⟨(hV.cell hl7).trans ((hb.cell hl).trans s0), (hV.cell (p := ⟨q, 1, none⟩) hl7).trans ((hb.cell (p := ⟨q, 1, none⟩) hl).trans s1)⟩
  obtain ⟨lb, lc, el, k1, k2⟩ := hR.slice
  simp only [sv] at el HPI ⊢
  injection el with e1 e2 e3
  subst e1 e2 e3
  clear hR hb hnew hPL HPN s0 s1 HR6 HW6 HM6
  have HND : Hid (PL.Nodup ∧ (Ta, Tp) ∉ PL) := by rw [← HPL.out]; exact plan_nodup NM (Ta, Tp)
  have HNA : Hid (Nmd NM (Ta, Tp) PL) := by rw [← HPL.out]; exact plan_named NM (Ta, Tp)
  have HCL : Hid (PL.length < 8 → ∀ x, x = (Ta, Tp) ∨ x ∈ PL → ∀ y ∈ NM x, y = (Ta, Tp) ∨ y ∈ PL) := by rw [← HPL.out]; exact plan_closed NM (Ta, Tp)
  have HH1 : Hid (∀ x r, NM (Ta, Tp) = x :: r → x ≠ (Ta, Tp) → PL[0]? = some x) := fun x r h1 h2 => by rw [← HPL.out]; exact plan_head NM (Ta, Tp) x r h1 h2
  have HH2 : Hid (∀ x r, NM (Ta, Tp) = (Ta, Tp) :: x :: r → x ≠ (Ta, Tp) → PL[0]? = some x) := fun x r h1 h2 => by rw [← HPL.out]; exact plan_head2 NM (Ta, Tp) x r h1 h2
  have HP8 : Hid (PL.length ≤ 8) := by rw [← HPL.out]; exact plan_len NM (Ta, Tp) 8
  have l8 : ¬ (8 : Int) < (PL.length : Int) := by have := HP8.out; omega
  have HXT : Hid (Calls Try.prog 14 #[.slice pb PL.length pc, .agg (tgv (Ta, Tp))] w7 fun e w' => e = .returned (.bool false) ∧ Below w7.heap.size w7 w') := by
    have := in_any (pb, PL.length, pc) PL (Ta, Tp) w7 HPI.out
    rw [inB_not.2 HND.out.2] at this
    exact this
  obtain ⟨s0, s1⟩ := HTc.out w7 (Below.refl _ _)
  unfold tgv at HXT
  simp only at HXT
  go_wp2_with fail
  go_at_call 14
  refine HXT.out.mono ?_
  rintro e w8 ⟨rfl, hb⟩
  have HB8 : Hid (Below w7.heap.size w7 w8) := hb
  clear hb HXT s0 s1
  obtain ⟨s0, s1⟩ := HTc.out w8 HB8.out
  have HNX : Hid (Calls Try.prog 15 #[.slice rb rl rc, .agg (tgv (Ta, Tp))] w8 fun e w' => ∃ y : SV, e = .returned (sv y) ∧ In ET w' (sv y) (NM (Ta, Tp)) ∧ Below w8.heap.size w8 w') := by have := (HR7.out.below HB8.out).names (Ta, Tp); rw [HNM.out] at this; exact this
  unfold tgv at HNX
  simp only at HNX
  go_wp2_with fail
  go_at_call 15
  refine HNX.out.mono ?_
  rintro e w9 ⟨⟨yb, yl, yc⟩, rfl, hIn, hb⟩
  have HB9 : Hid (Below w7.heap.size w7 w9) := HB8.out.trans (hb.mono HB8.out.size)
  obtain ⟨H, hH⟩ : ∃ H, NM (Ta, Tp) = H := ⟨_, rfl⟩
  rw [hH] at hIn
  have HHE : Hid (NM (Ta, Tp) = H) := hH
  have HHI : Hid (In ET w9 (sv (yb, yl, yc)) H) := hIn
  obtain ⟨hb0, hc0, eh, k3, k4⟩ := hIn.slice
  simp only [sv] at eh HHI ⊢
  injection eh with e1 e2 e3
  subst e1 e2 e3
  clear hIn hb hH HNX s0 s1 HB8
  go_upto_block 0 with fail
  go_cut [] from 52 (fun wx => Hid (Below w9.heap.size w9 wx))
  case first =>
    go_wp2_with fail
    go_loopw [11] (fun kv wr => ∃ i : Nat, kv = .int .i64 (i : Int) ∧ i ≤ 2 ∧ i ≤ H.length ∧ Hid (Below w9.heap.size w9 wr)) (fun kv _ => 2 - (intOf kv).toNat)
    case atStart => exact ⟨0, rfl, by omega, by omega, Below.refl _ _⟩
    case round =>
      obtain ⟨i, rfl, hi2, hiH, hb⟩ := hrel
      have HB7 : Hid (Below w7.heap.size w7 wr) := HB9.out.trans (hb.out.mono HB9.out.size)
      by_cases hin : i < 2 ∧ i < H.length
      · obtain ⟨B0, o0, q0, e, hB0, hc0⟩ := HHI.out.tg 0 (by omega)
        injection e with e1 e2 e3
        clear e2 e3
        subst e1
        obtain ⟨X0, hX0⟩ : ∃ X0, H[0]'(by omega) = X0 := ⟨_, rfl⟩
        rw [hX0] at hc0
        obtain ⟨X0a, X0p⟩ := X0
        simp only at hc0
        have lH0 : (0 : Int) < (H.length : Int) := by omega
        have lN0 : 0 < H.length := by omega
        have hi01 : i = 0 ∨ i = 1 := by omega
        have qt0 := eql_tg X0a X0p Ta Tp
        rcases hi01 with rfl | rfl
        · -- the first
          have HCy : Hid (∀ V, Below wr.heap.size wr V → V.cell? ⟨B0, o0, none⟩ = some (.string X0a) ∧ V.cell? ⟨B0, o0 + 1, none⟩ = some (.string X0p) ∧ V.cell? ⟨q, 0, none⟩ = some (.string Ta) ∧ V.cell? ⟨q, 1, none⟩ = some (.string Tp)) := fun V hV => by
            have h1 := hc0 V (hb.out.trans (hV.mono hb.out.size))
            have h2 := HTc.out V (HB7.out.trans (hV.mono HB7.out.size))
            simp at h1
            exact ⟨h1.1, h1.2, h2.1, h2.2⟩
          clear hc0 qt0
          have hq := neq_tg X0a X0p Ta Tp
          cases hE : decide ((X0a, X0p) = (Ta, Tp))
          · rw [hE] at hq
            have HL0 : PL[0]? = some (X0a, X0p) := by
              obtain ⟨r, hr⟩ : ∃ r, H = (X0a, X0p) :: r := by
                cases H with
                | nil => simp at hin
                | cons a r => exact ⟨r, by simp at hX0; rw [hX0]⟩
              exact HH1.out _ r (by rw [HHE.out]; exact hr) (of_decide_eq_false hE)
            have hlp : 0 < PL.length := (List.getElem?_eq_some_iff.1 HL0).1
            have b0 : ((PL.length : Int) == 0) = false := beq_eq_false_iff_ne.2 (by omega)
            have lP0 : (0 : Int) < (PL.length : Int) := by omega
            obtain ⟨B1, o1, q1, e, hB1, hc1⟩ := HPI.out.tg 0 hlp
            injection e with e1 e2 e3
            clear e2 e3
            subst e1
            rw [show PL[0]'hlp = (X0a, X0p) from (List.getElem?_eq_some_iff.1 HL0).2] at hc1
            simp only [Nat.zero_mul, Nat.add_zero] at hc1
            have HCz : Hid (∀ V, Below wr.heap.size wr V → (V.cell? ⟨B0, o0, none⟩ = some (.string X0a) ∧ V.cell? ⟨B0, o0 + 1, none⟩ = some (.string X0p) ∧ V.cell? ⟨q, 0, none⟩ = some (.string Ta) ∧ V.cell? ⟨q, 1, none⟩ = some (.string Tp)) ∧ V.cell? ⟨B1, o1, none⟩ = some (.string X0a) ∧ V.cell? ⟨B1, o1 + 1, none⟩ = some (.string X0p)) := fun V hV => ⟨HCy.out V hV, hc1 V (HB7.out.trans (hV.mono HB7.out.size))⟩
            have hq2 := neq_tg X0a X0p X0a X0p
            rw [decide_eq_true rfl] at hq2
            clear hE HL0 hc1 hX0
            go_wp2_with fail
            have hbW : Below wr.heap.size wr wr.drew := (Below.refl _ _).drew
            refine wp_region_held_drew (S := (fun V => (V.cell? ⟨B0, o0, none⟩ = some (.string X0a) ∧ V.cell? ⟨B0, o0 + 1, none⟩ = some (.string X0p) ∧ V.cell? ⟨q, 0, none⟩ = some (.string Ta) ∧ V.cell? ⟨q, 1, none⟩ = some (.string Tp)) ∧ V.cell? ⟨B1, o1, none⟩ = some (.string X0a) ∧ V.cell? ⟨B1, o1 + 1, none⟩ = some (.string X0p))) (by kernel_rfl) (HCz.out _ hbW) (fun hHeld => ?_)
            generalize hWg : World.drew _ = W at hbW hHeld ⊢
            clear hWg
            refine wpAnyH_take (i := 0) (oi := { dst := some 62, op := Op.move (Operand.tmp 10), type := 27, pos := "outright.go:72", after := #[], guard := none }) (v := ?vv93) rfl (by kernel_rfl) (by kernel_rfl) (by kernel_rfl) (fun _ _ _ h => h) (Or.inl ⟨by rfl, ?hy93⟩) (by assumption) ?_
            case hy93 => (intro w hSw; (try dsimp only at hSw); go_simp; all_goals with_reducible rfl)
            try simp only [Act.put, List.setIfInBounds_toArray, List.set_cons_zero, List.set_cons_succ]
            refine wpAnyH_take (i := 1) (oi := { dst := some 63, op := Op.move (Operand.tmp 11), type := 3, pos := "outright.go:72", after := #[], guard := none }) (v := ?vv94) rfl (by kernel_rfl) (by kernel_rfl) (by kernel_rfl) (fun _ _ _ h => h) (Or.inl ⟨by rfl, ?hy94⟩) (by assumption) ?_
            case hy94 => (intro w hSw; (try dsimp only at hSw); go_simp; all_goals with_reducible rfl)
            try simp only [Act.put, List.setIfInBounds_toArray, List.set_cons_zero, List.set_cons_succ]
            refine wpAnyH_take (i := 2) (oi := { dst := some 64, op := Op.indexAddr 27 (Operand.tmp 62) (Operand.tmp 63), type := 0, pos := "outright.go:72", after := #[{ on := 0, ground := Ground.data }, { on := 1, ground := Ground.data }], guard := none }) (v := ?vv95) rfl (by kernel_rfl) (by kernel_rfl) (by kernel_rfl) (fun _ _ _ h => h) (Or.inl ⟨by rfl, ?hy95⟩) (by assumption) ?_
            case hy95 => (intro w hSw; (try dsimp only at hSw); go_simp; all_goals with_reducible rfl)
            try simp only [Act.put, List.setIfInBounds_toArray, List.set_cons_zero, List.set_cons_succ]
            refine wpAnyH_take (i := 3) (oi := { dst := some 65, op := Op.load 26 (Operand.tmp 64), type := 26, pos := "outright.go:72", after := #[{ on := 2, ground := Ground.data }], guard := none }) (v := ?vv96) rfl (by kernel_rfl) (by kernel_rfl) (by kernel_rfl) (fun _ _ _ h => h) (Or.inl ⟨by rfl, ?hy96⟩) (by assumption) ?_
            case hy96 => (intro w hSw; (try dsimp only at hSw); go_simp; all_goals with_reducible rfl)
            try simp only [Act.put, List.setIfInBounds_toArray, List.set_cons_zero, List.set_cons_succ]
            refine wpAnyH_take (i := 4) (oi := { dst := some 66, op := Op.load 26 (Operand.tmp 8), type := 26, pos := "outright.go:72", after := #[], guard := none }) (v := ?vv97) rfl (by kernel_rfl) (by kernel_rfl) (by kernel_rfl) (fun _ _ _ h => h) (Or.inl ⟨by rfl, ?hy97⟩) (by assumption) ?_
            case hy97 => (intro w hSw; (try dsimp only at hSw); go_simp; all_goals with_reducible rfl)
            try simp only [Act.put, List.setIfInBounds_toArray, List.set_cons_zero, List.set_cons_succ]
            refine wpAnyH_take (i := 5) (oi := { dst := some 67, op := Op.binOp BinOp.neq 26 (Operand.tmp 65) (Operand.tmp 66) 26, type := 4, pos := "outright.go:72", after := #[{ on := 3, ground := Ground.data }, { on := 4, ground := Ground.data }], guard := none }) (v := ?vv98) rfl (by kernel_rfl) (by kernel_rfl) (by kernel_rfl) (fun _ _ _ h => h) (Or.inl ⟨by rfl, ?hy98⟩) (by assumption) ?_
            case hy98 => (intro w hSw; (try dsimp only at hSw); go_simp; all_goals with_reducible rfl)
            try simp only [Act.put, List.setIfInBounds_toArray, List.set_cons_zero, List.set_cons_succ]
            refine wpAnyH_take (i := 6) (oi := { dst := some 68, op := Op.move (Operand.tmp 67), type := 4, pos := "outright.go:72", after := #[{ on := 5, ground := Ground.data }], guard := none }) (v := ?vv99) rfl (by kernel_rfl) (by kernel_rfl) (by kernel_rfl) (fun _ _ _ h => h) (Or.inl ⟨by rfl, ?hy99⟩) (by assumption) ?_
            case hy99 => (intro w hSw; (try dsimp only at hSw); go_simp; all_goals with_reducible rfl)
            try simp only [Act.put, List.setIfInBounds_toArray, List.set_cons_zero, List.set_cons_succ]
            refine wpAnyH_take (i := 7) (oi := { dst := some 69, op := Op.move (Operand.tmp 11), type := 3, pos := "outright.go:72", after := #[{ on := 6, ground := Ground.guard }], guard := some (6, true) }) (v := ?vv100) rfl (by kernel_rfl) (by kernel_rfl) (by kernel_rfl) (fun _ _ _ h => h) (Or.inl ⟨by rfl, ?hy100⟩) (by assumption) ?_
            case hy100 => (intro w hSw; (try dsimp only at hSw); go_simp; all_goals with_reducible rfl)
            try simp only [Act.put, List.setIfInBounds_toArray, List.set_cons_zero, List.set_cons_succ]
            refine wpAnyH_take (i := 8) (oi := { dst := some 70, op := Op.binOp BinOp.eql 3 (Operand.tmp 69) (Operand.const (Value.int IntKind.i64 0)) 3, type := 4, pos := "outright.go:72", after := #[{ on := 7, ground := Ground.data }, { on := 6, ground := Ground.guard }], guard := some (6, true) }) (v := ?vv101) rfl (by kernel_rfl) (by kernel_rfl) (by kernel_rfl) (fun _ _ _ h => h) (Or.inl ⟨by rfl, ?hy101⟩) (by assumption) ?_
            case hy101 => (intro w hSw; (try dsimp only at hSw); go_simp; all_goals with_reducible rfl)
            try simp only [Act.put, List.setIfInBounds_toArray, List.set_cons_zero, List.set_cons_succ]
            refine wpAnyH_take (i := 9) (oi := { dst := some 71, op := Op.move (Operand.tmp 70), type := 4, pos := "outright.go:72", after := #[{ on := 8, ground := Ground.data }, { on := 6, ground := Ground.chain }, { on := 6, ground := Ground.guard }], guard := some (6, true) }) (v := ?vv102) rfl (by kernel_rfl) (by kernel_rfl) (by kernel_rfl) (fun _ _ _ h => h) (Or.inl ⟨by rfl, ?hy102⟩) (by assumption) ?_
            case hy102 => (intro w hSw; (try dsimp only at hSw); go_simp; all_goals with_reducible rfl)
            try simp only [Act.put, List.setIfInBounds_toArray, List.set_cons_zero, List.set_cons_succ]
            refine wpAnyH_take (i := 10) (oi := { dst := some 72, op := Op.move (Operand.tmp 10), type := 27, pos := "outright.go:72", after := #[{ on := 9, ground := Ground.guard }], guard := some (9, false) }) (v := undef) rfl (by kernel_rfl) (by kernel_rfl) (by kernel_rfl) (fun _ _ _ h => h) (Or.inr ⟨by rfl, rfl⟩) (by assumption) ?_
            try simp only [Act.put, List.setIfInBounds_toArray, List.set_cons_zero, List.set_cons_succ]
            refine wpAnyH_take (i := 11) (oi := { dst := some 73, op := Op.indexAddr 27 (Operand.tmp 72) (Operand.const (Value.int IntKind.i64 0)), type := 0, pos := "outright.go:72", after := #[{ on := 10, ground := Ground.data }, { on := 9, ground := Ground.guard }], guard := some (9, false) }) (v := undef) rfl (by kernel_rfl) (by kernel_rfl) (by kernel_rfl) (fun _ _ _ h => h) (Or.inr ⟨by rfl, rfl⟩) (by assumption) ?_
            try simp only [Act.put, List.setIfInBounds_toArray, List.set_cons_zero, List.set_cons_succ]
            refine wpAnyH_take (i := 12) (oi := { dst := some 74, op := Op.load 26 (Operand.tmp 73), type := 26, pos := "outright.go:72", after := #[{ on := 11, ground := Ground.data }, { on := 9, ground := Ground.guard }], guard := some (9, false) }) (v := undef) rfl (by kernel_rfl) (by kernel_rfl) (by kernel_rfl) (fun _ _ _ h => h) (Or.inr ⟨by rfl, rfl⟩) (by assumption) ?_
            try simp only [Act.put, List.setIfInBounds_toArray, List.set_cons_zero, List.set_cons_succ]
            refine wpAnyH_take (i := 13) (oi := { dst := some 75, op := Op.load 26 (Operand.tmp 8), type := 26, pos := "outright.go:72", after := #[{ on := 9, ground := Ground.guard }], guard := some (9, false) }) (v := undef) rfl (by kernel_rfl) (by kernel_rfl) (by kernel_rfl) (fun _ _ _ h => h) (Or.inr ⟨by rfl, rfl⟩) (by assumption) ?_
            try simp only [Act.put, List.setIfInBounds_toArray, List.set_cons_zero, List.set_cons_succ]
            refine wpAnyH_take (i := 14) (oi := { dst := some 76, op := Op.binOp BinOp.eql 26 (Operand.tmp 74) (Operand.tmp 75) 26, type := 4, pos := "outright.go:72", after := #[{ on := 12, ground := Ground.data }, { on := 13, ground := Ground.data }, { on := 9, ground := Ground.guard }], guard := some (9, false) }) (v := undef) rfl (by kernel_rfl) (by kernel_rfl) (by kernel_rfl) (fun _ _ _ h => h) (Or.inr ⟨by rfl, rfl⟩) (by assumption) ?_
            try simp only [Act.put, List.setIfInBounds_toArray, List.set_cons_zero, List.set_cons_succ]
            refine wpAnyH_take (i := 15) (oi := { dst := some 77, op := Op.pick (Operand.tmp 71) (Operand.const (Value.bool true)) (Operand.tmp 76), type := 4, pos := "outright.go:72", after := #[{ on := 9, ground := Ground.data }, { on := 14, ground := Ground.data }, { on := 6, ground := Ground.guard }], guard := some (6, true) }) (v := ?vv103) rfl (by kernel_rfl) (by kernel_rfl) (by kernel_rfl) (fun _ _ _ h => h) (Or.inl ⟨by rfl, ?hy103⟩) (by assumption) ?_
            case hy103 => (intro w hSw; (try dsimp only at hSw); go_simp; all_goals with_reducible rfl)
            try simp only [Act.put, List.setIfInBounds_toArray, List.set_cons_zero, List.set_cons_succ]
            refine wpAnyH_take (i := 16) (oi := { dst := some 78, op := Op.pick (Operand.tmp 68) (Operand.tmp 77) (Operand.const (Value.bool false)), type := 4, pos := "outright.go:72", after := #[{ on := 6, ground := Ground.data }, { on := 15, ground := Ground.data }], guard := none }) (v := ?vv104) rfl (by kernel_rfl) (by kernel_rfl) (by kernel_rfl) (fun _ _ _ h => h) (Or.inl ⟨by rfl, ?hy104⟩) (by assumption) ?_
            case hy104 => (intro w hSw; (try dsimp only at hSw); go_simp; all_goals with_reducible rfl)
            try simp only [Act.put, List.setIfInBounds_toArray, List.set_cons_zero, List.set_cons_succ]
            refine wpAnyH_take (i := 17) (oi := { dst := some 79, op := Op.move (Operand.tmp 78), type := 4, pos := "outright.go:72", after := #[{ on := 16, ground := Ground.data }, { on := 9, ground := Ground.chain }], guard := none }) (v := ?vv105) rfl (by kernel_rfl) (by kernel_rfl) (by kernel_rfl) (fun _ _ _ h => h) (Or.inl ⟨by rfl, ?hy105⟩) (by assumption) ?_
            case hy105 => (intro w hSw; (try dsimp only at hSw); go_simp; all_goals with_reducible rfl)
            try simp only [Act.put, List.setIfInBounds_toArray, List.set_cons_zero, List.set_cons_succ]
            refine wpAnyH_take (i := 18) (oi := { dst := some 80, op := Op.move (Operand.tmp 9), type := 27, pos := "outright.go:72", after := #[{ on := 17, ground := Ground.guard }], guard := some (17, true) }) (v := ?vv106) rfl (by kernel_rfl) (by kernel_rfl) (by kernel_rfl) (fun _ _ _ h => h) (Or.inl ⟨by rfl, ?hy106⟩) (by assumption) ?_
            case hy106 => (intro w hSw; (try dsimp only at hSw); go_simp; all_goals with_reducible rfl)
            try simp only [Act.put, List.setIfInBounds_toArray, List.set_cons_zero, List.set_cons_succ]
            refine wpAnyH_take (i := 19) (oi := { dst := some 81, op := Op.call { callee := Callee.builtin Builtin.len, args := #[Operand.tmp 80], argTypes := #[27] }, type := 3, pos := "outright.go:72", after := #[{ on := 18, ground := Ground.data }, { on := 17, ground := Ground.guard }], guard := some (17, true) }) (v := ?vv107) rfl (by kernel_rfl) (by kernel_rfl) (by kernel_rfl) (fun _ _ _ h => h) (Or.inl ⟨by rfl, ?hy107⟩) (by assumption) ?_
            case hy107 => (intro w hSw; (try dsimp only at hSw); go_simp; all_goals with_reducible rfl)
            try simp only [Act.put, List.setIfInBounds_toArray, List.set_cons_zero, List.set_cons_succ]
            refine wpAnyH_take (i := 20) (oi := { dst := some 82, op := Op.binOp BinOp.eql 3 (Operand.tmp 81) (Operand.const (Value.int IntKind.i64 0)) 3, type := 4, pos := "outright.go:72", after := #[{ on := 19, ground := Ground.data }, { on := 17, ground := Ground.guard }], guard := some (17, true) }) (v := ?vv108) rfl (by kernel_rfl) (by kernel_rfl) (by kernel_rfl) (fun _ _ _ h => h) (Or.inl ⟨by rfl, ?hy108⟩) (by assumption) ?_
            case hy108 => (intro w hSw; (try dsimp only at hSw); go_simp; all_goals with_reducible rfl)
            try simp only [Act.put, List.setIfInBounds_toArray, List.set_cons_zero, List.set_cons_succ]
            refine wpAnyH_take (i := 21) (oi := { dst := some 83, op := Op.move (Operand.tmp 82), type := 4, pos := "outright.go:72", after := #[{ on := 20, ground := Ground.data }, { on := 17, ground := Ground.chain }, { on := 17, ground := Ground.guard }], guard := some (17, true) }) (v := ?vv109) rfl (by kernel_rfl) (by kernel_rfl) (by kernel_rfl) (fun _ _ _ h => h) (Or.inl ⟨by rfl, ?hy109⟩) (by assumption) ?_
            case hy109 => (intro w hSw; (try dsimp only at hSw); go_simp; all_goals with_reducible rfl)
            try simp only [Act.put, List.setIfInBounds_toArray, List.set_cons_zero, List.set_cons_succ]
            refine wpAnyH_take (i := 22) (oi := { dst := some 84, op := Op.move (Operand.tmp 9), type := 27, pos := "outright.go:72", after := #[{ on := 21, ground := Ground.guard }], guard := some (21, false) }) (v := ?vv110) rfl (by kernel_rfl) (by kernel_rfl) (by kernel_rfl) (fun _ _ _ h => h) (Or.inl ⟨by rfl, ?hy110⟩) (by assumption) ?_
            case hy110 => (intro w hSw; (try dsimp only at hSw); go_simp; all_goals with_reducible rfl)
            try simp only [Act.put, List.setIfInBounds_toArray, List.set_cons_zero, List.set_cons_succ]
            refine wpAnyH_take (i := 23) (oi := { dst := some 85, op := Op.indexAddr 27 (Operand.tmp 84) (Operand.const (Value.int IntKind.i64 0)), type := 0, pos := "outright.go:72", after := #[{ on := 22, ground := Ground.data }, { on := 21, ground := Ground.guard }], guard := some (21, false) }) (v := ?vv111) rfl (by kernel_rfl) (by kernel_rfl) (by kernel_rfl) (fun _ _ _ h => h) (Or.inl ⟨by rfl, ?hy111⟩) (by assumption) ?_
            case hy111 => (intro w hSw; (try dsimp only at hSw); go_simp; all_goals with_reducible rfl)
            try simp only [Act.put, List.setIfInBounds_toArray, List.set_cons_zero, List.set_cons_succ]
            refine wpAnyH_take (i := 24) (oi := { dst := some 86, op := Op.load 26 (Operand.tmp 85), type := 26, pos := "outright.go:72", after := #[{ on := 23, ground := Ground.data }, { on := 21, ground := Ground.guard }], guard := some (21, false) }) (v := ?vv112) rfl (by kernel_rfl) (by kernel_rfl) (by kernel_rfl) (fun _ _ _ h => h) (Or.inl ⟨by rfl, ?hy112⟩) (by assumption) ?_
            case hy112 => (intro w hSw; (try dsimp only at hSw); go_simp; all_goals with_reducible rfl)
            try simp only [Act.put, List.setIfInBounds_toArray, List.set_cons_zero, List.set_cons_succ]
            refine wpAnyH_take (i := 25) (oi := { dst := some 87, op := Op.move (Operand.tmp 10), type := 27, pos := "outright.go:72", after := #[{ on := 21, ground := Ground.guard }], guard := some (21, false) }) (v := ?vv113) rfl (by kernel_rfl) (by kernel_rfl) (by kernel_rfl) (fun _ _ _ h => h) (Or.inl ⟨by rfl, ?hy113⟩) (by assumption) ?_
            case hy113 => (intro w hSw; (try dsimp only at hSw); go_simp; all_goals with_reducible rfl)
            try simp only [Act.put, List.setIfInBounds_toArray, List.set_cons_zero, List.set_cons_succ]
            refine wpAnyH_take (i := 26) (oi := { dst := some 88, op := Op.move (Operand.tmp 11), type := 3, pos := "outright.go:72", after := #[{ on := 21, ground := Ground.guard }], guard := some (21, false) }) (v := ?vv114) rfl (by kernel_rfl) (by kernel_rfl) (by kernel_rfl) (fun _ _ _ h => h) (Or.inl ⟨by rfl, ?hy114⟩) (by assumption) ?_
            case hy114 => (intro w hSw; (try dsimp only at hSw); go_simp; all_goals with_reducible rfl)
            try simp only [Act.put, List.setIfInBounds_toArray, List.set_cons_zero, List.set_cons_succ]
            refine wpAnyH_take (i := 27) (oi := { dst := some 89, op := Op.indexAddr 27 (Operand.tmp 87) (Operand.tmp 88), type := 0, pos := "outright.go:72", after := #[{ on := 25, ground := Ground.data }, { on := 26, ground := Ground.data }, { on := 21, ground := Ground.guard }], guard := some (21, false) }) (v := ?vv115) rfl (by kernel_rfl) (by kernel_rfl) (by kernel_rfl) (fun _ _ _ h => h) (Or.inl ⟨by rfl, ?hy115⟩) (by assumption) ?_
            case hy115 => (intro w hSw; (try dsimp only at hSw); go_simp; all_goals with_reducible rfl)
            try simp only [Act.put, List.setIfInBounds_toArray, List.set_cons_zero, List.set_cons_succ]
            refine wpAnyH_take (i := 28) (oi := { dst := some 90, op := Op.load 26 (Operand.tmp 89), type := 26, pos := "outright.go:72", after := #[{ on := 27, ground := Ground.data }, { on := 21, ground := Ground.guard }], guard := some (21, false) }) (v := ?vv116) rfl (by kernel_rfl) (by kernel_rfl) (by kernel_rfl) (fun _ _ _ h => h) (Or.inl ⟨by rfl, ?hy116⟩) (by assumption) ?_
            case hy116 => (intro w hSw; (try dsimp only at hSw); go_simp; all_goals with_reducible rfl)
            try simp only [Act.put, List.setIfInBounds_toArray, List.set_cons_zero, List.set_cons_succ]
            refine wpAnyH_take (i := 29) (oi := { dst := some 91, op := Op.binOp BinOp.neq 26 (Operand.tmp 86) (Operand.tmp 90) 26, type := 4, pos := "outright.go:72", after := #[{ on := 24, ground := Ground.data }, { on := 28, ground := Ground.data }, { on := 21, ground := Ground.guard }], guard := some (21, false) }) (v := ?vv117) rfl (by kernel_rfl) (by kernel_rfl) (by kernel_rfl) (fun _ _ _ h => h) (Or.inl ⟨by rfl, ?hy117⟩) (by assumption) ?_
            case hy117 => (intro w hSw; (try dsimp only at hSw); go_simp; all_goals with_reducible rfl)
            try simp only [Act.put, List.setIfInBounds_toArray, List.set_cons_zero, List.set_cons_succ]
            refine wpAnyH_take (i := 30) (oi := { dst := some 92, op := Op.pick (Operand.tmp 83) (Operand.const (Value.bool true)) (Operand.tmp 91), type := 4, pos := "outright.go:72", after := #[{ on := 21, ground := Ground.data }, { on := 29, ground := Ground.data }, { on := 17, ground := Ground.guard }], guard := some (17, true) }) (v := ?vv118) rfl (by kernel_rfl) (by kernel_rfl) (by kernel_rfl) (fun _ _ _ h => h) (Or.inl ⟨by rfl, ?hy118⟩) (by assumption) ?_
            case hy118 => (intro w hSw; (try dsimp only at hSw); go_simp; all_goals with_reducible rfl)
            try simp only [Act.put, List.setIfInBounds_toArray, List.set_cons_zero, List.set_cons_succ]
            refine wpAnyH_take (i := 31) (oi := { dst := some 93, op := Op.pick (Operand.tmp 79) (Operand.tmp 92) (Operand.const (Value.bool false)), type := 4, pos := "outright.go:72", after := #[{ on := 17, ground := Ground.data }, { on := 30, ground := Ground.data }], guard := none }) (v := ?vv119) rfl (by kernel_rfl) (by kernel_rfl) (by kernel_rfl) (fun _ _ _ h => h) (Or.inl ⟨by rfl, ?hy119⟩) (by assumption) ?_
            case hy119 => (intro w hSw; (try dsimp only at hSw); go_simp; all_goals with_reducible rfl)
            try simp only [Act.put, List.setIfInBounds_toArray, List.set_cons_zero, List.set_cons_succ]
            refine wpAnyH_done (by kernel_rfl) ?_ _
            have HBn : Hid (Below w9.heap.size w9 W) := hb.out.trans (hbW.mono hb.out.size)
            go_wp2_with fail
            go_roundw
            case rel => exact ⟨1, by rfl, by omega, by omega, HBn.out⟩
            case measure => simp [intOf]
          · rw [hE] at hq
            clear hE hX0
            go_wp2_with fail
            have hbW : Below wr.heap.size wr wr.drew := (Below.refl _ _).drew
            refine wp_region_held_drew (S := (fun V => V.cell? ⟨B0, o0, none⟩ = some (.string X0a) ∧ V.cell? ⟨B0, o0 + 1, none⟩ = some (.string X0p) ∧ V.cell? ⟨q, 0, none⟩ = some (.string Ta) ∧ V.cell? ⟨q, 1, none⟩ = some (.string Tp))) (by kernel_rfl) (HCy.out _ hbW) (fun hHeld => ?_)
            generalize hWg : World.drew _ = W at hbW hHeld ⊢
            clear hWg
            refine wpAnyH_take (i := 0) (oi := { dst := some 62, op := Op.move (Operand.tmp 10), type := 27, pos := "outright.go:72", after := #[], guard := none }) (v := ?vv73) rfl (by kernel_rfl) (by kernel_rfl) (by kernel_rfl) (fun _ _ _ h => h) (Or.inl ⟨by rfl, ?hy73⟩) (by assumption) ?_
            case hy73 => (intro w hSw; (try dsimp only at hSw); go_simp; all_goals with_reducible rfl)
            try simp only [Act.put, List.setIfInBounds_toArray, List.set_cons_zero, List.set_cons_succ]
            refine wpAnyH_take (i := 1) (oi := { dst := some 63, op := Op.move (Operand.tmp 11), type := 3, pos := "outright.go:72", after := #[], guard := none }) (v := ?vv74) rfl (by kernel_rfl) (by kernel_rfl) (by kernel_rfl) (fun _ _ _ h => h) (Or.inl ⟨by rfl, ?hy74⟩) (by assumption) ?_
            case hy74 => (intro w hSw; (try dsimp only at hSw); go_simp; all_goals with_reducible rfl)
            try simp only [Act.put, List.setIfInBounds_toArray, List.set_cons_zero, List.set_cons_succ]
            refine wpAnyH_take (i := 2) (oi := { dst := some 64, op := Op.indexAddr 27 (Operand.tmp 62) (Operand.tmp 63), type := 0, pos := "outright.go:72", after := #[{ on := 0, ground := Ground.data }, { on := 1, ground := Ground.data }], guard := none }) (v := ?vv75) rfl (by kernel_rfl) (by kernel_rfl) (by kernel_rfl) (fun _ _ _ h => h) (Or.inl ⟨by rfl, ?hy75⟩) (by assumption) ?_
            case hy75 => (intro w hSw; (try dsimp only at hSw); go_simp; all_goals with_reducible rfl)
            try simp only [Act.put, List.setIfInBounds_toArray, List.set_cons_zero, List.set_cons_succ]
            refine wpAnyH_take (i := 3) (oi := { dst := some 65, op := Op.load 26 (Operand.tmp 64), type := 26, pos := "outright.go:72", after := #[{ on := 2, ground := Ground.data }], guard := none }) (v := ?vv76) rfl (by kernel_rfl) (by kernel_rfl) (by kernel_rfl) (fun _ _ _ h => h) (Or.inl ⟨by rfl, ?hy76⟩) (by assumption) ?_
            case hy76 => (intro w hSw; (try dsimp only at hSw); go_simp; all_goals with_reducible rfl)
            try simp only [Act.put, List.setIfInBounds_toArray, List.set_cons_zero, List.set_cons_succ]
            refine wpAnyH_take (i := 4) (oi := { dst := some 66, op := Op.load 26 (Operand.tmp 8), type := 26, pos := "outright.go:72", after := #[], guard := none }) (v := ?vv77) rfl (by kernel_rfl) (by kernel_rfl) (by kernel_rfl) (fun _ _ _ h => h) (Or.inl ⟨by rfl, ?hy77⟩) (by assumption) ?_
            case hy77 => (intro w hSw; (try dsimp only at hSw); go_simp; all_goals with_reducible rfl)
            try simp only [Act.put, List.setIfInBounds_toArray, List.set_cons_zero, List.set_cons_succ]
            refine wpAnyH_take (i := 5) (oi := { dst := some 67, op := Op.binOp BinOp.neq 26 (Operand.tmp 65) (Operand.tmp 66) 26, type := 4, pos := "outright.go:72", after := #[{ on := 3, ground := Ground.data }, { on := 4, ground := Ground.data }], guard := none }) (v := ?vv78) rfl (by kernel_rfl) (by kernel_rfl) (by kernel_rfl) (fun _ _ _ h => h) (Or.inl ⟨by rfl, ?hy78⟩) (by assumption) ?_
            case hy78 => (intro w hSw; (try dsimp only at hSw); go_simp; all_goals with_reducible rfl)
            try simp only [Act.put, List.setIfInBounds_toArray, List.set_cons_zero, List.set_cons_succ]
            refine wpAnyH_take (i := 6) (oi := { dst := some 68, op := Op.move (Operand.tmp 67), type := 4, pos := "outright.go:72", after := #[{ on := 5, ground := Ground.data }], guard := none }) (v := ?vv79) rfl (by kernel_rfl) (by kernel_rfl) (by kernel_rfl) (fun _ _ _ h => h) (Or.inl ⟨by rfl, ?hy79⟩) (by assumption) ?_
            case hy79 => (intro w hSw; (try dsimp only at hSw); go_simp; all_goals with_reducible rfl)
            try simp only [Act.put, List.setIfInBounds_toArray, List.set_cons_zero, List.set_cons_succ]
            refine wpAnyH_take (i := 7) (oi := { dst := some 69, op := Op.move (Operand.tmp 11), type := 3, pos := "outright.go:72", after := #[{ on := 6, ground := Ground.guard }], guard := some (6, true) }) (v := undef) rfl (by kernel_rfl) (by kernel_rfl) (by kernel_rfl) (fun _ _ _ h => h) (Or.inr ⟨by rfl, rfl⟩) (by assumption) ?_
            try simp only [Act.put, List.setIfInBounds_toArray, List.set_cons_zero, List.set_cons_succ]
            refine wpAnyH_take (i := 8) (oi := { dst := some 70, op := Op.binOp BinOp.eql 3 (Operand.tmp 69) (Operand.const (Value.int IntKind.i64 0)) 3, type := 4, pos := "outright.go:72", after := #[{ on := 7, ground := Ground.data }, { on := 6, ground := Ground.guard }], guard := some (6, true) }) (v := undef) rfl (by kernel_rfl) (by kernel_rfl) (by kernel_rfl) (fun _ _ _ h => h) (Or.inr ⟨by rfl, rfl⟩) (by assumption) ?_
            try simp only [Act.put, List.setIfInBounds_toArray, List.set_cons_zero, List.set_cons_succ]
            refine wpAnyH_take (i := 9) (oi := { dst := some 71, op := Op.move (Operand.tmp 70), type := 4, pos := "outright.go:72", after := #[{ on := 8, ground := Ground.data }, { on := 6, ground := Ground.chain }, { on := 6, ground := Ground.guard }], guard := some (6, true) }) (v := undef) rfl (by kernel_rfl) (by kernel_rfl) (by kernel_rfl) (fun _ _ _ h => h) (Or.inr ⟨by rfl, rfl⟩) (by assumption) ?_
            try simp only [Act.put, List.setIfInBounds_toArray, List.set_cons_zero, List.set_cons_succ]
            refine wpAnyH_take (i := 10) (oi := { dst := some 72, op := Op.move (Operand.tmp 10), type := 27, pos := "outright.go:72", after := #[{ on := 9, ground := Ground.guard }], guard := some (9, false) }) (v := undef) rfl (by kernel_rfl) (by kernel_rfl) (by kernel_rfl) (fun _ _ _ h => h) (Or.inr ⟨by rfl, rfl⟩) (by assumption) ?_
            try simp only [Act.put, List.setIfInBounds_toArray, List.set_cons_zero, List.set_cons_succ]
            refine wpAnyH_take (i := 11) (oi := { dst := some 73, op := Op.indexAddr 27 (Operand.tmp 72) (Operand.const (Value.int IntKind.i64 0)), type := 0, pos := "outright.go:72", after := #[{ on := 10, ground := Ground.data }, { on := 9, ground := Ground.guard }], guard := some (9, false) }) (v := undef) rfl (by kernel_rfl) (by kernel_rfl) (by kernel_rfl) (fun _ _ _ h => h) (Or.inr ⟨by rfl, rfl⟩) (by assumption) ?_
            try simp only [Act.put, List.setIfInBounds_toArray, List.set_cons_zero, List.set_cons_succ]
            refine wpAnyH_take (i := 12) (oi := { dst := some 74, op := Op.load 26 (Operand.tmp 73), type := 26, pos := "outright.go:72", after := #[{ on := 11, ground := Ground.data }, { on := 9, ground := Ground.guard }], guard := some (9, false) }) (v := undef) rfl (by kernel_rfl) (by kernel_rfl) (by kernel_rfl) (fun _ _ _ h => h) (Or.inr ⟨by rfl, rfl⟩) (by assumption) ?_
            try simp only [Act.put, List.setIfInBounds_toArray, List.set_cons_zero, List.set_cons_succ]
            refine wpAnyH_take (i := 13) (oi := { dst := some 75, op := Op.load 26 (Operand.tmp 8), type := 26, pos := "outright.go:72", after := #[{ on := 9, ground := Ground.guard }], guard := some (9, false) }) (v := undef) rfl (by kernel_rfl) (by kernel_rfl) (by kernel_rfl) (fun _ _ _ h => h) (Or.inr ⟨by rfl, rfl⟩) (by assumption) ?_
            try simp only [Act.put, List.setIfInBounds_toArray, List.set_cons_zero, List.set_cons_succ]
            refine wpAnyH_take (i := 14) (oi := { dst := some 76, op := Op.binOp BinOp.eql 26 (Operand.tmp 74) (Operand.tmp 75) 26, type := 4, pos := "outright.go:72", after := #[{ on := 12, ground := Ground.data }, { on := 13, ground := Ground.data }, { on := 9, ground := Ground.guard }], guard := some (9, false) }) (v := undef) rfl (by kernel_rfl) (by kernel_rfl) (by kernel_rfl) (fun _ _ _ h => h) (Or.inr ⟨by rfl, rfl⟩) (by assumption) ?_
            try simp only [Act.put, List.setIfInBounds_toArray, List.set_cons_zero, List.set_cons_succ]
            refine wpAnyH_take (i := 15) (oi := { dst := some 77, op := Op.pick (Operand.tmp 71) (Operand.const (Value.bool true)) (Operand.tmp 76), type := 4, pos := "outright.go:72", after := #[{ on := 9, ground := Ground.data }, { on := 14, ground := Ground.data }, { on := 6, ground := Ground.guard }], guard := some (6, true) }) (v := undef) rfl (by kernel_rfl) (by kernel_rfl) (by kernel_rfl) (fun _ _ _ h => h) (Or.inr ⟨by rfl, rfl⟩) (by assumption) ?_
            try simp only [Act.put, List.setIfInBounds_toArray, List.set_cons_zero, List.set_cons_succ]
            refine wpAnyH_take (i := 16) (oi := { dst := some 78, op := Op.pick (Operand.tmp 68) (Operand.tmp 77) (Operand.const (Value.bool false)), type := 4, pos := "outright.go:72", after := #[{ on := 6, ground := Ground.data }, { on := 15, ground := Ground.data }], guard := none }) (v := ?vv80) rfl (by kernel_rfl) (by kernel_rfl) (by kernel_rfl) (fun _ _ _ h => h) (Or.inl ⟨by rfl, ?hy80⟩) (by assumption) ?_
            case hy80 => (intro w hSw; (try dsimp only at hSw); go_simp; all_goals with_reducible rfl)
            try simp only [Act.put, List.setIfInBounds_toArray, List.set_cons_zero, List.set_cons_succ]
            refine wpAnyH_take (i := 17) (oi := { dst := some 79, op := Op.move (Operand.tmp 78), type := 4, pos := "outright.go:72", after := #[{ on := 16, ground := Ground.data }, { on := 9, ground := Ground.chain }], guard := none }) (v := ?vv81) rfl (by kernel_rfl) (by kernel_rfl) (by kernel_rfl) (fun _ _ _ h => h) (Or.inl ⟨by rfl, ?hy81⟩) (by assumption) ?_
            case hy81 => (intro w hSw; (try dsimp only at hSw); go_simp; all_goals with_reducible rfl)
            try simp only [Act.put, List.setIfInBounds_toArray, List.set_cons_zero, List.set_cons_succ]
            refine wpAnyH_take (i := 18) (oi := { dst := some 80, op := Op.move (Operand.tmp 9), type := 27, pos := "outright.go:72", after := #[{ on := 17, ground := Ground.guard }], guard := some (17, true) }) (v := undef) rfl (by kernel_rfl) (by kernel_rfl) (by kernel_rfl) (fun _ _ _ h => h) (Or.inr ⟨by rfl, rfl⟩) (by assumption) ?_
            try simp only [Act.put, List.setIfInBounds_toArray, List.set_cons_zero, List.set_cons_succ]
            refine wpAnyH_take (i := 19) (oi := { dst := some 81, op := Op.call { callee := Callee.builtin Builtin.len, args := #[Operand.tmp 80], argTypes := #[27] }, type := 3, pos := "outright.go:72", after := #[{ on := 18, ground := Ground.data }, { on := 17, ground := Ground.guard }], guard := some (17, true) }) (v := undef) rfl (by kernel_rfl) (by kernel_rfl) (by kernel_rfl) (fun _ _ _ h => h) (Or.inr ⟨by rfl, rfl⟩) (by assumption) ?_
            try simp only [Act.put, List.setIfInBounds_toArray, List.set_cons_zero, List.set_cons_succ]
            refine wpAnyH_take (i := 20) (oi := { dst := some 82, op := Op.binOp BinOp.eql 3 (Operand.tmp 81) (Operand.const (Value.int IntKind.i64 0)) 3, type := 4, pos := "outright.go:72", after := #[{ on := 19, ground := Ground.data }, { on := 17, ground := Ground.guard }], guard := some (17, true) }) (v := undef) rfl (by kernel_rfl) (by kernel_rfl) (by kernel_rfl) (fun _ _ _ h => h) (Or.inr ⟨by rfl, rfl⟩) (by assumption) ?_
            try simp only [Act.put, List.setIfInBounds_toArray, List.set_cons_zero, List.set_cons_succ]
            refine wpAnyH_take (i := 21) (oi := { dst := some 83, op := Op.move (Operand.tmp 82), type := 4, pos := "outright.go:72", after := #[{ on := 20, ground := Ground.data }, { on := 17, ground := Ground.chain }, { on := 17, ground := Ground.guard }], guard := some (17, true) }) (v := undef) rfl (by kernel_rfl) (by kernel_rfl) (by kernel_rfl) (fun _ _ _ h => h) (Or.inr ⟨by rfl, rfl⟩) (by assumption) ?_
            try simp only [Act.put, List.setIfInBounds_toArray, List.set_cons_zero, List.set_cons_succ]
            refine wpAnyH_take (i := 22) (oi := { dst := some 84, op := Op.move (Operand.tmp 9), type := 27, pos := "outright.go:72", after := #[{ on := 21, ground := Ground.guard }], guard := some (21, false) }) (v := undef) rfl (by kernel_rfl) (by kernel_rfl) (by kernel_rfl) (fun _ _ _ h => h) (Or.inr ⟨by rfl, rfl⟩) (by assumption) ?_
            try simp only [Act.put, List.setIfInBounds_toArray, List.set_cons_zero, List.set_cons_succ]
            refine wpAnyH_take (i := 23) (oi := { dst := some 85, op := Op.indexAddr 27 (Operand.tmp 84) (Operand.const (Value.int IntKind.i64 0)), type := 0, pos := "outright.go:72", after := #[{ on := 22, ground := Ground.data }, { on := 21, ground := Ground.guard }], guard := some (21, false) }) (v := undef) rfl (by kernel_rfl) (by kernel_rfl) (by kernel_rfl) (fun _ _ _ h => h) (Or.inr ⟨by rfl, rfl⟩) (by assumption) ?_
            try simp only [Act.put, List.setIfInBounds_toArray, List.set_cons_zero, List.set_cons_succ]
            refine wpAnyH_take (i := 24) (oi := { dst := some 86, op := Op.load 26 (Operand.tmp 85), type := 26, pos := "outright.go:72", after := #[{ on := 23, ground := Ground.data }, { on := 21, ground := Ground.guard }], guard := some (21, false) }) (v := undef) rfl (by kernel_rfl) (by kernel_rfl) (by kernel_rfl) (fun _ _ _ h => h) (Or.inr ⟨by rfl, rfl⟩) (by assumption) ?_
            try simp only [Act.put, List.setIfInBounds_toArray, List.set_cons_zero, List.set_cons_succ]
            refine wpAnyH_take (i := 25) (oi := { dst := some 87, op := Op.move (Operand.tmp 10), type := 27, pos := "outright.go:72", after := #[{ on := 21, ground := Ground.guard }], guard := some (21, false) }) (v := undef) rfl (by kernel_rfl) (by kernel_rfl) (by kernel_rfl) (fun _ _ _ h => h) (Or.inr ⟨by rfl, rfl⟩) (by assumption) ?_
            try simp only [Act.put, List.setIfInBounds_toArray, List.set_cons_zero, List.set_cons_succ]
            refine wpAnyH_take (i := 26) (oi := { dst := some 88, op := Op.move (Operand.tmp 11), type := 3, pos := "outright.go:72", after := #[{ on := 21, ground := Ground.guard }], guard := some (21, false) }) (v := undef) rfl (by kernel_rfl) (by kernel_rfl) (by kernel_rfl) (fun _ _ _ h => h) (Or.inr ⟨by rfl, rfl⟩) (by assumption) ?_
            try simp only [Act.put, List.setIfInBounds_toArray, List.set_cons_zero, List.set_cons_succ]
            refine wpAnyH_take (i := 27) (oi := { dst := some 89, op := Op.indexAddr 27 (Operand.tmp 87) (Operand.tmp 88), type := 0, pos := "outright.go:72", after := #[{ on := 25, ground := Ground.data }, { on := 26, ground := Ground.data }, { on := 21, ground := Ground.guard }], guard := some (21, false) }) (v := undef) rfl (by kernel_rfl) (by kernel_rfl) (by kernel_rfl) (fun _ _ _ h => h) (Or.inr ⟨by rfl, rfl⟩) (by assumption) ?_
            try simp only [Act.put, List.setIfInBounds_toArray, List.set_cons_zero, List.set_cons_succ]
            refine wpAnyH_take (i := 28) (oi := { dst := some 90, op := Op.load 26 (Operand.tmp 89), type := 26, pos := "outright.go:72", after := #[{ on := 27, ground := Ground.data }, { on := 21, ground := Ground.guard }], guard := some (21, false) }) (v := undef) rfl (by kernel_rfl) (by kernel_rfl) (by kernel_rfl) (fun _ _ _ h => h) (Or.inr ⟨by rfl, rfl⟩) (by assumption) ?_
            try simp only [Act.put, List.setIfInBounds_toArray, List.set_cons_zero, List.set_cons_succ]
            refine wpAnyH_take (i := 29) (oi := { dst := some 91, op := Op.binOp BinOp.neq 26 (Operand.tmp 86) (Operand.tmp 90) 26, type := 4, pos := "outright.go:72", after := #[{ on := 24, ground := Ground.data }, { on := 28, ground := Ground.data }, { on := 21, ground := Ground.guard }], guard := some (21, false) }) (v := undef) rfl (by kernel_rfl) (by kernel_rfl) (by kernel_rfl) (fun _ _ _ h => h) (Or.inr ⟨by rfl, rfl⟩) (by assumption) ?_
            try simp only [Act.put, List.setIfInBounds_toArray, List.set_cons_zero, List.set_cons_succ]
            refine wpAnyH_take (i := 30) (oi := { dst := some 92, op := Op.pick (Operand.tmp 83) (Operand.const (Value.bool true)) (Operand.tmp 91), type := 4, pos := "outright.go:72", after := #[{ on := 21, ground := Ground.data }, { on := 29, ground := Ground.data }, { on := 17, ground := Ground.guard }], guard := some (17, true) }) (v := undef) rfl (by kernel_rfl) (by kernel_rfl) (by kernel_rfl) (fun _ _ _ h => h) (Or.inr ⟨by rfl, rfl⟩) (by assumption) ?_
            try simp only [Act.put, List.setIfInBounds_toArray, List.set_cons_zero, List.set_cons_succ]
            refine wpAnyH_take (i := 31) (oi := { dst := some 93, op := Op.pick (Operand.tmp 79) (Operand.tmp 92) (Operand.const (Value.bool false)), type := 4, pos := "outright.go:72", after := #[{ on := 17, ground := Ground.data }, { on := 30, ground := Ground.data }], guard := none }) (v := ?vv82) rfl (by kernel_rfl) (by kernel_rfl) (by kernel_rfl) (fun _ _ _ h => h) (Or.inl ⟨by rfl, ?hy82⟩) (by assumption) ?_
            case hy82 => (intro w hSw; (try dsimp only at hSw); go_simp; all_goals with_reducible rfl)
            try simp only [Act.put, List.setIfInBounds_toArray, List.set_cons_zero, List.set_cons_succ]
            refine wpAnyH_done (by kernel_rfl) ?_ _
            have HBn : Hid (Below w9.heap.size w9 W) := hb.out.trans (hbW.mono hb.out.size)
            go_wp2_with fail
            go_roundw
            case rel => exact ⟨1, by rfl, by omega, by omega, HBn.out⟩
            case measure => simp [intOf]
        · -- the second
          have lH1 : (1 : Int) < (H.length : Int) := by omega
          have lN1 : 1 < H.length := by omega
          obtain ⟨B0', o0', q0', e, hB0', hc0'⟩ := HHI.out.tg 1 (by omega)
          injection e with e1 e2 e3
          injection e1 with e1
          injection e1 with e1 e4 _
          clear e2 e3
          subst e1 e4
          obtain ⟨X1, hX1⟩ : ∃ X1, H[1]'(by omega) = X1 := ⟨_, rfl⟩
          rw [hX1] at hc0'
          obtain ⟨X1a, X1p⟩ := X1
          simp only at hc0'
          have HCy : Hid (∀ V, Below wr.heap.size wr V → (V.cell? ⟨B0, o0, none⟩ = some (.string X0a) ∧ V.cell? ⟨B0, o0 + 1, none⟩ = some (.string X0p) ∧ V.cell? ⟨q, 0, none⟩ = some (.string Ta) ∧ V.cell? ⟨q, 1, none⟩ = some (.string Tp)) ∧ V.cell? ⟨B0, o0 + 2, none⟩ = some (.string X1a) ∧ V.cell? ⟨B0, o0 + 2 + 1, none⟩ = some (.string X1p)) := fun V hV => by
            have h1 := hc0 V (hb.out.trans (hV.mono hb.out.size))
            have h2 := HTc.out V (HB7.out.trans (hV.mono HB7.out.size))
            have h3 := hc0' V (hb.out.trans (hV.mono hb.out.size))
            simp at h1
            exact ⟨⟨h1.1, h1.2, h2.1, h2.2⟩, h3⟩
          clear hc0 hc0'
          have hq := neq_tg X1a X1p Ta Tp
          cases hE : decide ((X1a, X1p) = (Ta, Tp))
          · rw [hE] at hq
            cases hE0 : decide ((X0a, X0p) = (Ta, Tp))
            · rw [hE0] at qt0
              clear hE hE0 hX0 hX1
              go_wp2_with fail
              have hbW : Below wr.heap.size wr wr.drew := (Below.refl _ _).drew
              refine wp_region_held_drew (S := (fun V => (V.cell? ⟨B0, o0, none⟩ = some (.string X0a) ∧ V.cell? ⟨B0, o0 + 1, none⟩ = some (.string X0p) ∧ V.cell? ⟨q, 0, none⟩ = some (.string Ta) ∧ V.cell? ⟨q, 1, none⟩ = some (.string Tp)) ∧ V.cell? ⟨B0, o0 + 2, none⟩ = some (.string X1a) ∧ V.cell? ⟨B0, o0 + 2 + 1, none⟩ = some (.string X1p))) (by kernel_rfl) (HCy.out _ hbW) (fun hHeld => ?_)
              generalize hWg : World.drew _ = W at hbW hHeld ⊢
              clear hWg
              refine wpAnyH_take (i := 0) (oi := { dst := some 62, op := Op.move (Operand.tmp 10), type := 27, pos := "outright.go:72", after := #[], guard := none }) (v := ?vv120) rfl (by kernel_rfl) (by kernel_rfl) (by kernel_rfl) (fun _ _ _ h => h) (Or.inl ⟨by rfl, ?hy120⟩) (by assumption) ?_
              case hy120 => (intro w hSw; (try dsimp only at hSw); go_simp; all_goals with_reducible rfl)
              try simp only [Act.put, List.setIfInBounds_toArray, List.set_cons_zero, List.set_cons_succ]
              refine wpAnyH_take (i := 1) (oi := { dst := some 63, op := Op.move (Operand.tmp 11), type := 3, pos := "outright.go:72", after := #[], guard := none }) (v := ?vv121) rfl (by kernel_rfl) (by kernel_rfl) (by kernel_rfl) (fun _ _ _ h => h) (Or.inl ⟨by rfl, ?hy121⟩) (by assumption) ?_
              case hy121 => (intro w hSw; (try dsimp only at hSw); go_simp; all_goals with_reducible rfl)
              try simp only [Act.put, List.setIfInBounds_toArray, List.set_cons_zero, List.set_cons_succ]
              refine wpAnyH_take (i := 2) (oi := { dst := some 64, op := Op.indexAddr 27 (Operand.tmp 62) (Operand.tmp 63), type := 0, pos := "outright.go:72", after := #[{ on := 0, ground := Ground.data }, { on := 1, ground := Ground.data }], guard := none }) (v := ?vv122) rfl (by kernel_rfl) (by kernel_rfl) (by kernel_rfl) (fun _ _ _ h => h) (Or.inl ⟨by rfl, ?hy122⟩) (by assumption) ?_
              case hy122 => (intro w hSw; (try dsimp only at hSw); go_simp; all_goals with_reducible rfl)
              try simp only [Act.put, List.setIfInBounds_toArray, List.set_cons_zero, List.set_cons_succ]
              refine wpAnyH_take (i := 3) (oi := { dst := some 65, op := Op.load 26 (Operand.tmp 64), type := 26, pos := "outright.go:72", after := #[{ on := 2, ground := Ground.data }], guard := none }) (v := ?vv123) rfl (by kernel_rfl) (by kernel_rfl) (by kernel_rfl) (fun _ _ _ h => h) (Or.inl ⟨by rfl, ?hy123⟩) (by assumption) ?_
              case hy123 => (intro w hSw; (try dsimp only at hSw); go_simp; all_goals with_reducible rfl)
              try simp only [Act.put, List.setIfInBounds_toArray, List.set_cons_zero, List.set_cons_succ]
              refine wpAnyH_take (i := 4) (oi := { dst := some 66, op := Op.load 26 (Operand.tmp 8), type := 26, pos := "outright.go:72", after := #[], guard := none }) (v := ?vv124) rfl (by kernel_rfl) (by kernel_rfl) (by kernel_rfl) (fun _ _ _ h => h) (Or.inl ⟨by rfl, ?hy124⟩) (by assumption) ?_
              case hy124 => (intro w hSw; (try dsimp only at hSw); go_simp; all_goals with_reducible rfl)
              try simp only [Act.put, List.setIfInBounds_toArray, List.set_cons_zero, List.set_cons_succ]
              refine wpAnyH_take (i := 5) (oi := { dst := some 67, op := Op.binOp BinOp.neq 26 (Operand.tmp 65) (Operand.tmp 66) 26, type := 4, pos := "outright.go:72", after := #[{ on := 3, ground := Ground.data }, { on := 4, ground := Ground.data }], guard := none }) (v := ?vv125) rfl (by kernel_rfl) (by kernel_rfl) (by kernel_rfl) (fun _ _ _ h => h) (Or.inl ⟨by rfl, ?hy125⟩) (by assumption) ?_
              case hy125 => (intro w hSw; (try dsimp only at hSw); go_simp; all_goals with_reducible rfl)
              try simp only [Act.put, List.setIfInBounds_toArray, List.set_cons_zero, List.set_cons_succ]
              refine wpAnyH_take (i := 6) (oi := { dst := some 68, op := Op.move (Operand.tmp 67), type := 4, pos := "outright.go:72", after := #[{ on := 5, ground := Ground.data }], guard := none }) (v := ?vv126) rfl (by kernel_rfl) (by kernel_rfl) (by kernel_rfl) (fun _ _ _ h => h) (Or.inl ⟨by rfl, ?hy126⟩) (by assumption) ?_
              case hy126 => (intro w hSw; (try dsimp only at hSw); go_simp; all_goals with_reducible rfl)
              try simp only [Act.put, List.setIfInBounds_toArray, List.set_cons_zero, List.set_cons_succ]
              refine wpAnyH_take (i := 7) (oi := { dst := some 69, op := Op.move (Operand.tmp 11), type := 3, pos := "outright.go:72", after := #[{ on := 6, ground := Ground.guard }], guard := some (6, true) }) (v := ?vv127) rfl (by kernel_rfl) (by kernel_rfl) (by kernel_rfl) (fun _ _ _ h => h) (Or.inl ⟨by rfl, ?hy127⟩) (by assumption) ?_
              case hy127 => (intro w hSw; (try dsimp only at hSw); go_simp; all_goals with_reducible rfl)
              try simp only [Act.put, List.setIfInBounds_toArray, List.set_cons_zero, List.set_cons_succ]
              refine wpAnyH_take (i := 8) (oi := { dst := some 70, op := Op.binOp BinOp.eql 3 (Operand.tmp 69) (Operand.const (Value.int IntKind.i64 0)) 3, type := 4, pos := "outright.go:72", after := #[{ on := 7, ground := Ground.data }, { on := 6, ground := Ground.guard }], guard := some (6, true) }) (v := ?vv128) rfl (by kernel_rfl) (by kernel_rfl) (by kernel_rfl) (fun _ _ _ h => h) (Or.inl ⟨by rfl, ?hy128⟩) (by assumption) ?_
              case hy128 => (intro w hSw; (try dsimp only at hSw); go_simp; all_goals with_reducible rfl)
              try simp only [Act.put, List.setIfInBounds_toArray, List.set_cons_zero, List.set_cons_succ]
              refine wpAnyH_take (i := 9) (oi := { dst := some 71, op := Op.move (Operand.tmp 70), type := 4, pos := "outright.go:72", after := #[{ on := 8, ground := Ground.data }, { on := 6, ground := Ground.chain }, { on := 6, ground := Ground.guard }], guard := some (6, true) }) (v := ?vv129) rfl (by kernel_rfl) (by kernel_rfl) (by kernel_rfl) (fun _ _ _ h => h) (Or.inl ⟨by rfl, ?hy129⟩) (by assumption) ?_
              case hy129 => (intro w hSw; (try dsimp only at hSw); go_simp; all_goals with_reducible rfl)
              try simp only [Act.put, List.setIfInBounds_toArray, List.set_cons_zero, List.set_cons_succ]
              refine wpAnyH_take (i := 10) (oi := { dst := some 72, op := Op.move (Operand.tmp 10), type := 27, pos := "outright.go:72", after := #[{ on := 9, ground := Ground.guard }], guard := some (9, false) }) (v := ?vv130) rfl (by kernel_rfl) (by kernel_rfl) (by kernel_rfl) (fun _ _ _ h => h) (Or.inl ⟨by rfl, ?hy130⟩) (by assumption) ?_
              case hy130 => (intro w hSw; (try dsimp only at hSw); go_simp; all_goals with_reducible rfl)
              try simp only [Act.put, List.setIfInBounds_toArray, List.set_cons_zero, List.set_cons_succ]
              refine wpAnyH_take (i := 11) (oi := { dst := some 73, op := Op.indexAddr 27 (Operand.tmp 72) (Operand.const (Value.int IntKind.i64 0)), type := 0, pos := "outright.go:72", after := #[{ on := 10, ground := Ground.data }, { on := 9, ground := Ground.guard }], guard := some (9, false) }) (v := ?vv131) rfl (by kernel_rfl) (by kernel_rfl) (by kernel_rfl) (fun _ _ _ h => h) (Or.inl ⟨by rfl, ?hy131⟩) (by assumption) ?_
              case hy131 => (intro w hSw; (try dsimp only at hSw); go_simp; all_goals with_reducible rfl)
              try simp only [Act.put, List.setIfInBounds_toArray, List.set_cons_zero, List.set_cons_succ]
              refine wpAnyH_take (i := 12) (oi := { dst := some 74, op := Op.load 26 (Operand.tmp 73), type := 26, pos := "outright.go:72", after := #[{ on := 11, ground := Ground.data }, { on := 9, ground := Ground.guard }], guard := some (9, false) }) (v := ?vv132) rfl (by kernel_rfl) (by kernel_rfl) (by kernel_rfl) (fun _ _ _ h => h) (Or.inl ⟨by rfl, ?hy132⟩) (by assumption) ?_
              case hy132 => (intro w hSw; (try dsimp only at hSw); go_simp; all_goals with_reducible rfl)
              try simp only [Act.put, List.setIfInBounds_toArray, List.set_cons_zero, List.set_cons_succ]
              refine wpAnyH_take (i := 13) (oi := { dst := some 75, op := Op.load 26 (Operand.tmp 8), type := 26, pos := "outright.go:72", after := #[{ on := 9, ground := Ground.guard }], guard := some (9, false) }) (v := ?vv133) rfl (by kernel_rfl) (by kernel_rfl) (by kernel_rfl) (fun _ _ _ h => h) (Or.inl ⟨by rfl, ?hy133⟩) (by assumption) ?_
              case hy133 => (intro w hSw; (try dsimp only at hSw); go_simp; all_goals with_reducible rfl)
              try simp only [Act.put, List.setIfInBounds_toArray, List.set_cons_zero, List.set_cons_succ]
              refine wpAnyH_take (i := 14) (oi := { dst := some 76, op := Op.binOp BinOp.eql 26 (Operand.tmp 74) (Operand.tmp 75) 26, type := 4, pos := "outright.go:72", after := #[{ on := 12, ground := Ground.data }, { on := 13, ground := Ground.data }, { on := 9, ground := Ground.guard }], guard := some (9, false) }) (v := ?vv134) rfl (by kernel_rfl) (by kernel_rfl) (by kernel_rfl) (fun _ _ _ h => h) (Or.inl ⟨by rfl, ?hy134⟩) (by assumption) ?_
              case hy134 => (intro w hSw; (try dsimp only at hSw); go_simp; all_goals with_reducible rfl)
              try simp only [Act.put, List.setIfInBounds_toArray, List.set_cons_zero, List.set_cons_succ]
              refine wpAnyH_take (i := 15) (oi := { dst := some 77, op := Op.pick (Operand.tmp 71) (Operand.const (Value.bool true)) (Operand.tmp 76), type := 4, pos := "outright.go:72", after := #[{ on := 9, ground := Ground.data }, { on := 14, ground := Ground.data }, { on := 6, ground := Ground.guard }], guard := some (6, true) }) (v := ?vv135) rfl (by kernel_rfl) (by kernel_rfl) (by kernel_rfl) (fun _ _ _ h => h) (Or.inl ⟨by rfl, ?hy135⟩) (by assumption) ?_
              case hy135 => (intro w hSw; (try dsimp only at hSw); go_simp; all_goals with_reducible rfl)
              try simp only [Act.put, List.setIfInBounds_toArray, List.set_cons_zero, List.set_cons_succ]
              refine wpAnyH_take (i := 16) (oi := { dst := some 78, op := Op.pick (Operand.tmp 68) (Operand.tmp 77) (Operand.const (Value.bool false)), type := 4, pos := "outright.go:72", after := #[{ on := 6, ground := Ground.data }, { on := 15, ground := Ground.data }], guard := none }) (v := ?vv136) rfl (by kernel_rfl) (by kernel_rfl) (by kernel_rfl) (fun _ _ _ h => h) (Or.inl ⟨by rfl, ?hy136⟩) (by assumption) ?_
              case hy136 => (intro w hSw; (try dsimp only at hSw); go_simp; all_goals with_reducible rfl)
              try simp only [Act.put, List.setIfInBounds_toArray, List.set_cons_zero, List.set_cons_succ]
              refine wpAnyH_take (i := 17) (oi := { dst := some 79, op := Op.move (Operand.tmp 78), type := 4, pos := "outright.go:72", after := #[{ on := 16, ground := Ground.data }, { on := 9, ground := Ground.chain }], guard := none }) (v := ?vv137) rfl (by kernel_rfl) (by kernel_rfl) (by kernel_rfl) (fun _ _ _ h => h) (Or.inl ⟨by rfl, ?hy137⟩) (by assumption) ?_
              case hy137 => (intro w hSw; (try dsimp only at hSw); go_simp; all_goals with_reducible rfl)
              try simp only [Act.put, List.setIfInBounds_toArray, List.set_cons_zero, List.set_cons_succ]
              refine wpAnyH_take (i := 18) (oi := { dst := some 80, op := Op.move (Operand.tmp 9), type := 27, pos := "outright.go:72", after := #[{ on := 17, ground := Ground.guard }], guard := some (17, true) }) (v := undef) rfl (by kernel_rfl) (by kernel_rfl) (by kernel_rfl) (fun _ _ _ h => h) (Or.inr ⟨by rfl, rfl⟩) (by assumption) ?_
              try simp only [Act.put, List.setIfInBounds_toArray, List.set_cons_zero, List.set_cons_succ]
              refine wpAnyH_take (i := 19) (oi := { dst := some 81, op := Op.call { callee := Callee.builtin Builtin.len, args := #[Operand.tmp 80], argTypes := #[27] }, type := 3, pos := "outright.go:72", after := #[{ on := 18, ground := Ground.data }, { on := 17, ground := Ground.guard }], guard := some (17, true) }) (v := undef) rfl (by kernel_rfl) (by kernel_rfl) (by kernel_rfl) (fun _ _ _ h => h) (Or.inr ⟨by rfl, rfl⟩) (by assumption) ?_
              try simp only [Act.put, List.setIfInBounds_toArray, List.set_cons_zero, List.set_cons_succ]
              refine wpAnyH_take (i := 20) (oi := { dst := some 82, op := Op.binOp BinOp.eql 3 (Operand.tmp 81) (Operand.const (Value.int IntKind.i64 0)) 3, type := 4, pos := "outright.go:72", after := #[{ on := 19, ground := Ground.data }, { on := 17, ground := Ground.guard }], guard := some (17, true) }) (v := undef) rfl (by kernel_rfl) (by kernel_rfl) (by kernel_rfl) (fun _ _ _ h => h) (Or.inr ⟨by rfl, rfl⟩) (by assumption) ?_
              try simp only [Act.put, List.setIfInBounds_toArray, List.set_cons_zero, List.set_cons_succ]
              refine wpAnyH_take (i := 21) (oi := { dst := some 83, op := Op.move (Operand.tmp 82), type := 4, pos := "outright.go:72", after := #[{ on := 20, ground := Ground.data }, { on := 17, ground := Ground.chain }, { on := 17, ground := Ground.guard }], guard := some (17, true) }) (v := undef) rfl (by kernel_rfl) (by kernel_rfl) (by kernel_rfl) (fun _ _ _ h => h) (Or.inr ⟨by rfl, rfl⟩) (by assumption) ?_
              try simp only [Act.put, List.setIfInBounds_toArray, List.set_cons_zero, List.set_cons_succ]
              refine wpAnyH_take (i := 22) (oi := { dst := some 84, op := Op.move (Operand.tmp 9), type := 27, pos := "outright.go:72", after := #[{ on := 21, ground := Ground.guard }], guard := some (21, false) }) (v := undef) rfl (by kernel_rfl) (by kernel_rfl) (by kernel_rfl) (fun _ _ _ h => h) (Or.inr ⟨by rfl, rfl⟩) (by assumption) ?_
              try simp only [Act.put, List.setIfInBounds_toArray, List.set_cons_zero, List.set_cons_succ]
              refine wpAnyH_take (i := 23) (oi := { dst := some 85, op := Op.indexAddr 27 (Operand.tmp 84) (Operand.const (Value.int IntKind.i64 0)), type := 0, pos := "outright.go:72", after := #[{ on := 22, ground := Ground.data }, { on := 21, ground := Ground.guard }], guard := some (21, false) }) (v := undef) rfl (by kernel_rfl) (by kernel_rfl) (by kernel_rfl) (fun _ _ _ h => h) (Or.inr ⟨by rfl, rfl⟩) (by assumption) ?_
              try simp only [Act.put, List.setIfInBounds_toArray, List.set_cons_zero, List.set_cons_succ]
              refine wpAnyH_take (i := 24) (oi := { dst := some 86, op := Op.load 26 (Operand.tmp 85), type := 26, pos := "outright.go:72", after := #[{ on := 23, ground := Ground.data }, { on := 21, ground := Ground.guard }], guard := some (21, false) }) (v := undef) rfl (by kernel_rfl) (by kernel_rfl) (by kernel_rfl) (fun _ _ _ h => h) (Or.inr ⟨by rfl, rfl⟩) (by assumption) ?_
              try simp only [Act.put, List.setIfInBounds_toArray, List.set_cons_zero, List.set_cons_succ]
              refine wpAnyH_take (i := 25) (oi := { dst := some 87, op := Op.move (Operand.tmp 10), type := 27, pos := "outright.go:72", after := #[{ on := 21, ground := Ground.guard }], guard := some (21, false) }) (v := undef) rfl (by kernel_rfl) (by kernel_rfl) (by kernel_rfl) (fun _ _ _ h => h) (Or.inr ⟨by rfl, rfl⟩) (by assumption) ?_
              try simp only [Act.put, List.setIfInBounds_toArray, List.set_cons_zero, List.set_cons_succ]
              refine wpAnyH_take (i := 26) (oi := { dst := some 88, op := Op.move (Operand.tmp 11), type := 3, pos := "outright.go:72", after := #[{ on := 21, ground := Ground.guard }], guard := some (21, false) }) (v := undef) rfl (by kernel_rfl) (by kernel_rfl) (by kernel_rfl) (fun _ _ _ h => h) (Or.inr ⟨by rfl, rfl⟩) (by assumption) ?_
              try simp only [Act.put, List.setIfInBounds_toArray, List.set_cons_zero, List.set_cons_succ]
              refine wpAnyH_take (i := 27) (oi := { dst := some 89, op := Op.indexAddr 27 (Operand.tmp 87) (Operand.tmp 88), type := 0, pos := "outright.go:72", after := #[{ on := 25, ground := Ground.data }, { on := 26, ground := Ground.data }, { on := 21, ground := Ground.guard }], guard := some (21, false) }) (v := undef) rfl (by kernel_rfl) (by kernel_rfl) (by kernel_rfl) (fun _ _ _ h => h) (Or.inr ⟨by rfl, rfl⟩) (by assumption) ?_
              try simp only [Act.put, List.setIfInBounds_toArray, List.set_cons_zero, List.set_cons_succ]
              refine wpAnyH_take (i := 28) (oi := { dst := some 90, op := Op.load 26 (Operand.tmp 89), type := 26, pos := "outright.go:72", after := #[{ on := 27, ground := Ground.data }, { on := 21, ground := Ground.guard }], guard := some (21, false) }) (v := undef) rfl (by kernel_rfl) (by kernel_rfl) (by kernel_rfl) (fun _ _ _ h => h) (Or.inr ⟨by rfl, rfl⟩) (by assumption) ?_
              try simp only [Act.put, List.setIfInBounds_toArray, List.set_cons_zero, List.set_cons_succ]
              refine wpAnyH_take (i := 29) (oi := { dst := some 91, op := Op.binOp BinOp.neq 26 (Operand.tmp 86) (Operand.tmp 90) 26, type := 4, pos := "outright.go:72", after := #[{ on := 24, ground := Ground.data }, { on := 28, ground := Ground.data }, { on := 21, ground := Ground.guard }], guard := some (21, false) }) (v := undef) rfl (by kernel_rfl) (by kernel_rfl) (by kernel_rfl) (fun _ _ _ h => h) (Or.inr ⟨by rfl, rfl⟩) (by assumption) ?_
              try simp only [Act.put, List.setIfInBounds_toArray, List.set_cons_zero, List.set_cons_succ]
              refine wpAnyH_take (i := 30) (oi := { dst := some 92, op := Op.pick (Operand.tmp 83) (Operand.const (Value.bool true)) (Operand.tmp 91), type := 4, pos := "outright.go:72", after := #[{ on := 21, ground := Ground.data }, { on := 29, ground := Ground.data }, { on := 17, ground := Ground.guard }], guard := some (17, true) }) (v := undef) rfl (by kernel_rfl) (by kernel_rfl) (by kernel_rfl) (fun _ _ _ h => h) (Or.inr ⟨by rfl, rfl⟩) (by assumption) ?_
              try simp only [Act.put, List.setIfInBounds_toArray, List.set_cons_zero, List.set_cons_succ]
              refine wpAnyH_take (i := 31) (oi := { dst := some 93, op := Op.pick (Operand.tmp 79) (Operand.tmp 92) (Operand.const (Value.bool false)), type := 4, pos := "outright.go:72", after := #[{ on := 17, ground := Ground.data }, { on := 30, ground := Ground.data }], guard := none }) (v := ?vv138) rfl (by kernel_rfl) (by kernel_rfl) (by kernel_rfl) (fun _ _ _ h => h) (Or.inl ⟨by rfl, ?hy138⟩) (by assumption) ?_
              case hy138 => (intro w hSw; (try dsimp only at hSw); go_simp; all_goals with_reducible rfl)
              try simp only [Act.put, List.setIfInBounds_toArray, List.set_cons_zero, List.set_cons_succ]
              refine wpAnyH_done (by kernel_rfl) ?_ _
              have HBn : Hid (Below w9.heap.size w9 W) := hb.out.trans (hbW.mono hb.out.size)
              go_wp2_with fail
              go_roundw
              case rel => exact ⟨2, by rfl, by omega, by omega, HBn.out⟩
              case measure => simp [intOf]
            · rw [hE0] at qt0
              have HL0 : PL[0]? = some (X1a, X1p) := by
                obtain ⟨r, hr⟩ : ∃ r, H = (X0a, X0p) :: (X1a, X1p) :: r := by
                  cases H with
                  | nil => simp at hin
                  | cons a r =>
                    cases r with
                    | nil => simp at hin
                    | cons c r => exact ⟨r, by simp at hX0 hX1; rw [hX0, hX1]⟩
                rw [show (X0a, X0p) = (Ta, Tp) from of_decide_eq_true hE0] at hr
                exact HH2.out _ r (by rw [HHE.out]; exact hr) (of_decide_eq_false hE)
              have hlp : 0 < PL.length := (List.getElem?_eq_some_iff.1 HL0).1
              have b0 : ((PL.length : Int) == 0) = false := beq_eq_false_iff_ne.2 (by omega)
              have lP0 : (0 : Int) < (PL.length : Int) := by omega
              obtain ⟨B1, o1, q1, e, hB1, hc1⟩ := HPI.out.tg 0 hlp
              injection e with e1 e2 e3
              clear e2 e3
              subst e1
              rw [show PL[0]'hlp = (X1a, X1p) from (List.getElem?_eq_some_iff.1 HL0).2] at hc1
              simp only [Nat.zero_mul, Nat.add_zero] at hc1
              have HCz : Hid (∀ V, Below wr.heap.size wr V → ((V.cell? ⟨B0, o0, none⟩ = some (.string X0a) ∧ V.cell? ⟨B0, o0 + 1, none⟩ = some (.string X0p) ∧ V.cell? ⟨q, 0, none⟩ = some (.string Ta) ∧ V.cell? ⟨q, 1, none⟩ = some (.string Tp)) ∧ V.cell? ⟨B0, o0 + 2, none⟩ = some (.string X1a) ∧ V.cell? ⟨B0, o0 + 2 + 1, none⟩ = some (.string X1p)) ∧ V.cell? ⟨B1, o1, none⟩ = some (.string X1a) ∧ V.cell? ⟨B1, o1 + 1, none⟩ = some (.string X1p)) := fun V hV => ⟨HCy.out V hV, hc1 V (HB7.out.trans (hV.mono HB7.out.size))⟩
              have hq2 := neq_tg X1a X1p X1a X1p
              rw [decide_eq_true rfl] at hq2
              clear hE hE0 HL0 hc1 hX0 hX1
              go_wp2_with fail
              have hbW : Below wr.heap.size wr wr.drew := (Below.refl _ _).drew
              refine wp_region_held_drew (S := (fun V => ((V.cell? ⟨B0, o0, none⟩ = some (.string X0a) ∧ V.cell? ⟨B0, o0 + 1, none⟩ = some (.string X0p) ∧ V.cell? ⟨q, 0, none⟩ = some (.string Ta) ∧ V.cell? ⟨q, 1, none⟩ = some (.string Tp)) ∧ V.cell? ⟨B0, o0 + 2, none⟩ = some (.string X1a) ∧ V.cell? ⟨B0, o0 + 2 + 1, none⟩ = some (.string X1p)) ∧ V.cell? ⟨B1, o1, none⟩ = some (.string X1a) ∧ V.cell? ⟨B1, o1 + 1, none⟩ = some (.string X1p))) (by kernel_rfl) (HCz.out _ hbW) (fun hHeld => ?_)
              generalize hWg : World.drew _ = W at hbW hHeld ⊢
              clear hWg
              refine wpAnyH_take (i := 0) (oi := { dst := some 62, op := Op.move (Operand.tmp 10), type := 27, pos := "outright.go:72", after := #[], guard := none }) (v := ?vv139) rfl (by kernel_rfl) (by kernel_rfl) (by kernel_rfl) (fun _ _ _ h => h) (Or.inl ⟨by rfl, ?hy139⟩) (by assumption) ?_
              case hy139 => (intro w hSw; (try dsimp only at hSw); go_simp; all_goals with_reducible rfl)
              try simp only [Act.put, List.setIfInBounds_toArray, List.set_cons_zero, List.set_cons_succ]
              refine wpAnyH_take (i := 1) (oi := { dst := some 63, op := Op.move (Operand.tmp 11), type := 3, pos := "outright.go:72", after := #[], guard := none }) (v := ?vv140) rfl (by kernel_rfl) (by kernel_rfl) (by kernel_rfl) (fun _ _ _ h => h) (Or.inl ⟨by rfl, ?hy140⟩) (by assumption) ?_
              case hy140 => (intro w hSw; (try dsimp only at hSw); go_simp; all_goals with_reducible rfl)
              try simp only [Act.put, List.setIfInBounds_toArray, List.set_cons_zero, List.set_cons_succ]
              refine wpAnyH_take (i := 2) (oi := { dst := some 64, op := Op.indexAddr 27 (Operand.tmp 62) (Operand.tmp 63), type := 0, pos := "outright.go:72", after := #[{ on := 0, ground := Ground.data }, { on := 1, ground := Ground.data }], guard := none }) (v := ?vv141) rfl (by kernel_rfl) (by kernel_rfl) (by kernel_rfl) (fun _ _ _ h => h) (Or.inl ⟨by rfl, ?hy141⟩) (by assumption) ?_
              case hy141 => (intro w hSw; (try dsimp only at hSw); go_simp; all_goals with_reducible rfl)
              try simp only [Act.put, List.setIfInBounds_toArray, List.set_cons_zero, List.set_cons_succ]
              refine wpAnyH_take (i := 3) (oi := { dst := some 65, op := Op.load 26 (Operand.tmp 64), type := 26, pos := "outright.go:72", after := #[{ on := 2, ground := Ground.data }], guard := none }) (v := ?vv142) rfl (by kernel_rfl) (by kernel_rfl) (by kernel_rfl) (fun _ _ _ h => h) (Or.inl ⟨by rfl, ?hy142⟩) (by assumption) ?_
              case hy142 => (intro w hSw; (try dsimp only at hSw); go_simp; all_goals with_reducible rfl)
              try simp only [Act.put, List.setIfInBounds_toArray, List.set_cons_zero, List.set_cons_succ]
              refine wpAnyH_take (i := 4) (oi := { dst := some 66, op := Op.load 26 (Operand.tmp 8), type := 26, pos := "outright.go:72", after := #[], guard := none }) (v := ?vv143) rfl (by kernel_rfl) (by kernel_rfl) (by kernel_rfl) (fun _ _ _ h => h) (Or.inl ⟨by rfl, ?hy143⟩) (by assumption) ?_
              case hy143 => (intro w hSw; (try dsimp only at hSw); go_simp; all_goals with_reducible rfl)
              try simp only [Act.put, List.setIfInBounds_toArray, List.set_cons_zero, List.set_cons_succ]
              refine wpAnyH_take (i := 5) (oi := { dst := some 67, op := Op.binOp BinOp.neq 26 (Operand.tmp 65) (Operand.tmp 66) 26, type := 4, pos := "outright.go:72", after := #[{ on := 3, ground := Ground.data }, { on := 4, ground := Ground.data }], guard := none }) (v := ?vv144) rfl (by kernel_rfl) (by kernel_rfl) (by kernel_rfl) (fun _ _ _ h => h) (Or.inl ⟨by rfl, ?hy144⟩) (by assumption) ?_
              case hy144 => (intro w hSw; (try dsimp only at hSw); go_simp; all_goals with_reducible rfl)
              try simp only [Act.put, List.setIfInBounds_toArray, List.set_cons_zero, List.set_cons_succ]
              refine wpAnyH_take (i := 6) (oi := { dst := some 68, op := Op.move (Operand.tmp 67), type := 4, pos := "outright.go:72", after := #[{ on := 5, ground := Ground.data }], guard := none }) (v := ?vv145) rfl (by kernel_rfl) (by kernel_rfl) (by kernel_rfl) (fun _ _ _ h => h) (Or.inl ⟨by rfl, ?hy145⟩) (by assumption) ?_
              case hy145 => (intro w hSw; (try dsimp only at hSw); go_simp; all_goals with_reducible rfl)
              try simp only [Act.put, List.setIfInBounds_toArray, List.set_cons_zero, List.set_cons_succ]
              refine wpAnyH_take (i := 7) (oi := { dst := some 69, op := Op.move (Operand.tmp 11), type := 3, pos := "outright.go:72", after := #[{ on := 6, ground := Ground.guard }], guard := some (6, true) }) (v := ?vv146) rfl (by kernel_rfl) (by kernel_rfl) (by kernel_rfl) (fun _ _ _ h => h) (Or.inl ⟨by rfl, ?hy146⟩) (by assumption) ?_
              case hy146 => (intro w hSw; (try dsimp only at hSw); go_simp; all_goals with_reducible rfl)
              try simp only [Act.put, List.setIfInBounds_toArray, List.set_cons_zero, List.set_cons_succ]
              refine wpAnyH_take (i := 8) (oi := { dst := some 70, op := Op.binOp BinOp.eql 3 (Operand.tmp 69) (Operand.const (Value.int IntKind.i64 0)) 3, type := 4, pos := "outright.go:72", after := #[{ on := 7, ground := Ground.data }, { on := 6, ground := Ground.guard }], guard := some (6, true) }) (v := ?vv147) rfl (by kernel_rfl) (by kernel_rfl) (by kernel_rfl) (fun _ _ _ h => h) (Or.inl ⟨by rfl, ?hy147⟩) (by assumption) ?_
              case hy147 => (intro w hSw; (try dsimp only at hSw); go_simp; all_goals with_reducible rfl)
              try simp only [Act.put, List.setIfInBounds_toArray, List.set_cons_zero, List.set_cons_succ]
              refine wpAnyH_take (i := 9) (oi := { dst := some 71, op := Op.move (Operand.tmp 70), type := 4, pos := "outright.go:72", after := #[{ on := 8, ground := Ground.data }, { on := 6, ground := Ground.chain }, { on := 6, ground := Ground.guard }], guard := some (6, true) }) (v := ?vv148) rfl (by kernel_rfl) (by kernel_rfl) (by kernel_rfl) (fun _ _ _ h => h) (Or.inl ⟨by rfl, ?hy148⟩) (by assumption) ?_
              case hy148 => (intro w hSw; (try dsimp only at hSw); go_simp; all_goals with_reducible rfl)
              try simp only [Act.put, List.setIfInBounds_toArray, List.set_cons_zero, List.set_cons_succ]
              refine wpAnyH_take (i := 10) (oi := { dst := some 72, op := Op.move (Operand.tmp 10), type := 27, pos := "outright.go:72", after := #[{ on := 9, ground := Ground.guard }], guard := some (9, false) }) (v := ?vv149) rfl (by kernel_rfl) (by kernel_rfl) (by kernel_rfl) (fun _ _ _ h => h) (Or.inl ⟨by rfl, ?hy149⟩) (by assumption) ?_
              case hy149 => (intro w hSw; (try dsimp only at hSw); go_simp; all_goals with_reducible rfl)
              try simp only [Act.put, List.setIfInBounds_toArray, List.set_cons_zero, List.set_cons_succ]
              refine wpAnyH_take (i := 11) (oi := { dst := some 73, op := Op.indexAddr 27 (Operand.tmp 72) (Operand.const (Value.int IntKind.i64 0)), type := 0, pos := "outright.go:72", after := #[{ on := 10, ground := Ground.data }, { on := 9, ground := Ground.guard }], guard := some (9, false) }) (v := ?vv150) rfl (by kernel_rfl) (by kernel_rfl) (by kernel_rfl) (fun _ _ _ h => h) (Or.inl ⟨by rfl, ?hy150⟩) (by assumption) ?_
              case hy150 => (intro w hSw; (try dsimp only at hSw); go_simp; all_goals with_reducible rfl)
              try simp only [Act.put, List.setIfInBounds_toArray, List.set_cons_zero, List.set_cons_succ]
              refine wpAnyH_take (i := 12) (oi := { dst := some 74, op := Op.load 26 (Operand.tmp 73), type := 26, pos := "outright.go:72", after := #[{ on := 11, ground := Ground.data }, { on := 9, ground := Ground.guard }], guard := some (9, false) }) (v := ?vv151) rfl (by kernel_rfl) (by kernel_rfl) (by kernel_rfl) (fun _ _ _ h => h) (Or.inl ⟨by rfl, ?hy151⟩) (by assumption) ?_
              case hy151 => (intro w hSw; (try dsimp only at hSw); go_simp; all_goals with_reducible rfl)
              try simp only [Act.put, List.setIfInBounds_toArray, List.set_cons_zero, List.set_cons_succ]
              refine wpAnyH_take (i := 13) (oi := { dst := some 75, op := Op.load 26 (Operand.tmp 8), type := 26, pos := "outright.go:72", after := #[{ on := 9, ground := Ground.guard }], guard := some (9, false) }) (v := ?vv152) rfl (by kernel_rfl) (by kernel_rfl) (by kernel_rfl) (fun _ _ _ h => h) (Or.inl ⟨by rfl, ?hy152⟩) (by assumption) ?_
              case hy152 => (intro w hSw; (try dsimp only at hSw); go_simp; all_goals with_reducible rfl)
              try simp only [Act.put, List.setIfInBounds_toArray, List.set_cons_zero, List.set_cons_succ]
              refine wpAnyH_take (i := 14) (oi := { dst := some 76, op := Op.binOp BinOp.eql 26 (Operand.tmp 74) (Operand.tmp 75) 26, type := 4, pos := "outright.go:72", after := #[{ on := 12, ground := Ground.data }, { on := 13, ground := Ground.data }, { on := 9, ground := Ground.guard }], guard := some (9, false) }) (v := ?vv153) rfl (by kernel_rfl) (by kernel_rfl) (by kernel_rfl) (fun _ _ _ h => h) (Or.inl ⟨by rfl, ?hy153⟩) (by assumption) ?_
              case hy153 => (intro w hSw; (try dsimp only at hSw); go_simp; all_goals with_reducible rfl)
              try simp only [Act.put, List.setIfInBounds_toArray, List.set_cons_zero, List.set_cons_succ]
              refine wpAnyH_take (i := 15) (oi := { dst := some 77, op := Op.pick (Operand.tmp 71) (Operand.const (Value.bool true)) (Operand.tmp 76), type := 4, pos := "outright.go:72", after := #[{ on := 9, ground := Ground.data }, { on := 14, ground := Ground.data }, { on := 6, ground := Ground.guard }], guard := some (6, true) }) (v := ?vv154) rfl (by kernel_rfl) (by kernel_rfl) (by kernel_rfl) (fun _ _ _ h => h) (Or.inl ⟨by rfl, ?hy154⟩) (by assumption) ?_
              case hy154 => (intro w hSw; (try dsimp only at hSw); go_simp; all_goals with_reducible rfl)
              try simp only [Act.put, List.setIfInBounds_toArray, List.set_cons_zero, List.set_cons_succ]
              refine wpAnyH_take (i := 16) (oi := { dst := some 78, op := Op.pick (Operand.tmp 68) (Operand.tmp 77) (Operand.const (Value.bool false)), type := 4, pos := "outright.go:72", after := #[{ on := 6, ground := Ground.data }, { on := 15, ground := Ground.data }], guard := none }) (v := ?vv155) rfl (by kernel_rfl) (by kernel_rfl) (by kernel_rfl) (fun _ _ _ h => h) (Or.inl ⟨by rfl, ?hy155⟩) (by assumption) ?_
              case hy155 => (intro w hSw; (try dsimp only at hSw); go_simp; all_goals with_reducible rfl)
              try simp only [Act.put, List.setIfInBounds_toArray, List.set_cons_zero, List.set_cons_succ]
              refine wpAnyH_take (i := 17) (oi := { dst := some 79, op := Op.move (Operand.tmp 78), type := 4, pos := "outright.go:72", after := #[{ on := 16, ground := Ground.data }, { on := 9, ground := Ground.chain }], guard := none }) (v := ?vv156) rfl (by kernel_rfl) (by kernel_rfl) (by kernel_rfl) (fun _ _ _ h => h) (Or.inl ⟨by rfl, ?hy156⟩) (by assumption) ?_
              case hy156 => (intro w hSw; (try dsimp only at hSw); go_simp; all_goals with_reducible rfl)
              try simp only [Act.put, List.setIfInBounds_toArray, List.set_cons_zero, List.set_cons_succ]
              refine wpAnyH_take (i := 18) (oi := { dst := some 80, op := Op.move (Operand.tmp 9), type := 27, pos := "outright.go:72", after := #[{ on := 17, ground := Ground.guard }], guard := some (17, true) }) (v := ?vv157) rfl (by kernel_rfl) (by kernel_rfl) (by kernel_rfl) (fun _ _ _ h => h) (Or.inl ⟨by rfl, ?hy157⟩) (by assumption) ?_
              case hy157 => (intro w hSw; (try dsimp only at hSw); go_simp; all_goals with_reducible rfl)
              try simp only [Act.put, List.setIfInBounds_toArray, List.set_cons_zero, List.set_cons_succ]
              refine wpAnyH_take (i := 19) (oi := { dst := some 81, op := Op.call { callee := Callee.builtin Builtin.len, args := #[Operand.tmp 80], argTypes := #[27] }, type := 3, pos := "outright.go:72", after := #[{ on := 18, ground := Ground.data }, { on := 17, ground := Ground.guard }], guard := some (17, true) }) (v := ?vv158) rfl (by kernel_rfl) (by kernel_rfl) (by kernel_rfl) (fun _ _ _ h => h) (Or.inl ⟨by rfl, ?hy158⟩) (by assumption) ?_
              case hy158 => (intro w hSw; (try dsimp only at hSw); go_simp; all_goals with_reducible rfl)
              try simp only [Act.put, List.setIfInBounds_toArray, List.set_cons_zero, List.set_cons_succ]
              refine wpAnyH_take (i := 20) (oi := { dst := some 82, op := Op.binOp BinOp.eql 3 (Operand.tmp 81) (Operand.const (Value.int IntKind.i64 0)) 3, type := 4, pos := "outright.go:72", after := #[{ on := 19, ground := Ground.data }, { on := 17, ground := Ground.guard }], guard := some (17, true) }) (v := ?vv159) rfl (by kernel_rfl) (by kernel_rfl) (by kernel_rfl) (fun _ _ _ h => h) (Or.inl ⟨by rfl, ?hy159⟩) (by assumption) ?_
              case hy159 => (intro w hSw; (try dsimp only at hSw); go_simp; all_goals with_reducible rfl)
              try simp only [Act.put, List.setIfInBounds_toArray, List.set_cons_zero, List.set_cons_succ]
              refine wpAnyH_take (i := 21) (oi := { dst := some 83, op := Op.move (Operand.tmp 82), type := 4, pos := "outright.go:72", after := #[{ on := 20, ground := Ground.data }, { on := 17, ground := Ground.chain }, { on := 17, ground := Ground.guard }], guard := some (17, true) }) (v := ?vv160) rfl (by kernel_rfl) (by kernel_rfl) (by kernel_rfl) (fun _ _ _ h => h) (Or.inl ⟨by rfl, ?hy160⟩) (by assumption) ?_
              case hy160 => (intro w hSw; (try dsimp only at hSw); go_simp; all_goals with_reducible rfl)
              try simp only [Act.put, List.setIfInBounds_toArray, List.set_cons_zero, List.set_cons_succ]
              refine wpAnyH_take (i := 22) (oi := { dst := some 84, op := Op.move (Operand.tmp 9), type := 27, pos := "outright.go:72", after := #[{ on := 21, ground := Ground.guard }], guard := some (21, false) }) (v := ?vv161) rfl (by kernel_rfl) (by kernel_rfl) (by kernel_rfl) (fun _ _ _ h => h) (Or.inl ⟨by rfl, ?hy161⟩) (by assumption) ?_
              case hy161 => (intro w hSw; (try dsimp only at hSw); go_simp; all_goals with_reducible rfl)
              try simp only [Act.put, List.setIfInBounds_toArray, List.set_cons_zero, List.set_cons_succ]
              refine wpAnyH_take (i := 23) (oi := { dst := some 85, op := Op.indexAddr 27 (Operand.tmp 84) (Operand.const (Value.int IntKind.i64 0)), type := 0, pos := "outright.go:72", after := #[{ on := 22, ground := Ground.data }, { on := 21, ground := Ground.guard }], guard := some (21, false) }) (v := ?vv162) rfl (by kernel_rfl) (by kernel_rfl) (by kernel_rfl) (fun _ _ _ h => h) (Or.inl ⟨by rfl, ?hy162⟩) (by assumption) ?_
              case hy162 => (intro w hSw; (try dsimp only at hSw); go_simp; all_goals with_reducible rfl)
              try simp only [Act.put, List.setIfInBounds_toArray, List.set_cons_zero, List.set_cons_succ]
              refine wpAnyH_take (i := 24) (oi := { dst := some 86, op := Op.load 26 (Operand.tmp 85), type := 26, pos := "outright.go:72", after := #[{ on := 23, ground := Ground.data }, { on := 21, ground := Ground.guard }], guard := some (21, false) }) (v := ?vv163) rfl (by kernel_rfl) (by kernel_rfl) (by kernel_rfl) (fun _ _ _ h => h) (Or.inl ⟨by rfl, ?hy163⟩) (by assumption) ?_
              case hy163 => (intro w hSw; (try dsimp only at hSw); go_simp; all_goals with_reducible rfl)
              try simp only [Act.put, List.setIfInBounds_toArray, List.set_cons_zero, List.set_cons_succ]
              refine wpAnyH_take (i := 25) (oi := { dst := some 87, op := Op.move (Operand.tmp 10), type := 27, pos := "outright.go:72", after := #[{ on := 21, ground := Ground.guard }], guard := some (21, false) }) (v := ?vv164) rfl (by kernel_rfl) (by kernel_rfl) (by kernel_rfl) (fun _ _ _ h => h) (Or.inl ⟨by rfl, ?hy164⟩) (by assumption) ?_
              case hy164 => (intro w hSw; (try dsimp only at hSw); go_simp; all_goals with_reducible rfl)
              try simp only [Act.put, List.setIfInBounds_toArray, List.set_cons_zero, List.set_cons_succ]
              refine wpAnyH_take (i := 26) (oi := { dst := some 88, op := Op.move (Operand.tmp 11), type := 3, pos := "outright.go:72", after := #[{ on := 21, ground := Ground.guard }], guard := some (21, false) }) (v := ?vv165) rfl (by kernel_rfl) (by kernel_rfl) (by kernel_rfl) (fun _ _ _ h => h) (Or.inl ⟨by rfl, ?hy165⟩) (by assumption) ?_
              case hy165 => (intro w hSw; (try dsimp only at hSw); go_simp; all_goals with_reducible rfl)
              try simp only [Act.put, List.setIfInBounds_toArray, List.set_cons_zero, List.set_cons_succ]
              refine wpAnyH_take (i := 27) (oi := { dst := some 89, op := Op.indexAddr 27 (Operand.tmp 87) (Operand.tmp 88), type := 0, pos := "outright.go:72", after := #[{ on := 25, ground := Ground.data }, { on := 26, ground := Ground.data }, { on := 21, ground := Ground.guard }], guard := some (21, false) }) (v := ?vv166) rfl (by kernel_rfl) (by kernel_rfl) (by kernel_rfl) (fun _ _ _ h => h) (Or.inl ⟨by rfl, ?hy166⟩) (by assumption) ?_
              case hy166 => (intro w hSw; (try dsimp only at hSw); go_simp; all_goals with_reducible rfl)
              try simp only [Act.put, List.setIfInBounds_toArray, List.set_cons_zero, List.set_cons_succ]
              refine wpAnyH_take (i := 28) (oi := { dst := some 90, op := Op.load 26 (Operand.tmp 89), type := 26, pos := "outright.go:72", after := #[{ on := 27, ground := Ground.data }, { on := 21, ground := Ground.guard }], guard := some (21, false) }) (v := ?vv167) rfl (by kernel_rfl) (by kernel_rfl) (by kernel_rfl) (fun _ _ _ h => h) (Or.inl ⟨by rfl, ?hy167⟩) (by assumption) ?_
              case hy167 => (intro w hSw; (try dsimp only at hSw); go_simp; all_goals with_reducible rfl)
              try simp only [Act.put, List.setIfInBounds_toArray, List.set_cons_zero, List.set_cons_succ]
              refine wpAnyH_take (i := 29) (oi := { dst := some 91, op := Op.binOp BinOp.neq 26 (Operand.tmp 86) (Operand.tmp 90) 26, type := 4, pos := "outright.go:72", after := #[{ on := 24, ground := Ground.data }, { on := 28, ground := Ground.data }, { on := 21, ground := Ground.guard }], guard := some (21, false) }) (v := ?vv168) rfl (by kernel_rfl) (by kernel_rfl) (by kernel_rfl) (fun _ _ _ h => h) (Or.inl ⟨by rfl, ?hy168⟩) (by assumption) ?_
              case hy168 => (intro w hSw; (try dsimp only at hSw); go_simp; all_goals with_reducible rfl)
              try simp only [Act.put, List.setIfInBounds_toArray, List.set_cons_zero, List.set_cons_succ]
              refine wpAnyH_take (i := 30) (oi := { dst := some 92, op := Op.pick (Operand.tmp 83) (Operand.const (Value.bool true)) (Operand.tmp 91), type := 4, pos := "outright.go:72", after := #[{ on := 21, ground := Ground.data }, { on := 29, ground := Ground.data }, { on := 17, ground := Ground.guard }], guard := some (17, true) }) (v := ?vv169) rfl (by kernel_rfl) (by kernel_rfl) (by kernel_rfl) (fun _ _ _ h => h) (Or.inl ⟨by rfl, ?hy169⟩) (by assumption) ?_
              case hy169 => (intro w hSw; (try dsimp only at hSw); go_simp; all_goals with_reducible rfl)
              try simp only [Act.put, List.setIfInBounds_toArray, List.set_cons_zero, List.set_cons_succ]
              refine wpAnyH_take (i := 31) (oi := { dst := some 93, op := Op.pick (Operand.tmp 79) (Operand.tmp 92) (Operand.const (Value.bool false)), type := 4, pos := "outright.go:72", after := #[{ on := 17, ground := Ground.data }, { on := 30, ground := Ground.data }], guard := none }) (v := ?vv170) rfl (by kernel_rfl) (by kernel_rfl) (by kernel_rfl) (fun _ _ _ h => h) (Or.inl ⟨by rfl, ?hy170⟩) (by assumption) ?_
              case hy170 => (intro w hSw; (try dsimp only at hSw); go_simp; all_goals with_reducible rfl)
              try simp only [Act.put, List.setIfInBounds_toArray, List.set_cons_zero, List.set_cons_succ]
              refine wpAnyH_done (by kernel_rfl) ?_ _
              have HBn : Hid (Below w9.heap.size w9 W) := hb.out.trans (hbW.mono hb.out.size)
              go_wp2_with fail
              go_roundw
              case rel => exact ⟨2, by rfl, by omega, by omega, HBn.out⟩
              case measure => simp [intOf]
          · rw [hE] at hq
            clear hE hX0 hX1
            go_wp2_with fail
            have hbW : Below wr.heap.size wr wr.drew := (Below.refl _ _).drew
            refine wp_region_held_drew (S := (fun V => (V.cell? ⟨B0, o0, none⟩ = some (.string X0a) ∧ V.cell? ⟨B0, o0 + 1, none⟩ = some (.string X0p) ∧ V.cell? ⟨q, 0, none⟩ = some (.string Ta) ∧ V.cell? ⟨q, 1, none⟩ = some (.string Tp)) ∧ V.cell? ⟨B0, o0 + 2, none⟩ = some (.string X1a) ∧ V.cell? ⟨B0, o0 + 2 + 1, none⟩ = some (.string X1p))) (by kernel_rfl) (HCy.out _ hbW) (fun hHeld => ?_)
            generalize hWg : World.drew _ = W at hbW hHeld ⊢
            clear hWg
            refine wpAnyH_take (i := 0) (oi := { dst := some 62, op := Op.move (Operand.tmp 10), type := 27, pos := "outright.go:72", after := #[], guard := none }) (v := ?vv83) rfl (by kernel_rfl) (by kernel_rfl) (by kernel_rfl) (fun _ _ _ h => h) (Or.inl ⟨by rfl, ?hy83⟩) (by assumption) ?_
            case hy83 => (intro w hSw; (try dsimp only at hSw); go_simp; all_goals with_reducible rfl)
            try simp only [Act.put, List.setIfInBounds_toArray, List.set_cons_zero, List.set_cons_succ]
            refine wpAnyH_take (i := 1) (oi := { dst := some 63, op := Op.move (Operand.tmp 11), type := 3, pos := "outright.go:72", after := #[], guard := none }) (v := ?vv84) rfl (by kernel_rfl) (by kernel_rfl) (by kernel_rfl) (fun _ _ _ h => h) (Or.inl ⟨by rfl, ?hy84⟩) (by assumption) ?_
            case hy84 => (intro w hSw; (try dsimp only at hSw); go_simp; all_goals with_reducible rfl)
            try simp only [Act.put, List.setIfInBounds_toArray, List.set_cons_zero, List.set_cons_succ]
            refine wpAnyH_take (i := 2) (oi := { dst := some 64, op := Op.indexAddr 27 (Operand.tmp 62) (Operand.tmp 63), type := 0, pos := "outright.go:72", after := #[{ on := 0, ground := Ground.data }, { on := 1, ground := Ground.data }], guard := none }) (v := ?vv85) rfl (by kernel_rfl) (by kernel_rfl) (by kernel_rfl) (fun _ _ _ h => h) (Or.inl ⟨by rfl, ?hy85⟩) (by assumption) ?_
            case hy85 => (intro w hSw; (try dsimp only at hSw); go_simp; all_goals with_reducible rfl)
            try simp only [Act.put, List.setIfInBounds_toArray, List.set_cons_zero, List.set_cons_succ]
            refine wpAnyH_take (i := 3) (oi := { dst := some 65, op := Op.load 26 (Operand.tmp 64), type := 26, pos := "outright.go:72", after := #[{ on := 2, ground := Ground.data }], guard := none }) (v := ?vv86) rfl (by kernel_rfl) (by kernel_rfl) (by kernel_rfl) (fun _ _ _ h => h) (Or.inl ⟨by rfl, ?hy86⟩) (by assumption) ?_
            case hy86 => (intro w hSw; (try dsimp only at hSw); go_simp; all_goals with_reducible rfl)
            try simp only [Act.put, List.setIfInBounds_toArray, List.set_cons_zero, List.set_cons_succ]
            refine wpAnyH_take (i := 4) (oi := { dst := some 66, op := Op.load 26 (Operand.tmp 8), type := 26, pos := "outright.go:72", after := #[], guard := none }) (v := ?vv87) rfl (by kernel_rfl) (by kernel_rfl) (by kernel_rfl) (fun _ _ _ h => h) (Or.inl ⟨by rfl, ?hy87⟩) (by assumption) ?_
            case hy87 => (intro w hSw; (try dsimp only at hSw); go_simp; all_goals with_reducible rfl)
            try simp only [Act.put, List.setIfInBounds_toArray, List.set_cons_zero, List.set_cons_succ]
            refine wpAnyH_take (i := 5) (oi := { dst := some 67, op := Op.binOp BinOp.neq 26 (Operand.tmp 65) (Operand.tmp 66) 26, type := 4, pos := "outright.go:72", after := #[{ on := 3, ground := Ground.data }, { on := 4, ground := Ground.data }], guard := none }) (v := ?vv88) rfl (by kernel_rfl) (by kernel_rfl) (by kernel_rfl) (fun _ _ _ h => h) (Or.inl ⟨by rfl, ?hy88⟩) (by assumption) ?_
            case hy88 => (intro w hSw; (try dsimp only at hSw); go_simp; all_goals with_reducible rfl)
            try simp only [Act.put, List.setIfInBounds_toArray, List.set_cons_zero, List.set_cons_succ]
            refine wpAnyH_take (i := 6) (oi := { dst := some 68, op := Op.move (Operand.tmp 67), type := 4, pos := "outright.go:72", after := #[{ on := 5, ground := Ground.data }], guard := none }) (v := ?vv89) rfl (by kernel_rfl) (by kernel_rfl) (by kernel_rfl) (fun _ _ _ h => h) (Or.inl ⟨by rfl, ?hy89⟩) (by assumption) ?_
            case hy89 => (intro w hSw; (try dsimp only at hSw); go_simp; all_goals with_reducible rfl)
            try simp only [Act.put, List.setIfInBounds_toArray, List.set_cons_zero, List.set_cons_succ]
            refine wpAnyH_take (i := 7) (oi := { dst := some 69, op := Op.move (Operand.tmp 11), type := 3, pos := "outright.go:72", after := #[{ on := 6, ground := Ground.guard }], guard := some (6, true) }) (v := undef) rfl (by kernel_rfl) (by kernel_rfl) (by kernel_rfl) (fun _ _ _ h => h) (Or.inr ⟨by rfl, rfl⟩) (by assumption) ?_
            try simp only [Act.put, List.setIfInBounds_toArray, List.set_cons_zero, List.set_cons_succ]
            refine wpAnyH_take (i := 8) (oi := { dst := some 70, op := Op.binOp BinOp.eql 3 (Operand.tmp 69) (Operand.const (Value.int IntKind.i64 0)) 3, type := 4, pos := "outright.go:72", after := #[{ on := 7, ground := Ground.data }, { on := 6, ground := Ground.guard }], guard := some (6, true) }) (v := undef) rfl (by kernel_rfl) (by kernel_rfl) (by kernel_rfl) (fun _ _ _ h => h) (Or.inr ⟨by rfl, rfl⟩) (by assumption) ?_
            try simp only [Act.put, List.setIfInBounds_toArray, List.set_cons_zero, List.set_cons_succ]
            refine wpAnyH_take (i := 9) (oi := { dst := some 71, op := Op.move (Operand.tmp 70), type := 4, pos := "outright.go:72", after := #[{ on := 8, ground := Ground.data }, { on := 6, ground := Ground.chain }, { on := 6, ground := Ground.guard }], guard := some (6, true) }) (v := undef) rfl (by kernel_rfl) (by kernel_rfl) (by kernel_rfl) (fun _ _ _ h => h) (Or.inr ⟨by rfl, rfl⟩) (by assumption) ?_
            try simp only [Act.put, List.setIfInBounds_toArray, List.set_cons_zero, List.set_cons_succ]
            refine wpAnyH_take (i := 10) (oi := { dst := some 72, op := Op.move (Operand.tmp 10), type := 27, pos := "outright.go:72", after := #[{ on := 9, ground := Ground.guard }], guard := some (9, false) }) (v := undef) rfl (by kernel_rfl) (by kernel_rfl) (by kernel_rfl) (fun _ _ _ h => h) (Or.inr ⟨by rfl, rfl⟩) (by assumption) ?_
            try simp only [Act.put, List.setIfInBounds_toArray, List.set_cons_zero, List.set_cons_succ]
            refine wpAnyH_take (i := 11) (oi := { dst := some 73, op := Op.indexAddr 27 (Operand.tmp 72) (Operand.const (Value.int IntKind.i64 0)), type := 0, pos := "outright.go:72", after := #[{ on := 10, ground := Ground.data }, { on := 9, ground := Ground.guard }], guard := some (9, false) }) (v := undef) rfl (by kernel_rfl) (by kernel_rfl) (by kernel_rfl) (fun _ _ _ h => h) (Or.inr ⟨by rfl, rfl⟩) (by assumption) ?_
            try simp only [Act.put, List.setIfInBounds_toArray, List.set_cons_zero, List.set_cons_succ]
            refine wpAnyH_take (i := 12) (oi := { dst := some 74, op := Op.load 26 (Operand.tmp 73), type := 26, pos := "outright.go:72", after := #[{ on := 11, ground := Ground.data }, { on := 9, ground := Ground.guard }], guard := some (9, false) }) (v := undef) rfl (by kernel_rfl) (by kernel_rfl) (by kernel_rfl) (fun _ _ _ h => h) (Or.inr ⟨by rfl, rfl⟩) (by assumption) ?_
            try simp only [Act.put, List.setIfInBounds_toArray, List.set_cons_zero, List.set_cons_succ]
            refine wpAnyH_take (i := 13) (oi := { dst := some 75, op := Op.load 26 (Operand.tmp 8), type := 26, pos := "outright.go:72", after := #[{ on := 9, ground := Ground.guard }], guard := some (9, false) }) (v := undef) rfl (by kernel_rfl) (by kernel_rfl) (by kernel_rfl) (fun _ _ _ h => h) (Or.inr ⟨by rfl, rfl⟩) (by assumption) ?_
            try simp only [Act.put, List.setIfInBounds_toArray, List.set_cons_zero, List.set_cons_succ]
            refine wpAnyH_take (i := 14) (oi := { dst := some 76, op := Op.binOp BinOp.eql 26 (Operand.tmp 74) (Operand.tmp 75) 26, type := 4, pos := "outright.go:72", after := #[{ on := 12, ground := Ground.data }, { on := 13, ground := Ground.data }, { on := 9, ground := Ground.guard }], guard := some (9, false) }) (v := undef) rfl (by kernel_rfl) (by kernel_rfl) (by kernel_rfl) (fun _ _ _ h => h) (Or.inr ⟨by rfl, rfl⟩) (by assumption) ?_
            try simp only [Act.put, List.setIfInBounds_toArray, List.set_cons_zero, List.set_cons_succ]
            refine wpAnyH_take (i := 15) (oi := { dst := some 77, op := Op.pick (Operand.tmp 71) (Operand.const (Value.bool true)) (Operand.tmp 76), type := 4, pos := "outright.go:72", after := #[{ on := 9, ground := Ground.data }, { on := 14, ground := Ground.data }, { on := 6, ground := Ground.guard }], guard := some (6, true) }) (v := undef) rfl (by kernel_rfl) (by kernel_rfl) (by kernel_rfl) (fun _ _ _ h => h) (Or.inr ⟨by rfl, rfl⟩) (by assumption) ?_
            try simp only [Act.put, List.setIfInBounds_toArray, List.set_cons_zero, List.set_cons_succ]
            refine wpAnyH_take (i := 16) (oi := { dst := some 78, op := Op.pick (Operand.tmp 68) (Operand.tmp 77) (Operand.const (Value.bool false)), type := 4, pos := "outright.go:72", after := #[{ on := 6, ground := Ground.data }, { on := 15, ground := Ground.data }], guard := none }) (v := ?vv90) rfl (by kernel_rfl) (by kernel_rfl) (by kernel_rfl) (fun _ _ _ h => h) (Or.inl ⟨by rfl, ?hy90⟩) (by assumption) ?_
            case hy90 => (intro w hSw; (try dsimp only at hSw); go_simp; all_goals with_reducible rfl)
            try simp only [Act.put, List.setIfInBounds_toArray, List.set_cons_zero, List.set_cons_succ]
            refine wpAnyH_take (i := 17) (oi := { dst := some 79, op := Op.move (Operand.tmp 78), type := 4, pos := "outright.go:72", after := #[{ on := 16, ground := Ground.data }, { on := 9, ground := Ground.chain }], guard := none }) (v := ?vv91) rfl (by kernel_rfl) (by kernel_rfl) (by kernel_rfl) (fun _ _ _ h => h) (Or.inl ⟨by rfl, ?hy91⟩) (by assumption) ?_
            case hy91 => (intro w hSw; (try dsimp only at hSw); go_simp; all_goals with_reducible rfl)
            try simp only [Act.put, List.setIfInBounds_toArray, List.set_cons_zero, List.set_cons_succ]
            refine wpAnyH_take (i := 18) (oi := { dst := some 80, op := Op.move (Operand.tmp 9), type := 27, pos := "outright.go:72", after := #[{ on := 17, ground := Ground.guard }], guard := some (17, true) }) (v := undef) rfl (by kernel_rfl) (by kernel_rfl) (by kernel_rfl) (fun _ _ _ h => h) (Or.inr ⟨by rfl, rfl⟩) (by assumption) ?_
            try simp only [Act.put, List.setIfInBounds_toArray, List.set_cons_zero, List.set_cons_succ]
            refine wpAnyH_take (i := 19) (oi := { dst := some 81, op := Op.call { callee := Callee.builtin Builtin.len, args := #[Operand.tmp 80], argTypes := #[27] }, type := 3, pos := "outright.go:72", after := #[{ on := 18, ground := Ground.data }, { on := 17, ground := Ground.guard }], guard := some (17, true) }) (v := undef) rfl (by kernel_rfl) (by kernel_rfl) (by kernel_rfl) (fun _ _ _ h => h) (Or.inr ⟨by rfl, rfl⟩) (by assumption) ?_
            try simp only [Act.put, List.setIfInBounds_toArray, List.set_cons_zero, List.set_cons_succ]
            refine wpAnyH_take (i := 20) (oi := { dst := some 82, op := Op.binOp BinOp.eql 3 (Operand.tmp 81) (Operand.const (Value.int IntKind.i64 0)) 3, type := 4, pos := "outright.go:72", after := #[{ on := 19, ground := Ground.data }, { on := 17, ground := Ground.guard }], guard := some (17, true) }) (v := undef) rfl (by kernel_rfl) (by kernel_rfl) (by kernel_rfl) (fun _ _ _ h => h) (Or.inr ⟨by rfl, rfl⟩) (by assumption) ?_
            try simp only [Act.put, List.setIfInBounds_toArray, List.set_cons_zero, List.set_cons_succ]
            refine wpAnyH_take (i := 21) (oi := { dst := some 83, op := Op.move (Operand.tmp 82), type := 4, pos := "outright.go:72", after := #[{ on := 20, ground := Ground.data }, { on := 17, ground := Ground.chain }, { on := 17, ground := Ground.guard }], guard := some (17, true) }) (v := undef) rfl (by kernel_rfl) (by kernel_rfl) (by kernel_rfl) (fun _ _ _ h => h) (Or.inr ⟨by rfl, rfl⟩) (by assumption) ?_
            try simp only [Act.put, List.setIfInBounds_toArray, List.set_cons_zero, List.set_cons_succ]
            refine wpAnyH_take (i := 22) (oi := { dst := some 84, op := Op.move (Operand.tmp 9), type := 27, pos := "outright.go:72", after := #[{ on := 21, ground := Ground.guard }], guard := some (21, false) }) (v := undef) rfl (by kernel_rfl) (by kernel_rfl) (by kernel_rfl) (fun _ _ _ h => h) (Or.inr ⟨by rfl, rfl⟩) (by assumption) ?_
            try simp only [Act.put, List.setIfInBounds_toArray, List.set_cons_zero, List.set_cons_succ]
            refine wpAnyH_take (i := 23) (oi := { dst := some 85, op := Op.indexAddr 27 (Operand.tmp 84) (Operand.const (Value.int IntKind.i64 0)), type := 0, pos := "outright.go:72", after := #[{ on := 22, ground := Ground.data }, { on := 21, ground := Ground.guard }], guard := some (21, false) }) (v := undef) rfl (by kernel_rfl) (by kernel_rfl) (by kernel_rfl) (fun _ _ _ h => h) (Or.inr ⟨by rfl, rfl⟩) (by assumption) ?_
            try simp only [Act.put, List.setIfInBounds_toArray, List.set_cons_zero, List.set_cons_succ]
            refine wpAnyH_take (i := 24) (oi := { dst := some 86, op := Op.load 26 (Operand.tmp 85), type := 26, pos := "outright.go:72", after := #[{ on := 23, ground := Ground.data }, { on := 21, ground := Ground.guard }], guard := some (21, false) }) (v := undef) rfl (by kernel_rfl) (by kernel_rfl) (by kernel_rfl) (fun _ _ _ h => h) (Or.inr ⟨by rfl, rfl⟩) (by assumption) ?_
            try simp only [Act.put, List.setIfInBounds_toArray, List.set_cons_zero, List.set_cons_succ]
            refine wpAnyH_take (i := 25) (oi := { dst := some 87, op := Op.move (Operand.tmp 10), type := 27, pos := "outright.go:72", after := #[{ on := 21, ground := Ground.guard }], guard := some (21, false) }) (v := undef) rfl (by kernel_rfl) (by kernel_rfl) (by kernel_rfl) (fun _ _ _ h => h) (Or.inr ⟨by rfl, rfl⟩) (by assumption) ?_
            try simp only [Act.put, List.setIfInBounds_toArray, List.set_cons_zero, List.set_cons_succ]
            refine wpAnyH_take (i := 26) (oi := { dst := some 88, op := Op.move (Operand.tmp 11), type := 3, pos := "outright.go:72", after := #[{ on := 21, ground := Ground.guard }], guard := some (21, false) }) (v := undef) rfl (by kernel_rfl) (by kernel_rfl) (by kernel_rfl) (fun _ _ _ h => h) (Or.inr ⟨by rfl, rfl⟩) (by assumption) ?_
            try simp only [Act.put, List.setIfInBounds_toArray, List.set_cons_zero, List.set_cons_succ]
            refine wpAnyH_take (i := 27) (oi := { dst := some 89, op := Op.indexAddr 27 (Operand.tmp 87) (Operand.tmp 88), type := 0, pos := "outright.go:72", after := #[{ on := 25, ground := Ground.data }, { on := 26, ground := Ground.data }, { on := 21, ground := Ground.guard }], guard := some (21, false) }) (v := undef) rfl (by kernel_rfl) (by kernel_rfl) (by kernel_rfl) (fun _ _ _ h => h) (Or.inr ⟨by rfl, rfl⟩) (by assumption) ?_
            try simp only [Act.put, List.setIfInBounds_toArray, List.set_cons_zero, List.set_cons_succ]
            refine wpAnyH_take (i := 28) (oi := { dst := some 90, op := Op.load 26 (Operand.tmp 89), type := 26, pos := "outright.go:72", after := #[{ on := 27, ground := Ground.data }, { on := 21, ground := Ground.guard }], guard := some (21, false) }) (v := undef) rfl (by kernel_rfl) (by kernel_rfl) (by kernel_rfl) (fun _ _ _ h => h) (Or.inr ⟨by rfl, rfl⟩) (by assumption) ?_
            try simp only [Act.put, List.setIfInBounds_toArray, List.set_cons_zero, List.set_cons_succ]
            refine wpAnyH_take (i := 29) (oi := { dst := some 91, op := Op.binOp BinOp.neq 26 (Operand.tmp 86) (Operand.tmp 90) 26, type := 4, pos := "outright.go:72", after := #[{ on := 24, ground := Ground.data }, { on := 28, ground := Ground.data }, { on := 21, ground := Ground.guard }], guard := some (21, false) }) (v := undef) rfl (by kernel_rfl) (by kernel_rfl) (by kernel_rfl) (fun _ _ _ h => h) (Or.inr ⟨by rfl, rfl⟩) (by assumption) ?_
            try simp only [Act.put, List.setIfInBounds_toArray, List.set_cons_zero, List.set_cons_succ]
            refine wpAnyH_take (i := 30) (oi := { dst := some 92, op := Op.pick (Operand.tmp 83) (Operand.const (Value.bool true)) (Operand.tmp 91), type := 4, pos := "outright.go:72", after := #[{ on := 21, ground := Ground.data }, { on := 29, ground := Ground.data }, { on := 17, ground := Ground.guard }], guard := some (17, true) }) (v := undef) rfl (by kernel_rfl) (by kernel_rfl) (by kernel_rfl) (fun _ _ _ h => h) (Or.inr ⟨by rfl, rfl⟩) (by assumption) ?_
            try simp only [Act.put, List.setIfInBounds_toArray, List.set_cons_zero, List.set_cons_succ]
            refine wpAnyH_take (i := 31) (oi := { dst := some 93, op := Op.pick (Operand.tmp 79) (Operand.tmp 92) (Operand.const (Value.bool false)), type := 4, pos := "outright.go:72", after := #[{ on := 17, ground := Ground.data }, { on := 30, ground := Ground.data }], guard := none }) (v := ?vv92) rfl (by kernel_rfl) (by kernel_rfl) (by kernel_rfl) (fun _ _ _ h => h) (Or.inl ⟨by rfl, ?hy92⟩) (by assumption) ?_
            case hy92 => (intro w hSw; (try dsimp only at hSw); go_simp; all_goals with_reducible rfl)
            try simp only [Act.put, List.setIfInBounds_toArray, List.set_cons_zero, List.set_cons_succ]
            refine wpAnyH_done (by kernel_rfl) ?_ _
            have HBn : Hid (Below w9.heap.size w9 W) := hb.out.trans (hbW.mono hb.out.size)
            go_wp2_with fail
            go_roundw
            case rel => exact ⟨2, by rfl, by omega, by omega, HBn.out⟩
            case measure => simp [intOf]
      · by_cases hiL : i < H.length
        · obtain rfl : i = 2 := by omega
          have t1 : ((2 : Nat) : Int) < (H.length : Int) := by omega
          have t2 : ¬ ((2 : Nat) : Int) < 2 := by omega
          clear hin
          go_wp2_with fail
          go_meet
          case rel => exact hb
        · have t1 : ¬ (i : Int) < (H.length : Int) := by omega
          clear hin
          go_wp2_with fail
          go_meet
          case rel => exact hb
  case rest =>
    have HBl : Hid (Below w7.heap.size w7 wc) := HB9.out.trans (hcut.out.mono HB9.out.size)
    have HHl : Hid (In ET wc (.slice yb H.length yc) H) := HHI.out.below hcut.out
    go_wp2_with fail
    go_loopw [12] (fun iv wr => ∃ i : Nat, iv = .int .i64 (i : Int) ∧ i ≤ PL.length ∧ Hid (Below wc.heap.size wc wr)) (fun iv _ => PL.length - (intOf iv).toNat)
    case atStart => exact ⟨0, rfl, by omega, Below.refl _ _⟩
    case round =>
      obtain ⟨i, rfl, hi, hb⟩ := hrel
      have HB7 : Hid (Below w7.heap.size w7 wr) := HBl.out.trans (hb.out.mono HBl.out.size)
      by_cases hlt : i < PL.length
      · have l1 : (i : Int) < (PL.length : Int) := by omega
        obtain ⟨Bl, ol, cl, el, hBl, hcl⟩ := HPI.out.tg i hlt
        injection el with e1 e2 e3
        clear e2 e3
        subst e1
        obtain ⟨Z, hZ⟩ : ∃ Z, PL[i] = Z := ⟨_, rfl⟩
        rw [hZ] at hcl
        have HBY : Hid (byB NM (Ta, Tp) (PL.take i) Z = true) := by rw [← hZ]; exact by_all HNA.out i hlt
        have HNB : Hid (inB (PL.take i) Z = false) := by rw [← hZ]; exact not_before HND.out.1 i hlt
        obtain ⟨Za, Zp⟩ := Z
        simp only at hcl
        have HCi : Hid (∀ V, Below w7.heap.size w7 V → V.cell? ⟨Bl, ol + i * 2, none⟩ = some (.string Za) ∧ V.cell? ⟨Bl, ol + i * 2 + 1, none⟩ = some (.string Zp)) := hcl
        obtain ⟨c0, c1⟩ := hcl wr HB7.out
        have HX : Hid (Calls Try.prog 14 #[.slice yb H.length yc, .agg #[.string Za, .string Zp]] wr fun e w' => e = .returned (.bool (byB NM (Ta, Tp) (PL.take 0) (Za, Zp))) ∧ Below wr.heap.size wr w') := by
          have := in_any (yb, H.length, yc) H (Za, Zp) wr (HHl.out.below hb.out)
          rw [show inB H (Za, Zp) = byB NM (Ta, Tp) (PL.take 0) (Za, Zp) from by unfold byB; rw [HHE.out]; simp] at this
          exact this
        clear hcl hZ
        go_wp2_with fail
        go_at_call 14
        refine HX.out.mono ?_
        rintro e v1 ⟨rfl, hb1⟩
        have HB1 : Hid (Below wc.heap.size wc v1) := hb.out.trans (hb1.mono hb.out.size)
        have HB71 : Hid (Below w7.heap.size w7 v1) := HB7.out.trans (hb1.mono HB7.out.size)
        clear hb1 HX c0 c1
        obtain ⟨bv, hbv⟩ : ∃ bv, byB NM (Ta, Tp) (PL.take 0) (Za, Zp) = bv := ⟨_, rfl⟩
        rw [hbv]
        have HBV : Hid (bv = byB NM (Ta, Tp) (PL.take 0) (Za, Zp)) := hbv.symm
        clear hbv
        go_wp2_with fail
        go_loopw [13, 14] (fun bw jv wr => ∃ (j : Nat) (bv : Bool), jv = .int .i64 (j : Int) ∧ j ≤ i ∧ bw = .bool bv ∧ Hid (bv = byB NM (Ta, Tp) (PL.take j) (Za, Zp)) ∧ Hid (Below v1.heap.size v1 wr)) (fun _ jv _ => i - (intOf jv).toNat)
        case atStart => exact ⟨0, bv, rfl, by omega, rfl, HBV.out, Below.refl _ _⟩
        case round =>
          obtain ⟨j, bv, rfl, hj, rfl, hBV, hbj⟩ := hrel
          have HBj : Hid (Below w7.heap.size w7 wr) := HB71.out.trans (hbj.out.mono HB71.out.size)
          by_cases hji : j < i
          · have l2 : (j : Int) < (i : Int) := by omega
            have hjl : j < PL.length := by omega
            have l3 : (j : Int) < (PL.length : Int) := by omega
            obtain ⟨Bm, om, cm, em, hBm, hcm⟩ := HPI.out.tg j hjl
            injection em with e1 e2 e3
            injection e1 with e1
            injection e1 with e1 e4 _
            clear e2 e3
            subst e1 e4
            obtain ⟨Y, hY⟩ : ∃ Y, PL[j] = Y := ⟨_, rfl⟩
            rw [hY] at hcm
            have HTJ : Hid (byB NM (Ta, Tp) (PL.take (j + 1)) (Za, Zp) = (bv || inB (NM Y) (Za, Zp))) := by show _ = _; rw [List.take_succ_eq_append_getElem hjl, byB_snoc, ← hBV.out, hY]
            clear hY
            obtain ⟨Ya, Yp⟩ := Y
            simp only at hcm
            have HCy : Hid (∀ V, Below wr.heap.size wr V → (V.cell? ⟨Bl, ol + j * 2, none⟩ = some (.string Ya) ∧ V.cell? ⟨Bl, ol + j * 2 + 1, none⟩ = some (.string Yp) ∧ V.cell? ⟨Bl, ol + i * 2, none⟩ = some (.string Za) ∧ V.cell? ⟨Bl, ol + i * 2 + 1, none⟩ = some (.string Zp))) := fun V hV => by
              have h1 := hcm V (HBj.out.trans (hV.mono HBj.out.size))
              have h2 := HCi.out V (HBj.out.trans (hV.mono HBj.out.size))
              exact ⟨h1.1, h1.2, h2.1, h2.2⟩
            have HNX : Hid (∀ V, Below w7.heap.size w7 V → Calls Try.prog 15 #[.slice rb rl rc, .agg #[.string Ya, .string Yp]] V fun e w' => ∃ y : SV, e = .returned (sv y) ∧ In ET w' (sv y) (NM (Ya, Yp)) ∧ Below V.heap.size V w') := fun V hV => by have := (HR7.out.below hV).names (Ya, Yp); rw [HNM.out] at this; exact this
            clear hcm
            cases bv
            · go_wp2_with fail
              have hbW : Below wr.heap.size wr wr.drew := (Below.refl _ _).drew
              refine wp_region_held_drew (S := (fun V => V.cell? ⟨Bl, ol + j * 2, none⟩ = some (.string Ya) ∧ V.cell? ⟨Bl, ol + j * 2 + 1, none⟩ = some (.string Yp) ∧ V.cell? ⟨Bl, ol + i * 2, none⟩ = some (.string Za) ∧ V.cell? ⟨Bl, ol + i * 2 + 1, none⟩ = some (.string Zp))) (by kernel_rfl) (HCy.out _ hbW) (fun hHeld => ?_)
              generalize hWg : World.drew _ = W at hbW hHeld ⊢
              clear hWg
              refine wpAnyH_take (i := 0) (oi := { dst := some 111, op := Op.move (Operand.tmp 13), type := 4, pos := "outright.go:79", after := #[], guard := none }) (v := ?vv45) rfl (by kernel_rfl) (by kernel_rfl) (by kernel_rfl) (fun _ _ _ h => h) (Or.inl ⟨by rfl, ?hy45⟩) (by assumption) ?_
              case hy45 => (intro w hSw; (try dsimp only at hSw); go_simp; all_goals with_reducible rfl)
              try simp only [Act.put, List.setIfInBounds_toArray, List.set_cons_zero, List.set_cons_succ]
              refine wpAnyH_take (i := 1) (oi := { dst := some 112, op := Op.move (Operand.tmp 111), type := 4, pos := "outright.go:79", after := #[{ on := 0, ground := Ground.data }], guard := none }) (v := ?vv46) rfl (by kernel_rfl) (by kernel_rfl) (by kernel_rfl) (fun _ _ _ h => h) (Or.inl ⟨by rfl, ?hy46⟩) (by assumption) ?_
              case hy46 => (intro w hSw; (try dsimp only at hSw); go_simp; all_goals with_reducible rfl)
              try simp only [Act.put, List.setIfInBounds_toArray, List.set_cons_zero, List.set_cons_succ]
              refine wpAnyH_take (i := 2) (oi := { dst := some 113, op := Op.move (Operand.tmp 5), type := 23, pos := "outright.go:79", after := #[{ on := 1, ground := Ground.guard }], guard := some (1, false) }) (v := ?vv47) rfl (by kernel_rfl) (by kernel_rfl) (by kernel_rfl) (fun _ _ _ h => h) (Or.inl ⟨by rfl, ?hy47⟩) (by assumption) ?_
              case hy47 => (intro w hSw; (try dsimp only at hSw); go_simp; all_goals with_reducible rfl)
              try simp only [Act.put, List.setIfInBounds_toArray, List.set_cons_zero, List.set_cons_succ]
              refine wpAnyH_take (i := 3) (oi := { dst := some 114, op := Op.move (Operand.tmp 9), type := 27, pos := "outright.go:79", after := #[{ on := 1, ground := Ground.guard }], guard := some (1, false) }) (v := ?vv48) rfl (by kernel_rfl) (by kernel_rfl) (by kernel_rfl) (fun _ _ _ h => h) (Or.inl ⟨by rfl, ?hy48⟩) (by assumption) ?_
              case hy48 => (intro w hSw; (try dsimp only at hSw); go_simp; all_goals with_reducible rfl)
              try simp only [Act.put, List.setIfInBounds_toArray, List.set_cons_zero, List.set_cons_succ]
              refine wpAnyH_take (i := 4) (oi := { dst := some 115, op := Op.move (Operand.tmp 14), type := 3, pos := "outright.go:79", after := #[{ on := 1, ground := Ground.guard }], guard := some (1, false) }) (v := ?vv49) rfl (by kernel_rfl) (by kernel_rfl) (by kernel_rfl) (fun _ _ _ h => h) (Or.inl ⟨by rfl, ?hy49⟩) (by assumption) ?_
              case hy49 => (intro w hSw; (try dsimp only at hSw); go_simp; all_goals with_reducible rfl)
              try simp only [Act.put, List.setIfInBounds_toArray, List.set_cons_zero, List.set_cons_succ]
              refine wpAnyH_take (i := 5) (oi := { dst := some 116, op := Op.indexAddr 27 (Operand.tmp 114) (Operand.tmp 115), type := 0, pos := "outright.go:79", after := #[{ on := 3, ground := Ground.data }, { on := 4, ground := Ground.data }, { on := 1, ground := Ground.guard }], guard := some (1, false) }) (v := ?vv50) rfl (by kernel_rfl) (by kernel_rfl) (by kernel_rfl) (fun _ _ _ h => h) (Or.inl ⟨by rfl, ?hy50⟩) (by assumption) ?_
              case hy50 => (intro w hSw; (try dsimp only at hSw); go_simp; all_goals with_reducible rfl)
              try simp only [Act.put, List.setIfInBounds_toArray, List.set_cons_zero, List.set_cons_succ]
              refine wpAnyH_take (i := 6) (oi := { dst := some 117, op := Op.load 26 (Operand.tmp 116), type := 26, pos := "outright.go:79", after := #[{ on := 5, ground := Ground.data }, { on := 1, ground := Ground.guard }], guard := some (1, false) }) (v := ?vv51) rfl (by kernel_rfl) (by kernel_rfl) (by kernel_rfl) (fun _ _ _ h => h) (Or.inl ⟨by rfl, ?hy51⟩) (by assumption) ?_
              case hy51 => (intro w hSw; (try dsimp only at hSw); go_simp; all_goals with_reducible rfl)
              try simp only [Act.put, List.setIfInBounds_toArray, List.set_cons_zero, List.set_cons_succ]
              refine wpAnyH_take (i := 8) (oi := { dst := some 119, op := Op.move (Operand.tmp 9), type := 27, pos := "outright.go:79", after := #[{ on := 1, ground := Ground.guard }], guard := some (1, false) }) (v := ?vv52) rfl (by kernel_rfl) (by kernel_rfl) (by kernel_rfl) (fun _ _ _ h => h) (Or.inl ⟨by rfl, ?hy52⟩) (by assumption) ?_
              case hy52 => (intro w hSw; (try dsimp only at hSw); go_simp; all_goals with_reducible rfl)
              try simp only [Act.put, List.setIfInBounds_toArray, List.set_cons_zero, List.set_cons_succ]
              refine wpAnyH_take (i := 9) (oi := { dst := some 120, op := Op.move (Operand.tmp 12), type := 3, pos := "outright.go:79", after := #[{ on := 1, ground := Ground.guard }], guard := some (1, false) }) (v := ?vv53) rfl (by kernel_rfl) (by kernel_rfl) (by kernel_rfl) (fun _ _ _ h => h) (Or.inl ⟨by rfl, ?hy53⟩) (by assumption) ?_
              case hy53 => (intro w hSw; (try dsimp only at hSw); go_simp; all_goals with_reducible rfl)
              try simp only [Act.put, List.setIfInBounds_toArray, List.set_cons_zero, List.set_cons_succ]
              refine wpAnyH_take (i := 10) (oi := { dst := some 121, op := Op.indexAddr 27 (Operand.tmp 119) (Operand.tmp 120), type := 0, pos := "outright.go:79", after := #[{ on := 8, ground := Ground.data }, { on := 9, ground := Ground.data }, { on := 1, ground := Ground.guard }], guard := some (1, false) }) (v := ?vv54) rfl (by kernel_rfl) (by kernel_rfl) (by kernel_rfl) (fun _ _ _ h => h) (Or.inl ⟨by rfl, ?hy54⟩) (by assumption) ?_
              case hy54 => (intro w hSw; (try dsimp only at hSw); go_simp; all_goals with_reducible rfl)
              try simp only [Act.put, List.setIfInBounds_toArray, List.set_cons_zero, List.set_cons_succ]
              refine wpAnyH_take (i := 11) (oi := { dst := some 122, op := Op.load 26 (Operand.tmp 121), type := 26, pos := "outright.go:79", after := #[{ on := 10, ground := Ground.data }, { on := 1, ground := Ground.guard }], guard := some (1, false) }) (v := ?vv55) rfl (by kernel_rfl) (by kernel_rfl) (by kernel_rfl) (fun _ _ _ h => h) (Or.inl ⟨by rfl, ?hy55⟩) (by assumption) ?_
              case hy55 => (intro w hSw; (try dsimp only at hSw); go_simp; all_goals with_reducible rfl)
              try simp only [Act.put, List.setIfInBounds_toArray, List.set_cons_zero, List.set_cons_succ]
              refine wpAnyH_ready (rs := [7]) (by kernel_rfl) (by simp) ?_
              refine AllReadyH.cons (o := { dst := some 118, op := Op.call { callee := Callee.value (Operand.func 15), args := #[Operand.tmp 113, Operand.tmp 117], argTypes := #[23, 26] }, type := 27, pos := "outright.go:79", after := #[{ on := 2, ground := Ground.data }, { on := 6, ground := Ground.data }, { on := 1, ground := Ground.chain }, { on := 1, ground := Ground.guard }], guard := some (1, false) }) rfl (fun K hK => ?_) AllReadyH.nil
              go_simp
              refine (HNX.out _ (HBj.out.trans (hbW.mono HBj.out.size))).mono ?_
              rintro e' Wx ⟨⟨zb, zl, zc⟩, rfl, hIn, bX⟩
              have hbWx : Below wr.heap.size wr Wx := hbW.trans (bX.mono hbW.size)
              obtain ⟨NY, hNY⟩ : ∃ NY, NM (Ya, Yp) = NY := ⟨_, rfl⟩
              rw [hNY] at hIn
              have HNY : Hid (NM (Ya, Yp) = NY) := hNY
              have HNI : Hid (In ET Wx (sv (zb, zl, zc)) NY) := hIn
              clear bX hIn hNY
              simp only [sv] at HNI ⊢
              go_wp2_with fail
              refine hK.out _ _ (HCy.out _ hbWx) (fun hHeld => ?_)
              clear hK K
              try simp only [Act.put, List.setIfInBounds_toArray, List.set_cons_zero, List.set_cons_succ]
              refine wpAnyH_ready (rs := [12]) (by kernel_rfl) (by simp) ?_
              refine AllReadyH.cons (o := { dst := some 123, op := Op.call { callee := Callee.value (Operand.func 14), args := #[Operand.tmp 118, Operand.tmp 122], argTypes := #[27, 26] }, type := 4, pos := "outright.go:79", after := #[{ on := 7, ground := Ground.data }, { on := 11, ground := Ground.data }, { on := 7, ground := Ground.chain }, { on := 1, ground := Ground.guard }], guard := some (1, false) }) rfl (fun K hK => ?_) AllReadyH.nil
              go_simp
              refine (in_any (zb, zl, zc) NY (Za, Zp) _ HNI.out).mono ?_
              rintro e' Wxx ⟨rfl, bX⟩
              have hbWxx : Below wr.heap.size wr Wxx := hbWx.trans (bX.mono hbWx.size)
              clear bX
              go_wp2_with fail
              refine hK.out _ _ (HCy.out _ hbWxx) (fun hHeld => ?_)
              clear hK K
              try simp only [Act.put, List.setIfInBounds_toArray, List.set_cons_zero, List.set_cons_succ]
              refine wpAnyH_take (i := 13) (oi := { dst := some 124, op := Op.pick (Operand.tmp 112) (Operand.const (Value.bool true)) (Operand.tmp 123), type := 4, pos := "outright.go:79", after := #[{ on := 1, ground := Ground.data }, { on := 12, ground := Ground.data }], guard := none }) (v := ?vv56) rfl (by kernel_rfl) (by kernel_rfl) (by kernel_rfl) (fun _ _ _ h => h) (Or.inl ⟨by rfl, ?hy56⟩) (by assumption) ?_
              case hy56 => (intro w hSw; (try dsimp only at hSw); go_simp; all_goals with_reducible rfl)
              try simp only [Act.put, List.setIfInBounds_toArray, List.set_cons_zero, List.set_cons_succ]
              refine wpAnyH_take (i := 14) (oi := { dst := some 13, op := Op.assign (Operand.tmp 124), type := 4, pos := "outright.go:79", after := #[{ on := 13, ground := Ground.data }, { on := 12, ground := Ground.chain }, { on := 0, ground := Ground.phase }, { on := 1, ground := Ground.phase }, { on := 2, ground := Ground.phase }, { on := 3, ground := Ground.phase }, { on := 4, ground := Ground.phase }, { on := 5, ground := Ground.phase }, { on := 6, ground := Ground.phase }, { on := 7, ground := Ground.phase }, { on := 8, ground := Ground.phase }, { on := 9, ground := Ground.phase }, { on := 10, ground := Ground.phase }, { on := 11, ground := Ground.phase }, { on := 12, ground := Ground.phase }, { on := 13, ground := Ground.phase }], guard := none }) (v := ?vv57) rfl (by kernel_rfl) (by kernel_rfl) (by kernel_rfl) (fun _ _ _ h => h) (Or.inl ⟨by rfl, ?hy57⟩) (by assumption) ?_
              case hy57 => (intro w hSw; (try dsimp only at hSw); go_simp; all_goals with_reducible rfl)
              try simp only [Act.put, List.setIfInBounds_toArray, List.set_cons_zero, List.set_cons_succ]
              refine wpAnyH_done (by kernel_rfl) ?_ _
              have HBn : Hid (Below v1.heap.size v1 Wxx) := hbj.out.trans (hbWxx.mono hbj.out.size)
              obtain ⟨b9, hb9⟩ : ∃ b9, inB NY (Za, Zp) = b9 := ⟨_, rfl⟩
              rw [hb9]
              have HB9' : Hid (b9 = byB NM (Ta, Tp) (PL.take (j + 1)) (Za, Zp)) := by show _ = _; rw [HTJ.out, HNY.out, hb9]; rfl
              clear hb9
              go_wp2_with fail
              go_roundw
              case rel => exact ⟨j + 1, b9, by simp, by omega, rfl, HB9'.out, HBn.out⟩
              case measure => simp [intOf] <;> omega
            · go_wp2_with fail
              have hbW : Below wr.heap.size wr wr.drew := (Below.refl _ _).drew
              refine wp_region_held_drew (S := (fun V => V.cell? ⟨Bl, ol + j * 2, none⟩ = some (.string Ya) ∧ V.cell? ⟨Bl, ol + j * 2 + 1, none⟩ = some (.string Yp) ∧ V.cell? ⟨Bl, ol + i * 2, none⟩ = some (.string Za) ∧ V.cell? ⟨Bl, ol + i * 2 + 1, none⟩ = some (.string Zp))) (by kernel_rfl) (HCy.out _ hbW) (fun hHeld => ?_)
              generalize hWg : World.drew _ = W at hbW hHeld ⊢
              clear hWg
              refine wpAnyH_take (i := 0) (oi := { dst := some 111, op := Op.move (Operand.tmp 13), type := 4, pos := "outright.go:79", after := #[], guard := none }) (v := ?vv58) rfl (by kernel_rfl) (by kernel_rfl) (by kernel_rfl) (fun _ _ _ h => h) (Or.inl ⟨by rfl, ?hy58⟩) (by assumption) ?_
              case hy58 => (intro w hSw; (try dsimp only at hSw); go_simp; all_goals with_reducible rfl)
              try simp only [Act.put, List.setIfInBounds_toArray, List.set_cons_zero, List.set_cons_succ]
              refine wpAnyH_take (i := 1) (oi := { dst := some 112, op := Op.move (Operand.tmp 111), type := 4, pos := "outright.go:79", after := #[{ on := 0, ground := Ground.data }], guard := none }) (v := ?vv59) rfl (by kernel_rfl) (by kernel_rfl) (by kernel_rfl) (fun _ _ _ h => h) (Or.inl ⟨by rfl, ?hy59⟩) (by assumption) ?_
              case hy59 => (intro w hSw; (try dsimp only at hSw); go_simp; all_goals with_reducible rfl)
              try simp only [Act.put, List.setIfInBounds_toArray, List.set_cons_zero, List.set_cons_succ]
              refine wpAnyH_take (i := 2) (oi := { dst := some 113, op := Op.move (Operand.tmp 5), type := 23, pos := "outright.go:79", after := #[{ on := 1, ground := Ground.guard }], guard := some (1, false) }) (v := undef) rfl (by kernel_rfl) (by kernel_rfl) (by kernel_rfl) (fun _ _ _ h => h) (Or.inr ⟨by rfl, rfl⟩) (by assumption) ?_
              try simp only [Act.put, List.setIfInBounds_toArray, List.set_cons_zero, List.set_cons_succ]
              refine wpAnyH_take (i := 3) (oi := { dst := some 114, op := Op.move (Operand.tmp 9), type := 27, pos := "outright.go:79", after := #[{ on := 1, ground := Ground.guard }], guard := some (1, false) }) (v := undef) rfl (by kernel_rfl) (by kernel_rfl) (by kernel_rfl) (fun _ _ _ h => h) (Or.inr ⟨by rfl, rfl⟩) (by assumption) ?_
              try simp only [Act.put, List.setIfInBounds_toArray, List.set_cons_zero, List.set_cons_succ]
              refine wpAnyH_take (i := 4) (oi := { dst := some 115, op := Op.move (Operand.tmp 14), type := 3, pos := "outright.go:79", after := #[{ on := 1, ground := Ground.guard }], guard := some (1, false) }) (v := undef) rfl (by kernel_rfl) (by kernel_rfl) (by kernel_rfl) (fun _ _ _ h => h) (Or.inr ⟨by rfl, rfl⟩) (by assumption) ?_
              try simp only [Act.put, List.setIfInBounds_toArray, List.set_cons_zero, List.set_cons_succ]
              refine wpAnyH_take (i := 5) (oi := { dst := some 116, op := Op.indexAddr 27 (Operand.tmp 114) (Operand.tmp 115), type := 0, pos := "outright.go:79", after := #[{ on := 3, ground := Ground.data }, { on := 4, ground := Ground.data }, { on := 1, ground := Ground.guard }], guard := some (1, false) }) (v := undef) rfl (by kernel_rfl) (by kernel_rfl) (by kernel_rfl) (fun _ _ _ h => h) (Or.inr ⟨by rfl, rfl⟩) (by assumption) ?_
              try simp only [Act.put, List.setIfInBounds_toArray, List.set_cons_zero, List.set_cons_succ]
              refine wpAnyH_take (i := 6) (oi := { dst := some 117, op := Op.load 26 (Operand.tmp 116), type := 26, pos := "outright.go:79", after := #[{ on := 5, ground := Ground.data }, { on := 1, ground := Ground.guard }], guard := some (1, false) }) (v := undef) rfl (by kernel_rfl) (by kernel_rfl) (by kernel_rfl) (fun _ _ _ h => h) (Or.inr ⟨by rfl, rfl⟩) (by assumption) ?_
              try simp only [Act.put, List.setIfInBounds_toArray, List.set_cons_zero, List.set_cons_succ]
              refine wpAnyH_take (i := 7) (oi := { dst := some 118, op := Op.call { callee := Callee.value (Operand.func 15), args := #[Operand.tmp 113, Operand.tmp 117], argTypes := #[23, 26] }, type := 27, pos := "outright.go:79", after := #[{ on := 2, ground := Ground.data }, { on := 6, ground := Ground.data }, { on := 1, ground := Ground.chain }, { on := 1, ground := Ground.guard }], guard := some (1, false) }) (v := undef) rfl (by kernel_rfl) (by kernel_rfl) (by kernel_rfl) (fun _ _ _ h => h) (Or.inr ⟨by rfl, rfl⟩) (by assumption) ?_
              try simp only [Act.put, List.setIfInBounds_toArray, List.set_cons_zero, List.set_cons_succ]
              refine wpAnyH_take (i := 8) (oi := { dst := some 119, op := Op.move (Operand.tmp 9), type := 27, pos := "outright.go:79", after := #[{ on := 1, ground := Ground.guard }], guard := some (1, false) }) (v := undef) rfl (by kernel_rfl) (by kernel_rfl) (by kernel_rfl) (fun _ _ _ h => h) (Or.inr ⟨by rfl, rfl⟩) (by assumption) ?_
              try simp only [Act.put, List.setIfInBounds_toArray, List.set_cons_zero, List.set_cons_succ]
              refine wpAnyH_take (i := 9) (oi := { dst := some 120, op := Op.move (Operand.tmp 12), type := 3, pos := "outright.go:79", after := #[{ on := 1, ground := Ground.guard }], guard := some (1, false) }) (v := undef) rfl (by kernel_rfl) (by kernel_rfl) (by kernel_rfl) (fun _ _ _ h => h) (Or.inr ⟨by rfl, rfl⟩) (by assumption) ?_
              try simp only [Act.put, List.setIfInBounds_toArray, List.set_cons_zero, List.set_cons_succ]
              refine wpAnyH_take (i := 10) (oi := { dst := some 121, op := Op.indexAddr 27 (Operand.tmp 119) (Operand.tmp 120), type := 0, pos := "outright.go:79", after := #[{ on := 8, ground := Ground.data }, { on := 9, ground := Ground.data }, { on := 1, ground := Ground.guard }], guard := some (1, false) }) (v := undef) rfl (by kernel_rfl) (by kernel_rfl) (by kernel_rfl) (fun _ _ _ h => h) (Or.inr ⟨by rfl, rfl⟩) (by assumption) ?_
              try simp only [Act.put, List.setIfInBounds_toArray, List.set_cons_zero, List.set_cons_succ]
              refine wpAnyH_take (i := 11) (oi := { dst := some 122, op := Op.load 26 (Operand.tmp 121), type := 26, pos := "outright.go:79", after := #[{ on := 10, ground := Ground.data }, { on := 1, ground := Ground.guard }], guard := some (1, false) }) (v := undef) rfl (by kernel_rfl) (by kernel_rfl) (by kernel_rfl) (fun _ _ _ h => h) (Or.inr ⟨by rfl, rfl⟩) (by assumption) ?_
              try simp only [Act.put, List.setIfInBounds_toArray, List.set_cons_zero, List.set_cons_succ]
              refine wpAnyH_take (i := 12) (oi := { dst := some 123, op := Op.call { callee := Callee.value (Operand.func 14), args := #[Operand.tmp 118, Operand.tmp 122], argTypes := #[27, 26] }, type := 4, pos := "outright.go:79", after := #[{ on := 7, ground := Ground.data }, { on := 11, ground := Ground.data }, { on := 7, ground := Ground.chain }, { on := 1, ground := Ground.guard }], guard := some (1, false) }) (v := undef) rfl (by kernel_rfl) (by kernel_rfl) (by kernel_rfl) (fun _ _ _ h => h) (Or.inr ⟨by rfl, rfl⟩) (by assumption) ?_
              try simp only [Act.put, List.setIfInBounds_toArray, List.set_cons_zero, List.set_cons_succ]
              refine wpAnyH_take (i := 13) (oi := { dst := some 124, op := Op.pick (Operand.tmp 112) (Operand.const (Value.bool true)) (Operand.tmp 123), type := 4, pos := "outright.go:79", after := #[{ on := 1, ground := Ground.data }, { on := 12, ground := Ground.data }], guard := none }) (v := ?vv60) rfl (by kernel_rfl) (by kernel_rfl) (by kernel_rfl) (fun _ _ _ h => h) (Or.inl ⟨by rfl, ?hy60⟩) (by assumption) ?_
              case hy60 => (intro w hSw; (try dsimp only at hSw); go_simp; all_goals with_reducible rfl)
              try simp only [Act.put, List.setIfInBounds_toArray, List.set_cons_zero, List.set_cons_succ]
              refine wpAnyH_take (i := 14) (oi := { dst := some 13, op := Op.assign (Operand.tmp 124), type := 4, pos := "outright.go:79", after := #[{ on := 13, ground := Ground.data }, { on := 12, ground := Ground.chain }, { on := 0, ground := Ground.phase }, { on := 1, ground := Ground.phase }, { on := 2, ground := Ground.phase }, { on := 3, ground := Ground.phase }, { on := 4, ground := Ground.phase }, { on := 5, ground := Ground.phase }, { on := 6, ground := Ground.phase }, { on := 7, ground := Ground.phase }, { on := 8, ground := Ground.phase }, { on := 9, ground := Ground.phase }, { on := 10, ground := Ground.phase }, { on := 11, ground := Ground.phase }, { on := 12, ground := Ground.phase }, { on := 13, ground := Ground.phase }], guard := none }) (v := ?vv61) rfl (by kernel_rfl) (by kernel_rfl) (by kernel_rfl) (fun _ _ _ h => h) (Or.inl ⟨by rfl, ?hy61⟩) (by assumption) ?_
              case hy61 => (intro w hSw; (try dsimp only at hSw); go_simp; all_goals with_reducible rfl)
              try simp only [Act.put, List.setIfInBounds_toArray, List.set_cons_zero, List.set_cons_succ]
              refine wpAnyH_done (by kernel_rfl) ?_ _
              have HBn : Hid (Below v1.heap.size v1 W) := hbj.out.trans (hbW.mono hbj.out.size)
              go_wp2_with fail
              go_roundw
              case rel => exact ⟨j + 1, true, by simp, by omega, rfl, by show _ = _; rw [HTJ.out]; rfl, HBn.out⟩
              case measure => simp [intOf] <;> omega
          · obtain rfl : j = i := by omega
            have l2 : ¬ (j : Int) < (j : Int) := by omega
            have l4 : (j : Int) ≤ (pc : Int) := by omega
            have hbt : bv = true := by rw [hBV.out]; exact HBY.out
            subst hbt
            have HXI : Hid (∀ V, Below wr.heap.size wr V → Calls Try.prog 14 #[.slice (some ⟨Bl, ol, none⟩) j pc, .agg #[.string Za, .string Zp]] V fun e w' => e = .returned (.bool false) ∧ Below V.heap.size V w') := fun V hV => by
              have := in_any (some ⟨Bl, ol, none⟩, j, pc) (PL.take j) (Za, Zp) V (((HPI.out.take okT j (by omega)).below HBj.out).below hV)
              rw [HNB.out] at this
              exact this
            have HCy : Hid (∀ V, Below wr.heap.size wr V → (V.cell? ⟨Bl, ol + j * 2, none⟩ = some (.string Za) ∧ V.cell? ⟨Bl, ol + j * 2 + 1, none⟩ = some (.string Zp))) := fun V hV => HCi.out V (HBj.out.trans (hV.mono HBj.out.size))
            go_wp2_with fail
            have hbW : Below wr.heap.size wr wr.drew := (Below.refl _ _).drew
            refine wp_region_held_drew (S := (fun V => V.cell? ⟨Bl, ol + j * 2, none⟩ = some (.string Za) ∧ V.cell? ⟨Bl, ol + j * 2 + 1, none⟩ = some (.string Zp))) (by kernel_rfl) (HCy.out _ hbW) (fun hHeld => ?_)
            generalize hWg : World.drew _ = W at hbW hHeld ⊢
            clear hWg
            refine wpAnyH_take (i := 0) (oi := { dst := some 125, op := Op.move (Operand.tmp 13), type := 4, pos := "outright.go:81", after := #[], guard := none }) (v := ?vv62) rfl (by kernel_rfl) (by kernel_rfl) (by kernel_rfl) (fun _ _ _ h => h) (Or.inl ⟨by rfl, ?hy62⟩) (by assumption) ?_
            case hy62 => (intro w hSw; (try dsimp only at hSw); go_simp; all_goals with_reducible rfl)
            try simp only [Act.put, List.setIfInBounds_toArray, List.set_cons_zero, List.set_cons_succ]
            refine wpAnyH_take (i := 1) (oi := { dst := some 126, op := Op.unOp UnOp.not 4 (Operand.tmp 125), type := 4, pos := "outright.go:81", after := #[{ on := 0, ground := Ground.data }], guard := none }) (v := ?vv63) rfl (by kernel_rfl) (by kernel_rfl) (by kernel_rfl) (fun _ _ _ h => h) (Or.inl ⟨by rfl, ?hy63⟩) (by assumption) ?_
            case hy63 => (intro w hSw; (try dsimp only at hSw); go_simp; all_goals with_reducible rfl)
            try simp only [Act.put, List.setIfInBounds_toArray, List.set_cons_zero, List.set_cons_succ]
            refine wpAnyH_take (i := 2) (oi := { dst := some 127, op := Op.move (Operand.tmp 126), type := 4, pos := "outright.go:81", after := #[{ on := 1, ground := Ground.data }], guard := none }) (v := ?vv64) rfl (by kernel_rfl) (by kernel_rfl) (by kernel_rfl) (fun _ _ _ h => h) (Or.inl ⟨by rfl, ?hy64⟩) (by assumption) ?_
            case hy64 => (intro w hSw; (try dsimp only at hSw); go_simp; all_goals with_reducible rfl)
            try simp only [Act.put, List.setIfInBounds_toArray, List.set_cons_zero, List.set_cons_succ]
            refine wpAnyH_take (i := 3) (oi := { dst := some 128, op := Op.move (Operand.tmp 9), type := 27, pos := "outright.go:81", after := #[{ on := 2, ground := Ground.guard }], guard := some (2, false) }) (v := ?vv65) rfl (by kernel_rfl) (by kernel_rfl) (by kernel_rfl) (fun _ _ _ h => h) (Or.inl ⟨by rfl, ?hy65⟩) (by assumption) ?_
            case hy65 => (intro w hSw; (try dsimp only at hSw); go_simp; all_goals with_reducible rfl)
            try simp only [Act.put, List.setIfInBounds_toArray, List.set_cons_zero, List.set_cons_succ]
            refine wpAnyH_take (i := 4) (oi := { dst := some 129, op := Op.move (Operand.tmp 12), type := 3, pos := "outright.go:81", after := #[{ on := 2, ground := Ground.guard }], guard := some (2, false) }) (v := ?vv66) rfl (by kernel_rfl) (by kernel_rfl) (by kernel_rfl) (fun _ _ _ h => h) (Or.inl ⟨by rfl, ?hy66⟩) (by assumption) ?_
            case hy66 => (intro w hSw; (try dsimp only at hSw); go_simp; all_goals with_reducible rfl)
            try simp only [Act.put, List.setIfInBounds_toArray, List.set_cons_zero, List.set_cons_succ]
            refine wpAnyH_take (i := 5) (oi := { dst := some 130, op := Op.slice 27 (Operand.tmp 128) none (some (Operand.tmp 129)) none, type := 27, pos := "outright.go:81", after := #[{ on := 3, ground := Ground.data }, { on := 4, ground := Ground.data }, { on := 2, ground := Ground.guard }], guard := some (2, false) }) (v := ?vv67) rfl (by kernel_rfl) (by kernel_rfl) (by kernel_rfl) (fun _ _ _ h => h) (Or.inl ⟨by rfl, ?hy67⟩) (by assumption) ?_
            case hy67 => (intro w hSw; (try dsimp only at hSw); go_simp; all_goals with_reducible rfl)
            try simp only [Act.put, List.setIfInBounds_toArray, List.set_cons_zero, List.set_cons_succ]
            refine wpAnyH_take (i := 6) (oi := { dst := some 131, op := Op.move (Operand.tmp 9), type := 27, pos := "outright.go:81", after := #[{ on := 2, ground := Ground.guard }], guard := some (2, false) }) (v := ?vv68) rfl (by kernel_rfl) (by kernel_rfl) (by kernel_rfl) (fun _ _ _ h => h) (Or.inl ⟨by rfl, ?hy68⟩) (by assumption) ?_
            case hy68 => (intro w hSw; (try dsimp only at hSw); go_simp; all_goals with_reducible rfl)
            try simp only [Act.put, List.setIfInBounds_toArray, List.set_cons_zero, List.set_cons_succ]
            refine wpAnyH_take (i := 7) (oi := { dst := some 132, op := Op.move (Operand.tmp 12), type := 3, pos := "outright.go:81", after := #[{ on := 2, ground := Ground.guard }], guard := some (2, false) }) (v := ?vv69) rfl (by kernel_rfl) (by kernel_rfl) (by kernel_rfl) (fun _ _ _ h => h) (Or.inl ⟨by rfl, ?hy69⟩) (by assumption) ?_
            case hy69 => (intro w hSw; (try dsimp only at hSw); go_simp; all_goals with_reducible rfl)
            try simp only [Act.put, List.setIfInBounds_toArray, List.set_cons_zero, List.set_cons_succ]
            refine wpAnyH_take (i := 8) (oi := { dst := some 133, op := Op.indexAddr 27 (Operand.tmp 131) (Operand.tmp 132), type := 0, pos := "outright.go:81", after := #[{ on := 6, ground := Ground.data }, { on := 7, ground := Ground.data }, { on := 2, ground := Ground.guard }], guard := some (2, false) }) (v := ?vv70) rfl (by kernel_rfl) (by kernel_rfl) (by kernel_rfl) (fun _ _ _ h => h) (Or.inl ⟨by rfl, ?hy70⟩) (by assumption) ?_
            case hy70 => (intro w hSw; (try dsimp only at hSw); go_simp; all_goals with_reducible rfl)
            try simp only [Act.put, List.setIfInBounds_toArray, List.set_cons_zero, List.set_cons_succ]
            refine wpAnyH_take (i := 9) (oi := { dst := some 134, op := Op.load 26 (Operand.tmp 133), type := 26, pos := "outright.go:81", after := #[{ on := 8, ground := Ground.data }, { on := 2, ground := Ground.guard }], guard := some (2, false) }) (v := ?vv71) rfl (by kernel_rfl) (by kernel_rfl) (by kernel_rfl) (fun _ _ _ h => h) (Or.inl ⟨by rfl, ?hy71⟩) (by assumption) ?_
            case hy71 => (intro w hSw; (try dsimp only at hSw); go_simp; all_goals with_reducible rfl)
            try simp only [Act.put, List.setIfInBounds_toArray, List.set_cons_zero, List.set_cons_succ]
            refine wpAnyH_ready (rs := [10]) (by kernel_rfl) (by simp) ?_
            refine AllReadyH.cons (o := { dst := some 135, op := Op.call { callee := Callee.value (Operand.func 14), args := #[Operand.tmp 130, Operand.tmp 134], argTypes := #[27, 26] }, type := 4, pos := "outright.go:81", after := #[{ on := 5, ground := Ground.data }, { on := 9, ground := Ground.data }, { on := 2, ground := Ground.chain }, { on := 2, ground := Ground.guard }], guard := some (2, false) }) rfl (fun K hK => ?_) AllReadyH.nil
            go_simp
            refine (HXI.out _ hbW).mono ?_
            rintro e' Wx ⟨rfl, bX⟩
            have hbWx : Below wr.heap.size wr Wx := hbW.trans (bX.mono hbW.size)
            clear bX
            go_wp2_with fail
            refine hK.out _ _ (HCy.out _ hbWx) (fun hHeld => ?_)
            clear hK K
            try simp only [Act.put, List.setIfInBounds_toArray, List.set_cons_zero, List.set_cons_succ]
            refine wpAnyH_take (i := 11) (oi := { dst := some 136, op := Op.pick (Operand.tmp 127) (Operand.const (Value.bool true)) (Operand.tmp 135), type := 4, pos := "outright.go:81", after := #[{ on := 2, ground := Ground.data }, { on := 10, ground := Ground.data }], guard := none }) (v := ?vv72) rfl (by kernel_rfl) (by kernel_rfl) (by kernel_rfl) (fun _ _ _ h => h) (Or.inl ⟨by rfl, ?hy72⟩) (by assumption) ?_
            case hy72 => (intro w hSw; (try dsimp only at hSw); go_simp; all_goals with_reducible rfl)
            try simp only [Act.put, List.setIfInBounds_toArray, List.set_cons_zero, List.set_cons_succ]
            refine wpAnyH_done (by kernel_rfl) ?_ _
            have HBn : Hid (Below wc.heap.size wc Wx) := HB1.out.trans ((hbj.out.trans (hbWx.mono hbj.out.size)).mono HB1.out.size)
            go_wp2_with fail
            go_roundw
            case rel => exact ⟨j + 1, by simp, by omega, HBn.out⟩
            case measure => simp [intOf] <;> omega
      · have l1 : ¬ (i : Int) < (PL.length : Int) := by omega
        have HBw : Hid (Below w.heap.size w wr) := HW7.out.trans (HB7.out.mono HW7.out.size)
        by_cases h8 : PL.length = 8
        · have b8 : ((PL.length : Int) == 8) = true := by rw [h8]; rfl
          clear h8 l8
          go_wp2_with fail
          go_ret
          exact ⟨rfl, HBw.out⟩
        · have b8 : ((PL.length : Int) == 8) = false := beq_eq_false_iff_ne.2 (by omega)
          have HC8 : Hid (∀ x, x = (Ta, Tp) ∨ x ∈ PL → ∀ y ∈ NM x, y = (Ta, Tp) ∨ y ∈ PL) := HCL.out (by have := HP8.out; omega)
          clear h8
          obtain ⟨We, hWe⟩ : ∃ We, We = wr := ⟨_, rfl⟩
          subst hWe
          go_wp2_with fail
          go_loopw [15] (fun iv wr => (iv = .int .i64 (-1) ∨ ∃ m : Nat, iv = .int .i64 (m : Int) ∧ m ≤ PL.length) ∧ Hid (Below We.heap.size We wr)) (fun iv _ => ((PL.length : Int) - intOf iv).toNat)
          case atStart => exact ⟨.inl rfl, Below.refl _ _⟩
          case round =>
            obtain ⟨hcs, hbe⟩ := hrel
            have HBe : Hid (Below w7.heap.size w7 wr) := HB7.out.trans (hbe.out.mono HB7.out.size)
            rcases hcs with rfl | ⟨m, rfl, hm⟩
            · have l2 : (-1 : Int) < (PL.length : Int) := by omega
              have HNI : Hid (In ET wr (.slice yb H.length yc) H) := (HHl.out.below hb.out).below hbe.out
              have HNC : Hid (∀ y ∈ H, y = (Ta, Tp) ∨ y ∈ PL) := fun y hy => HC8.out (Ta, Tp) (.inl rfl) y (by rw [HHE.out]; exact hy)
              obtain ⟨v2, hv2⟩ : ∃ v2, v2 = wr := ⟨_, rfl⟩
              subst hv2
              go_wp2_with fail
              go_loopw [17] (fun jv wr => ∃ j : Nat, jv = .int .i64 (j : Int) ∧ j ≤ H.length ∧ Hid (Below v2.heap.size v2 wr)) (fun jv _ => H.length - (intOf jv).toNat)
              case atStart => exact ⟨0, rfl, by omega, Below.refl _ _⟩
              case round =>
                obtain ⟨j, rfl, hj, hbj⟩ := hrel
                have HBj : Hid (Below w7.heap.size w7 wr) := HBe.out.trans (hbj.out.mono HBe.out.size)
                have HBwe : Hid (Below We.heap.size We wr) := hbe.out.trans (hbj.out.mono hbe.out.size)
                by_cases hjl : j < H.length
                · have l3 : (j : Int) < (H.length : Int) := by omega
                  obtain ⟨Bn, on, cn, en, hBn, hcn⟩ := HNI.out.tg j hjl
                  injection en with e1 e2 e3
                  clear e2 e3
                  subst e1
                  obtain ⟨Y, hY⟩ : ∃ Y, H[j] = Y := ⟨_, rfl⟩
                  rw [hY] at hcn
                  have HYC : Hid (Y = (Ta, Tp) ∨ Y ∈ PL) := by rw [← hY]; exact HNC.out _ (List.getElem_mem hjl)
                  clear hY
                  obtain ⟨Ya, Yp⟩ := Y
                  simp only at hcn
                  have HCy : Hid (∀ V, Below wr.heap.size wr V → (V.cell? ⟨Bn, on + j * 2, none⟩ = some (.string Ya) ∧ V.cell? ⟨Bn, on + j * 2 + 1, none⟩ = some (.string Yp) ∧ V.cell? ⟨q, 0, none⟩ = some (.string Ta) ∧ V.cell? ⟨q, 1, none⟩ = some (.string Tp))) := fun V hV => by
                    have h1 := hcn V (hbj.out.trans (hV.mono hbj.out.size))
                    have h2 := HTc.out V (HBj.out.trans (hV.mono HBj.out.size))
                    exact ⟨h1.1, h1.2, h2.1, h2.2⟩
                  have hq := neq_tg Ya Yp Ta Tp
                  clear hcn
                  cases hE : decide ((Ya, Yp) = (Ta, Tp))
                  · rw [hE] at hq
                    have HE : Hid ((Ya, Yp) ≠ (Ta, Tp)) := of_decide_eq_false hE
                    clear hE
                    have HXI : Hid (∀ V, Below wr.heap.size wr V → Calls Try.prog 14 #[.slice pb PL.length pc, .agg #[.string Ya, .string Yp]] V fun e w' => e = .returned (.bool true) ∧ Below V.heap.size V w') := fun V hV => by
                      have := in_any (pb, PL.length, pc) PL (Ya, Yp) V ((HPI.out.below HBj.out).below hV)
                      rw [inB_iff.2 (HYC.out.resolve_left HE.out)] at this
                      exact this
                    go_wp2_with fail
                    have hbW : Below wr.heap.size wr wr.drew := (Below.refl _ _).drew
                    refine wp_region_held_drew (S := (fun V => V.cell? ⟨Bn, on + j * 2, none⟩ = some (.string Ya) ∧ V.cell? ⟨Bn, on + j * 2 + 1, none⟩ = some (.string Yp) ∧ V.cell? ⟨q, 0, none⟩ = some (.string Ta) ∧ V.cell? ⟨q, 1, none⟩ = some (.string Tp))) (by kernel_rfl) (HCy.out _ hbW) (fun hHeld => ?_)
                    generalize hWg : World.drew _ = W at hbW hHeld ⊢
                    clear hWg
                    refine wpAnyH_take (i := 0) (oi := { dst := some 161, op := Op.move (Operand.tmp 16), type := 27, pos := "outright.go:94", after := #[], guard := none }) (v := ?vv9) rfl (by kernel_rfl) (by kernel_rfl) (by kernel_rfl) (fun _ _ _ h => h) (Or.inl ⟨by rfl, ?hy9⟩) (by assumption) ?_
                    case hy9 => (intro w hSw; (try dsimp only at hSw); go_simp; all_goals with_reducible rfl)
                    try simp only [Act.put, List.setIfInBounds_toArray, List.set_cons_zero, List.set_cons_succ]
                    refine wpAnyH_take (i := 1) (oi := { dst := some 162, op := Op.move (Operand.tmp 17), type := 3, pos := "outright.go:94", after := #[], guard := none }) (v := ?vv10) rfl (by kernel_rfl) (by kernel_rfl) (by kernel_rfl) (fun _ _ _ h => h) (Or.inl ⟨by rfl, ?hy10⟩) (by assumption) ?_
                    case hy10 => (intro w hSw; (try dsimp only at hSw); go_simp; all_goals with_reducible rfl)
                    try simp only [Act.put, List.setIfInBounds_toArray, List.set_cons_zero, List.set_cons_succ]
                    refine wpAnyH_take (i := 2) (oi := { dst := some 163, op := Op.indexAddr 27 (Operand.tmp 161) (Operand.tmp 162), type := 0, pos := "outright.go:94", after := #[{ on := 0, ground := Ground.data }, { on := 1, ground := Ground.data }], guard := none }) (v := ?vv11) rfl (by kernel_rfl) (by kernel_rfl) (by kernel_rfl) (fun _ _ _ h => h) (Or.inl ⟨by rfl, ?hy11⟩) (by assumption) ?_
                    case hy11 => (intro w hSw; (try dsimp only at hSw); go_simp; all_goals with_reducible rfl)
                    try simp only [Act.put, List.setIfInBounds_toArray, List.set_cons_zero, List.set_cons_succ]
                    refine wpAnyH_take (i := 3) (oi := { dst := some 164, op := Op.load 26 (Operand.tmp 163), type := 26, pos := "outright.go:94", after := #[{ on := 2, ground := Ground.data }], guard := none }) (v := ?vv12) rfl (by kernel_rfl) (by kernel_rfl) (by kernel_rfl) (fun _ _ _ h => h) (Or.inl ⟨by rfl, ?hy12⟩) (by assumption) ?_
                    case hy12 => (intro w hSw; (try dsimp only at hSw); go_simp; all_goals with_reducible rfl)
                    try simp only [Act.put, List.setIfInBounds_toArray, List.set_cons_zero, List.set_cons_succ]
                    refine wpAnyH_take (i := 4) (oi := { dst := some 165, op := Op.load 26 (Operand.tmp 8), type := 26, pos := "outright.go:94", after := #[], guard := none }) (v := ?vv13) rfl (by kernel_rfl) (by kernel_rfl) (by kernel_rfl) (fun _ _ _ h => h) (Or.inl ⟨by rfl, ?hy13⟩) (by assumption) ?_
                    case hy13 => (intro w hSw; (try dsimp only at hSw); go_simp; all_goals with_reducible rfl)
                    try simp only [Act.put, List.setIfInBounds_toArray, List.set_cons_zero, List.set_cons_succ]
                    refine wpAnyH_take (i := 5) (oi := { dst := some 166, op := Op.binOp BinOp.neq 26 (Operand.tmp 164) (Operand.tmp 165) 26, type := 4, pos := "outright.go:94", after := #[{ on := 3, ground := Ground.data }, { on := 4, ground := Ground.data }], guard := none }) (v := ?vv14) rfl (by kernel_rfl) (by kernel_rfl) (by kernel_rfl) (fun _ _ _ h => h) (Or.inl ⟨by rfl, ?hy14⟩) (by assumption) ?_
                    case hy14 => (intro w hSw; (try dsimp only at hSw); go_simp; all_goals with_reducible rfl)
                    try simp only [Act.put, List.setIfInBounds_toArray, List.set_cons_zero, List.set_cons_succ]
                    refine wpAnyH_take (i := 6) (oi := { dst := some 167, op := Op.move (Operand.tmp 166), type := 4, pos := "outright.go:94", after := #[{ on := 5, ground := Ground.data }], guard := none }) (v := ?vv15) rfl (by kernel_rfl) (by kernel_rfl) (by kernel_rfl) (fun _ _ _ h => h) (Or.inl ⟨by rfl, ?hy15⟩) (by assumption) ?_
                    case hy15 => (intro w hSw; (try dsimp only at hSw); go_simp; all_goals with_reducible rfl)
                    try simp only [Act.put, List.setIfInBounds_toArray, List.set_cons_zero, List.set_cons_succ]
                    refine wpAnyH_take (i := 7) (oi := { dst := some 168, op := Op.move (Operand.tmp 9), type := 27, pos := "outright.go:94", after := #[{ on := 6, ground := Ground.guard }], guard := some (6, true) }) (v := ?vv16) rfl (by kernel_rfl) (by kernel_rfl) (by kernel_rfl) (fun _ _ _ h => h) (Or.inl ⟨by rfl, ?hy16⟩) (by assumption) ?_
                    case hy16 => (intro w hSw; (try dsimp only at hSw); go_simp; all_goals with_reducible rfl)
                    try simp only [Act.put, List.setIfInBounds_toArray, List.set_cons_zero, List.set_cons_succ]
                    refine wpAnyH_take (i := 8) (oi := { dst := some 169, op := Op.move (Operand.tmp 16), type := 27, pos := "outright.go:94", after := #[{ on := 6, ground := Ground.guard }], guard := some (6, true) }) (v := ?vv17) rfl (by kernel_rfl) (by kernel_rfl) (by kernel_rfl) (fun _ _ _ h => h) (Or.inl ⟨by rfl, ?hy17⟩) (by assumption) ?_
                    case hy17 => (intro w hSw; (try dsimp only at hSw); go_simp; all_goals with_reducible rfl)
                    try simp only [Act.put, List.setIfInBounds_toArray, List.set_cons_zero, List.set_cons_succ]
                    refine wpAnyH_take (i := 9) (oi := { dst := some 170, op := Op.move (Operand.tmp 17), type := 3, pos := "outright.go:94", after := #[{ on := 6, ground := Ground.guard }], guard := some (6, true) }) (v := ?vv18) rfl (by kernel_rfl) (by kernel_rfl) (by kernel_rfl) (fun _ _ _ h => h) (Or.inl ⟨by rfl, ?hy18⟩) (by assumption) ?_
                    case hy18 => (intro w hSw; (try dsimp only at hSw); go_simp; all_goals with_reducible rfl)
                    try simp only [Act.put, List.setIfInBounds_toArray, List.set_cons_zero, List.set_cons_succ]
                    refine wpAnyH_take (i := 10) (oi := { dst := some 171, op := Op.indexAddr 27 (Operand.tmp 169) (Operand.tmp 170), type := 0, pos := "outright.go:94", after := #[{ on := 8, ground := Ground.data }, { on := 9, ground := Ground.data }, { on := 6, ground := Ground.guard }], guard := some (6, true) }) (v := ?vv19) rfl (by kernel_rfl) (by kernel_rfl) (by kernel_rfl) (fun _ _ _ h => h) (Or.inl ⟨by rfl, ?hy19⟩) (by assumption) ?_
                    case hy19 => (intro w hSw; (try dsimp only at hSw); go_simp; all_goals with_reducible rfl)
                    try simp only [Act.put, List.setIfInBounds_toArray, List.set_cons_zero, List.set_cons_succ]
                    refine wpAnyH_take (i := 11) (oi := { dst := some 172, op := Op.load 26 (Operand.tmp 171), type := 26, pos := "outright.go:94", after := #[{ on := 10, ground := Ground.data }, { on := 6, ground := Ground.guard }], guard := some (6, true) }) (v := ?vv20) rfl (by kernel_rfl) (by kernel_rfl) (by kernel_rfl) (fun _ _ _ h => h) (Or.inl ⟨by rfl, ?hy20⟩) (by assumption) ?_
                    case hy20 => (intro w hSw; (try dsimp only at hSw); go_simp; all_goals with_reducible rfl)
                    try simp only [Act.put, List.setIfInBounds_toArray, List.set_cons_zero, List.set_cons_succ]
                    refine wpAnyH_ready (rs := [12]) (by kernel_rfl) (by simp) ?_
                    refine AllReadyH.cons (o := { dst := some 173, op := Op.call { callee := Callee.value (Operand.func 14), args := #[Operand.tmp 168, Operand.tmp 172], argTypes := #[27, 26] }, type := 4, pos := "outright.go:94", after := #[{ on := 7, ground := Ground.data }, { on := 11, ground := Ground.data }, { on := 6, ground := Ground.chain }, { on := 6, ground := Ground.guard }], guard := some (6, true) }) rfl (fun K hK => ?_) AllReadyH.nil
                    go_simp
                    refine (HXI.out _ hbW).mono ?_
                    rintro e' Wx ⟨rfl, bX⟩
                    have hbWx : Below wr.heap.size wr Wx := hbW.trans (bX.mono hbW.size)
                    clear bX
                    go_wp2_with fail
                    refine hK.out _ _ (HCy.out _ hbWx) (fun hHeld => ?_)
                    clear hK K
                    try simp only [Act.put, List.setIfInBounds_toArray, List.set_cons_zero, List.set_cons_succ]
                    refine wpAnyH_take (i := 13) (oi := { dst := some 174, op := Op.unOp UnOp.not 4 (Operand.tmp 173), type := 4, pos := "outright.go:94", after := #[{ on := 12, ground := Ground.data }, { on := 6, ground := Ground.guard }], guard := some (6, true) }) (v := ?vv21) rfl (by kernel_rfl) (by kernel_rfl) (by kernel_rfl) (fun _ _ _ h => h) (Or.inl ⟨by rfl, ?hy21⟩) (by assumption) ?_
                    case hy21 => (intro w hSw; (try dsimp only at hSw); go_simp; all_goals with_reducible rfl)
                    try simp only [Act.put, List.setIfInBounds_toArray, List.set_cons_zero, List.set_cons_succ]
                    refine wpAnyH_take (i := 14) (oi := { dst := some 175, op := Op.pick (Operand.tmp 167) (Operand.tmp 174) (Operand.const (Value.bool false)), type := 4, pos := "outright.go:94", after := #[{ on := 6, ground := Ground.data }, { on := 13, ground := Ground.data }], guard := none }) (v := ?vv22) rfl (by kernel_rfl) (by kernel_rfl) (by kernel_rfl) (fun _ _ _ h => h) (Or.inl ⟨by rfl, ?hy22⟩) (by assumption) ?_
                    case hy22 => (intro w hSw; (try dsimp only at hSw); go_simp; all_goals with_reducible rfl)
                    try simp only [Act.put, List.setIfInBounds_toArray, List.set_cons_zero, List.set_cons_succ]
                    refine wpAnyH_done (by kernel_rfl) ?_ _
                    have HBn : Hid (Below v2.heap.size v2 Wx) := hbj.out.trans (hbWx.mono hbj.out.size)
                    go_wp2_with fail
                    go_roundw
                    case rel => exact ⟨j + 1, by simp, by omega, HBn.out⟩
                    case measure => simp [intOf] <;> omega
                  · rw [hE] at hq
                    clear hE
                    go_wp2_with fail
                    have hbW : Below wr.heap.size wr wr.drew := (Below.refl _ _).drew
                    refine wp_region_held_drew (S := (fun V => V.cell? ⟨Bn, on + j * 2, none⟩ = some (.string Ya) ∧ V.cell? ⟨Bn, on + j * 2 + 1, none⟩ = some (.string Yp) ∧ V.cell? ⟨q, 0, none⟩ = some (.string Ta) ∧ V.cell? ⟨q, 1, none⟩ = some (.string Tp))) (by kernel_rfl) (HCy.out _ hbW) (fun hHeld => ?_)
                    generalize hWg : World.drew _ = W at hbW hHeld ⊢
                    clear hWg
                    refine wpAnyH_take (i := 0) (oi := { dst := some 161, op := Op.move (Operand.tmp 16), type := 27, pos := "outright.go:94", after := #[], guard := none }) (v := ?vv1) rfl (by kernel_rfl) (by kernel_rfl) (by kernel_rfl) (fun _ _ _ h => h) (Or.inl ⟨by rfl, ?hy1⟩) (by assumption) ?_
                    case hy1 => (intro w hSw; (try dsimp only at hSw); go_simp; all_goals with_reducible rfl)
                    try simp only [Act.put, List.setIfInBounds_toArray, List.set_cons_zero, List.set_cons_succ]
                    refine wpAnyH_take (i := 1) (oi := { dst := some 162, op := Op.move (Operand.tmp 17), type := 3, pos := "outright.go:94", after := #[], guard := none }) (v := ?vv2) rfl (by kernel_rfl) (by kernel_rfl) (by kernel_rfl) (fun _ _ _ h => h) (Or.inl ⟨by rfl, ?hy2⟩) (by assumption) ?_
                    case hy2 => (intro w hSw; (try dsimp only at hSw); go_simp; all_goals with_reducible rfl)
                    try simp only [Act.put, List.setIfInBounds_toArray, List.set_cons_zero, List.set_cons_succ]
                    refine wpAnyH_take (i := 2) (oi := { dst := some 163, op := Op.indexAddr 27 (Operand.tmp 161) (Operand.tmp 162), type := 0, pos := "outright.go:94", after := #[{ on := 0, ground := Ground.data }, { on := 1, ground := Ground.data }], guard := none }) (v := ?vv3) rfl (by kernel_rfl) (by kernel_rfl) (by kernel_rfl) (fun _ _ _ h => h) (Or.inl ⟨by rfl, ?hy3⟩) (by assumption) ?_
                    case hy3 => (intro w hSw; (try dsimp only at hSw); go_simp; all_goals with_reducible rfl)
                    try simp only [Act.put, List.setIfInBounds_toArray, List.set_cons_zero, List.set_cons_succ]
                    refine wpAnyH_take (i := 3) (oi := { dst := some 164, op := Op.load 26 (Operand.tmp 163), type := 26, pos := "outright.go:94", after := #[{ on := 2, ground := Ground.data }], guard := none }) (v := ?vv4) rfl (by kernel_rfl) (by kernel_rfl) (by kernel_rfl) (fun _ _ _ h => h) (Or.inl ⟨by rfl, ?hy4⟩) (by assumption) ?_
                    case hy4 => (intro w hSw; (try dsimp only at hSw); go_simp; all_goals with_reducible rfl)
                    try simp only [Act.put, List.setIfInBounds_toArray, List.set_cons_zero, List.set_cons_succ]
                    refine wpAnyH_take (i := 4) (oi := { dst := some 165, op := Op.load 26 (Operand.tmp 8), type := 26, pos := "outright.go:94", after := #[], guard := none }) (v := ?vv5) rfl (by kernel_rfl) (by kernel_rfl) (by kernel_rfl) (fun _ _ _ h => h) (Or.inl ⟨by rfl, ?hy5⟩) (by assumption) ?_
                    case hy5 => (intro w hSw; (try dsimp only at hSw); go_simp; all_goals with_reducible rfl)
                    try simp only [Act.put, List.setIfInBounds_toArray, List.set_cons_zero, List.set_cons_succ]
                    refine wpAnyH_take (i := 5) (oi := { dst := some 166, op := Op.binOp BinOp.neq 26 (Operand.tmp 164) (Operand.tmp 165) 26, type := 4, pos := "outright.go:94", after := #[{ on := 3, ground := Ground.data }, { on := 4, ground := Ground.data }], guard := none }) (v := ?vv6) rfl (by kernel_rfl) (by kernel_rfl) (by kernel_rfl) (fun _ _ _ h => h) (Or.inl ⟨by rfl, ?hy6⟩) (by assumption) ?_
                    case hy6 => (intro w hSw; (try dsimp only at hSw); go_simp; all_goals with_reducible rfl)
                    try simp only [Act.put, List.setIfInBounds_toArray, List.set_cons_zero, List.set_cons_succ]
                    refine wpAnyH_take (i := 6) (oi := { dst := some 167, op := Op.move (Operand.tmp 166), type := 4, pos := "outright.go:94", after := #[{ on := 5, ground := Ground.data }], guard := none }) (v := ?vv7) rfl (by kernel_rfl) (by kernel_rfl) (by kernel_rfl) (fun _ _ _ h => h) (Or.inl ⟨by rfl, ?hy7⟩) (by assumption) ?_
                    case hy7 => (intro w hSw; (try dsimp only at hSw); go_simp; all_goals with_reducible rfl)
                    try simp only [Act.put, List.setIfInBounds_toArray, List.set_cons_zero, List.set_cons_succ]
                    refine wpAnyH_take (i := 7) (oi := { dst := some 168, op := Op.move (Operand.tmp 9), type := 27, pos := "outright.go:94", after := #[{ on := 6, ground := Ground.guard }], guard := some (6, true) }) (v := undef) rfl (by kernel_rfl) (by kernel_rfl) (by kernel_rfl) (fun _ _ _ h => h) (Or.inr ⟨by rfl, rfl⟩) (by assumption) ?_
                    try simp only [Act.put, List.setIfInBounds_toArray, List.set_cons_zero, List.set_cons_succ]
                    refine wpAnyH_take (i := 8) (oi := { dst := some 169, op := Op.move (Operand.tmp 16), type := 27, pos := "outright.go:94", after := #[{ on := 6, ground := Ground.guard }], guard := some (6, true) }) (v := undef) rfl (by kernel_rfl) (by kernel_rfl) (by kernel_rfl) (fun _ _ _ h => h) (Or.inr ⟨by rfl, rfl⟩) (by assumption) ?_
                    try simp only [Act.put, List.setIfInBounds_toArray, List.set_cons_zero, List.set_cons_succ]
                    refine wpAnyH_take (i := 9) (oi := { dst := some 170, op := Op.move (Operand.tmp 17), type := 3, pos := "outright.go:94", after := #[{ on := 6, ground := Ground.guard }], guard := some (6, true) }) (v := undef) rfl (by kernel_rfl) (by kernel_rfl) (by kernel_rfl) (fun _ _ _ h => h) (Or.inr ⟨by rfl, rfl⟩) (by assumption) ?_
                    try simp only [Act.put, List.setIfInBounds_toArray, List.set_cons_zero, List.set_cons_succ]
                    refine wpAnyH_take (i := 10) (oi := { dst := some 171, op := Op.indexAddr 27 (Operand.tmp 169) (Operand.tmp 170), type := 0, pos := "outright.go:94", after := #[{ on := 8, ground := Ground.data }, { on := 9, ground := Ground.data }, { on := 6, ground := Ground.guard }], guard := some (6, true) }) (v := undef) rfl (by kernel_rfl) (by kernel_rfl) (by kernel_rfl) (fun _ _ _ h => h) (Or.inr ⟨by rfl, rfl⟩) (by assumption) ?_
                    try simp only [Act.put, List.setIfInBounds_toArray, List.set_cons_zero, List.set_cons_succ]
                    refine wpAnyH_take (i := 11) (oi := { dst := some 172, op := Op.load 26 (Operand.tmp 171), type := 26, pos := "outright.go:94", after := #[{ on := 10, ground := Ground.data }, { on := 6, ground := Ground.guard }], guard := some (6, true) }) (v := undef) rfl (by kernel_rfl) (by kernel_rfl) (by kernel_rfl) (fun _ _ _ h => h) (Or.inr ⟨by rfl, rfl⟩) (by assumption) ?_
                    try simp only [Act.put, List.setIfInBounds_toArray, List.set_cons_zero, List.set_cons_succ]
                    refine wpAnyH_take (i := 12) (oi := { dst := some 173, op := Op.call { callee := Callee.value (Operand.func 14), args := #[Operand.tmp 168, Operand.tmp 172], argTypes := #[27, 26] }, type := 4, pos := "outright.go:94", after := #[{ on := 7, ground := Ground.data }, { on := 11, ground := Ground.data }, { on := 6, ground := Ground.chain }, { on := 6, ground := Ground.guard }], guard := some (6, true) }) (v := undef) rfl (by kernel_rfl) (by kernel_rfl) (by kernel_rfl) (fun _ _ _ h => h) (Or.inr ⟨by rfl, rfl⟩) (by assumption) ?_
                    try simp only [Act.put, List.setIfInBounds_toArray, List.set_cons_zero, List.set_cons_succ]
                    refine wpAnyH_take (i := 13) (oi := { dst := some 174, op := Op.unOp UnOp.not 4 (Operand.tmp 173), type := 4, pos := "outright.go:94", after := #[{ on := 12, ground := Ground.data }, { on := 6, ground := Ground.guard }], guard := some (6, true) }) (v := undef) rfl (by kernel_rfl) (by kernel_rfl) (by kernel_rfl) (fun _ _ _ h => h) (Or.inr ⟨by rfl, rfl⟩) (by assumption) ?_
                    try simp only [Act.put, List.setIfInBounds_toArray, List.set_cons_zero, List.set_cons_succ]
                    refine wpAnyH_take (i := 14) (oi := { dst := some 175, op := Op.pick (Operand.tmp 167) (Operand.tmp 174) (Operand.const (Value.bool false)), type := 4, pos := "outright.go:94", after := #[{ on := 6, ground := Ground.data }, { on := 13, ground := Ground.data }], guard := none }) (v := ?vv8) rfl (by kernel_rfl) (by kernel_rfl) (by kernel_rfl) (fun _ _ _ h => h) (Or.inl ⟨by rfl, ?hy8⟩) (by assumption) ?_
                    case hy8 => (intro w hSw; (try dsimp only at hSw); go_simp; all_goals with_reducible rfl)
                    try simp only [Act.put, List.setIfInBounds_toArray, List.set_cons_zero, List.set_cons_succ]
                    refine wpAnyH_done (by kernel_rfl) ?_ _
                    have HBn : Hid (Below v2.heap.size v2 W) := hbj.out.trans (hbW.mono hbj.out.size)
                    go_wp2_with fail
                    go_roundw
                    case rel => exact ⟨j + 1, by simp, by omega, HBn.out⟩
                    case measure => simp [intOf] <;> omega
                · have l3 : ¬ (j : Int) < (H.length : Int) := by omega
                  go_wp2_with fail
                  go_roundw
                  case rel => exact ⟨.inr ⟨0, by rfl, by omega⟩, HBwe.out⟩
                  case measure => simp [intOf] <;> omega
            · by_cases hml : m < PL.length
              · have l2 : (m : Int) < (PL.length : Int) := by omega
                obtain ⟨Bl, ol, cl, el, hBl, hcl⟩ := HPI.out.tg m hml
                injection el with e1 e2 e3
                clear e2 e3
                subst e1
                obtain ⟨Z, hZ⟩ : ∃ Z, PL[m] = Z := ⟨_, rfl⟩
                rw [hZ] at hcl
                have HZP : Hid (Z ∈ PL) := by rw [← hZ]; exact List.getElem_mem hml
                obtain ⟨c0, c1⟩ := hcl wr HBe.out
                have HNX : Hid (Calls Try.prog 15 #[.slice rb rl rc, .agg (tgv Z)] wr fun e w' => ∃ y : SV, e = .returned (sv y) ∧ In ET w' (sv y) (NM Z) ∧ Below wr.heap.size wr w') := by have := (HR7.out.below HBe.out).names Z; rw [HNM.out] at this; exact this
                clear hcl hZ
                obtain ⟨Za, Zp⟩ := Z
                unfold tgv at HNX
                simp only at HNX c0 c1
                have g0 : (0 : Int) ≤ (m : Int) := by omega
                go_wp2_with fail
                go_at_call 15
                refine HNX.out.mono ?_
                rintro e v2 ⟨⟨zb, zl, zc⟩, rfl, hIn, hb1⟩
                obtain ⟨N, hN⟩ : ∃ N, NM (Za, Zp) = N := ⟨_, rfl⟩
                rw [hN] at hIn
                have HNC : Hid (∀ y ∈ N, y = (Ta, Tp) ∨ y ∈ PL) := fun y hy => HC8.out (Za, Zp) (.inr HZP.out) y (by rw [hN]; exact hy)
                have HNI : Hid (In ET v2 (sv (zb, zl, zc)) N) := hIn
                replace HBe : Hid (Below w7.heap.size w7 v2) := HBe.out.trans (hb1.mono HBe.out.size)
                replace hbe : Hid (Below We.heap.size We v2) := hbe.out.trans (hb1.mono hbe.out.size)
                obtain ⟨nb, nc, en, n1, n2⟩ := hIn.slice
                simp only [sv] at en HNI ⊢
                injection en with e1 e2 e3
                subst e1 e2 e3
                clear hIn hb1 hN HNX c0 c1
                go_wp2_with fail
                go_loopw [17] (fun jv wr => ∃ j : Nat, jv = .int .i64 (j : Int) ∧ j ≤ N.length ∧ Hid (Below v2.heap.size v2 wr)) (fun jv _ => N.length - (intOf jv).toNat)
                case atStart => exact ⟨0, rfl, by omega, Below.refl _ _⟩
                case round =>
                  obtain ⟨j, rfl, hj, hbj⟩ := hrel
                  have HBj : Hid (Below w7.heap.size w7 wr) := HBe.out.trans (hbj.out.mono HBe.out.size)
                  have HBwe : Hid (Below We.heap.size We wr) := hbe.out.trans (hbj.out.mono hbe.out.size)
                  by_cases hjl : j < N.length
                  · have l3 : (j : Int) < (N.length : Int) := by omega
                    obtain ⟨Bn, on, cn, en, hBn, hcn⟩ := HNI.out.tg j hjl
                    injection en with e1 e2 e3
                    clear e2 e3
                    subst e1
                    obtain ⟨Y, hY⟩ : ∃ Y, N[j] = Y := ⟨_, rfl⟩
                    rw [hY] at hcn
                    have HYC : Hid (Y = (Ta, Tp) ∨ Y ∈ PL) := by rw [← hY]; exact HNC.out _ (List.getElem_mem hjl)
                    clear hY
                    obtain ⟨Ya, Yp⟩ := Y
                    simp only at hcn
                    have HCy : Hid (∀ V, Below wr.heap.size wr V → (V.cell? ⟨Bn, on + j * 2, none⟩ = some (.string Ya) ∧ V.cell? ⟨Bn, on + j * 2 + 1, none⟩ = some (.string Yp) ∧ V.cell? ⟨q, 0, none⟩ = some (.string Ta) ∧ V.cell? ⟨q, 1, none⟩ = some (.string Tp))) := fun V hV => by
                      have h1 := hcn V (hbj.out.trans (hV.mono hbj.out.size))
                      have h2 := HTc.out V (HBj.out.trans (hV.mono HBj.out.size))
                      exact ⟨h1.1, h1.2, h2.1, h2.2⟩
                    have hq := neq_tg Ya Yp Ta Tp
                    clear hcn
                    cases hE : decide ((Ya, Yp) = (Ta, Tp))
                    · rw [hE] at hq
                      have HE : Hid ((Ya, Yp) ≠ (Ta, Tp)) := of_decide_eq_false hE
                      clear hE
                      have HXI : Hid (∀ V, Below wr.heap.size wr V → Calls Try.prog 14 #[.slice (some ⟨Bl, ol, none⟩) PL.length pc, .agg #[.string Ya, .string Yp]] V fun e w' => e = .returned (.bool true) ∧ Below V.heap.size V w') := fun V hV => by
                        have := in_any (some ⟨Bl, ol, none⟩, PL.length, pc) PL (Ya, Yp) V ((HPI.out.below HBj.out).below hV)
                        rw [inB_iff.2 (HYC.out.resolve_left HE.out)] at this
                        exact this
                      go_wp2_with fail
                      have hbW : Below wr.heap.size wr wr.drew := (Below.refl _ _).drew
                      refine wp_region_held_drew (S := (fun V => V.cell? ⟨Bn, on + j * 2, none⟩ = some (.string Ya) ∧ V.cell? ⟨Bn, on + j * 2 + 1, none⟩ = some (.string Yp) ∧ V.cell? ⟨q, 0, none⟩ = some (.string Ta) ∧ V.cell? ⟨q, 1, none⟩ = some (.string Tp))) (by kernel_rfl) (HCy.out _ hbW) (fun hHeld => ?_)
                      generalize hWg : World.drew _ = W at hbW hHeld ⊢
                      clear hWg
                      refine wpAnyH_take (i := 0) (oi := { dst := some 161, op := Op.move (Operand.tmp 16), type := 27, pos := "outright.go:94", after := #[], guard := none }) (v := ?vv31) rfl (by kernel_rfl) (by kernel_rfl) (by kernel_rfl) (fun _ _ _ h => h) (Or.inl ⟨by rfl, ?hy31⟩) (by assumption) ?_
                      case hy31 => (intro w hSw; (try dsimp only at hSw); go_simp; all_goals with_reducible rfl)
                      try simp only [Act.put, List.setIfInBounds_toArray, List.set_cons_zero, List.set_cons_succ]
                      refine wpAnyH_take (i := 1) (oi := { dst := some 162, op := Op.move (Operand.tmp 17), type := 3, pos := "outright.go:94", after := #[], guard := none }) (v := ?vv32) rfl (by kernel_rfl) (by kernel_rfl) (by kernel_rfl) (fun _ _ _ h => h) (Or.inl ⟨by rfl, ?hy32⟩) (by assumption) ?_
                      case hy32 => (intro w hSw; (try dsimp only at hSw); go_simp; all_goals with_reducible rfl)
                      try simp only [Act.put, List.setIfInBounds_toArray, List.set_cons_zero, List.set_cons_succ]
                      refine wpAnyH_take (i := 2) (oi := { dst := some 163, op := Op.indexAddr 27 (Operand.tmp 161) (Operand.tmp 162), type := 0, pos := "outright.go:94", after := #[{ on := 0, ground := Ground.data }, { on := 1, ground := Ground.data }], guard := none }) (v := ?vv33) rfl (by kernel_rfl) (by kernel_rfl) (by kernel_rfl) (fun _ _ _ h => h) (Or.inl ⟨by rfl, ?hy33⟩) (by assumption) ?_
                      case hy33 => (intro w hSw; (try dsimp only at hSw); go_simp; all_goals with_reducible rfl)
                      try simp only [Act.put, List.setIfInBounds_toArray, List.set_cons_zero, List.set_cons_succ]
                      refine wpAnyH_take (i := 3) (oi := { dst := some 164, op := Op.load 26 (Operand.tmp 163), type := 26, pos := "outright.go:94", after := #[{ on := 2, ground := Ground.data }], guard := none }) (v := ?vv34) rfl (by kernel_rfl) (by kernel_rfl) (by kernel_rfl) (fun _ _ _ h => h) (Or.inl ⟨by rfl, ?hy34⟩) (by assumption) ?_
                      case hy34 => (intro w hSw; (try dsimp only at hSw); go_simp; all_goals with_reducible rfl)
                      try simp only [Act.put, List.setIfInBounds_toArray, List.set_cons_zero, List.set_cons_succ]
                      refine wpAnyH_take (i := 4) (oi := { dst := some 165, op := Op.load 26 (Operand.tmp 8), type := 26, pos := "outright.go:94", after := #[], guard := none }) (v := ?vv35) rfl (by kernel_rfl) (by kernel_rfl) (by kernel_rfl) (fun _ _ _ h => h) (Or.inl ⟨by rfl, ?hy35⟩) (by assumption) ?_
                      case hy35 => (intro w hSw; (try dsimp only at hSw); go_simp; all_goals with_reducible rfl)
                      try simp only [Act.put, List.setIfInBounds_toArray, List.set_cons_zero, List.set_cons_succ]
                      refine wpAnyH_take (i := 5) (oi := { dst := some 166, op := Op.binOp BinOp.neq 26 (Operand.tmp 164) (Operand.tmp 165) 26, type := 4, pos := "outright.go:94", after := #[{ on := 3, ground := Ground.data }, { on := 4, ground := Ground.data }], guard := none }) (v := ?vv36) rfl (by kernel_rfl) (by kernel_rfl) (by kernel_rfl) (fun _ _ _ h => h) (Or.inl ⟨by rfl, ?hy36⟩) (by assumption) ?_
                      case hy36 => (intro w hSw; (try dsimp only at hSw); go_simp; all_goals with_reducible rfl)
                      try simp only [Act.put, List.setIfInBounds_toArray, List.set_cons_zero, List.set_cons_succ]
                      refine wpAnyH_take (i := 6) (oi := { dst := some 167, op := Op.move (Operand.tmp 166), type := 4, pos := "outright.go:94", after := #[{ on := 5, ground := Ground.data }], guard := none }) (v := ?vv37) rfl (by kernel_rfl) (by kernel_rfl) (by kernel_rfl) (fun _ _ _ h => h) (Or.inl ⟨by rfl, ?hy37⟩) (by assumption) ?_
                      case hy37 => (intro w hSw; (try dsimp only at hSw); go_simp; all_goals with_reducible rfl)
                      try simp only [Act.put, List.setIfInBounds_toArray, List.set_cons_zero, List.set_cons_succ]
                      refine wpAnyH_take (i := 7) (oi := { dst := some 168, op := Op.move (Operand.tmp 9), type := 27, pos := "outright.go:94", after := #[{ on := 6, ground := Ground.guard }], guard := some (6, true) }) (v := ?vv38) rfl (by kernel_rfl) (by kernel_rfl) (by kernel_rfl) (fun _ _ _ h => h) (Or.inl ⟨by rfl, ?hy38⟩) (by assumption) ?_
                      case hy38 => (intro w hSw; (try dsimp only at hSw); go_simp; all_goals with_reducible rfl)
                      try simp only [Act.put, List.setIfInBounds_toArray, List.set_cons_zero, List.set_cons_succ]
                      refine wpAnyH_take (i := 8) (oi := { dst := some 169, op := Op.move (Operand.tmp 16), type := 27, pos := "outright.go:94", after := #[{ on := 6, ground := Ground.guard }], guard := some (6, true) }) (v := ?vv39) rfl (by kernel_rfl) (by kernel_rfl) (by kernel_rfl) (fun _ _ _ h => h) (Or.inl ⟨by rfl, ?hy39⟩) (by assumption) ?_
                      case hy39 => (intro w hSw; (try dsimp only at hSw); go_simp; all_goals with_reducible rfl)
                      try simp only [Act.put, List.setIfInBounds_toArray, List.set_cons_zero, List.set_cons_succ]
                      refine wpAnyH_take (i := 9) (oi := { dst := some 170, op := Op.move (Operand.tmp 17), type := 3, pos := "outright.go:94", after := #[{ on := 6, ground := Ground.guard }], guard := some (6, true) }) (v := ?vv40) rfl (by kernel_rfl) (by kernel_rfl) (by kernel_rfl) (fun _ _ _ h => h) (Or.inl ⟨by rfl, ?hy40⟩) (by assumption) ?_
                      case hy40 => (intro w hSw; (try dsimp only at hSw); go_simp; all_goals with_reducible rfl)
                      try simp only [Act.put, List.setIfInBounds_toArray, List.set_cons_zero, List.set_cons_succ]
                      refine wpAnyH_take (i := 10) (oi := { dst := some 171, op := Op.indexAddr 27 (Operand.tmp 169) (Operand.tmp 170), type := 0, pos := "outright.go:94", after := #[{ on := 8, ground := Ground.data }, { on := 9, ground := Ground.data }, { on := 6, ground := Ground.guard }], guard := some (6, true) }) (v := ?vv41) rfl (by kernel_rfl) (by kernel_rfl) (by kernel_rfl) (fun _ _ _ h => h) (Or.inl ⟨by rfl, ?hy41⟩) (by assumption) ?_
                      case hy41 => (intro w hSw; (try dsimp only at hSw); go_simp; all_goals with_reducible rfl)
                      try simp only [Act.put, List.setIfInBounds_toArray, List.set_cons_zero, List.set_cons_succ]
                      refine wpAnyH_take (i := 11) (oi := { dst := some 172, op := Op.load 26 (Operand.tmp 171), type := 26, pos := "outright.go:94", after := #[{ on := 10, ground := Ground.data }, { on := 6, ground := Ground.guard }], guard := some (6, true) }) (v := ?vv42) rfl (by kernel_rfl) (by kernel_rfl) (by kernel_rfl) (fun _ _ _ h => h) (Or.inl ⟨by rfl, ?hy42⟩) (by assumption) ?_
                      case hy42 => (intro w hSw; (try dsimp only at hSw); go_simp; all_goals with_reducible rfl)
                      try simp only [Act.put, List.setIfInBounds_toArray, List.set_cons_zero, List.set_cons_succ]
                      refine wpAnyH_ready (rs := [12]) (by kernel_rfl) (by simp) ?_
                      refine AllReadyH.cons (o := { dst := some 173, op := Op.call { callee := Callee.value (Operand.func 14), args := #[Operand.tmp 168, Operand.tmp 172], argTypes := #[27, 26] }, type := 4, pos := "outright.go:94", after := #[{ on := 7, ground := Ground.data }, { on := 11, ground := Ground.data }, { on := 6, ground := Ground.chain }, { on := 6, ground := Ground.guard }], guard := some (6, true) }) rfl (fun K hK => ?_) AllReadyH.nil
                      go_simp
                      refine (HXI.out _ hbW).mono ?_
                      rintro e' Wx ⟨rfl, bX⟩
                      have hbWx : Below wr.heap.size wr Wx := hbW.trans (bX.mono hbW.size)
                      clear bX
                      go_wp2_with fail
                      refine hK.out _ _ (HCy.out _ hbWx) (fun hHeld => ?_)
                      clear hK K
                      try simp only [Act.put, List.setIfInBounds_toArray, List.set_cons_zero, List.set_cons_succ]
                      refine wpAnyH_take (i := 13) (oi := { dst := some 174, op := Op.unOp UnOp.not 4 (Operand.tmp 173), type := 4, pos := "outright.go:94", after := #[{ on := 12, ground := Ground.data }, { on := 6, ground := Ground.guard }], guard := some (6, true) }) (v := ?vv43) rfl (by kernel_rfl) (by kernel_rfl) (by kernel_rfl) (fun _ _ _ h => h) (Or.inl ⟨by rfl, ?hy43⟩) (by assumption) ?_
                      case hy43 => (intro w hSw; (try dsimp only at hSw); go_simp; all_goals with_reducible rfl)
                      try simp only [Act.put, List.setIfInBounds_toArray, List.set_cons_zero, List.set_cons_succ]
                      refine wpAnyH_take (i := 14) (oi := { dst := some 175, op := Op.pick (Operand.tmp 167) (Operand.tmp 174) (Operand.const (Value.bool false)), type := 4, pos := "outright.go:94", after := #[{ on := 6, ground := Ground.data }, { on := 13, ground := Ground.data }], guard := none }) (v := ?vv44) rfl (by kernel_rfl) (by kernel_rfl) (by kernel_rfl) (fun _ _ _ h => h) (Or.inl ⟨by rfl, ?hy44⟩) (by assumption) ?_
                      case hy44 => (intro w hSw; (try dsimp only at hSw); go_simp; all_goals with_reducible rfl)
                      try simp only [Act.put, List.setIfInBounds_toArray, List.set_cons_zero, List.set_cons_succ]
                      refine wpAnyH_done (by kernel_rfl) ?_ _
                      have HBn : Hid (Below v2.heap.size v2 Wx) := hbj.out.trans (hbWx.mono hbj.out.size)
                      go_wp2_with fail
                      go_roundw
                      case rel => exact ⟨j + 1, by simp, by omega, HBn.out⟩
                      case measure => simp [intOf] <;> omega
                    · rw [hE] at hq
                      clear hE
                      go_wp2_with fail
                      have hbW : Below wr.heap.size wr wr.drew := (Below.refl _ _).drew
                      refine wp_region_held_drew (S := (fun V => V.cell? ⟨Bn, on + j * 2, none⟩ = some (.string Ya) ∧ V.cell? ⟨Bn, on + j * 2 + 1, none⟩ = some (.string Yp) ∧ V.cell? ⟨q, 0, none⟩ = some (.string Ta) ∧ V.cell? ⟨q, 1, none⟩ = some (.string Tp))) (by kernel_rfl) (HCy.out _ hbW) (fun hHeld => ?_)
                      generalize hWg : World.drew _ = W at hbW hHeld ⊢
                      clear hWg
                      refine wpAnyH_take (i := 0) (oi := { dst := some 161, op := Op.move (Operand.tmp 16), type := 27, pos := "outright.go:94", after := #[], guard := none }) (v := ?vv23) rfl (by kernel_rfl) (by kernel_rfl) (by kernel_rfl) (fun _ _ _ h => h) (Or.inl ⟨by rfl, ?hy23⟩) (by assumption) ?_
                      case hy23 => (intro w hSw; (try dsimp only at hSw); go_simp; all_goals with_reducible rfl)
                      try simp only [Act.put, List.setIfInBounds_toArray, List.set_cons_zero, List.set_cons_succ]
                      refine wpAnyH_take (i := 1) (oi := { dst := some 162, op := Op.move (Operand.tmp 17), type := 3, pos := "outright.go:94", after := #[], guard := none }) (v := ?vv24) rfl (by kernel_rfl) (by kernel_rfl) (by kernel_rfl) (fun _ _ _ h => h) (Or.inl ⟨by rfl, ?hy24⟩) (by assumption) ?_
                      case hy24 => (intro w hSw; (try dsimp only at hSw); go_simp; all_goals with_reducible rfl)
                      try simp only [Act.put, List.setIfInBounds_toArray, List.set_cons_zero, List.set_cons_succ]
                      refine wpAnyH_take (i := 2) (oi := { dst := some 163, op := Op.indexAddr 27 (Operand.tmp 161) (Operand.tmp 162), type := 0, pos := "outright.go:94", after := #[{ on := 0, ground := Ground.data }, { on := 1, ground := Ground.data }], guard := none }) (v := ?vv25) rfl (by kernel_rfl) (by kernel_rfl) (by kernel_rfl) (fun _ _ _ h => h) (Or.inl ⟨by rfl, ?hy25⟩) (by assumption) ?_
                      case hy25 => (intro w hSw; (try dsimp only at hSw); go_simp; all_goals with_reducible rfl)
                      try simp only [Act.put, List.setIfInBounds_toArray, List.set_cons_zero, List.set_cons_succ]
                      refine wpAnyH_take (i := 3) (oi := { dst := some 164, op := Op.load 26 (Operand.tmp 163), type := 26, pos := "outright.go:94", after := #[{ on := 2, ground := Ground.data }], guard := none }) (v := ?vv26) rfl (by kernel_rfl) (by kernel_rfl) (by kernel_rfl) (fun _ _ _ h => h) (Or.inl ⟨by rfl, ?hy26⟩) (by assumption) ?_
                      case hy26 => (intro w hSw; (try dsimp only at hSw); go_simp; all_goals with_reducible rfl)
                      try simp only [Act.put, List.setIfInBounds_toArray, List.set_cons_zero, List.set_cons_succ]
                      refine wpAnyH_take (i := 4) (oi := { dst := some 165, op := Op.load 26 (Operand.tmp 8), type := 26, pos := "outright.go:94", after := #[], guard := none }) (v := ?vv27) rfl (by kernel_rfl) (by kernel_rfl) (by kernel_rfl) (fun _ _ _ h => h) (Or.inl ⟨by rfl, ?hy27⟩) (by assumption) ?_
                      case hy27 => (intro w hSw; (try dsimp only at hSw); go_simp; all_goals with_reducible rfl)
                      try simp only [Act.put, List.setIfInBounds_toArray, List.set_cons_zero, List.set_cons_succ]
                      refine wpAnyH_take (i := 5) (oi := { dst := some 166, op := Op.binOp BinOp.neq 26 (Operand.tmp 164) (Operand.tmp 165) 26, type := 4, pos := "outright.go:94", after := #[{ on := 3, ground := Ground.data }, { on := 4, ground := Ground.data }], guard := none }) (v := ?vv28) rfl (by kernel_rfl) (by kernel_rfl) (by kernel_rfl) (fun _ _ _ h => h) (Or.inl ⟨by rfl, ?hy28⟩) (by assumption) ?_
                      case hy28 => (intro w hSw; (try dsimp only at hSw); go_simp; all_goals with_reducible rfl)
                      try simp only [Act.put, List.setIfInBounds_toArray, List.set_cons_zero, List.set_cons_succ]
                      refine wpAnyH_take (i := 6) (oi := { dst := some 167, op := Op.move (Operand.tmp 166), type := 4, pos := "outright.go:94", after := #[{ on := 5, ground := Ground.data }], guard := none }) (v := ?vv29) rfl (by kernel_rfl) (by kernel_rfl) (by kernel_rfl) (fun _ _ _ h => h) (Or.inl ⟨by rfl, ?hy29⟩) (by assumption) ?_
                      case hy29 => (intro w hSw; (try dsimp only at hSw); go_simp; all_goals with_reducible rfl)
                      try simp only [Act.put, List.setIfInBounds_toArray, List.set_cons_zero, List.set_cons_succ]
                      refine wpAnyH_take (i := 7) (oi := { dst := some 168, op := Op.move (Operand.tmp 9), type := 27, pos := "outright.go:94", after := #[{ on := 6, ground := Ground.guard }], guard := some (6, true) }) (v := undef) rfl (by kernel_rfl) (by kernel_rfl) (by kernel_rfl) (fun _ _ _ h => h) (Or.inr ⟨by rfl, rfl⟩) (by assumption) ?_
                      try simp only [Act.put, List.setIfInBounds_toArray, List.set_cons_zero, List.set_cons_succ]
                      refine wpAnyH_take (i := 8) (oi := { dst := some 169, op := Op.move (Operand.tmp 16), type := 27, pos := "outright.go:94", after := #[{ on := 6, ground := Ground.guard }], guard := some (6, true) }) (v := undef) rfl (by kernel_rfl) (by kernel_rfl) (by kernel_rfl) (fun _ _ _ h => h) (Or.inr ⟨by rfl, rfl⟩) (by assumption) ?_
                      try simp only [Act.put, List.setIfInBounds_toArray, List.set_cons_zero, List.set_cons_succ]
                      refine wpAnyH_take (i := 9) (oi := { dst := some 170, op := Op.move (Operand.tmp 17), type := 3, pos := "outright.go:94", after := #[{ on := 6, ground := Ground.guard }], guard := some (6, true) }) (v := undef) rfl (by kernel_rfl) (by kernel_rfl) (by kernel_rfl) (fun _ _ _ h => h) (Or.inr ⟨by rfl, rfl⟩) (by assumption) ?_
                      try simp only [Act.put, List.setIfInBounds_toArray, List.set_cons_zero, List.set_cons_succ]
                      refine wpAnyH_take (i := 10) (oi := { dst := some 171, op := Op.indexAddr 27 (Operand.tmp 169) (Operand.tmp 170), type := 0, pos := "outright.go:94", after := #[{ on := 8, ground := Ground.data }, { on := 9, ground := Ground.data }, { on := 6, ground := Ground.guard }], guard := some (6, true) }) (v := undef) rfl (by kernel_rfl) (by kernel_rfl) (by kernel_rfl) (fun _ _ _ h => h) (Or.inr ⟨by rfl, rfl⟩) (by assumption) ?_
                      try simp only [Act.put, List.setIfInBounds_toArray, List.set_cons_zero, List.set_cons_succ]
                      refine wpAnyH_take (i := 11) (oi := { dst := some 172, op := Op.load 26 (Operand.tmp 171), type := 26, pos := "outright.go:94", after := #[{ on := 10, ground := Ground.data }, { on := 6, ground := Ground.guard }], guard := some (6, true) }) (v := undef) rfl (by kernel_rfl) (by kernel_rfl) (by kernel_rfl) (fun _ _ _ h => h) (Or.inr ⟨by rfl, rfl⟩) (by assumption) ?_
                      try simp only [Act.put, List.setIfInBounds_toArray, List.set_cons_zero, List.set_cons_succ]
                      refine wpAnyH_take (i := 12) (oi := { dst := some 173, op := Op.call { callee := Callee.value (Operand.func 14), args := #[Operand.tmp 168, Operand.tmp 172], argTypes := #[27, 26] }, type := 4, pos := "outright.go:94", after := #[{ on := 7, ground := Ground.data }, { on := 11, ground := Ground.data }, { on := 6, ground := Ground.chain }, { on := 6, ground := Ground.guard }], guard := some (6, true) }) (v := undef) rfl (by kernel_rfl) (by kernel_rfl) (by kernel_rfl) (fun _ _ _ h => h) (Or.inr ⟨by rfl, rfl⟩) (by assumption) ?_
                      try simp only [Act.put, List.setIfInBounds_toArray, List.set_cons_zero, List.set_cons_succ]
                      refine wpAnyH_take (i := 13) (oi := { dst := some 174, op := Op.unOp UnOp.not 4 (Operand.tmp 173), type := 4, pos := "outright.go:94", after := #[{ on := 12, ground := Ground.data }, { on := 6, ground := Ground.guard }], guard := some (6, true) }) (v := undef) rfl (by kernel_rfl) (by kernel_rfl) (by kernel_rfl) (fun _ _ _ h => h) (Or.inr ⟨by rfl, rfl⟩) (by assumption) ?_
                      try simp only [Act.put, List.setIfInBounds_toArray, List.set_cons_zero, List.set_cons_succ]
                      refine wpAnyH_take (i := 14) (oi := { dst := some 175, op := Op.pick (Operand.tmp 167) (Operand.tmp 174) (Operand.const (Value.bool false)), type := 4, pos := "outright.go:94", after := #[{ on := 6, ground := Ground.data }, { on := 13, ground := Ground.data }], guard := none }) (v := ?vv30) rfl (by kernel_rfl) (by kernel_rfl) (by kernel_rfl) (fun _ _ _ h => h) (Or.inl ⟨by rfl, ?hy30⟩) (by assumption) ?_
                      case hy30 => (intro w hSw; (try dsimp only at hSw); go_simp; all_goals with_reducible rfl)
                      try simp only [Act.put, List.setIfInBounds_toArray, List.set_cons_zero, List.set_cons_succ]
                      refine wpAnyH_done (by kernel_rfl) ?_ _
                      have HBn : Hid (Below v2.heap.size v2 W) := hbj.out.trans (hbW.mono hbj.out.size)
                      go_wp2_with fail
                      go_roundw
                      case rel => exact ⟨j + 1, by simp, by omega, HBn.out⟩
                      case measure => simp [intOf] <;> omega
                  · have l3 : ¬ (j : Int) < (N.length : Int) := by omega
                    go_wp2_with fail
                    go_roundw
                    case rel => exact ⟨.inr ⟨m + 1, by simp, by omega⟩, HBwe.out⟩
                    case measure => simp [intOf] <;> omega
              · have l2 : ¬ (m : Int) < (PL.length : Int) := by omega
                have HBz : Hid (Below w.heap.size w wr) := HW7.out.trans (HBe.out.mono HW7.out.size)
                go_wp2_with fail
                go_ret
                exact ⟨rfl, HBz.out⟩
end Go.Proofs.Ytldnibkgdpeocaa
