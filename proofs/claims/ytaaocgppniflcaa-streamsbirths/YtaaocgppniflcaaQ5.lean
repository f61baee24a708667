/- StreamsBirths. -/
import Derived.Test.YtaaocgppniflcaaQ4
namespace Go.Proofs.Ytaaocgppniflcaa
open Go.RowKit Go.Maps
set_option linter.unusedVariables false
set_option linter.unusedSimpArgs false

set_option maxRecDepth 100000 in
set_option maxHeartbeats 8000000 in
theorem streamsBirths_any (cl : Bool) (v : Value) (os : List OP) (w : World) (ho : In EO w v os) (hi : ∀ o ∈ os, I64 o.2.1) :
    Calls Try.prog 4 #[.bool cl, v] w fun e w' => e = .returned (.bool true) ∧ Below w.heap.size w w' := by
  have HO : Hid (In EO w v os) := ho
  have HI : Hid (∀ o ∈ os, I64 o.2.1) := hi
  obtain ⟨vb, vc, rfl, hv1, hv2⟩ := ho.slice
  clear ho hi
  obtain ⟨n, hn⟩ : ∃ n, os.length = n := ⟨_, rfl⟩
  have HN : Hid (os.length = n) := hn
  rw [hn] at HO hv1 ⊢
  clear hn
  go_enter Try.func4, Try.ntmps4
  go_wp2_with fail
  refine (new_at cl _).mono ?_
  rintro e w1 ⟨p, b, rfl, t0, hB0, n0, m0⟩
  go_wp2_with fail
  refine (first_any _).mono ?_
  rintro e w3 ⟨rfl, hB3⟩
  have hb3 : Below w.heap.size w w3 := hB0.trans (hB3.mono hB0.size)
  obtain ⟨q, hq⟩ : ∃ q, w3.heap.size = q := ⟨_, rfl⟩
  have HB : Hid (Bs w (w3.alloc (.cells #[.int .i64 0, .int .i64 0] 36)) p b q 0 0 (Tb.new cl) (.slice none 0 0) []) :=
    ⟨(t0.below hB3).al _, R.nil EI _, by rw [← hq]; exact heap_alloc_new _ _, hb3.trans ((bel1 w3 _).mono hb3.size), n0, m0, by rw [← hq]; exact hb3.size, fun k hk => by simp [Value.ownBlock] at hk⟩
  have HQ : Hid (w3.heap.size = q) := hq
  have HBi : Hid (Bi (Tb.new cl) []) := Bi.new cl
  have HCL : Hid ((Tb.new cl).cl = cl) := rfl
  have HTop : Hid ((Tb.new cl).top false = 0 ∧ (Tb.new cl).top true = 0) := by cases cl <;> exact ⟨rfl, rfl⟩
  clear hq t0 hB0 n0 m0 hB3 hb3
  go_wp2_with fail
  try rw [HQ.out]
  go_loopw [6, 8] (fun y x wr => ∃ (k : Nat) (T : Tb) (bn : List Int) (t0 t1 : Int), k ≤ n ∧ x = .int .i64 (k : Int) ∧ Hid (Bs w wr p b q t0 t1 T y bn) ∧ Hid (Bi T bn) ∧ Hid (T.cl = cl) ∧ Hid (T.top false = t0 ∧ T.top true = t1)) (fun _ x _ => n - (intOf x).toNat)
  case atStart => exact ⟨0, _, [], 0, 0, by omega, rfl, HB, HBi, HCL, HTop⟩
  case round =>
    obtain ⟨k, T, bn, t0, t1, hk, hx, hS, hBi, hcl, htop⟩ := hrel
    subst hx
    clear HB HBi HCL HTop
    by_cases hlt : k < n
    · have hl := HN.out
      have hin := HO.out.below (hS.out.bel)
      obtain ⟨B', off, cap, e, hBl, d0, d1, d2, d3⟩ := hin.op k (by omega)
      injection e with e1 e2 e3
      subst e1
      clear e2 e3 hin
      have hio := HI.out _ (List.getElem_mem (show k < os.length by omega))
      obtain ⟨o, hoo⟩ : ∃ o, os[k]'(by omega) = o := ⟨_, rfl⟩
      rw [hoo] at d0 d1 d2 d3 hio
      clear hoo hl
      obtain ⟨two, id, g, kd⟩ := o
      simp only at d0 d1 d2 d3 hio
      obtain ⟨yb, yc, hye, hyc1, hyc2⟩ := hS.out.row.slice
      subst hye
      obtain ⟨O, hO⟩ : ∃ O, wr.heap.size = O := ⟨_, rfl⟩
      have HO' : Hid (wr.heap.size = O) := hO
      clear hO
      have HS1 : Hid (Bs w (wr.alloc (.cells #[.bool two, .int .i64 id, .bool g, .int .i64 kd] 29)) p b q t0 t1 T (.slice yb bn.length yc) bn) := hS.out.below (bel1 wr _)
      have HOP1 : Hid ((wr.alloc (.cells #[.bool two, .int .i64 id, .bool g, .int .i64 kd] 29)).heap[wr.heap.size]? = some (.cells #[.bool two, .int .i64 id, .bool g, .int .i64 kd] 29)) := heap_alloc_new _ _
      have ok := hS.out.ti.ok
      have hs1 := state_any _ p b T id HS1.out.ti hio
      have hio2 := hio
      clear hBl
      go_wp2_with fail
      refine hs1.mono ?_
      rintro e w5 ⟨rfl, hB5⟩
      have HS5 : Hid (Bs w w5 p b q t0 t1 T (.slice yb bn.length yc) bn) := HS1.out.below hB5
      have hop5 : w5.heap[wr.heap.size]? = some (.cells #[.bool two, .int .i64 id, .bool g, .int .i64 kd] 29) := (hB5.block _ (by simp)).trans HOP1.out
      have o0 := cell_blk hop5 0
      have o1 := cell_blk hop5 1
      have o2 := cell_blk hop5 2
      have o3 := cell_blk hop5 3
      have ol := heap_lt hop5
      simp only [List.getElem?_toArray, List.getElem?_cons_zero, List.getElem?_cons_succ] at o0 o1 o2 o3
      have HOP5 : Hid _ := hop5
      have hdn := done_any w5 p b T two id g kd HS5.out.ti hio
      clear hs1 hB5 HS1 HOP1 hop5 d0 d1 d2 d3
      go_wp2_with fail
      refine hdn.mono ?_
      rintro e w6 ⟨rfl, ht6, hk6⟩
      have hop6 : w6.heap[wr.heap.size]? = some (.cells #[.bool two, .int .i64 id, .bool g, .int .i64 kd] 29) := (hk6.block _ (heap_lt HOP5.out) (ty_neB HOP5.out HS5.out.ti (by decide))).trans HOP5.out
      have HS6 : Hid (Bs w w6 p b q t0 t1 (T.doo id g kd).1 (.slice yb bn.length yc) bn) := HS5.out.move ht6 hk6
      have hs2 := state_any w6 p b _ id ht6 hio
      clear o0 o1 o2 o3 ol
      have o1 := cell_blk hop6 1
      have ol := heap_lt hop6
      simp only [List.getElem?_toArray, List.getElem?_cons_zero, List.getElem?_cons_succ] at o1
      have HOP6 : Hid _ := hop6
      clear hdn ht6 hk6 HS5 HOP5 hop6
      go_wp2_with fail
      refine hs2.mono ?_
      rintro e w7 ⟨rfl, hB7⟩
      have HS7 : Hid (Bs w w7 p b q t0 t1 (T.doo id g kd).1 (.slice yb bn.length yc) bn) := HS6.out.below hB7
      have hop7 : w7.heap[wr.heap.size]? = some (.cells #[.bool two, .int .i64 id, .bool g, .int .i64 kd] 29) := (hB7.block _ (heap_lt HOP6.out)).trans HOP6.out
      rw [HO'.out] at hop7
      clear o1 ol
      have o1 := cell_blk hop7 1
      have o2 := cell_blk hop7 2
      have o3 := cell_blk hop7 3
      have ol := heap_lt hop7
      simp only [List.getElem?_toArray, List.getElem?_cons_zero, List.getElem?_cons_succ] at o1 o2 o3
      have HOP7 : Hid _ := hop7
      clear hs2 hB7 HS6 HOP6 hop7
      have HBear : Hid (T.st id = 0 → (T.doo id g kd).1.st id ≠ 0 → _) := fun h0 h1 => hBi.out.bear ok id g kd h0 h1
      have HStay : Hid (T.st id ≠ 0 ∨ (T.doo id g kd).1.st id = 0 → _) := fun h => hBi.out.stay ok id g kd h
      have HOk : Hid ((T.doo id g kd).1.Ok) := Tb.doo_ok ok id g kd
      have HCl' : Hid ((T.doo id g kd).1.cl = cl) := (Tb.doo_cl ok id g kd).trans hcl.out
      have HIdle : Hid (T.st id = 0 → id ∉ bn) := fun h => hBi.out.idle ok h
      obtain ⟨T', hT'⟩ : ∃ T', (T.doo id g kd).1 = T' := ⟨_, rfl⟩
      rw [hT'] at HS7 HBear HStay HOk HCl' ⊢
      clear hT'
      obtain ⟨s1, hs1⟩ : ∃ s1, T.st id = s1 := ⟨_, rfl⟩
      obtain ⟨s2, hs2⟩ : ∃ s2, T'.st id = s2 := ⟨_, rfl⟩
      rw [hs1, hs2] at HBear
      rw [hs1, hs2] at HStay
      rw [hs1] at HIdle
      have HS2 : Hid (T'.st id = s2) := hs2
      rw [hs1, hs2]
      clear hs1 hs2 hS ok
      rw [HO'.out]
      have HTT : Hid _ := htop
      go_upto_region 13 with fail
      go_cut [60] from 34 to 159 (fun x wx => x = .bool (s1 == 0 && !(s2 == 0)) ∧ wx = w7)
      case first =>
        cases e1 : (s1 == 0)
        · go_wp2_with fail
          go_meet
          exact ⟨by simp only [e1]; rfl, rfl⟩
        · go_wp2_with fail
          go_meet
          exact ⟨by simp only [e1]; rfl, rfl⟩
      case rest =>
        obtain ⟨rfl, rfl⟩ := hcut
        go_upto_if 60 with fail
        go_cut [6, 12, 13] from 34 to 159 (fun x _ _ wx => ∃ yb' yc' bn' t0' t1', x = .slice yb' bn'.length yc' ∧ Hid (Bs w wx p b q t0' t1' T' (.slice yb' bn'.length yc') bn') ∧ Hid (Bi T' bn') ∧ Hid (T'.top false = t0' ∧ T'.top true = t1') ∧ Hid (wx.heap[O]? = some (.cells #[.bool two, .int .i64 id, .bool g, .int .i64 kd] 29)) ∧ Hid ((s2 == 0) = (s1 == 0 && !decide (id ∈ bn'))))
        case first =>
          cases e12 : (s1 == 0 && !(s2 == 0))
          · go_wp2_with fail
            go_meet
            have hno : s1 ≠ 0 ∨ s2 = 0 := by
              by_cases h : s1 = 0
              · right; simp [h] at e12; exact e12
              · exact .inl h
            obtain ⟨x1, x2, x3⟩ := HStay.out hno
            refine ⟨yb, yc, bn, t0, t1, rfl, HS7, x1, ⟨(x2 false).trans HTT.out.1, (x2 true).trans HTT.out.2⟩, HOP7, ?_⟩
            show (s2 == 0) = (s1 == 0 && !decide (id ∈ bn))
            by_cases h : s1 = 0
            · have h2 : s2 = 0 := x3.2 h
              have h3 := HIdle.out h
              simp [h, h2, h3]
            · have h2 : s2 ≠ 0 := fun e => h (x3.1 e)
              rw [beq_eq_false_iff_ne.2 h, beq_eq_false_iff_ne.2 h2]; rfl
          · simp only [Bool.and_eq_true, beq_iff_eq, Bool.not_eq_true', beq_eq_false_iff_ne] at e12
            obtain ⟨b1, b2, b3, b4, b5, b6, b7, b8, b9⟩ := HBear.out e12.1 e12.2
            have HF20 : Hid ((s2 == 0) = (s1 == 0 && !decide (id ∈ bn ++ [id]))) := by
              show (s2 == 0) = _
              have h2 : (s2 == 0) = false := beq_eq_false_iff_ne.2 e12.2
              rw [h2]
              simp
            have hlen := hBi.out.length
            have HB6 : Hid _ := b6
            have hand := and_odd b1
            have htm := tmod_pos b1
            have htm2 := (odd_pos b1).symm
            rw [hcl.out] at b4 b5
            clear b6 b9 e12 hBi HStay HBear HIdle
            obtain ⟨c0, c1⟩ : wc.cell? ⟨q, 0, none⟩ = some (.int .i64 t0) ∧ wc.cell? ⟨q, 1, none⟩ = some (.int .i64 t1) := ⟨cell_blk HS7.out.ar 0, cell_blk HS7.out.ar 1⟩
            have f0 : wc.frozen? ⟨q, 0, none⟩ = false := frozen_blk HS7.out.ar 0
            have f1 : wc.frozen? ⟨q, 1, none⟩ = false := frozen_blk HS7.out.ar 1
            have cq := heap_lt HS7.out.ar
            cases hod : odd id
            · rw [hod] at hand htm htm2 b3 b7 b8
              obtain ⟨hk5, hby⟩ := b5 hod
              rw [HTT.out.1] at b3
              rw [if_neg (by decide)] at hand
              simp only [Bool.not_false] at b8
              rw [HTT.out.2] at b8
              have hle : decide (id ≤ t0) = false := decide_eq_false (by omega)
              have HBT : Hid (T'.top false = id ∧ T'.top true = t1) := ⟨b7, b8⟩
              clear b4 b5 b3 b7 b8
              subst hk5
              as_aux_lemma =>
                go_upto_region 15 with fail
                go_cut [13] from 34 to 159 (fun x wx => x = .bool false ∧ wx = wc)
                case first =>
                  cases g <;> cases cl <;> first
                    | exact absurd hby (by decide)
                    | (go_wp2_with fail
                       go_meet
                       exact ⟨rfl, rfl⟩)
                case rest =>
                  obtain ⟨rfl, hwc⟩ := hcut
                  subst hwc
                  clear hby
                  go_upto_region 16 with fail
                  go_cut [112] from 34 to 159 (fun x wx => x = .bool false ∧ wx = wc.drew)
                  case first =>
                    refine wp_region_held_drew (S := (fun W => W.cell? ⟨q, 0, none⟩ = some (.int .i64 t0) ∧ W.cell? ⟨q, 1, none⟩ = some (.int .i64 t1) ∧ W.cell? ⟨O, 1, none⟩ = some (.int .i64 id) ∧ W.cell? ⟨O, 3, none⟩ = some (.int .i64 5))) (by kernel_rfl) ⟨c0, c1, o1, o3⟩ (fun hHeld => ?_)
                    refine wpAnyH_take (i := 0) (oi := { dst := some 69, op := Op.fieldAddr 29 (Operand.tmp 9) 1, type := 0, pos := "outright.go:36", after := #[], guard := none }) (v := ?vv1) rfl (by kernel_rfl) (by kernel_rfl) (by kernel_rfl) (fun _ _ _ h => h) (Or.inl ⟨by rfl, ?hy1⟩) (by assumption) ?_
                    case hy1 => (intro w hSw; (try dsimp only at hSw); go_simp; all_goals with_reducible rfl)
                    try simp only [Act.put, List.setIfInBounds_toArray, List.set_cons_zero, List.set_cons_succ]
                    refine wpAnyH_take (i := 1) (oi := { dst := some 70, op := Op.load 2 (Operand.tmp 69), type := 2, pos := "outright.go:36", after := #[{ on := 0, ground := Ground.data }], guard := none }) (v := ?vv2) rfl (by kernel_rfl) (by kernel_rfl) (by kernel_rfl) (fun _ _ _ h => h) (Or.inl ⟨by rfl, ?hy2⟩) (by assumption) ?_
                    case hy2 => (intro w hSw; (try dsimp only at hSw); go_simp; all_goals with_reducible rfl)
                    try simp only [Act.put, List.setIfInBounds_toArray, List.set_cons_zero, List.set_cons_succ]
                    refine wpAnyH_take (i := 2) (oi := { dst := some 71, op := Op.fieldAddr 29 (Operand.tmp 9) 1, type := 0, pos := "outright.go:36", after := #[], guard := none }) (v := ?vv3) rfl (by kernel_rfl) (by kernel_rfl) (by kernel_rfl) (fun _ _ _ h => h) (Or.inl ⟨by rfl, ?hy3⟩) (by assumption) ?_
                    case hy3 => (intro w hSw; (try dsimp only at hSw); go_simp; all_goals with_reducible rfl)
                    try simp only [Act.put, List.setIfInBounds_toArray, List.set_cons_zero, List.set_cons_succ]
                    refine wpAnyH_take (i := 3) (oi := { dst := some 72, op := Op.load 2 (Operand.tmp 71), type := 2, pos := "outright.go:36", after := #[{ on := 2, ground := Ground.data }], guard := none }) (v := ?vv4) rfl (by kernel_rfl) (by kernel_rfl) (by kernel_rfl) (fun _ _ _ h => h) (Or.inl ⟨by rfl, ?hy4⟩) (by assumption) ?_
                    case hy4 => (intro w hSw; (try dsimp only at hSw); go_simp; all_goals with_reducible rfl)
                    try simp only [Act.put, List.setIfInBounds_toArray, List.set_cons_zero, List.set_cons_succ]
                    refine wpAnyH_take (i := 4) (oi := { dst := some 73, op := Op.binOp BinOp.and 2 (Operand.tmp 72) (Operand.const (Value.int IntKind.i64 1)) 2, type := 2, pos := "outright.go:36", after := #[{ on := 3, ground := Ground.data }], guard := none }) (v := ?vv5) rfl (by kernel_rfl) (by kernel_rfl) (by kernel_rfl) (fun _ _ _ h => h) (Or.inl ⟨by rfl, ?hy5⟩) (by assumption) ?_
                    case hy5 => (intro w hSw; (try dsimp only at hSw); go_simp; all_goals with_reducible rfl)
                    try simp only [Act.put, List.setIfInBounds_toArray, List.set_cons_zero, List.set_cons_succ]
                    refine wpAnyH_take (i := 5) (oi := { dst := some 74, op := Op.indexAddr 36 (Operand.tmp 7) (Operand.tmp 73), type := 0, pos := "outright.go:36", after := #[{ on := 4, ground := Ground.data }], guard := none }) (v := ?vv6) rfl (by kernel_rfl) (by kernel_rfl) (by kernel_rfl) (fun _ _ _ h => h) (Or.inl ⟨by rfl, ?hy6⟩) (by assumption) ?_
                    case hy6 => (intro w hSw; (try dsimp only at hSw); go_simp; all_goals with_reducible rfl)
                    try simp only [Act.put, List.setIfInBounds_toArray, List.set_cons_zero, List.set_cons_succ]
                    refine wpAnyH_take (i := 6) (oi := { dst := some 75, op := Op.load 2 (Operand.tmp 74), type := 2, pos := "outright.go:36", after := #[{ on := 5, ground := Ground.data }], guard := none }) (v := ?vv7) rfl (by kernel_rfl) (by kernel_rfl) (by kernel_rfl) (fun _ _ _ h => h) (Or.inl ⟨by rfl, ?hy7⟩) (by assumption) ?_
                    case hy7 => (intro w hSw; (try dsimp only at hSw); go_simp; all_goals with_reducible rfl)
                    try simp only [Act.put, List.setIfInBounds_toArray, List.set_cons_zero, List.set_cons_succ]
                    refine wpAnyH_take (i := 7) (oi := { dst := some 76, op := Op.binOp BinOp.leq 2 (Operand.tmp 70) (Operand.tmp 75) 2, type := 4, pos := "outright.go:36", after := #[{ on := 1, ground := Ground.data }, { on := 6, ground := Ground.data }], guard := none }) (v := ?vv8) rfl (by kernel_rfl) (by kernel_rfl) (by kernel_rfl) (fun _ _ _ h => h) (Or.inl ⟨by rfl, ?hy8⟩) (by assumption) ?_
                    case hy8 => (intro w hSw; (try dsimp only at hSw); go_simp; all_goals with_reducible rfl)
                    try simp only [Act.put, List.setIfInBounds_toArray, List.set_cons_zero, List.set_cons_succ]
                    refine wpAnyH_take (i := 8) (oi := { dst := some 77, op := Op.move (Operand.tmp 76), type := 4, pos := "outright.go:36", after := #[{ on := 7, ground := Ground.data }], guard := none }) (v := ?vv9) rfl (by kernel_rfl) (by kernel_rfl) (by kernel_rfl) (fun _ _ _ h => h) (Or.inl ⟨by rfl, ?hy9⟩) (by assumption) ?_
                    case hy9 => (intro w hSw; (try dsimp only at hSw); go_simp; all_goals with_reducible rfl)
                    try simp only [Act.put, List.setIfInBounds_toArray, List.set_cons_zero, List.set_cons_succ]
                    refine wpAnyH_take (i := 9) (oi := { dst := some 78, op := Op.move (Operand.tmp 12), type := 4, pos := "outright.go:36", after := #[{ on := 8, ground := Ground.guard }], guard := some (8, false) }) (v := ?vv10) rfl (by kernel_rfl) (by kernel_rfl) (by kernel_rfl) (fun _ _ _ h => h) (Or.inl ⟨by rfl, ?hy10⟩) (by assumption) ?_
                    case hy10 => (intro w hSw; (try dsimp only at hSw); go_simp; all_goals with_reducible rfl)
                    try simp only [Act.put, List.setIfInBounds_toArray, List.set_cons_zero, List.set_cons_succ]
                    refine wpAnyH_take (i := 10) (oi := { dst := some 79, op := Op.move (Operand.tmp 78), type := 4, pos := "outright.go:36", after := #[{ on := 9, ground := Ground.data }, { on := 8, ground := Ground.chain }, { on := 8, ground := Ground.guard }], guard := some (8, false) }) (v := ?vv11) rfl (by kernel_rfl) (by kernel_rfl) (by kernel_rfl) (fun _ _ _ h => h) (Or.inl ⟨by rfl, ?hy11⟩) (by assumption) ?_
                    case hy11 => (intro w hSw; (try dsimp only at hSw); go_simp; all_goals with_reducible rfl)
                    try simp only [Act.put, List.setIfInBounds_toArray, List.set_cons_zero, List.set_cons_succ]
                    refine wpAnyH_take (i := 11) (oi := { dst := some 80, op := Op.fieldAddr 29 (Operand.tmp 9) 3, type := 0, pos := "outright.go:36", after := #[{ on := 10, ground := Ground.guard }], guard := some (10, true) }) (v := undef) rfl (by kernel_rfl) (by kernel_rfl) (by kernel_rfl) (fun _ _ _ h => h) (Or.inr ⟨by rfl, rfl⟩) (by assumption) ?_
                    try simp only [Act.put, List.setIfInBounds_toArray, List.set_cons_zero, List.set_cons_succ]
                    refine wpAnyH_take (i := 12) (oi := { dst := some 81, op := Op.load 3 (Operand.tmp 80), type := 3, pos := "outright.go:36", after := #[{ on := 11, ground := Ground.data }, { on := 10, ground := Ground.guard }], guard := some (10, true) }) (v := undef) rfl (by kernel_rfl) (by kernel_rfl) (by kernel_rfl) (fun _ _ _ h => h) (Or.inr ⟨by rfl, rfl⟩) (by assumption) ?_
                    try simp only [Act.put, List.setIfInBounds_toArray, List.set_cons_zero, List.set_cons_succ]
                    refine wpAnyH_take (i := 13) (oi := { dst := some 82, op := Op.binOp BinOp.neq 3 (Operand.tmp 81) (Operand.const (Value.int IntKind.i64 1)) 3, type := 4, pos := "outright.go:36", after := #[{ on := 12, ground := Ground.data }, { on := 10, ground := Ground.guard }], guard := some (10, true) }) (v := undef) rfl (by kernel_rfl) (by kernel_rfl) (by kernel_rfl) (fun _ _ _ h => h) (Or.inr ⟨by rfl, rfl⟩) (by assumption) ?_
                    try simp only [Act.put, List.setIfInBounds_toArray, List.set_cons_zero, List.set_cons_succ]
                    refine wpAnyH_take (i := 14) (oi := { dst := some 83, op := Op.pick (Operand.tmp 79) (Operand.tmp 82) (Operand.const (Value.bool false)), type := 4, pos := "outright.go:36", after := #[{ on := 10, ground := Ground.data }, { on := 13, ground := Ground.data }, { on := 8, ground := Ground.guard }], guard := some (8, false) }) (v := ?vv12) rfl (by kernel_rfl) (by kernel_rfl) (by kernel_rfl) (fun _ _ _ h => h) (Or.inl ⟨by rfl, ?hy12⟩) (by assumption) ?_
                    case hy12 => (intro w hSw; (try dsimp only at hSw); go_simp; all_goals with_reducible rfl)
                    try simp only [Act.put, List.setIfInBounds_toArray, List.set_cons_zero, List.set_cons_succ]
                    refine wpAnyH_take (i := 15) (oi := { dst := some 84, op := Op.move (Operand.tmp 83), type := 4, pos := "outright.go:36", after := #[{ on := 14, ground := Ground.data }, { on := 10, ground := Ground.chain }, { on := 8, ground := Ground.guard }], guard := some (8, false) }) (v := ?vv13) rfl (by kernel_rfl) (by kernel_rfl) (by kernel_rfl) (fun _ _ _ h => h) (Or.inl ⟨by rfl, ?hy13⟩) (by assumption) ?_
                    case hy13 => (intro w hSw; (try dsimp only at hSw); go_simp; all_goals with_reducible rfl)
                    try simp only [Act.put, List.setIfInBounds_toArray, List.set_cons_zero, List.set_cons_succ]
                    refine wpAnyH_take (i := 16) (oi := { dst := some 85, op := Op.fieldAddr 29 (Operand.tmp 9) 3, type := 0, pos := "outright.go:36", after := #[{ on := 15, ground := Ground.guard }], guard := some (15, true) }) (v := undef) rfl (by kernel_rfl) (by kernel_rfl) (by kernel_rfl) (fun _ _ _ h => h) (Or.inr ⟨by rfl, rfl⟩) (by assumption) ?_
                    try simp only [Act.put, List.setIfInBounds_toArray, List.set_cons_zero, List.set_cons_succ]
                    refine wpAnyH_take (i := 17) (oi := { dst := some 86, op := Op.load 3 (Operand.tmp 85), type := 3, pos := "outright.go:36", after := #[{ on := 16, ground := Ground.data }, { on := 15, ground := Ground.guard }], guard := some (15, true) }) (v := undef) rfl (by kernel_rfl) (by kernel_rfl) (by kernel_rfl) (fun _ _ _ h => h) (Or.inr ⟨by rfl, rfl⟩) (by assumption) ?_
                    try simp only [Act.put, List.setIfInBounds_toArray, List.set_cons_zero, List.set_cons_succ]
                    refine wpAnyH_take (i := 18) (oi := { dst := some 87, op := Op.binOp BinOp.neq 3 (Operand.tmp 86) (Operand.const (Value.int IntKind.i64 2)) 3, type := 4, pos := "outright.go:36", after := #[{ on := 17, ground := Ground.data }, { on := 15, ground := Ground.guard }], guard := some (15, true) }) (v := undef) rfl (by kernel_rfl) (by kernel_rfl) (by kernel_rfl) (fun _ _ _ h => h) (Or.inr ⟨by rfl, rfl⟩) (by assumption) ?_
                    try simp only [Act.put, List.setIfInBounds_toArray, List.set_cons_zero, List.set_cons_succ]
                    refine wpAnyH_take (i := 19) (oi := { dst := some 88, op := Op.pick (Operand.tmp 84) (Operand.tmp 87) (Operand.const (Value.bool false)), type := 4, pos := "outright.go:36", after := #[{ on := 15, ground := Ground.data }, { on := 18, ground := Ground.data }, { on := 8, ground := Ground.guard }], guard := some (8, false) }) (v := ?vv14) rfl (by kernel_rfl) (by kernel_rfl) (by kernel_rfl) (fun _ _ _ h => h) (Or.inl ⟨by rfl, ?hy14⟩) (by assumption) ?_
                    case hy14 => (intro w hSw; (try dsimp only at hSw); go_simp; all_goals with_reducible rfl)
                    try simp only [Act.put, List.setIfInBounds_toArray, List.set_cons_zero, List.set_cons_succ]
                    refine wpAnyH_take (i := 20) (oi := { dst := some 89, op := Op.pick (Operand.tmp 77) (Operand.const (Value.bool true)) (Operand.tmp 88), type := 4, pos := "outright.go:36", after := #[{ on := 8, ground := Ground.data }, { on := 19, ground := Ground.data }], guard := none }) (v := ?vv15) rfl (by kernel_rfl) (by kernel_rfl) (by kernel_rfl) (fun _ _ _ h => h) (Or.inl ⟨by rfl, ?hy15⟩) (by assumption) ?_
                    case hy15 => (intro w hSw; (try dsimp only at hSw); go_simp; all_goals with_reducible rfl)
                    try simp only [Act.put, List.setIfInBounds_toArray, List.set_cons_zero, List.set_cons_succ]
                    refine wpAnyH_take (i := 21) (oi := { dst := some 90, op := Op.move (Operand.tmp 89), type := 4, pos := "outright.go:36", after := #[{ on := 20, ground := Ground.data }, { on := 15, ground := Ground.chain }], guard := none }) (v := ?vv16) rfl (by kernel_rfl) (by kernel_rfl) (by kernel_rfl) (fun _ _ _ h => h) (Or.inl ⟨by rfl, ?hy16⟩) (by assumption) ?_
                    case hy16 => (intro w hSw; (try dsimp only at hSw); go_simp; all_goals with_reducible rfl)
                    try simp only [Act.put, List.setIfInBounds_toArray, List.set_cons_zero, List.set_cons_succ]
                    refine wpAnyH_take (i := 22) (oi := { dst := some 91, op := Op.move (Operand.tmp 12), type := 4, pos := "outright.go:36", after := #[{ on := 21, ground := Ground.guard }], guard := some (21, false) }) (v := ?vv17) rfl (by kernel_rfl) (by kernel_rfl) (by kernel_rfl) (fun _ _ _ h => h) (Or.inl ⟨by rfl, ?hy17⟩) (by assumption) ?_
                    case hy17 => (intro w hSw; (try dsimp only at hSw); go_simp; all_goals with_reducible rfl)
                    try simp only [Act.put, List.setIfInBounds_toArray, List.set_cons_zero, List.set_cons_succ]
                    refine wpAnyH_take (i := 23) (oi := { dst := some 92, op := Op.unOp UnOp.not 4 (Operand.tmp 91), type := 4, pos := "outright.go:36", after := #[{ on := 22, ground := Ground.data }, { on := 21, ground := Ground.guard }], guard := some (21, false) }) (v := ?vv18) rfl (by kernel_rfl) (by kernel_rfl) (by kernel_rfl) (fun _ _ _ h => h) (Or.inl ⟨by rfl, ?hy18⟩) (by assumption) ?_
                    case hy18 => (intro w hSw; (try dsimp only at hSw); go_simp; all_goals with_reducible rfl)
                    try simp only [Act.put, List.setIfInBounds_toArray, List.set_cons_zero, List.set_cons_succ]
                    refine wpAnyH_take (i := 24) (oi := { dst := some 93, op := Op.move (Operand.tmp 92), type := 4, pos := "outright.go:36", after := #[{ on := 23, ground := Ground.data }, { on := 21, ground := Ground.chain }, { on := 21, ground := Ground.guard }], guard := some (21, false) }) (v := ?vv19) rfl (by kernel_rfl) (by kernel_rfl) (by kernel_rfl) (fun _ _ _ h => h) (Or.inl ⟨by rfl, ?hy19⟩) (by assumption) ?_
                    case hy19 => (intro w hSw; (try dsimp only at hSw); go_simp; all_goals with_reducible rfl)
                    try simp only [Act.put, List.setIfInBounds_toArray, List.set_cons_zero, List.set_cons_succ]
                    refine wpAnyH_take (i := 25) (oi := { dst := some 94, op := Op.fieldAddr 29 (Operand.tmp 9) 3, type := 0, pos := "outright.go:36", after := #[{ on := 24, ground := Ground.guard }], guard := some (24, true) }) (v := ?vv20) rfl (by kernel_rfl) (by kernel_rfl) (by kernel_rfl) (fun _ _ _ h => h) (Or.inl ⟨by rfl, ?hy20⟩) (by assumption) ?_
                    case hy20 => (intro w hSw; (try dsimp only at hSw); go_simp; all_goals with_reducible rfl)
                    try simp only [Act.put, List.setIfInBounds_toArray, List.set_cons_zero, List.set_cons_succ]
                    refine wpAnyH_take (i := 26) (oi := { dst := some 95, op := Op.load 3 (Operand.tmp 94), type := 3, pos := "outright.go:36", after := #[{ on := 25, ground := Ground.data }, { on := 24, ground := Ground.guard }], guard := some (24, true) }) (v := ?vv21) rfl (by kernel_rfl) (by kernel_rfl) (by kernel_rfl) (fun _ _ _ h => h) (Or.inl ⟨by rfl, ?hy21⟩) (by assumption) ?_
                    case hy21 => (intro w hSw; (try dsimp only at hSw); go_simp; all_goals with_reducible rfl)
                    try simp only [Act.put, List.setIfInBounds_toArray, List.set_cons_zero, List.set_cons_succ]
                    refine wpAnyH_take (i := 27) (oi := { dst := some 96, op := Op.binOp BinOp.neq 3 (Operand.tmp 95) (Operand.const (Value.int IntKind.i64 5)) 3, type := 4, pos := "outright.go:36", after := #[{ on := 26, ground := Ground.data }, { on := 24, ground := Ground.guard }], guard := some (24, true) }) (v := ?vv22) rfl (by kernel_rfl) (by kernel_rfl) (by kernel_rfl) (fun _ _ _ h => h) (Or.inl ⟨by rfl, ?hy22⟩) (by assumption) ?_
                    case hy22 => (intro w hSw; (try dsimp only at hSw); go_simp; all_goals with_reducible rfl)
                    try simp only [Act.put, List.setIfInBounds_toArray, List.set_cons_zero, List.set_cons_succ]
                    refine wpAnyH_take (i := 28) (oi := { dst := some 97, op := Op.pick (Operand.tmp 93) (Operand.tmp 96) (Operand.const (Value.bool false)), type := 4, pos := "outright.go:36", after := #[{ on := 24, ground := Ground.data }, { on := 27, ground := Ground.data }, { on := 21, ground := Ground.guard }], guard := some (21, false) }) (v := ?vv23) rfl (by kernel_rfl) (by kernel_rfl) (by kernel_rfl) (fun _ _ _ h => h) (Or.inl ⟨by rfl, ?hy23⟩) (by assumption) ?_
                    case hy23 => (intro w hSw; (try dsimp only at hSw); go_simp; all_goals with_reducible rfl)
                    try simp only [Act.put, List.setIfInBounds_toArray, List.set_cons_zero, List.set_cons_succ]
                    refine wpAnyH_take (i := 29) (oi := { dst := some 98, op := Op.pick (Operand.tmp 90) (Operand.const (Value.bool true)) (Operand.tmp 97), type := 4, pos := "outright.go:36", after := #[{ on := 21, ground := Ground.data }, { on := 28, ground := Ground.data }], guard := none }) (v := ?vv24) rfl (by kernel_rfl) (by kernel_rfl) (by kernel_rfl) (fun _ _ _ h => h) (Or.inl ⟨by rfl, ?hy24⟩) (by assumption) ?_
                    case hy24 => (intro w hSw; (try dsimp only at hSw); go_simp; all_goals with_reducible rfl)
                    try simp only [Act.put, List.setIfInBounds_toArray, List.set_cons_zero, List.set_cons_succ]
                    refine wpAnyH_take (i := 30) (oi := { dst := some 99, op := Op.move (Operand.tmp 98), type := 4, pos := "outright.go:36", after := #[{ on := 29, ground := Ground.data }, { on := 24, ground := Ground.chain }], guard := none }) (v := ?vv25) rfl (by kernel_rfl) (by kernel_rfl) (by kernel_rfl) (fun _ _ _ h => h) (Or.inl ⟨by rfl, ?hy25⟩) (by assumption) ?_
                    case hy25 => (intro w hSw; (try dsimp only at hSw); go_simp; all_goals with_reducible rfl)
                    try simp only [Act.put, List.setIfInBounds_toArray, List.set_cons_zero, List.set_cons_succ]
                    refine wpAnyH_take (i := 31) (oi := { dst := some 100, op := Op.move (Operand.tmp 12), type := 4, pos := "outright.go:36", after := #[{ on := 30, ground := Ground.guard }], guard := some (30, false) }) (v := ?vv26) rfl (by kernel_rfl) (by kernel_rfl) (by kernel_rfl) (fun _ _ _ h => h) (Or.inl ⟨by rfl, ?hy26⟩) (by assumption) ?_
                    case hy26 => (intro w hSw; (try dsimp only at hSw); go_simp; all_goals with_reducible rfl)
                    try simp only [Act.put, List.setIfInBounds_toArray, List.set_cons_zero, List.set_cons_succ]
                    refine wpAnyH_take (i := 32) (oi := { dst := some 101, op := Op.move (Operand.tmp 100), type := 4, pos := "outright.go:36", after := #[{ on := 31, ground := Ground.data }, { on := 30, ground := Ground.chain }, { on := 30, ground := Ground.guard }], guard := some (30, false) }) (v := ?vv27) rfl (by kernel_rfl) (by kernel_rfl) (by kernel_rfl) (fun _ _ _ h => h) (Or.inl ⟨by rfl, ?hy27⟩) (by assumption) ?_
                    case hy27 => (intro w hSw; (try dsimp only at hSw); go_simp; all_goals with_reducible rfl)
                    try simp only [Act.put, List.setIfInBounds_toArray, List.set_cons_zero, List.set_cons_succ]
                    refine wpAnyH_take (i := 33) (oi := { dst := some 102, op := Op.move (Operand.tmp 13), type := 4, pos := "outright.go:36", after := #[{ on := 32, ground := Ground.guard }], guard := some (32, true) }) (v := undef) rfl (by kernel_rfl) (by kernel_rfl) (by kernel_rfl) (fun _ _ _ h => h) (Or.inr ⟨by rfl, rfl⟩) (by assumption) ?_
                    try simp only [Act.put, List.setIfInBounds_toArray, List.set_cons_zero, List.set_cons_succ]
                    refine wpAnyH_take (i := 34) (oi := { dst := some 103, op := Op.unOp UnOp.not 4 (Operand.tmp 102), type := 4, pos := "outright.go:36", after := #[{ on := 33, ground := Ground.data }, { on := 32, ground := Ground.guard }], guard := some (32, true) }) (v := undef) rfl (by kernel_rfl) (by kernel_rfl) (by kernel_rfl) (fun _ _ _ h => h) (Or.inr ⟨by rfl, rfl⟩) (by assumption) ?_
                    try simp only [Act.put, List.setIfInBounds_toArray, List.set_cons_zero, List.set_cons_succ]
                    refine wpAnyH_take (i := 35) (oi := { dst := some 104, op := Op.pick (Operand.tmp 101) (Operand.tmp 103) (Operand.const (Value.bool false)), type := 4, pos := "outright.go:36", after := #[{ on := 32, ground := Ground.data }, { on := 34, ground := Ground.data }, { on := 30, ground := Ground.guard }], guard := some (30, false) }) (v := ?vv28) rfl (by kernel_rfl) (by kernel_rfl) (by kernel_rfl) (fun _ _ _ h => h) (Or.inl ⟨by rfl, ?hy28⟩) (by assumption) ?_
                    case hy28 => (intro w hSw; (try dsimp only at hSw); go_simp; all_goals with_reducible rfl)
                    try simp only [Act.put, List.setIfInBounds_toArray, List.set_cons_zero, List.set_cons_succ]
                    refine wpAnyH_take (i := 36) (oi := { dst := some 105, op := Op.pick (Operand.tmp 99) (Operand.const (Value.bool true)) (Operand.tmp 104), type := 4, pos := "outright.go:36", after := #[{ on := 30, ground := Ground.data }, { on := 35, ground := Ground.data }], guard := none }) (v := ?vv29) rfl (by kernel_rfl) (by kernel_rfl) (by kernel_rfl) (fun _ _ _ h => h) (Or.inl ⟨by rfl, ?hy29⟩) (by assumption) ?_
                    case hy29 => (intro w hSw; (try dsimp only at hSw); go_simp; all_goals with_reducible rfl)
                    try simp only [Act.put, List.setIfInBounds_toArray, List.set_cons_zero, List.set_cons_succ]
                    refine wpAnyH_take (i := 37) (oi := { dst := some 106, op := Op.move (Operand.tmp 105), type := 4, pos := "outright.go:36", after := #[{ on := 36, ground := Ground.data }, { on := 32, ground := Ground.chain }], guard := none }) (v := ?vv30) rfl (by kernel_rfl) (by kernel_rfl) (by kernel_rfl) (fun _ _ _ h => h) (Or.inl ⟨by rfl, ?hy30⟩) (by assumption) ?_
                    case hy30 => (intro w hSw; (try dsimp only at hSw); go_simp; all_goals with_reducible rfl)
                    try simp only [Act.put, List.setIfInBounds_toArray, List.set_cons_zero, List.set_cons_succ]
                    refine wpAnyH_take (i := 38) (oi := { dst := some 107, op := Op.move (Operand.tmp 12), type := 4, pos := "outright.go:36", after := #[{ on := 37, ground := Ground.guard }], guard := some (37, false) }) (v := ?vv31) rfl (by kernel_rfl) (by kernel_rfl) (by kernel_rfl) (fun _ _ _ h => h) (Or.inl ⟨by rfl, ?hy31⟩) (by assumption) ?_
                    case hy31 => (intro w hSw; (try dsimp only at hSw); go_simp; all_goals with_reducible rfl)
                    try simp only [Act.put, List.setIfInBounds_toArray, List.set_cons_zero, List.set_cons_succ]
                    refine wpAnyH_take (i := 39) (oi := { dst := some 108, op := Op.unOp UnOp.not 4 (Operand.tmp 107), type := 4, pos := "outright.go:36", after := #[{ on := 38, ground := Ground.data }, { on := 37, ground := Ground.guard }], guard := some (37, false) }) (v := ?vv32) rfl (by kernel_rfl) (by kernel_rfl) (by kernel_rfl) (fun _ _ _ h => h) (Or.inl ⟨by rfl, ?hy32⟩) (by assumption) ?_
                    case hy32 => (intro w hSw; (try dsimp only at hSw); go_simp; all_goals with_reducible rfl)
                    try simp only [Act.put, List.setIfInBounds_toArray, List.set_cons_zero, List.set_cons_succ]
                    refine wpAnyH_take (i := 40) (oi := { dst := some 109, op := Op.move (Operand.tmp 108), type := 4, pos := "outright.go:36", after := #[{ on := 39, ground := Ground.data }, { on := 37, ground := Ground.chain }, { on := 37, ground := Ground.guard }], guard := some (37, false) }) (v := ?vv33) rfl (by kernel_rfl) (by kernel_rfl) (by kernel_rfl) (fun _ _ _ h => h) (Or.inl ⟨by rfl, ?hy33⟩) (by assumption) ?_
                    case hy33 => (intro w hSw; (try dsimp only at hSw); go_simp; all_goals with_reducible rfl)
                    try simp only [Act.put, List.setIfInBounds_toArray, List.set_cons_zero, List.set_cons_succ]
                    refine wpAnyH_take (i := 41) (oi := { dst := some 110, op := Op.move (Operand.tmp 13), type := 4, pos := "outright.go:36", after := #[{ on := 40, ground := Ground.guard }], guard := some (40, true) }) (v := ?vv34) rfl (by kernel_rfl) (by kernel_rfl) (by kernel_rfl) (fun _ _ _ h => h) (Or.inl ⟨by rfl, ?hy34⟩) (by assumption) ?_
                    case hy34 => (intro w hSw; (try dsimp only at hSw); go_simp; all_goals with_reducible rfl)
                    try simp only [Act.put, List.setIfInBounds_toArray, List.set_cons_zero, List.set_cons_succ]
                    refine wpAnyH_take (i := 42) (oi := { dst := some 111, op := Op.pick (Operand.tmp 109) (Operand.tmp 110) (Operand.const (Value.bool false)), type := 4, pos := "outright.go:36", after := #[{ on := 40, ground := Ground.data }, { on := 41, ground := Ground.data }, { on := 37, ground := Ground.guard }], guard := some (37, false) }) (v := ?vv35) rfl (by kernel_rfl) (by kernel_rfl) (by kernel_rfl) (fun _ _ _ h => h) (Or.inl ⟨by rfl, ?hy35⟩) (by assumption) ?_
                    case hy35 => (intro w hSw; (try dsimp only at hSw); go_simp; all_goals with_reducible rfl)
                    try simp only [Act.put, List.setIfInBounds_toArray, List.set_cons_zero, List.set_cons_succ]
                    refine wpAnyH_take (i := 43) (oi := { dst := some 112, op := Op.pick (Operand.tmp 106) (Operand.const (Value.bool true)) (Operand.tmp 111), type := 4, pos := "outright.go:36", after := #[{ on := 37, ground := Ground.data }, { on := 42, ground := Ground.data }], guard := none }) (v := ?vv36) rfl (by kernel_rfl) (by kernel_rfl) (by kernel_rfl) (fun _ _ _ h => h) (Or.inl ⟨by rfl, ?hy36⟩) (by assumption) ?_
                    case hy36 => (intro w hSw; (try dsimp only at hSw); go_simp; all_goals with_reducible rfl)
                    try simp only [Act.put, List.setIfInBounds_toArray, List.set_cons_zero, List.set_cons_succ]
                    refine wpAnyH_done (by kernel_rfl) ?_ _
                    go_wp2_with fail
                    go_meet
                    exact ⟨rfl, rfl⟩
                  case rest =>
                    obtain ⟨rfl, hwd⟩ := hcut
                    subst hwd
                    obtain ⟨base, cap, w9, hrun, hS9, h29⟩ := (HS7.out.below (Below.refl _ _).drew).bear 0 (.inl rfl) id (by omega)
                    simp only [if_true, if_neg (show ¬ (0 = 1) by decide)] at hS9
                    have hrun9 : Hid _ := hrun
                    have HS9 : Hid _ := hS9
                    have H29 : Hid _ := h29
                    clear hrun hS9 h29 hlen
                    have hoq1 : O ≠ q := fun e => by
                      have h2 := HS7.out.ar
                      rw [← e, HOP7.out] at h2
                      injection h2 with h2; injection h2 with _ h2; exact absurd h2 (by decide)
                    have hoq2 : q ≠ O := fun e => hoq1 e.symm
                    go_wp2_with (at_builtin; refine Lib.wpList_append_run _ rfl (.tmp 119) (.tmp 122) 30 30 rfl _ _ rfl rfl _ _ hrun9.out ?_)
                    go_meet
                    have hll : (bn ++ [id]).length = bn.length + 1 := by simp
                    exact ⟨base, cap, bn ++ [id], _, _, by rw [hll], by rw [hll]; exact HS9, HB6, HBT, H29.out _ _ HOP7.out, HF20⟩
            · rw [hod] at hand htm htm2 b3 b7 b8
              obtain ⟨hk12, hby⟩ := b4 hod
              rw [HTT.out.2] at b3
              rw [if_pos rfl] at hand
              simp only [Bool.not_true] at b8
              rw [HTT.out.1] at b8
              have hle : decide (id ≤ t1) = false := decide_eq_false (by omega)
              have HBT : Hid (T'.top false = t0 ∧ T'.top true = id) := ⟨b8, b7⟩
              clear b4 b5 b3 b7 b8
              rcases hk12 with hk1 | hk1
              · subst hk1
                as_aux_lemma =>
                  go_upto_region 15 with fail
                  go_cut [13] from 34 to 159 (fun x wx => x = .bool true ∧ wx = wc)
                  case first =>
                    cases g <;> cases cl <;> first
                      | exact absurd hby (by decide)
                      | (go_wp2_with fail
                         go_meet
                         exact ⟨rfl, rfl⟩)
                  case rest =>
                    obtain ⟨rfl, hwc⟩ := hcut
                    subst hwc
                    clear hby
                    go_upto_region 16 with fail
                    go_cut [112] from 34 to 159 (fun x wx => x = .bool false ∧ wx = wc.drew)
                    case first =>
                      refine wp_region_held_drew (S := (fun W => W.cell? ⟨q, 0, none⟩ = some (.int .i64 t0) ∧ W.cell? ⟨q, 1, none⟩ = some (.int .i64 t1) ∧ W.cell? ⟨O, 1, none⟩ = some (.int .i64 id) ∧ W.cell? ⟨O, 3, none⟩ = some (.int .i64 1))) (by kernel_rfl) ⟨c0, c1, o1, o3⟩ (fun hHeld => ?_)
                      refine wpAnyH_take (i := 0) (oi := { dst := some 69, op := Op.fieldAddr 29 (Operand.tmp 9) 1, type := 0, pos := "outright.go:36", after := #[], guard := none }) (v := ?vv37) rfl (by kernel_rfl) (by kernel_rfl) (by kernel_rfl) (fun _ _ _ h => h) (Or.inl ⟨by rfl, ?hy37⟩) (by assumption) ?_
                      case hy37 => (intro w hSw; (try dsimp only at hSw); go_simp; all_goals with_reducible rfl)
                      try simp only [Act.put, List.setIfInBounds_toArray, List.set_cons_zero, List.set_cons_succ]
                      refine wpAnyH_take (i := 1) (oi := { dst := some 70, op := Op.load 2 (Operand.tmp 69), type := 2, pos := "outright.go:36", after := #[{ on := 0, ground := Ground.data }], guard := none }) (v := ?vv38) rfl (by kernel_rfl) (by kernel_rfl) (by kernel_rfl) (fun _ _ _ h => h) (Or.inl ⟨by rfl, ?hy38⟩) (by assumption) ?_
                      case hy38 => (intro w hSw; (try dsimp only at hSw); go_simp; all_goals with_reducible rfl)
                      try simp only [Act.put, List.setIfInBounds_toArray, List.set_cons_zero, List.set_cons_succ]
                      refine wpAnyH_take (i := 2) (oi := { dst := some 71, op := Op.fieldAddr 29 (Operand.tmp 9) 1, type := 0, pos := "outright.go:36", after := #[], guard := none }) (v := ?vv39) rfl (by kernel_rfl) (by kernel_rfl) (by kernel_rfl) (fun _ _ _ h => h) (Or.inl ⟨by rfl, ?hy39⟩) (by assumption) ?_
                      case hy39 => (intro w hSw; (try dsimp only at hSw); go_simp; all_goals with_reducible rfl)
                      try simp only [Act.put, List.setIfInBounds_toArray, List.set_cons_zero, List.set_cons_succ]
                      refine wpAnyH_take (i := 3) (oi := { dst := some 72, op := Op.load 2 (Operand.tmp 71), type := 2, pos := "outright.go:36", after := #[{ on := 2, ground := Ground.data }], guard := none }) (v := ?vv40) rfl (by kernel_rfl) (by kernel_rfl) (by kernel_rfl) (fun _ _ _ h => h) (Or.inl ⟨by rfl, ?hy40⟩) (by assumption) ?_
                      case hy40 => (intro w hSw; (try dsimp only at hSw); go_simp; all_goals with_reducible rfl)
                      try simp only [Act.put, List.setIfInBounds_toArray, List.set_cons_zero, List.set_cons_succ]
                      refine wpAnyH_take (i := 4) (oi := { dst := some 73, op := Op.binOp BinOp.and 2 (Operand.tmp 72) (Operand.const (Value.int IntKind.i64 1)) 2, type := 2, pos := "outright.go:36", after := #[{ on := 3, ground := Ground.data }], guard := none }) (v := ?vv41) rfl (by kernel_rfl) (by kernel_rfl) (by kernel_rfl) (fun _ _ _ h => h) (Or.inl ⟨by rfl, ?hy41⟩) (by assumption) ?_
                      case hy41 => (intro w hSw; (try dsimp only at hSw); go_simp; all_goals with_reducible rfl)
                      try simp only [Act.put, List.setIfInBounds_toArray, List.set_cons_zero, List.set_cons_succ]
                      refine wpAnyH_take (i := 5) (oi := { dst := some 74, op := Op.indexAddr 36 (Operand.tmp 7) (Operand.tmp 73), type := 0, pos := "outright.go:36", after := #[{ on := 4, ground := Ground.data }], guard := none }) (v := ?vv42) rfl (by kernel_rfl) (by kernel_rfl) (by kernel_rfl) (fun _ _ _ h => h) (Or.inl ⟨by rfl, ?hy42⟩) (by assumption) ?_
                      case hy42 => (intro w hSw; (try dsimp only at hSw); go_simp; all_goals with_reducible rfl)
                      try simp only [Act.put, List.setIfInBounds_toArray, List.set_cons_zero, List.set_cons_succ]
                      refine wpAnyH_take (i := 6) (oi := { dst := some 75, op := Op.load 2 (Operand.tmp 74), type := 2, pos := "outright.go:36", after := #[{ on := 5, ground := Ground.data }], guard := none }) (v := ?vv43) rfl (by kernel_rfl) (by kernel_rfl) (by kernel_rfl) (fun _ _ _ h => h) (Or.inl ⟨by rfl, ?hy43⟩) (by assumption) ?_
                      case hy43 => (intro w hSw; (try dsimp only at hSw); go_simp; all_goals with_reducible rfl)
                      try simp only [Act.put, List.setIfInBounds_toArray, List.set_cons_zero, List.set_cons_succ]
                      refine wpAnyH_take (i := 7) (oi := { dst := some 76, op := Op.binOp BinOp.leq 2 (Operand.tmp 70) (Operand.tmp 75) 2, type := 4, pos := "outright.go:36", after := #[{ on := 1, ground := Ground.data }, { on := 6, ground := Ground.data }], guard := none }) (v := ?vv44) rfl (by kernel_rfl) (by kernel_rfl) (by kernel_rfl) (fun _ _ _ h => h) (Or.inl ⟨by rfl, ?hy44⟩) (by assumption) ?_
                      case hy44 => (intro w hSw; (try dsimp only at hSw); go_simp; all_goals with_reducible rfl)
                      try simp only [Act.put, List.setIfInBounds_toArray, List.set_cons_zero, List.set_cons_succ]
                      refine wpAnyH_take (i := 8) (oi := { dst := some 77, op := Op.move (Operand.tmp 76), type := 4, pos := "outright.go:36", after := #[{ on := 7, ground := Ground.data }], guard := none }) (v := ?vv45) rfl (by kernel_rfl) (by kernel_rfl) (by kernel_rfl) (fun _ _ _ h => h) (Or.inl ⟨by rfl, ?hy45⟩) (by assumption) ?_
                      case hy45 => (intro w hSw; (try dsimp only at hSw); go_simp; all_goals with_reducible rfl)
                      try simp only [Act.put, List.setIfInBounds_toArray, List.set_cons_zero, List.set_cons_succ]
                      refine wpAnyH_take (i := 9) (oi := { dst := some 78, op := Op.move (Operand.tmp 12), type := 4, pos := "outright.go:36", after := #[{ on := 8, ground := Ground.guard }], guard := some (8, false) }) (v := ?vv46) rfl (by kernel_rfl) (by kernel_rfl) (by kernel_rfl) (fun _ _ _ h => h) (Or.inl ⟨by rfl, ?hy46⟩) (by assumption) ?_
                      case hy46 => (intro w hSw; (try dsimp only at hSw); go_simp; all_goals with_reducible rfl)
                      try simp only [Act.put, List.setIfInBounds_toArray, List.set_cons_zero, List.set_cons_succ]
                      refine wpAnyH_take (i := 10) (oi := { dst := some 79, op := Op.move (Operand.tmp 78), type := 4, pos := "outright.go:36", after := #[{ on := 9, ground := Ground.data }, { on := 8, ground := Ground.chain }, { on := 8, ground := Ground.guard }], guard := some (8, false) }) (v := ?vv47) rfl (by kernel_rfl) (by kernel_rfl) (by kernel_rfl) (fun _ _ _ h => h) (Or.inl ⟨by rfl, ?hy47⟩) (by assumption) ?_
                      case hy47 => (intro w hSw; (try dsimp only at hSw); go_simp; all_goals with_reducible rfl)
                      try simp only [Act.put, List.setIfInBounds_toArray, List.set_cons_zero, List.set_cons_succ]
                      refine wpAnyH_take (i := 11) (oi := { dst := some 80, op := Op.fieldAddr 29 (Operand.tmp 9) 3, type := 0, pos := "outright.go:36", after := #[{ on := 10, ground := Ground.guard }], guard := some (10, true) }) (v := ?vv48) rfl (by kernel_rfl) (by kernel_rfl) (by kernel_rfl) (fun _ _ _ h => h) (Or.inl ⟨by rfl, ?hy48⟩) (by assumption) ?_
                      case hy48 => (intro w hSw; (try dsimp only at hSw); go_simp; all_goals with_reducible rfl)
                      try simp only [Act.put, List.setIfInBounds_toArray, List.set_cons_zero, List.set_cons_succ]
                      refine wpAnyH_take (i := 12) (oi := { dst := some 81, op := Op.load 3 (Operand.tmp 80), type := 3, pos := "outright.go:36", after := #[{ on := 11, ground := Ground.data }, { on := 10, ground := Ground.guard }], guard := some (10, true) }) (v := ?vv49) rfl (by kernel_rfl) (by kernel_rfl) (by kernel_rfl) (fun _ _ _ h => h) (Or.inl ⟨by rfl, ?hy49⟩) (by assumption) ?_
                      case hy49 => (intro w hSw; (try dsimp only at hSw); go_simp; all_goals with_reducible rfl)
                      try simp only [Act.put, List.setIfInBounds_toArray, List.set_cons_zero, List.set_cons_succ]
                      refine wpAnyH_take (i := 13) (oi := { dst := some 82, op := Op.binOp BinOp.neq 3 (Operand.tmp 81) (Operand.const (Value.int IntKind.i64 1)) 3, type := 4, pos := "outright.go:36", after := #[{ on := 12, ground := Ground.data }, { on := 10, ground := Ground.guard }], guard := some (10, true) }) (v := ?vv50) rfl (by kernel_rfl) (by kernel_rfl) (by kernel_rfl) (fun _ _ _ h => h) (Or.inl ⟨by rfl, ?hy50⟩) (by assumption) ?_
                      case hy50 => (intro w hSw; (try dsimp only at hSw); go_simp; all_goals with_reducible rfl)
                      try simp only [Act.put, List.setIfInBounds_toArray, List.set_cons_zero, List.set_cons_succ]
                      refine wpAnyH_take (i := 14) (oi := { dst := some 83, op := Op.pick (Operand.tmp 79) (Operand.tmp 82) (Operand.const (Value.bool false)), type := 4, pos := "outright.go:36", after := #[{ on := 10, ground := Ground.data }, { on := 13, ground := Ground.data }, { on := 8, ground := Ground.guard }], guard := some (8, false) }) (v := ?vv51) rfl (by kernel_rfl) (by kernel_rfl) (by kernel_rfl) (fun _ _ _ h => h) (Or.inl ⟨by rfl, ?hy51⟩) (by assumption) ?_
                      case hy51 => (intro w hSw; (try dsimp only at hSw); go_simp; all_goals with_reducible rfl)
                      try simp only [Act.put, List.setIfInBounds_toArray, List.set_cons_zero, List.set_cons_succ]
                      refine wpAnyH_take (i := 15) (oi := { dst := some 84, op := Op.move (Operand.tmp 83), type := 4, pos := "outright.go:36", after := #[{ on := 14, ground := Ground.data }, { on := 10, ground := Ground.chain }, { on := 8, ground := Ground.guard }], guard := some (8, false) }) (v := ?vv52) rfl (by kernel_rfl) (by kernel_rfl) (by kernel_rfl) (fun _ _ _ h => h) (Or.inl ⟨by rfl, ?hy52⟩) (by assumption) ?_
                      case hy52 => (intro w hSw; (try dsimp only at hSw); go_simp; all_goals with_reducible rfl)
                      try simp only [Act.put, List.setIfInBounds_toArray, List.set_cons_zero, List.set_cons_succ]
                      refine wpAnyH_take (i := 16) (oi := { dst := some 85, op := Op.fieldAddr 29 (Operand.tmp 9) 3, type := 0, pos := "outright.go:36", after := #[{ on := 15, ground := Ground.guard }], guard := some (15, true) }) (v := undef) rfl (by kernel_rfl) (by kernel_rfl) (by kernel_rfl) (fun _ _ _ h => h) (Or.inr ⟨by rfl, rfl⟩) (by assumption) ?_
                      try simp only [Act.put, List.setIfInBounds_toArray, List.set_cons_zero, List.set_cons_succ]
                      refine wpAnyH_take (i := 17) (oi := { dst := some 86, op := Op.load 3 (Operand.tmp 85), type := 3, pos := "outright.go:36", after := #[{ on := 16, ground := Ground.data }, { on := 15, ground := Ground.guard }], guard := some (15, true) }) (v := undef) rfl (by kernel_rfl) (by kernel_rfl) (by kernel_rfl) (fun _ _ _ h => h) (Or.inr ⟨by rfl, rfl⟩) (by assumption) ?_
                      try simp only [Act.put, List.setIfInBounds_toArray, List.set_cons_zero, List.set_cons_succ]
                      refine wpAnyH_take (i := 18) (oi := { dst := some 87, op := Op.binOp BinOp.neq 3 (Operand.tmp 86) (Operand.const (Value.int IntKind.i64 2)) 3, type := 4, pos := "outright.go:36", after := #[{ on := 17, ground := Ground.data }, { on := 15, ground := Ground.guard }], guard := some (15, true) }) (v := undef) rfl (by kernel_rfl) (by kernel_rfl) (by kernel_rfl) (fun _ _ _ h => h) (Or.inr ⟨by rfl, rfl⟩) (by assumption) ?_
                      try simp only [Act.put, List.setIfInBounds_toArray, List.set_cons_zero, List.set_cons_succ]
                      refine wpAnyH_take (i := 19) (oi := { dst := some 88, op := Op.pick (Operand.tmp 84) (Operand.tmp 87) (Operand.const (Value.bool false)), type := 4, pos := "outright.go:36", after := #[{ on := 15, ground := Ground.data }, { on := 18, ground := Ground.data }, { on := 8, ground := Ground.guard }], guard := some (8, false) }) (v := ?vv53) rfl (by kernel_rfl) (by kernel_rfl) (by kernel_rfl) (fun _ _ _ h => h) (Or.inl ⟨by rfl, ?hy53⟩) (by assumption) ?_
                      case hy53 => (intro w hSw; (try dsimp only at hSw); go_simp; all_goals with_reducible rfl)
                      try simp only [Act.put, List.setIfInBounds_toArray, List.set_cons_zero, List.set_cons_succ]
                      refine wpAnyH_take (i := 20) (oi := { dst := some 89, op := Op.pick (Operand.tmp 77) (Operand.const (Value.bool true)) (Operand.tmp 88), type := 4, pos := "outright.go:36", after := #[{ on := 8, ground := Ground.data }, { on := 19, ground := Ground.data }], guard := none }) (v := ?vv54) rfl (by kernel_rfl) (by kernel_rfl) (by kernel_rfl) (fun _ _ _ h => h) (Or.inl ⟨by rfl, ?hy54⟩) (by assumption) ?_
                      case hy54 => (intro w hSw; (try dsimp only at hSw); go_simp; all_goals with_reducible rfl)
                      try simp only [Act.put, List.setIfInBounds_toArray, List.set_cons_zero, List.set_cons_succ]
                      refine wpAnyH_take (i := 21) (oi := { dst := some 90, op := Op.move (Operand.tmp 89), type := 4, pos := "outright.go:36", after := #[{ on := 20, ground := Ground.data }, { on := 15, ground := Ground.chain }], guard := none }) (v := ?vv55) rfl (by kernel_rfl) (by kernel_rfl) (by kernel_rfl) (fun _ _ _ h => h) (Or.inl ⟨by rfl, ?hy55⟩) (by assumption) ?_
                      case hy55 => (intro w hSw; (try dsimp only at hSw); go_simp; all_goals with_reducible rfl)
                      try simp only [Act.put, List.setIfInBounds_toArray, List.set_cons_zero, List.set_cons_succ]
                      refine wpAnyH_take (i := 22) (oi := { dst := some 91, op := Op.move (Operand.tmp 12), type := 4, pos := "outright.go:36", after := #[{ on := 21, ground := Ground.guard }], guard := some (21, false) }) (v := ?vv56) rfl (by kernel_rfl) (by kernel_rfl) (by kernel_rfl) (fun _ _ _ h => h) (Or.inl ⟨by rfl, ?hy56⟩) (by assumption) ?_
                      case hy56 => (intro w hSw; (try dsimp only at hSw); go_simp; all_goals with_reducible rfl)
                      try simp only [Act.put, List.setIfInBounds_toArray, List.set_cons_zero, List.set_cons_succ]
                      refine wpAnyH_take (i := 23) (oi := { dst := some 92, op := Op.unOp UnOp.not 4 (Operand.tmp 91), type := 4, pos := "outright.go:36", after := #[{ on := 22, ground := Ground.data }, { on := 21, ground := Ground.guard }], guard := some (21, false) }) (v := ?vv57) rfl (by kernel_rfl) (by kernel_rfl) (by kernel_rfl) (fun _ _ _ h => h) (Or.inl ⟨by rfl, ?hy57⟩) (by assumption) ?_
                      case hy57 => (intro w hSw; (try dsimp only at hSw); go_simp; all_goals with_reducible rfl)
                      try simp only [Act.put, List.setIfInBounds_toArray, List.set_cons_zero, List.set_cons_succ]
                      refine wpAnyH_take (i := 24) (oi := { dst := some 93, op := Op.move (Operand.tmp 92), type := 4, pos := "outright.go:36", after := #[{ on := 23, ground := Ground.data }, { on := 21, ground := Ground.chain }, { on := 21, ground := Ground.guard }], guard := some (21, false) }) (v := ?vv58) rfl (by kernel_rfl) (by kernel_rfl) (by kernel_rfl) (fun _ _ _ h => h) (Or.inl ⟨by rfl, ?hy58⟩) (by assumption) ?_
                      case hy58 => (intro w hSw; (try dsimp only at hSw); go_simp; all_goals with_reducible rfl)
                      try simp only [Act.put, List.setIfInBounds_toArray, List.set_cons_zero, List.set_cons_succ]
                      refine wpAnyH_take (i := 25) (oi := { dst := some 94, op := Op.fieldAddr 29 (Operand.tmp 9) 3, type := 0, pos := "outright.go:36", after := #[{ on := 24, ground := Ground.guard }], guard := some (24, true) }) (v := undef) rfl (by kernel_rfl) (by kernel_rfl) (by kernel_rfl) (fun _ _ _ h => h) (Or.inr ⟨by rfl, rfl⟩) (by assumption) ?_
                      try simp only [Act.put, List.setIfInBounds_toArray, List.set_cons_zero, List.set_cons_succ]
                      refine wpAnyH_take (i := 26) (oi := { dst := some 95, op := Op.load 3 (Operand.tmp 94), type := 3, pos := "outright.go:36", after := #[{ on := 25, ground := Ground.data }, { on := 24, ground := Ground.guard }], guard := some (24, true) }) (v := undef) rfl (by kernel_rfl) (by kernel_rfl) (by kernel_rfl) (fun _ _ _ h => h) (Or.inr ⟨by rfl, rfl⟩) (by assumption) ?_
                      try simp only [Act.put, List.setIfInBounds_toArray, List.set_cons_zero, List.set_cons_succ]
                      refine wpAnyH_take (i := 27) (oi := { dst := some 96, op := Op.binOp BinOp.neq 3 (Operand.tmp 95) (Operand.const (Value.int IntKind.i64 5)) 3, type := 4, pos := "outright.go:36", after := #[{ on := 26, ground := Ground.data }, { on := 24, ground := Ground.guard }], guard := some (24, true) }) (v := undef) rfl (by kernel_rfl) (by kernel_rfl) (by kernel_rfl) (fun _ _ _ h => h) (Or.inr ⟨by rfl, rfl⟩) (by assumption) ?_
                      try simp only [Act.put, List.setIfInBounds_toArray, List.set_cons_zero, List.set_cons_succ]
                      refine wpAnyH_take (i := 28) (oi := { dst := some 97, op := Op.pick (Operand.tmp 93) (Operand.tmp 96) (Operand.const (Value.bool false)), type := 4, pos := "outright.go:36", after := #[{ on := 24, ground := Ground.data }, { on := 27, ground := Ground.data }, { on := 21, ground := Ground.guard }], guard := some (21, false) }) (v := ?vv59) rfl (by kernel_rfl) (by kernel_rfl) (by kernel_rfl) (fun _ _ _ h => h) (Or.inl ⟨by rfl, ?hy59⟩) (by assumption) ?_
                      case hy59 => (intro w hSw; (try dsimp only at hSw); go_simp; all_goals with_reducible rfl)
                      try simp only [Act.put, List.setIfInBounds_toArray, List.set_cons_zero, List.set_cons_succ]
                      refine wpAnyH_take (i := 29) (oi := { dst := some 98, op := Op.pick (Operand.tmp 90) (Operand.const (Value.bool true)) (Operand.tmp 97), type := 4, pos := "outright.go:36", after := #[{ on := 21, ground := Ground.data }, { on := 28, ground := Ground.data }], guard := none }) (v := ?vv60) rfl (by kernel_rfl) (by kernel_rfl) (by kernel_rfl) (fun _ _ _ h => h) (Or.inl ⟨by rfl, ?hy60⟩) (by assumption) ?_
                      case hy60 => (intro w hSw; (try dsimp only at hSw); go_simp; all_goals with_reducible rfl)
                      try simp only [Act.put, List.setIfInBounds_toArray, List.set_cons_zero, List.set_cons_succ]
                      refine wpAnyH_take (i := 30) (oi := { dst := some 99, op := Op.move (Operand.tmp 98), type := 4, pos := "outright.go:36", after := #[{ on := 29, ground := Ground.data }, { on := 24, ground := Ground.chain }], guard := none }) (v := ?vv61) rfl (by kernel_rfl) (by kernel_rfl) (by kernel_rfl) (fun _ _ _ h => h) (Or.inl ⟨by rfl, ?hy61⟩) (by assumption) ?_
                      case hy61 => (intro w hSw; (try dsimp only at hSw); go_simp; all_goals with_reducible rfl)
                      try simp only [Act.put, List.setIfInBounds_toArray, List.set_cons_zero, List.set_cons_succ]
                      refine wpAnyH_take (i := 31) (oi := { dst := some 100, op := Op.move (Operand.tmp 12), type := 4, pos := "outright.go:36", after := #[{ on := 30, ground := Ground.guard }], guard := some (30, false) }) (v := ?vv62) rfl (by kernel_rfl) (by kernel_rfl) (by kernel_rfl) (fun _ _ _ h => h) (Or.inl ⟨by rfl, ?hy62⟩) (by assumption) ?_
                      case hy62 => (intro w hSw; (try dsimp only at hSw); go_simp; all_goals with_reducible rfl)
                      try simp only [Act.put, List.setIfInBounds_toArray, List.set_cons_zero, List.set_cons_succ]
                      refine wpAnyH_take (i := 32) (oi := { dst := some 101, op := Op.move (Operand.tmp 100), type := 4, pos := "outright.go:36", after := #[{ on := 31, ground := Ground.data }, { on := 30, ground := Ground.chain }, { on := 30, ground := Ground.guard }], guard := some (30, false) }) (v := ?vv63) rfl (by kernel_rfl) (by kernel_rfl) (by kernel_rfl) (fun _ _ _ h => h) (Or.inl ⟨by rfl, ?hy63⟩) (by assumption) ?_
                      case hy63 => (intro w hSw; (try dsimp only at hSw); go_simp; all_goals with_reducible rfl)
                      try simp only [Act.put, List.setIfInBounds_toArray, List.set_cons_zero, List.set_cons_succ]
                      refine wpAnyH_take (i := 33) (oi := { dst := some 102, op := Op.move (Operand.tmp 13), type := 4, pos := "outright.go:36", after := #[{ on := 32, ground := Ground.guard }], guard := some (32, true) }) (v := ?vv64) rfl (by kernel_rfl) (by kernel_rfl) (by kernel_rfl) (fun _ _ _ h => h) (Or.inl ⟨by rfl, ?hy64⟩) (by assumption) ?_
                      case hy64 => (intro w hSw; (try dsimp only at hSw); go_simp; all_goals with_reducible rfl)
                      try simp only [Act.put, List.setIfInBounds_toArray, List.set_cons_zero, List.set_cons_succ]
                      refine wpAnyH_take (i := 34) (oi := { dst := some 103, op := Op.unOp UnOp.not 4 (Operand.tmp 102), type := 4, pos := "outright.go:36", after := #[{ on := 33, ground := Ground.data }, { on := 32, ground := Ground.guard }], guard := some (32, true) }) (v := ?vv65) rfl (by kernel_rfl) (by kernel_rfl) (by kernel_rfl) (fun _ _ _ h => h) (Or.inl ⟨by rfl, ?hy65⟩) (by assumption) ?_
                      case hy65 => (intro w hSw; (try dsimp only at hSw); go_simp; all_goals with_reducible rfl)
                      try simp only [Act.put, List.setIfInBounds_toArray, List.set_cons_zero, List.set_cons_succ]
                      refine wpAnyH_take (i := 35) (oi := { dst := some 104, op := Op.pick (Operand.tmp 101) (Operand.tmp 103) (Operand.const (Value.bool false)), type := 4, pos := "outright.go:36", after := #[{ on := 32, ground := Ground.data }, { on := 34, ground := Ground.data }, { on := 30, ground := Ground.guard }], guard := some (30, false) }) (v := ?vv66) rfl (by kernel_rfl) (by kernel_rfl) (by kernel_rfl) (fun _ _ _ h => h) (Or.inl ⟨by rfl, ?hy66⟩) (by assumption) ?_
                      case hy66 => (intro w hSw; (try dsimp only at hSw); go_simp; all_goals with_reducible rfl)
                      try simp only [Act.put, List.setIfInBounds_toArray, List.set_cons_zero, List.set_cons_succ]
                      refine wpAnyH_take (i := 36) (oi := { dst := some 105, op := Op.pick (Operand.tmp 99) (Operand.const (Value.bool true)) (Operand.tmp 104), type := 4, pos := "outright.go:36", after := #[{ on := 30, ground := Ground.data }, { on := 35, ground := Ground.data }], guard := none }) (v := ?vv67) rfl (by kernel_rfl) (by kernel_rfl) (by kernel_rfl) (fun _ _ _ h => h) (Or.inl ⟨by rfl, ?hy67⟩) (by assumption) ?_
                      case hy67 => (intro w hSw; (try dsimp only at hSw); go_simp; all_goals with_reducible rfl)
                      try simp only [Act.put, List.setIfInBounds_toArray, List.set_cons_zero, List.set_cons_succ]
                      refine wpAnyH_take (i := 37) (oi := { dst := some 106, op := Op.move (Operand.tmp 105), type := 4, pos := "outright.go:36", after := #[{ on := 36, ground := Ground.data }, { on := 32, ground := Ground.chain }], guard := none }) (v := ?vv68) rfl (by kernel_rfl) (by kernel_rfl) (by kernel_rfl) (fun _ _ _ h => h) (Or.inl ⟨by rfl, ?hy68⟩) (by assumption) ?_
                      case hy68 => (intro w hSw; (try dsimp only at hSw); go_simp; all_goals with_reducible rfl)
                      try simp only [Act.put, List.setIfInBounds_toArray, List.set_cons_zero, List.set_cons_succ]
                      refine wpAnyH_take (i := 38) (oi := { dst := some 107, op := Op.move (Operand.tmp 12), type := 4, pos := "outright.go:36", after := #[{ on := 37, ground := Ground.guard }], guard := some (37, false) }) (v := ?vv69) rfl (by kernel_rfl) (by kernel_rfl) (by kernel_rfl) (fun _ _ _ h => h) (Or.inl ⟨by rfl, ?hy69⟩) (by assumption) ?_
                      case hy69 => (intro w hSw; (try dsimp only at hSw); go_simp; all_goals with_reducible rfl)
                      try simp only [Act.put, List.setIfInBounds_toArray, List.set_cons_zero, List.set_cons_succ]
                      refine wpAnyH_take (i := 39) (oi := { dst := some 108, op := Op.unOp UnOp.not 4 (Operand.tmp 107), type := 4, pos := "outright.go:36", after := #[{ on := 38, ground := Ground.data }, { on := 37, ground := Ground.guard }], guard := some (37, false) }) (v := ?vv70) rfl (by kernel_rfl) (by kernel_rfl) (by kernel_rfl) (fun _ _ _ h => h) (Or.inl ⟨by rfl, ?hy70⟩) (by assumption) ?_
                      case hy70 => (intro w hSw; (try dsimp only at hSw); go_simp; all_goals with_reducible rfl)
                      try simp only [Act.put, List.setIfInBounds_toArray, List.set_cons_zero, List.set_cons_succ]
                      refine wpAnyH_take (i := 40) (oi := { dst := some 109, op := Op.move (Operand.tmp 108), type := 4, pos := "outright.go:36", after := #[{ on := 39, ground := Ground.data }, { on := 37, ground := Ground.chain }, { on := 37, ground := Ground.guard }], guard := some (37, false) }) (v := ?vv71) rfl (by kernel_rfl) (by kernel_rfl) (by kernel_rfl) (fun _ _ _ h => h) (Or.inl ⟨by rfl, ?hy71⟩) (by assumption) ?_
                      case hy71 => (intro w hSw; (try dsimp only at hSw); go_simp; all_goals with_reducible rfl)
                      try simp only [Act.put, List.setIfInBounds_toArray, List.set_cons_zero, List.set_cons_succ]
                      refine wpAnyH_take (i := 41) (oi := { dst := some 110, op := Op.move (Operand.tmp 13), type := 4, pos := "outright.go:36", after := #[{ on := 40, ground := Ground.guard }], guard := some (40, true) }) (v := undef) rfl (by kernel_rfl) (by kernel_rfl) (by kernel_rfl) (fun _ _ _ h => h) (Or.inr ⟨by rfl, rfl⟩) (by assumption) ?_
                      try simp only [Act.put, List.setIfInBounds_toArray, List.set_cons_zero, List.set_cons_succ]
                      refine wpAnyH_take (i := 42) (oi := { dst := some 111, op := Op.pick (Operand.tmp 109) (Operand.tmp 110) (Operand.const (Value.bool false)), type := 4, pos := "outright.go:36", after := #[{ on := 40, ground := Ground.data }, { on := 41, ground := Ground.data }, { on := 37, ground := Ground.guard }], guard := some (37, false) }) (v := ?vv72) rfl (by kernel_rfl) (by kernel_rfl) (by kernel_rfl) (fun _ _ _ h => h) (Or.inl ⟨by rfl, ?hy72⟩) (by assumption) ?_
                      case hy72 => (intro w hSw; (try dsimp only at hSw); go_simp; all_goals with_reducible rfl)
                      try simp only [Act.put, List.setIfInBounds_toArray, List.set_cons_zero, List.set_cons_succ]
                      refine wpAnyH_take (i := 43) (oi := { dst := some 112, op := Op.pick (Operand.tmp 106) (Operand.const (Value.bool true)) (Operand.tmp 111), type := 4, pos := "outright.go:36", after := #[{ on := 37, ground := Ground.data }, { on := 42, ground := Ground.data }], guard := none }) (v := ?vv73) rfl (by kernel_rfl) (by kernel_rfl) (by kernel_rfl) (fun _ _ _ h => h) (Or.inl ⟨by rfl, ?hy73⟩) (by assumption) ?_
                      case hy73 => (intro w hSw; (try dsimp only at hSw); go_simp; all_goals with_reducible rfl)
                      try simp only [Act.put, List.setIfInBounds_toArray, List.set_cons_zero, List.set_cons_succ]
                      refine wpAnyH_done (by kernel_rfl) ?_ _
                      go_wp2_with fail
                      go_meet
                      exact ⟨rfl, rfl⟩
                    case rest =>
                      obtain ⟨rfl, hwd⟩ := hcut
                      subst hwd
                      obtain ⟨base, cap, w9, hrun, hS9, h29⟩ := (HS7.out.below (Below.refl _ _).drew).bear 1 (.inr rfl) id (by omega)
                      simp only [if_true, if_neg (show ¬ (1 = 0) by decide)] at hS9
                      have hrun9 : Hid _ := hrun
                      have HS9 : Hid _ := hS9
                      have H29 : Hid _ := h29
                      clear hrun hS9 h29 hlen
                      have hoq1 : O ≠ q := fun e => by
                        have h2 := HS7.out.ar
                        rw [← e, HOP7.out] at h2
                        injection h2 with h2; injection h2 with _ h2; exact absurd h2 (by decide)
                      have hoq2 : q ≠ O := fun e => hoq1 e.symm
                      go_wp2_with (at_builtin; refine Lib.wpList_append_run _ rfl (.tmp 119) (.tmp 122) 30 30 rfl _ _ rfl rfl _ _ hrun9.out ?_)
                      go_meet
                      have hll : (bn ++ [id]).length = bn.length + 1 := by simp
                      exact ⟨base, cap, bn ++ [id], _, _, by rw [hll], by rw [hll]; exact HS9, HB6, HBT, H29.out _ _ HOP7.out, HF20⟩
              · subst hk1
                as_aux_lemma =>
                  go_upto_region 15 with fail
                  go_cut [13] from 34 to 159 (fun x wx => x = .bool true ∧ wx = wc)
                  case first =>
                    cases g <;> cases cl <;> first
                      | exact absurd hby (by decide)
                      | (go_wp2_with fail
                         go_meet
                         exact ⟨rfl, rfl⟩)
                  case rest =>
                    obtain ⟨rfl, hwc⟩ := hcut
                    subst hwc
                    clear hby
                    go_upto_region 16 with fail
                    go_cut [112] from 34 to 159 (fun x wx => x = .bool false ∧ wx = wc.drew)
                    case first =>
                      refine wp_region_held_drew (S := (fun W => W.cell? ⟨q, 0, none⟩ = some (.int .i64 t0) ∧ W.cell? ⟨q, 1, none⟩ = some (.int .i64 t1) ∧ W.cell? ⟨O, 1, none⟩ = some (.int .i64 id) ∧ W.cell? ⟨O, 3, none⟩ = some (.int .i64 2))) (by kernel_rfl) ⟨c0, c1, o1, o3⟩ (fun hHeld => ?_)
                      refine wpAnyH_take (i := 0) (oi := { dst := some 69, op := Op.fieldAddr 29 (Operand.tmp 9) 1, type := 0, pos := "outright.go:36", after := #[], guard := none }) (v := ?vv74) rfl (by kernel_rfl) (by kernel_rfl) (by kernel_rfl) (fun _ _ _ h => h) (Or.inl ⟨by rfl, ?hy74⟩) (by assumption) ?_
                      case hy74 => (intro w hSw; (try dsimp only at hSw); go_simp; all_goals with_reducible rfl)
                      try simp only [Act.put, List.setIfInBounds_toArray, List.set_cons_zero, List.set_cons_succ]
                      refine wpAnyH_take (i := 1) (oi := { dst := some 70, op := Op.load 2 (Operand.tmp 69), type := 2, pos := "outright.go:36", after := #[{ on := 0, ground := Ground.data }], guard := none }) (v := ?vv75) rfl (by kernel_rfl) (by kernel_rfl) (by kernel_rfl) (fun _ _ _ h => h) (Or.inl ⟨by rfl, ?hy75⟩) (by assumption) ?_
                      case hy75 => (intro w hSw; (try dsimp only at hSw); go_simp; all_goals with_reducible rfl)
                      try simp only [Act.put, List.setIfInBounds_toArray, List.set_cons_zero, List.set_cons_succ]
                      refine wpAnyH_take (i := 2) (oi := { dst := some 71, op := Op.fieldAddr 29 (Operand.tmp 9) 1, type := 0, pos := "outright.go:36", after := #[], guard := none }) (v := ?vv76) rfl (by kernel_rfl) (by kernel_rfl) (by kernel_rfl) (fun _ _ _ h => h) (Or.inl ⟨by rfl, ?hy76⟩) (by assumption) ?_
                      case hy76 => (intro w hSw; (try dsimp only at hSw); go_simp; all_goals with_reducible rfl)
                      try simp only [Act.put, List.setIfInBounds_toArray, List.set_cons_zero, List.set_cons_succ]
                      refine wpAnyH_take (i := 3) (oi := { dst := some 72, op := Op.load 2 (Operand.tmp 71), type := 2, pos := "outright.go:36", after := #[{ on := 2, ground := Ground.data }], guard := none }) (v := ?vv77) rfl (by kernel_rfl) (by kernel_rfl) (by kernel_rfl) (fun _ _ _ h => h) (Or.inl ⟨by rfl, ?hy77⟩) (by assumption) ?_
                      case hy77 => (intro w hSw; (try dsimp only at hSw); go_simp; all_goals with_reducible rfl)
                      try simp only [Act.put, List.setIfInBounds_toArray, List.set_cons_zero, List.set_cons_succ]
                      refine wpAnyH_take (i := 4) (oi := { dst := some 73, op := Op.binOp BinOp.and 2 (Operand.tmp 72) (Operand.const (Value.int IntKind.i64 1)) 2, type := 2, pos := "outright.go:36", after := #[{ on := 3, ground := Ground.data }], guard := none }) (v := ?vv78) rfl (by kernel_rfl) (by kernel_rfl) (by kernel_rfl) (fun _ _ _ h => h) (Or.inl ⟨by rfl, ?hy78⟩) (by assumption) ?_
                      case hy78 => (intro w hSw; (try dsimp only at hSw); go_simp; all_goals with_reducible rfl)
                      try simp only [Act.put, List.setIfInBounds_toArray, List.set_cons_zero, List.set_cons_succ]
                      refine wpAnyH_take (i := 5) (oi := { dst := some 74, op := Op.indexAddr 36 (Operand.tmp 7) (Operand.tmp 73), type := 0, pos := "outright.go:36", after := #[{ on := 4, ground := Ground.data }], guard := none }) (v := ?vv79) rfl (by kernel_rfl) (by kernel_rfl) (by kernel_rfl) (fun _ _ _ h => h) (Or.inl ⟨by rfl, ?hy79⟩) (by assumption) ?_
                      case hy79 => (intro w hSw; (try dsimp only at hSw); go_simp; all_goals with_reducible rfl)
                      try simp only [Act.put, List.setIfInBounds_toArray, List.set_cons_zero, List.set_cons_succ]
                      refine wpAnyH_take (i := 6) (oi := { dst := some 75, op := Op.load 2 (Operand.tmp 74), type := 2, pos := "outright.go:36", after := #[{ on := 5, ground := Ground.data }], guard := none }) (v := ?vv80) rfl (by kernel_rfl) (by kernel_rfl) (by kernel_rfl) (fun _ _ _ h => h) (Or.inl ⟨by rfl, ?hy80⟩) (by assumption) ?_
                      case hy80 => (intro w hSw; (try dsimp only at hSw); go_simp; all_goals with_reducible rfl)
                      try simp only [Act.put, List.setIfInBounds_toArray, List.set_cons_zero, List.set_cons_succ]
                      refine wpAnyH_take (i := 7) (oi := { dst := some 76, op := Op.binOp BinOp.leq 2 (Operand.tmp 70) (Operand.tmp 75) 2, type := 4, pos := "outright.go:36", after := #[{ on := 1, ground := Ground.data }, { on := 6, ground := Ground.data }], guard := none }) (v := ?vv81) rfl (by kernel_rfl) (by kernel_rfl) (by kernel_rfl) (fun _ _ _ h => h) (Or.inl ⟨by rfl, ?hy81⟩) (by assumption) ?_
                      case hy81 => (intro w hSw; (try dsimp only at hSw); go_simp; all_goals with_reducible rfl)
                      try simp only [Act.put, List.setIfInBounds_toArray, List.set_cons_zero, List.set_cons_succ]
                      refine wpAnyH_take (i := 8) (oi := { dst := some 77, op := Op.move (Operand.tmp 76), type := 4, pos := "outright.go:36", after := #[{ on := 7, ground := Ground.data }], guard := none }) (v := ?vv82) rfl (by kernel_rfl) (by kernel_rfl) (by kernel_rfl) (fun _ _ _ h => h) (Or.inl ⟨by rfl, ?hy82⟩) (by assumption) ?_
                      case hy82 => (intro w hSw; (try dsimp only at hSw); go_simp; all_goals with_reducible rfl)
                      try simp only [Act.put, List.setIfInBounds_toArray, List.set_cons_zero, List.set_cons_succ]
                      refine wpAnyH_take (i := 9) (oi := { dst := some 78, op := Op.move (Operand.tmp 12), type := 4, pos := "outright.go:36", after := #[{ on := 8, ground := Ground.guard }], guard := some (8, false) }) (v := ?vv83) rfl (by kernel_rfl) (by kernel_rfl) (by kernel_rfl) (fun _ _ _ h => h) (Or.inl ⟨by rfl, ?hy83⟩) (by assumption) ?_
                      case hy83 => (intro w hSw; (try dsimp only at hSw); go_simp; all_goals with_reducible rfl)
                      try simp only [Act.put, List.setIfInBounds_toArray, List.set_cons_zero, List.set_cons_succ]
                      refine wpAnyH_take (i := 10) (oi := { dst := some 79, op := Op.move (Operand.tmp 78), type := 4, pos := "outright.go:36", after := #[{ on := 9, ground := Ground.data }, { on := 8, ground := Ground.chain }, { on := 8, ground := Ground.guard }], guard := some (8, false) }) (v := ?vv84) rfl (by kernel_rfl) (by kernel_rfl) (by kernel_rfl) (fun _ _ _ h => h) (Or.inl ⟨by rfl, ?hy84⟩) (by assumption) ?_
                      case hy84 => (intro w hSw; (try dsimp only at hSw); go_simp; all_goals with_reducible rfl)
                      try simp only [Act.put, List.setIfInBounds_toArray, List.set_cons_zero, List.set_cons_succ]
                      refine wpAnyH_take (i := 11) (oi := { dst := some 80, op := Op.fieldAddr 29 (Operand.tmp 9) 3, type := 0, pos := "outright.go:36", after := #[{ on := 10, ground := Ground.guard }], guard := some (10, true) }) (v := ?vv85) rfl (by kernel_rfl) (by kernel_rfl) (by kernel_rfl) (fun _ _ _ h => h) (Or.inl ⟨by rfl, ?hy85⟩) (by assumption) ?_
                      case hy85 => (intro w hSw; (try dsimp only at hSw); go_simp; all_goals with_reducible rfl)
                      try simp only [Act.put, List.setIfInBounds_toArray, List.set_cons_zero, List.set_cons_succ]
                      refine wpAnyH_take (i := 12) (oi := { dst := some 81, op := Op.load 3 (Operand.tmp 80), type := 3, pos := "outright.go:36", after := #[{ on := 11, ground := Ground.data }, { on := 10, ground := Ground.guard }], guard := some (10, true) }) (v := ?vv86) rfl (by kernel_rfl) (by kernel_rfl) (by kernel_rfl) (fun _ _ _ h => h) (Or.inl ⟨by rfl, ?hy86⟩) (by assumption) ?_
                      case hy86 => (intro w hSw; (try dsimp only at hSw); go_simp; all_goals with_reducible rfl)
                      try simp only [Act.put, List.setIfInBounds_toArray, List.set_cons_zero, List.set_cons_succ]
                      refine wpAnyH_take (i := 13) (oi := { dst := some 82, op := Op.binOp BinOp.neq 3 (Operand.tmp 81) (Operand.const (Value.int IntKind.i64 1)) 3, type := 4, pos := "outright.go:36", after := #[{ on := 12, ground := Ground.data }, { on := 10, ground := Ground.guard }], guard := some (10, true) }) (v := ?vv87) rfl (by kernel_rfl) (by kernel_rfl) (by kernel_rfl) (fun _ _ _ h => h) (Or.inl ⟨by rfl, ?hy87⟩) (by assumption) ?_
                      case hy87 => (intro w hSw; (try dsimp only at hSw); go_simp; all_goals with_reducible rfl)
                      try simp only [Act.put, List.setIfInBounds_toArray, List.set_cons_zero, List.set_cons_succ]
                      refine wpAnyH_take (i := 14) (oi := { dst := some 83, op := Op.pick (Operand.tmp 79) (Operand.tmp 82) (Operand.const (Value.bool false)), type := 4, pos := "outright.go:36", after := #[{ on := 10, ground := Ground.data }, { on := 13, ground := Ground.data }, { on := 8, ground := Ground.guard }], guard := some (8, false) }) (v := ?vv88) rfl (by kernel_rfl) (by kernel_rfl) (by kernel_rfl) (fun _ _ _ h => h) (Or.inl ⟨by rfl, ?hy88⟩) (by assumption) ?_
                      case hy88 => (intro w hSw; (try dsimp only at hSw); go_simp; all_goals with_reducible rfl)
                      try simp only [Act.put, List.setIfInBounds_toArray, List.set_cons_zero, List.set_cons_succ]
                      refine wpAnyH_take (i := 15) (oi := { dst := some 84, op := Op.move (Operand.tmp 83), type := 4, pos := "outright.go:36", after := #[{ on := 14, ground := Ground.data }, { on := 10, ground := Ground.chain }, { on := 8, ground := Ground.guard }], guard := some (8, false) }) (v := ?vv89) rfl (by kernel_rfl) (by kernel_rfl) (by kernel_rfl) (fun _ _ _ h => h) (Or.inl ⟨by rfl, ?hy89⟩) (by assumption) ?_
                      case hy89 => (intro w hSw; (try dsimp only at hSw); go_simp; all_goals with_reducible rfl)
                      try simp only [Act.put, List.setIfInBounds_toArray, List.set_cons_zero, List.set_cons_succ]
                      refine wpAnyH_take (i := 16) (oi := { dst := some 85, op := Op.fieldAddr 29 (Operand.tmp 9) 3, type := 0, pos := "outright.go:36", after := #[{ on := 15, ground := Ground.guard }], guard := some (15, true) }) (v := ?vv90) rfl (by kernel_rfl) (by kernel_rfl) (by kernel_rfl) (fun _ _ _ h => h) (Or.inl ⟨by rfl, ?hy90⟩) (by assumption) ?_
                      case hy90 => (intro w hSw; (try dsimp only at hSw); go_simp; all_goals with_reducible rfl)
                      try simp only [Act.put, List.setIfInBounds_toArray, List.set_cons_zero, List.set_cons_succ]
                      refine wpAnyH_take (i := 17) (oi := { dst := some 86, op := Op.load 3 (Operand.tmp 85), type := 3, pos := "outright.go:36", after := #[{ on := 16, ground := Ground.data }, { on := 15, ground := Ground.guard }], guard := some (15, true) }) (v := ?vv91) rfl (by kernel_rfl) (by kernel_rfl) (by kernel_rfl) (fun _ _ _ h => h) (Or.inl ⟨by rfl, ?hy91⟩) (by assumption) ?_
                      case hy91 => (intro w hSw; (try dsimp only at hSw); go_simp; all_goals with_reducible rfl)
                      try simp only [Act.put, List.setIfInBounds_toArray, List.set_cons_zero, List.set_cons_succ]
                      refine wpAnyH_take (i := 18) (oi := { dst := some 87, op := Op.binOp BinOp.neq 3 (Operand.tmp 86) (Operand.const (Value.int IntKind.i64 2)) 3, type := 4, pos := "outright.go:36", after := #[{ on := 17, ground := Ground.data }, { on := 15, ground := Ground.guard }], guard := some (15, true) }) (v := ?vv92) rfl (by kernel_rfl) (by kernel_rfl) (by kernel_rfl) (fun _ _ _ h => h) (Or.inl ⟨by rfl, ?hy92⟩) (by assumption) ?_
                      case hy92 => (intro w hSw; (try dsimp only at hSw); go_simp; all_goals with_reducible rfl)
                      try simp only [Act.put, List.setIfInBounds_toArray, List.set_cons_zero, List.set_cons_succ]
                      refine wpAnyH_take (i := 19) (oi := { dst := some 88, op := Op.pick (Operand.tmp 84) (Operand.tmp 87) (Operand.const (Value.bool false)), type := 4, pos := "outright.go:36", after := #[{ on := 15, ground := Ground.data }, { on := 18, ground := Ground.data }, { on := 8, ground := Ground.guard }], guard := some (8, false) }) (v := ?vv93) rfl (by kernel_rfl) (by kernel_rfl) (by kernel_rfl) (fun _ _ _ h => h) (Or.inl ⟨by rfl, ?hy93⟩) (by assumption) ?_
                      case hy93 => (intro w hSw; (try dsimp only at hSw); go_simp; all_goals with_reducible rfl)
                      try simp only [Act.put, List.setIfInBounds_toArray, List.set_cons_zero, List.set_cons_succ]
                      refine wpAnyH_take (i := 20) (oi := { dst := some 89, op := Op.pick (Operand.tmp 77) (Operand.const (Value.bool true)) (Operand.tmp 88), type := 4, pos := "outright.go:36", after := #[{ on := 8, ground := Ground.data }, { on := 19, ground := Ground.data }], guard := none }) (v := ?vv94) rfl (by kernel_rfl) (by kernel_rfl) (by kernel_rfl) (fun _ _ _ h => h) (Or.inl ⟨by rfl, ?hy94⟩) (by assumption) ?_
                      case hy94 => (intro w hSw; (try dsimp only at hSw); go_simp; all_goals with_reducible rfl)
                      try simp only [Act.put, List.setIfInBounds_toArray, List.set_cons_zero, List.set_cons_succ]
                      refine wpAnyH_take (i := 21) (oi := { dst := some 90, op := Op.move (Operand.tmp 89), type := 4, pos := "outright.go:36", after := #[{ on := 20, ground := Ground.data }, { on := 15, ground := Ground.chain }], guard := none }) (v := ?vv95) rfl (by kernel_rfl) (by kernel_rfl) (by kernel_rfl) (fun _ _ _ h => h) (Or.inl ⟨by rfl, ?hy95⟩) (by assumption) ?_
                      case hy95 => (intro w hSw; (try dsimp only at hSw); go_simp; all_goals with_reducible rfl)
                      try simp only [Act.put, List.setIfInBounds_toArray, List.set_cons_zero, List.set_cons_succ]
                      refine wpAnyH_take (i := 22) (oi := { dst := some 91, op := Op.move (Operand.tmp 12), type := 4, pos := "outright.go:36", after := #[{ on := 21, ground := Ground.guard }], guard := some (21, false) }) (v := ?vv96) rfl (by kernel_rfl) (by kernel_rfl) (by kernel_rfl) (fun _ _ _ h => h) (Or.inl ⟨by rfl, ?hy96⟩) (by assumption) ?_
                      case hy96 => (intro w hSw; (try dsimp only at hSw); go_simp; all_goals with_reducible rfl)
                      try simp only [Act.put, List.setIfInBounds_toArray, List.set_cons_zero, List.set_cons_succ]
                      refine wpAnyH_take (i := 23) (oi := { dst := some 92, op := Op.unOp UnOp.not 4 (Operand.tmp 91), type := 4, pos := "outright.go:36", after := #[{ on := 22, ground := Ground.data }, { on := 21, ground := Ground.guard }], guard := some (21, false) }) (v := ?vv97) rfl (by kernel_rfl) (by kernel_rfl) (by kernel_rfl) (fun _ _ _ h => h) (Or.inl ⟨by rfl, ?hy97⟩) (by assumption) ?_
                      case hy97 => (intro w hSw; (try dsimp only at hSw); go_simp; all_goals with_reducible rfl)
                      try simp only [Act.put, List.setIfInBounds_toArray, List.set_cons_zero, List.set_cons_succ]
                      refine wpAnyH_take (i := 24) (oi := { dst := some 93, op := Op.move (Operand.tmp 92), type := 4, pos := "outright.go:36", after := #[{ on := 23, ground := Ground.data }, { on := 21, ground := Ground.chain }, { on := 21, ground := Ground.guard }], guard := some (21, false) }) (v := ?vv98) rfl (by kernel_rfl) (by kernel_rfl) (by kernel_rfl) (fun _ _ _ h => h) (Or.inl ⟨by rfl, ?hy98⟩) (by assumption) ?_
                      case hy98 => (intro w hSw; (try dsimp only at hSw); go_simp; all_goals with_reducible rfl)
                      try simp only [Act.put, List.setIfInBounds_toArray, List.set_cons_zero, List.set_cons_succ]
                      refine wpAnyH_take (i := 25) (oi := { dst := some 94, op := Op.fieldAddr 29 (Operand.tmp 9) 3, type := 0, pos := "outright.go:36", after := #[{ on := 24, ground := Ground.guard }], guard := some (24, true) }) (v := undef) rfl (by kernel_rfl) (by kernel_rfl) (by kernel_rfl) (fun _ _ _ h => h) (Or.inr ⟨by rfl, rfl⟩) (by assumption) ?_
                      try simp only [Act.put, List.setIfInBounds_toArray, List.set_cons_zero, List.set_cons_succ]
                      refine wpAnyH_take (i := 26) (oi := { dst := some 95, op := Op.load 3 (Operand.tmp 94), type := 3, pos := "outright.go:36", after := #[{ on := 25, ground := Ground.data }, { on := 24, ground := Ground.guard }], guard := some (24, true) }) (v := undef) rfl (by kernel_rfl) (by kernel_rfl) (by kernel_rfl) (fun _ _ _ h => h) (Or.inr ⟨by rfl, rfl⟩) (by assumption) ?_
                      try simp only [Act.put, List.setIfInBounds_toArray, List.set_cons_zero, List.set_cons_succ]
                      refine wpAnyH_take (i := 27) (oi := { dst := some 96, op := Op.binOp BinOp.neq 3 (Operand.tmp 95) (Operand.const (Value.int IntKind.i64 5)) 3, type := 4, pos := "outright.go:36", after := #[{ on := 26, ground := Ground.data }, { on := 24, ground := Ground.guard }], guard := some (24, true) }) (v := undef) rfl (by kernel_rfl) (by kernel_rfl) (by kernel_rfl) (fun _ _ _ h => h) (Or.inr ⟨by rfl, rfl⟩) (by assumption) ?_
                      try simp only [Act.put, List.setIfInBounds_toArray, List.set_cons_zero, List.set_cons_succ]
                      refine wpAnyH_take (i := 28) (oi := { dst := some 97, op := Op.pick (Operand.tmp 93) (Operand.tmp 96) (Operand.const (Value.bool false)), type := 4, pos := "outright.go:36", after := #[{ on := 24, ground := Ground.data }, { on := 27, ground := Ground.data }, { on := 21, ground := Ground.guard }], guard := some (21, false) }) (v := ?vv99) rfl (by kernel_rfl) (by kernel_rfl) (by kernel_rfl) (fun _ _ _ h => h) (Or.inl ⟨by rfl, ?hy99⟩) (by assumption) ?_
                      case hy99 => (intro w hSw; (try dsimp only at hSw); go_simp; all_goals with_reducible rfl)
                      try simp only [Act.put, List.setIfInBounds_toArray, List.set_cons_zero, List.set_cons_succ]
                      refine wpAnyH_take (i := 29) (oi := { dst := some 98, op := Op.pick (Operand.tmp 90) (Operand.const (Value.bool true)) (Operand.tmp 97), type := 4, pos := "outright.go:36", after := #[{ on := 21, ground := Ground.data }, { on := 28, ground := Ground.data }], guard := none }) (v := ?vv100) rfl (by kernel_rfl) (by kernel_rfl) (by kernel_rfl) (fun _ _ _ h => h) (Or.inl ⟨by rfl, ?hy100⟩) (by assumption) ?_
                      case hy100 => (intro w hSw; (try dsimp only at hSw); go_simp; all_goals with_reducible rfl)
                      try simp only [Act.put, List.setIfInBounds_toArray, List.set_cons_zero, List.set_cons_succ]
                      refine wpAnyH_take (i := 30) (oi := { dst := some 99, op := Op.move (Operand.tmp 98), type := 4, pos := "outright.go:36", after := #[{ on := 29, ground := Ground.data }, { on := 24, ground := Ground.chain }], guard := none }) (v := ?vv101) rfl (by kernel_rfl) (by kernel_rfl) (by kernel_rfl) (fun _ _ _ h => h) (Or.inl ⟨by rfl, ?hy101⟩) (by assumption) ?_
                      case hy101 => (intro w hSw; (try dsimp only at hSw); go_simp; all_goals with_reducible rfl)
                      try simp only [Act.put, List.setIfInBounds_toArray, List.set_cons_zero, List.set_cons_succ]
                      refine wpAnyH_take (i := 31) (oi := { dst := some 100, op := Op.move (Operand.tmp 12), type := 4, pos := "outright.go:36", after := #[{ on := 30, ground := Ground.guard }], guard := some (30, false) }) (v := ?vv102) rfl (by kernel_rfl) (by kernel_rfl) (by kernel_rfl) (fun _ _ _ h => h) (Or.inl ⟨by rfl, ?hy102⟩) (by assumption) ?_
                      case hy102 => (intro w hSw; (try dsimp only at hSw); go_simp; all_goals with_reducible rfl)
                      try simp only [Act.put, List.setIfInBounds_toArray, List.set_cons_zero, List.set_cons_succ]
                      refine wpAnyH_take (i := 32) (oi := { dst := some 101, op := Op.move (Operand.tmp 100), type := 4, pos := "outright.go:36", after := #[{ on := 31, ground := Ground.data }, { on := 30, ground := Ground.chain }, { on := 30, ground := Ground.guard }], guard := some (30, false) }) (v := ?vv103) rfl (by kernel_rfl) (by kernel_rfl) (by kernel_rfl) (fun _ _ _ h => h) (Or.inl ⟨by rfl, ?hy103⟩) (by assumption) ?_
                      case hy103 => (intro w hSw; (try dsimp only at hSw); go_simp; all_goals with_reducible rfl)
                      try simp only [Act.put, List.setIfInBounds_toArray, List.set_cons_zero, List.set_cons_succ]
                      refine wpAnyH_take (i := 33) (oi := { dst := some 102, op := Op.move (Operand.tmp 13), type := 4, pos := "outright.go:36", after := #[{ on := 32, ground := Ground.guard }], guard := some (32, true) }) (v := ?vv104) rfl (by kernel_rfl) (by kernel_rfl) (by kernel_rfl) (fun _ _ _ h => h) (Or.inl ⟨by rfl, ?hy104⟩) (by assumption) ?_
                      case hy104 => (intro w hSw; (try dsimp only at hSw); go_simp; all_goals with_reducible rfl)
                      try simp only [Act.put, List.setIfInBounds_toArray, List.set_cons_zero, List.set_cons_succ]
                      refine wpAnyH_take (i := 34) (oi := { dst := some 103, op := Op.unOp UnOp.not 4 (Operand.tmp 102), type := 4, pos := "outright.go:36", after := #[{ on := 33, ground := Ground.data }, { on := 32, ground := Ground.guard }], guard := some (32, true) }) (v := ?vv105) rfl (by kernel_rfl) (by kernel_rfl) (by kernel_rfl) (fun _ _ _ h => h) (Or.inl ⟨by rfl, ?hy105⟩) (by assumption) ?_
                      case hy105 => (intro w hSw; (try dsimp only at hSw); go_simp; all_goals with_reducible rfl)
                      try simp only [Act.put, List.setIfInBounds_toArray, List.set_cons_zero, List.set_cons_succ]
                      refine wpAnyH_take (i := 35) (oi := { dst := some 104, op := Op.pick (Operand.tmp 101) (Operand.tmp 103) (Operand.const (Value.bool false)), type := 4, pos := "outright.go:36", after := #[{ on := 32, ground := Ground.data }, { on := 34, ground := Ground.data }, { on := 30, ground := Ground.guard }], guard := some (30, false) }) (v := ?vv106) rfl (by kernel_rfl) (by kernel_rfl) (by kernel_rfl) (fun _ _ _ h => h) (Or.inl ⟨by rfl, ?hy106⟩) (by assumption) ?_
                      case hy106 => (intro w hSw; (try dsimp only at hSw); go_simp; all_goals with_reducible rfl)
                      try simp only [Act.put, List.setIfInBounds_toArray, List.set_cons_zero, List.set_cons_succ]
                      refine wpAnyH_take (i := 36) (oi := { dst := some 105, op := Op.pick (Operand.tmp 99) (Operand.const (Value.bool true)) (Operand.tmp 104), type := 4, pos := "outright.go:36", after := #[{ on := 30, ground := Ground.data }, { on := 35, ground := Ground.data }], guard := none }) (v := ?vv107) rfl (by kernel_rfl) (by kernel_rfl) (by kernel_rfl) (fun _ _ _ h => h) (Or.inl ⟨by rfl, ?hy107⟩) (by assumption) ?_
                      case hy107 => (intro w hSw; (try dsimp only at hSw); go_simp; all_goals with_reducible rfl)
                      try simp only [Act.put, List.setIfInBounds_toArray, List.set_cons_zero, List.set_cons_succ]
                      refine wpAnyH_take (i := 37) (oi := { dst := some 106, op := Op.move (Operand.tmp 105), type := 4, pos := "outright.go:36", after := #[{ on := 36, ground := Ground.data }, { on := 32, ground := Ground.chain }], guard := none }) (v := ?vv108) rfl (by kernel_rfl) (by kernel_rfl) (by kernel_rfl) (fun _ _ _ h => h) (Or.inl ⟨by rfl, ?hy108⟩) (by assumption) ?_
                      case hy108 => (intro w hSw; (try dsimp only at hSw); go_simp; all_goals with_reducible rfl)
                      try simp only [Act.put, List.setIfInBounds_toArray, List.set_cons_zero, List.set_cons_succ]
                      refine wpAnyH_take (i := 38) (oi := { dst := some 107, op := Op.move (Operand.tmp 12), type := 4, pos := "outright.go:36", after := #[{ on := 37, ground := Ground.guard }], guard := some (37, false) }) (v := ?vv109) rfl (by kernel_rfl) (by kernel_rfl) (by kernel_rfl) (fun _ _ _ h => h) (Or.inl ⟨by rfl, ?hy109⟩) (by assumption) ?_
                      case hy109 => (intro w hSw; (try dsimp only at hSw); go_simp; all_goals with_reducible rfl)
                      try simp only [Act.put, List.setIfInBounds_toArray, List.set_cons_zero, List.set_cons_succ]
                      refine wpAnyH_take (i := 39) (oi := { dst := some 108, op := Op.unOp UnOp.not 4 (Operand.tmp 107), type := 4, pos := "outright.go:36", after := #[{ on := 38, ground := Ground.data }, { on := 37, ground := Ground.guard }], guard := some (37, false) }) (v := ?vv110) rfl (by kernel_rfl) (by kernel_rfl) (by kernel_rfl) (fun _ _ _ h => h) (Or.inl ⟨by rfl, ?hy110⟩) (by assumption) ?_
                      case hy110 => (intro w hSw; (try dsimp only at hSw); go_simp; all_goals with_reducible rfl)
                      try simp only [Act.put, List.setIfInBounds_toArray, List.set_cons_zero, List.set_cons_succ]
                      refine wpAnyH_take (i := 40) (oi := { dst := some 109, op := Op.move (Operand.tmp 108), type := 4, pos := "outright.go:36", after := #[{ on := 39, ground := Ground.data }, { on := 37, ground := Ground.chain }, { on := 37, ground := Ground.guard }], guard := some (37, false) }) (v := ?vv111) rfl (by kernel_rfl) (by kernel_rfl) (by kernel_rfl) (fun _ _ _ h => h) (Or.inl ⟨by rfl, ?hy111⟩) (by assumption) ?_
                      case hy111 => (intro w hSw; (try dsimp only at hSw); go_simp; all_goals with_reducible rfl)
                      try simp only [Act.put, List.setIfInBounds_toArray, List.set_cons_zero, List.set_cons_succ]
                      refine wpAnyH_take (i := 41) (oi := { dst := some 110, op := Op.move (Operand.tmp 13), type := 4, pos := "outright.go:36", after := #[{ on := 40, ground := Ground.guard }], guard := some (40, true) }) (v := undef) rfl (by kernel_rfl) (by kernel_rfl) (by kernel_rfl) (fun _ _ _ h => h) (Or.inr ⟨by rfl, rfl⟩) (by assumption) ?_
                      try simp only [Act.put, List.setIfInBounds_toArray, List.set_cons_zero, List.set_cons_succ]
                      refine wpAnyH_take (i := 42) (oi := { dst := some 111, op := Op.pick (Operand.tmp 109) (Operand.tmp 110) (Operand.const (Value.bool false)), type := 4, pos := "outright.go:36", after := #[{ on := 40, ground := Ground.data }, { on := 41, ground := Ground.data }, { on := 37, ground := Ground.guard }], guard := some (37, false) }) (v := ?vv112) rfl (by kernel_rfl) (by kernel_rfl) (by kernel_rfl) (fun _ _ _ h => h) (Or.inl ⟨by rfl, ?hy112⟩) (by assumption) ?_
                      case hy112 => (intro w hSw; (try dsimp only at hSw); go_simp; all_goals with_reducible rfl)
                      try simp only [Act.put, List.setIfInBounds_toArray, List.set_cons_zero, List.set_cons_succ]
                      refine wpAnyH_take (i := 43) (oi := { dst := some 112, op := Op.pick (Operand.tmp 106) (Operand.const (Value.bool true)) (Operand.tmp 111), type := 4, pos := "outright.go:36", after := #[{ on := 37, ground := Ground.data }, { on := 42, ground := Ground.data }], guard := none }) (v := ?vv113) rfl (by kernel_rfl) (by kernel_rfl) (by kernel_rfl) (fun _ _ _ h => h) (Or.inl ⟨by rfl, ?hy113⟩) (by assumption) ?_
                      case hy113 => (intro w hSw; (try dsimp only at hSw); go_simp; all_goals with_reducible rfl)
                      try simp only [Act.put, List.setIfInBounds_toArray, List.set_cons_zero, List.set_cons_succ]
                      refine wpAnyH_done (by kernel_rfl) ?_ _
                      go_wp2_with fail
                      go_meet
                      exact ⟨rfl, rfl⟩
                    case rest =>
                      obtain ⟨rfl, hwd⟩ := hcut
                      subst hwd
                      obtain ⟨base, cap, w9, hrun, hS9, h29⟩ := (HS7.out.below (Below.refl _ _).drew).bear 1 (.inr rfl) id (by omega)
                      simp only [if_true, if_neg (show ¬ (1 = 0) by decide)] at hS9
                      have hrun9 : Hid _ := hrun
                      have HS9 : Hid _ := hS9
                      have H29 : Hid _ := h29
                      clear hrun hS9 h29 hlen
                      have hoq1 : O ≠ q := fun e => by
                        have h2 := HS7.out.ar
                        rw [← e, HOP7.out] at h2
                        injection h2 with h2; injection h2 with _ h2; exact absurd h2 (by decide)
                      have hoq2 : q ≠ O := fun e => hoq1 e.symm
                      go_wp2_with (at_builtin; refine Lib.wpList_append_run _ rfl (.tmp 119) (.tmp 122) 30 30 rfl _ _ rfl rfl _ _ hrun9.out ?_)
                      go_meet
                      have hll : (bn ++ [id]).length = bn.length + 1 := by simp
                      exact ⟨base, cap, bn ++ [id], _, _, by rw [hll], by rw [hll]; exact HS9, HB6, HBT, H29.out _ _ HOP7.out, HF20⟩
        case rest =>
          as_aux_lemma =>
            obtain ⟨yb', yc', bn', t0', t1', rfl, hS8, hBi8, hT8, hop8, hF20⟩ := hcut
            clear HS7 HOP7 HBear HStay HIdle hBi HTT htop hcl o1 o2 o3 ol
            have o1 := cell_blk hop8.out 1
            have ol := heap_lt hop8.out
            simp only [List.getElem?_toArray, List.getElem?_cons_zero, List.getElem?_cons_succ] at o1
            have hin : ∀ W, Below wc.heap.size wc W → Calls Try.prog 15 #[.slice yb' bn'.length yc', .int .i64 id] W fun e W' => e = .returned (.bool (decide (id ∈ bn'))) ∧ W' = W := fun W hB => in_any W _ bn' id (hS8.out.row.below hB).isIn
            have HSk : Hid (1 ≤ id → id < T'.top (odd id) → id ∉ bn' → s2 = 6) := fun h1 h2 h3 => HS2.out.symm.trans (hBi8.out.skipped h1 h2 HOk.out h3)
            have hmb : decide (id ∈ bn') = true ∨ (decide (id ∈ bn') = false ∧ id ∉ bn') := by
              by_cases h : id ∈ bn'
              · exact .inl (decide_eq_true h)
              · exact .inr ⟨decide_eq_false h, h⟩
            have HMB : Hid (decide (id ∈ bn') = false → id ∉ bn') := fun h => of_decide_eq_false h
            have HIN : Hid _ := hin
            clear hin hmb
            obtain ⟨dd, hdd⟩ : ∃ dd, decide (id ∈ bn') = dd := ⟨_, rfl⟩
            rw [hdd] at HIN hF20 HMB
            clear hdd
            go_upto_region 20 with fail
            go_cut [135] from 34 to 159 (fun x wx => x = .bool false ∧ wx = wc)
            case first =>
              have hf := hF20.out
              cases e1 : (s1 == 0)
              · rw [e1] at hf
                replace hf : (s2 == 0) = false := hf
                go_wp2_with fail
                go_meet
                exact ⟨rfl, rfl⟩
              · rw [e1] at hf
                cases dd
                · replace hf : (s2 == 0) = true := hf
                  go_wp2_with fail
                  refine (HIN.out _ (Below.refl _ _)).mono ?_
                  rintro e wc ⟨rfl, rfl⟩
                  go_wp2_with fail
                  go_meet
                  exact ⟨rfl, rfl⟩
                · replace hf : (s2 == 0) = false := hf
                  go_wp2_with fail
                  refine (HIN.out _ (Below.refl _ _)).mono ?_
                  rintro e wc ⟨rfl, rfl⟩
                  go_wp2_with fail
                  go_meet
                  exact ⟨rfl, rfl⟩
            case rest =>
              obtain ⟨rfl, hwc⟩ := hcut
              subst hwc
              clear hF20
              go_upto_region 22 with fail
              go_cut [159] from 34 to 159 (fun x wx => x = .bool false ∧ Below wc.heap.size wc wx)
              case first =>
                have c0 : wc.cell? ⟨q, 0, none⟩ = some (.int .i64 t0') := cell_blk hS8.out.ar 0
                have c1 : wc.cell? ⟨q, 1, none⟩ = some (.int .i64 t1') := cell_blk hS8.out.ar 1
                by_cases h1 : 1 ≤ id
                · have g1 : decide (1 ≤ id) = true := decide_eq_true h1
                  have hand := and_odd h1
                  cases hod : odd id
                  · rw [hod] at hand
                    rw [if_neg (by decide)] at hand
                    have htp : T'.top (odd id) = t0' := by rw [hod]; exact hT8.out.1
                    by_cases h2 : id < t0'
                    · have g2 : decide (id < t0') = true := decide_eq_true h2
                      cases dd
                      · have h6 := HSk.out h1 (by rw [htp]; exact h2) (HMB.out rfl)
                        subst h6
                        clear htp hod HSk
                        as_aux_lemma =>
                          refine wp_region_held_drew (S := (fun W => W.cell? ⟨q, 0, none⟩ = some (.int .i64 t0') ∧ W.cell? ⟨q, 1, none⟩ = some (.int .i64 t1') ∧ W.cell? ⟨O, 1, none⟩ = some (.int .i64 id))) (by kernel_rfl) ⟨c0, c1, o1⟩ (fun hHeld => ?_)
                          refine wpAnyH_take (i := 0) (oi := { dst := some 136, op := Op.fieldAddr 29 (Operand.tmp 9) 1, type := 0, pos := "outright.go:45", after := #[], guard := none }) (v := ?vv114) rfl (by kernel_rfl) (by kernel_rfl) (by kernel_rfl) (fun _ _ _ h => h) (Or.inl ⟨by rfl, ?hy114⟩) (by assumption) ?_
                          case hy114 => (intro w hSw; (try dsimp only at hSw); go_simp; all_goals with_reducible rfl)
                          try simp only [Act.put, List.setIfInBounds_toArray, List.set_cons_zero, List.set_cons_succ]
                          refine wpAnyH_take (i := 1) (oi := { dst := some 137, op := Op.load 2 (Operand.tmp 136), type := 2, pos := "outright.go:45", after := #[{ on := 0, ground := Ground.data }], guard := none }) (v := ?vv115) rfl (by kernel_rfl) (by kernel_rfl) (by kernel_rfl) (fun _ _ _ h => h) (Or.inl ⟨by rfl, ?hy115⟩) (by assumption) ?_
                          case hy115 => (intro w hSw; (try dsimp only at hSw); go_simp; all_goals with_reducible rfl)
                          try simp only [Act.put, List.setIfInBounds_toArray, List.set_cons_zero, List.set_cons_succ]
                          refine wpAnyH_take (i := 2) (oi := { dst := some 138, op := Op.binOp BinOp.geq 2 (Operand.tmp 137) (Operand.const (Value.int IntKind.i64 1)) 2, type := 4, pos := "outright.go:45", after := #[{ on := 1, ground := Ground.data }], guard := none }) (v := ?vv116) rfl (by kernel_rfl) (by kernel_rfl) (by kernel_rfl) (fun _ _ _ h => h) (Or.inl ⟨by rfl, ?hy116⟩) (by assumption) ?_
                          case hy116 => (intro w hSw; (try dsimp only at hSw); go_simp; all_goals with_reducible rfl)
                          try simp only [Act.put, List.setIfInBounds_toArray, List.set_cons_zero, List.set_cons_succ]
                          refine wpAnyH_take (i := 3) (oi := { dst := some 139, op := Op.move (Operand.tmp 138), type := 4, pos := "outright.go:45", after := #[{ on := 2, ground := Ground.data }], guard := none }) (v := ?vv117) rfl (by kernel_rfl) (by kernel_rfl) (by kernel_rfl) (fun _ _ _ h => h) (Or.inl ⟨by rfl, ?hy117⟩) (by assumption) ?_
                          case hy117 => (intro w hSw; (try dsimp only at hSw); go_simp; all_goals with_reducible rfl)
                          try simp only [Act.put, List.setIfInBounds_toArray, List.set_cons_zero, List.set_cons_succ]
                          refine wpAnyH_take (i := 4) (oi := { dst := some 140, op := Op.fieldAddr 29 (Operand.tmp 9) 1, type := 0, pos := "outright.go:45", after := #[{ on := 3, ground := Ground.guard }], guard := some (3, true) }) (v := ?vv118) rfl (by kernel_rfl) (by kernel_rfl) (by kernel_rfl) (fun _ _ _ h => h) (Or.inl ⟨by rfl, ?hy118⟩) (by assumption) ?_
                          case hy118 => (intro w hSw; (try dsimp only at hSw); go_simp; all_goals with_reducible rfl)
                          try simp only [Act.put, List.setIfInBounds_toArray, List.set_cons_zero, List.set_cons_succ]
                          refine wpAnyH_take (i := 5) (oi := { dst := some 141, op := Op.load 2 (Operand.tmp 140), type := 2, pos := "outright.go:45", after := #[{ on := 4, ground := Ground.data }, { on := 3, ground := Ground.guard }], guard := some (3, true) }) (v := ?vv119) rfl (by kernel_rfl) (by kernel_rfl) (by kernel_rfl) (fun _ _ _ h => h) (Or.inl ⟨by rfl, ?hy119⟩) (by assumption) ?_
                          case hy119 => (intro w hSw; (try dsimp only at hSw); go_simp; all_goals with_reducible rfl)
                          try simp only [Act.put, List.setIfInBounds_toArray, List.set_cons_zero, List.set_cons_succ]
                          refine wpAnyH_take (i := 6) (oi := { dst := some 142, op := Op.fieldAddr 29 (Operand.tmp 9) 1, type := 0, pos := "outright.go:45", after := #[{ on := 3, ground := Ground.guard }], guard := some (3, true) }) (v := ?vv120) rfl (by kernel_rfl) (by kernel_rfl) (by kernel_rfl) (fun _ _ _ h => h) (Or.inl ⟨by rfl, ?hy120⟩) (by assumption) ?_
                          case hy120 => (intro w hSw; (try dsimp only at hSw); go_simp; all_goals with_reducible rfl)
                          try simp only [Act.put, List.setIfInBounds_toArray, List.set_cons_zero, List.set_cons_succ]
                          refine wpAnyH_take (i := 7) (oi := { dst := some 143, op := Op.load 2 (Operand.tmp 142), type := 2, pos := "outright.go:45", after := #[{ on := 6, ground := Ground.data }, { on := 3, ground := Ground.guard }], guard := some (3, true) }) (v := ?vv121) rfl (by kernel_rfl) (by kernel_rfl) (by kernel_rfl) (fun _ _ _ h => h) (Or.inl ⟨by rfl, ?hy121⟩) (by assumption) ?_
                          case hy121 => (intro w hSw; (try dsimp only at hSw); go_simp; all_goals with_reducible rfl)
                          try simp only [Act.put, List.setIfInBounds_toArray, List.set_cons_zero, List.set_cons_succ]
                          refine wpAnyH_take (i := 8) (oi := { dst := some 144, op := Op.binOp BinOp.and 2 (Operand.tmp 143) (Operand.const (Value.int IntKind.i64 1)) 2, type := 2, pos := "outright.go:45", after := #[{ on := 7, ground := Ground.data }, { on := 3, ground := Ground.guard }], guard := some (3, true) }) (v := ?vv122) rfl (by kernel_rfl) (by kernel_rfl) (by kernel_rfl) (fun _ _ _ h => h) (Or.inl ⟨by rfl, ?hy122⟩) (by assumption) ?_
                          case hy122 => (intro w hSw; (try dsimp only at hSw); go_simp; all_goals with_reducible rfl)
                          try simp only [Act.put, List.setIfInBounds_toArray, List.set_cons_zero, List.set_cons_succ]
                          refine wpAnyH_take (i := 9) (oi := { dst := some 145, op := Op.indexAddr 36 (Operand.tmp 7) (Operand.tmp 144), type := 0, pos := "outright.go:45", after := #[{ on := 8, ground := Ground.data }, { on := 3, ground := Ground.guard }], guard := some (3, true) }) (v := ?vv123) rfl (by kernel_rfl) (by kernel_rfl) (by kernel_rfl) (fun _ _ _ h => h) (Or.inl ⟨by rfl, ?hy123⟩) (by assumption) ?_
                          case hy123 => (intro w hSw; (try dsimp only at hSw); go_simp; all_goals with_reducible rfl)
                          try simp only [Act.put, List.setIfInBounds_toArray, List.set_cons_zero, List.set_cons_succ]
                          refine wpAnyH_take (i := 10) (oi := { dst := some 146, op := Op.load 2 (Operand.tmp 145), type := 2, pos := "outright.go:45", after := #[{ on := 9, ground := Ground.data }, { on := 3, ground := Ground.guard }], guard := some (3, true) }) (v := ?vv124) rfl (by kernel_rfl) (by kernel_rfl) (by kernel_rfl) (fun _ _ _ h => h) (Or.inl ⟨by rfl, ?hy124⟩) (by assumption) ?_
                          case hy124 => (intro w hSw; (try dsimp only at hSw); go_simp; all_goals with_reducible rfl)
                          try simp only [Act.put, List.setIfInBounds_toArray, List.set_cons_zero, List.set_cons_succ]
                          refine wpAnyH_take (i := 11) (oi := { dst := some 147, op := Op.binOp BinOp.lss 2 (Operand.tmp 141) (Operand.tmp 146) 2, type := 4, pos := "outright.go:45", after := #[{ on := 5, ground := Ground.data }, { on := 10, ground := Ground.data }, { on := 3, ground := Ground.guard }], guard := some (3, true) }) (v := ?vv125) rfl (by kernel_rfl) (by kernel_rfl) (by kernel_rfl) (fun _ _ _ h => h) (Or.inl ⟨by rfl, ?hy125⟩) (by assumption) ?_
                          case hy125 => (intro w hSw; (try dsimp only at hSw); go_simp; all_goals with_reducible rfl)
                          try simp only [Act.put, List.setIfInBounds_toArray, List.set_cons_zero, List.set_cons_succ]
                          refine wpAnyH_take (i := 12) (oi := { dst := some 148, op := Op.pick (Operand.tmp 139) (Operand.tmp 147) (Operand.const (Value.bool false)), type := 4, pos := "outright.go:45", after := #[{ on := 3, ground := Ground.data }, { on := 11, ground := Ground.data }], guard := none }) (v := ?vv126) rfl (by kernel_rfl) (by kernel_rfl) (by kernel_rfl) (fun _ _ _ h => h) (Or.inl ⟨by rfl, ?hy126⟩) (by assumption) ?_
                          case hy126 => (intro w hSw; (try dsimp only at hSw); go_simp; all_goals with_reducible rfl)
                          try simp only [Act.put, List.setIfInBounds_toArray, List.set_cons_zero, List.set_cons_succ]
                          refine wpAnyH_take (i := 13) (oi := { dst := some 149, op := Op.move (Operand.tmp 148), type := 4, pos := "outright.go:45", after := #[{ on := 12, ground := Ground.data }, { on := 3, ground := Ground.chain }], guard := none }) (v := ?vv127) rfl (by kernel_rfl) (by kernel_rfl) (by kernel_rfl) (fun _ _ _ h => h) (Or.inl ⟨by rfl, ?hy127⟩) (by assumption) ?_
                          case hy127 => (intro w hSw; (try dsimp only at hSw); go_simp; all_goals with_reducible rfl)
                          try simp only [Act.put, List.setIfInBounds_toArray, List.set_cons_zero, List.set_cons_succ]
                          refine wpAnyH_take (i := 14) (oi := { dst := some 150, op := Op.move (Operand.tmp 6), type := 30, pos := "outright.go:45", after := #[{ on := 13, ground := Ground.guard }], guard := some (13, true) }) (v := ?vv128) rfl (by kernel_rfl) (by kernel_rfl) (by kernel_rfl) (fun _ _ _ h => h) (Or.inl ⟨by rfl, ?hy128⟩) (by assumption) ?_
                          case hy128 => (intro w hSw; (try dsimp only at hSw); go_simp; all_goals with_reducible rfl)
                          try simp only [Act.put, List.setIfInBounds_toArray, List.set_cons_zero, List.set_cons_succ]
                          refine wpAnyH_take (i := 15) (oi := { dst := some 151, op := Op.fieldAddr 29 (Operand.tmp 9) 1, type := 0, pos := "outright.go:45", after := #[{ on := 13, ground := Ground.guard }], guard := some (13, true) }) (v := ?vv129) rfl (by kernel_rfl) (by kernel_rfl) (by kernel_rfl) (fun _ _ _ h => h) (Or.inl ⟨by rfl, ?hy129⟩) (by assumption) ?_
                          case hy129 => (intro w hSw; (try dsimp only at hSw); go_simp; all_goals with_reducible rfl)
                          try simp only [Act.put, List.setIfInBounds_toArray, List.set_cons_zero, List.set_cons_succ]
                          refine wpAnyH_take (i := 16) (oi := { dst := some 152, op := Op.load 2 (Operand.tmp 151), type := 2, pos := "outright.go:45", after := #[{ on := 15, ground := Ground.data }, { on := 13, ground := Ground.guard }], guard := some (13, true) }) (v := ?vv130) rfl (by kernel_rfl) (by kernel_rfl) (by kernel_rfl) (fun _ _ _ h => h) (Or.inl ⟨by rfl, ?hy130⟩) (by assumption) ?_
                          case hy130 => (intro w hSw; (try dsimp only at hSw); go_simp; all_goals with_reducible rfl)
                          try simp only [Act.put, List.setIfInBounds_toArray, List.set_cons_zero, List.set_cons_succ]
                          refine wpAnyH_ready (rs := [17]) (by kernel_rfl) (by simp) ?_
                          refine AllReadyH.cons (o := { dst := some 153, op := Op.call { callee := Callee.value (Operand.func 15), args := #[Operand.tmp 150, Operand.tmp 152], argTypes := #[30, 2] }, type := 4, pos := "outright.go:45", after := #[{ on := 14, ground := Ground.data }, { on := 16, ground := Ground.data }, { on := 13, ground := Ground.chain }, { on := 13, ground := Ground.guard }], guard := some (13, true) }) rfl (fun K hK => ?_) AllReadyH.nil
                          go_simp
                          refine (HIN.out _ (Below.refl _ _).drew).mono ?_
                          rintro e' wq ⟨rfl, rfl⟩
                          go_wp2_with fail
                          refine hK.out _ _ ⟨c0, c1, o1⟩ (fun hHeld => ?_)
                          clear hK K
                          try simp only [Act.put, List.setIfInBounds_toArray, List.set_cons_zero, List.set_cons_succ]
                          refine wpAnyH_take (i := 18) (oi := { dst := some 154, op := Op.unOp UnOp.not 4 (Operand.tmp 153), type := 4, pos := "outright.go:45", after := #[{ on := 17, ground := Ground.data }, { on := 13, ground := Ground.guard }], guard := some (13, true) }) (v := ?vv131) rfl (by kernel_rfl) (by kernel_rfl) (by kernel_rfl) (fun _ _ _ h => h) (Or.inl ⟨by rfl, ?hy131⟩) (by assumption) ?_
                          case hy131 => (intro w hSw; (try dsimp only at hSw); go_simp; all_goals with_reducible rfl)
                          try simp only [Act.put, List.setIfInBounds_toArray, List.set_cons_zero, List.set_cons_succ]
                          refine wpAnyH_take (i := 19) (oi := { dst := some 155, op := Op.pick (Operand.tmp 149) (Operand.tmp 154) (Operand.const (Value.bool false)), type := 4, pos := "outright.go:45", after := #[{ on := 13, ground := Ground.data }, { on := 18, ground := Ground.data }], guard := none }) (v := ?vv132) rfl (by kernel_rfl) (by kernel_rfl) (by kernel_rfl) (fun _ _ _ h => h) (Or.inl ⟨by rfl, ?hy132⟩) (by assumption) ?_
                          case hy132 => (intro w hSw; (try dsimp only at hSw); go_simp; all_goals with_reducible rfl)
                          try simp only [Act.put, List.setIfInBounds_toArray, List.set_cons_zero, List.set_cons_succ]
                          refine wpAnyH_take (i := 20) (oi := { dst := some 156, op := Op.move (Operand.tmp 155), type := 4, pos := "outright.go:45", after := #[{ on := 19, ground := Ground.data }, { on := 17, ground := Ground.chain }], guard := none }) (v := ?vv133) rfl (by kernel_rfl) (by kernel_rfl) (by kernel_rfl) (fun _ _ _ h => h) (Or.inl ⟨by rfl, ?hy133⟩) (by assumption) ?_
                          case hy133 => (intro w hSw; (try dsimp only at hSw); go_simp; all_goals with_reducible rfl)
                          try simp only [Act.put, List.setIfInBounds_toArray, List.set_cons_zero, List.set_cons_succ]
                          refine wpAnyH_take (i := 21) (oi := { dst := some 157, op := Op.move (Operand.tmp 11), type := 3, pos := "outright.go:45", after := #[{ on := 20, ground := Ground.guard }], guard := some (20, true) }) (v := ?vv134) rfl (by kernel_rfl) (by kernel_rfl) (by kernel_rfl) (fun _ _ _ h => h) (Or.inl ⟨by rfl, ?hy134⟩) (by assumption) ?_
                          case hy134 => (intro w hSw; (try dsimp only at hSw); go_simp; all_goals with_reducible rfl)
                          try simp only [Act.put, List.setIfInBounds_toArray, List.set_cons_zero, List.set_cons_succ]
                          refine wpAnyH_take (i := 22) (oi := { dst := some 158, op := Op.binOp BinOp.neq 3 (Operand.tmp 157) (Operand.const (Value.int IntKind.i64 6)) 3, type := 4, pos := "outright.go:45", after := #[{ on := 21, ground := Ground.data }, { on := 20, ground := Ground.guard }], guard := some (20, true) }) (v := ?vv135) rfl (by kernel_rfl) (by kernel_rfl) (by kernel_rfl) (fun _ _ _ h => h) (Or.inl ⟨by rfl, ?hy135⟩) (by assumption) ?_
                          case hy135 => (intro w hSw; (try dsimp only at hSw); go_simp; all_goals with_reducible rfl)
                          try simp only [Act.put, List.setIfInBounds_toArray, List.set_cons_zero, List.set_cons_succ]
                          refine wpAnyH_take (i := 23) (oi := { dst := some 159, op := Op.pick (Operand.tmp 156) (Operand.tmp 158) (Operand.const (Value.bool false)), type := 4, pos := "outright.go:45", after := #[{ on := 20, ground := Ground.data }, { on := 22, ground := Ground.data }], guard := none }) (v := ?vv136) rfl (by kernel_rfl) (by kernel_rfl) (by kernel_rfl) (fun _ _ _ h => h) (Or.inl ⟨by rfl, ?hy136⟩) (by assumption) ?_
                          case hy136 => (intro w hSw; (try dsimp only at hSw); go_simp; all_goals with_reducible rfl)
                          try simp only [Act.put, List.setIfInBounds_toArray, List.set_cons_zero, List.set_cons_succ]
                          refine wpAnyH_done (by kernel_rfl) ?_ _
                          go_wp2_with fail
                          go_meet
                          exact ⟨rfl, (Below.refl _ _).drew⟩
                      · clear htp hod HSk
                        as_aux_lemma =>
                          refine wp_region_held_drew (S := (fun W => W.cell? ⟨q, 0, none⟩ = some (.int .i64 t0') ∧ W.cell? ⟨q, 1, none⟩ = some (.int .i64 t1') ∧ W.cell? ⟨O, 1, none⟩ = some (.int .i64 id))) (by kernel_rfl) ⟨c0, c1, o1⟩ (fun hHeld => ?_)
                          refine wpAnyH_take (i := 0) (oi := { dst := some 136, op := Op.fieldAddr 29 (Operand.tmp 9) 1, type := 0, pos := "outright.go:45", after := #[], guard := none }) (v := ?vv137) rfl (by kernel_rfl) (by kernel_rfl) (by kernel_rfl) (fun _ _ _ h => h) (Or.inl ⟨by rfl, ?hy137⟩) (by assumption) ?_
                          case hy137 => (intro w hSw; (try dsimp only at hSw); go_simp; all_goals with_reducible rfl)
                          try simp only [Act.put, List.setIfInBounds_toArray, List.set_cons_zero, List.set_cons_succ]
                          refine wpAnyH_take (i := 1) (oi := { dst := some 137, op := Op.load 2 (Operand.tmp 136), type := 2, pos := "outright.go:45", after := #[{ on := 0, ground := Ground.data }], guard := none }) (v := ?vv138) rfl (by kernel_rfl) (by kernel_rfl) (by kernel_rfl) (fun _ _ _ h => h) (Or.inl ⟨by rfl, ?hy138⟩) (by assumption) ?_
                          case hy138 => (intro w hSw; (try dsimp only at hSw); go_simp; all_goals with_reducible rfl)
                          try simp only [Act.put, List.setIfInBounds_toArray, List.set_cons_zero, List.set_cons_succ]
                          refine wpAnyH_take (i := 2) (oi := { dst := some 138, op := Op.binOp BinOp.geq 2 (Operand.tmp 137) (Operand.const (Value.int IntKind.i64 1)) 2, type := 4, pos := "outright.go:45", after := #[{ on := 1, ground := Ground.data }], guard := none }) (v := ?vv139) rfl (by kernel_rfl) (by kernel_rfl) (by kernel_rfl) (fun _ _ _ h => h) (Or.inl ⟨by rfl, ?hy139⟩) (by assumption) ?_
                          case hy139 => (intro w hSw; (try dsimp only at hSw); go_simp; all_goals with_reducible rfl)
                          try simp only [Act.put, List.setIfInBounds_toArray, List.set_cons_zero, List.set_cons_succ]
                          refine wpAnyH_take (i := 3) (oi := { dst := some 139, op := Op.move (Operand.tmp 138), type := 4, pos := "outright.go:45", after := #[{ on := 2, ground := Ground.data }], guard := none }) (v := ?vv140) rfl (by kernel_rfl) (by kernel_rfl) (by kernel_rfl) (fun _ _ _ h => h) (Or.inl ⟨by rfl, ?hy140⟩) (by assumption) ?_
                          case hy140 => (intro w hSw; (try dsimp only at hSw); go_simp; all_goals with_reducible rfl)
                          try simp only [Act.put, List.setIfInBounds_toArray, List.set_cons_zero, List.set_cons_succ]
                          refine wpAnyH_take (i := 4) (oi := { dst := some 140, op := Op.fieldAddr 29 (Operand.tmp 9) 1, type := 0, pos := "outright.go:45", after := #[{ on := 3, ground := Ground.guard }], guard := some (3, true) }) (v := ?vv141) rfl (by kernel_rfl) (by kernel_rfl) (by kernel_rfl) (fun _ _ _ h => h) (Or.inl ⟨by rfl, ?hy141⟩) (by assumption) ?_
                          case hy141 => (intro w hSw; (try dsimp only at hSw); go_simp; all_goals with_reducible rfl)
                          try simp only [Act.put, List.setIfInBounds_toArray, List.set_cons_zero, List.set_cons_succ]
                          refine wpAnyH_take (i := 5) (oi := { dst := some 141, op := Op.load 2 (Operand.tmp 140), type := 2, pos := "outright.go:45", after := #[{ on := 4, ground := Ground.data }, { on := 3, ground := Ground.guard }], guard := some (3, true) }) (v := ?vv142) rfl (by kernel_rfl) (by kernel_rfl) (by kernel_rfl) (fun _ _ _ h => h) (Or.inl ⟨by rfl, ?hy142⟩) (by assumption) ?_
                          case hy142 => (intro w hSw; (try dsimp only at hSw); go_simp; all_goals with_reducible rfl)
                          try simp only [Act.put, List.setIfInBounds_toArray, List.set_cons_zero, List.set_cons_succ]
                          refine wpAnyH_take (i := 6) (oi := { dst := some 142, op := Op.fieldAddr 29 (Operand.tmp 9) 1, type := 0, pos := "outright.go:45", after := #[{ on := 3, ground := Ground.guard }], guard := some (3, true) }) (v := ?vv143) rfl (by kernel_rfl) (by kernel_rfl) (by kernel_rfl) (fun _ _ _ h => h) (Or.inl ⟨by rfl, ?hy143⟩) (by assumption) ?_
                          case hy143 => (intro w hSw; (try dsimp only at hSw); go_simp; all_goals with_reducible rfl)
                          try simp only [Act.put, List.setIfInBounds_toArray, List.set_cons_zero, List.set_cons_succ]
                          refine wpAnyH_take (i := 7) (oi := { dst := some 143, op := Op.load 2 (Operand.tmp 142), type := 2, pos := "outright.go:45", after := #[{ on := 6, ground := Ground.data }, { on := 3, ground := Ground.guard }], guard := some (3, true) }) (v := ?vv144) rfl (by kernel_rfl) (by kernel_rfl) (by kernel_rfl) (fun _ _ _ h => h) (Or.inl ⟨by rfl, ?hy144⟩) (by assumption) ?_
                          case hy144 => (intro w hSw; (try dsimp only at hSw); go_simp; all_goals with_reducible rfl)
                          try simp only [Act.put, List.setIfInBounds_toArray, List.set_cons_zero, List.set_cons_succ]
                          refine wpAnyH_take (i := 8) (oi := { dst := some 144, op := Op.binOp BinOp.and 2 (Operand.tmp 143) (Operand.const (Value.int IntKind.i64 1)) 2, type := 2, pos := "outright.go:45", after := #[{ on := 7, ground := Ground.data }, { on := 3, ground := Ground.guard }], guard := some (3, true) }) (v := ?vv145) rfl (by kernel_rfl) (by kernel_rfl) (by kernel_rfl) (fun _ _ _ h => h) (Or.inl ⟨by rfl, ?hy145⟩) (by assumption) ?_
                          case hy145 => (intro w hSw; (try dsimp only at hSw); go_simp; all_goals with_reducible rfl)
                          try simp only [Act.put, List.setIfInBounds_toArray, List.set_cons_zero, List.set_cons_succ]
                          refine wpAnyH_take (i := 9) (oi := { dst := some 145, op := Op.indexAddr 36 (Operand.tmp 7) (Operand.tmp 144), type := 0, pos := "outright.go:45", after := #[{ on := 8, ground := Ground.data }, { on := 3, ground := Ground.guard }], guard := some (3, true) }) (v := ?vv146) rfl (by kernel_rfl) (by kernel_rfl) (by kernel_rfl) (fun _ _ _ h => h) (Or.inl ⟨by rfl, ?hy146⟩) (by assumption) ?_
                          case hy146 => (intro w hSw; (try dsimp only at hSw); go_simp; all_goals with_reducible rfl)
                          try simp only [Act.put, List.setIfInBounds_toArray, List.set_cons_zero, List.set_cons_succ]
                          refine wpAnyH_take (i := 10) (oi := { dst := some 146, op := Op.load 2 (Operand.tmp 145), type := 2, pos := "outright.go:45", after := #[{ on := 9, ground := Ground.data }, { on := 3, ground := Ground.guard }], guard := some (3, true) }) (v := ?vv147) rfl (by kernel_rfl) (by kernel_rfl) (by kernel_rfl) (fun _ _ _ h => h) (Or.inl ⟨by rfl, ?hy147⟩) (by assumption) ?_
                          case hy147 => (intro w hSw; (try dsimp only at hSw); go_simp; all_goals with_reducible rfl)
                          try simp only [Act.put, List.setIfInBounds_toArray, List.set_cons_zero, List.set_cons_succ]
                          refine wpAnyH_take (i := 11) (oi := { dst := some 147, op := Op.binOp BinOp.lss 2 (Operand.tmp 141) (Operand.tmp 146) 2, type := 4, pos := "outright.go:45", after := #[{ on := 5, ground := Ground.data }, { on := 10, ground := Ground.data }, { on := 3, ground := Ground.guard }], guard := some (3, true) }) (v := ?vv148) rfl (by kernel_rfl) (by kernel_rfl) (by kernel_rfl) (fun _ _ _ h => h) (Or.inl ⟨by rfl, ?hy148⟩) (by assumption) ?_
                          case hy148 => (intro w hSw; (try dsimp only at hSw); go_simp; all_goals with_reducible rfl)
                          try simp only [Act.put, List.setIfInBounds_toArray, List.set_cons_zero, List.set_cons_succ]
                          refine wpAnyH_take (i := 12) (oi := { dst := some 148, op := Op.pick (Operand.tmp 139) (Operand.tmp 147) (Operand.const (Value.bool false)), type := 4, pos := "outright.go:45", after := #[{ on := 3, ground := Ground.data }, { on := 11, ground := Ground.data }], guard := none }) (v := ?vv149) rfl (by kernel_rfl) (by kernel_rfl) (by kernel_rfl) (fun _ _ _ h => h) (Or.inl ⟨by rfl, ?hy149⟩) (by assumption) ?_
                          case hy149 => (intro w hSw; (try dsimp only at hSw); go_simp; all_goals with_reducible rfl)
                          try simp only [Act.put, List.setIfInBounds_toArray, List.set_cons_zero, List.set_cons_succ]
                          refine wpAnyH_take (i := 13) (oi := { dst := some 149, op := Op.move (Operand.tmp 148), type := 4, pos := "outright.go:45", after := #[{ on := 12, ground := Ground.data }, { on := 3, ground := Ground.chain }], guard := none }) (v := ?vv150) rfl (by kernel_rfl) (by kernel_rfl) (by kernel_rfl) (fun _ _ _ h => h) (Or.inl ⟨by rfl, ?hy150⟩) (by assumption) ?_
                          case hy150 => (intro w hSw; (try dsimp only at hSw); go_simp; all_goals with_reducible rfl)
                          try simp only [Act.put, List.setIfInBounds_toArray, List.set_cons_zero, List.set_cons_succ]
                          refine wpAnyH_take (i := 14) (oi := { dst := some 150, op := Op.move (Operand.tmp 6), type := 30, pos := "outright.go:45", after := #[{ on := 13, ground := Ground.guard }], guard := some (13, true) }) (v := ?vv151) rfl (by kernel_rfl) (by kernel_rfl) (by kernel_rfl) (fun _ _ _ h => h) (Or.inl ⟨by rfl, ?hy151⟩) (by assumption) ?_
                          case hy151 => (intro w hSw; (try dsimp only at hSw); go_simp; all_goals with_reducible rfl)
                          try simp only [Act.put, List.setIfInBounds_toArray, List.set_cons_zero, List.set_cons_succ]
                          refine wpAnyH_take (i := 15) (oi := { dst := some 151, op := Op.fieldAddr 29 (Operand.tmp 9) 1, type := 0, pos := "outright.go:45", after := #[{ on := 13, ground := Ground.guard }], guard := some (13, true) }) (v := ?vv152) rfl (by kernel_rfl) (by kernel_rfl) (by kernel_rfl) (fun _ _ _ h => h) (Or.inl ⟨by rfl, ?hy152⟩) (by assumption) ?_
                          case hy152 => (intro w hSw; (try dsimp only at hSw); go_simp; all_goals with_reducible rfl)
                          try simp only [Act.put, List.setIfInBounds_toArray, List.set_cons_zero, List.set_cons_succ]
                          refine wpAnyH_take (i := 16) (oi := { dst := some 152, op := Op.load 2 (Operand.tmp 151), type := 2, pos := "outright.go:45", after := #[{ on := 15, ground := Ground.data }, { on := 13, ground := Ground.guard }], guard := some (13, true) }) (v := ?vv153) rfl (by kernel_rfl) (by kernel_rfl) (by kernel_rfl) (fun _ _ _ h => h) (Or.inl ⟨by rfl, ?hy153⟩) (by assumption) ?_
                          case hy153 => (intro w hSw; (try dsimp only at hSw); go_simp; all_goals with_reducible rfl)
                          try simp only [Act.put, List.setIfInBounds_toArray, List.set_cons_zero, List.set_cons_succ]
                          refine wpAnyH_ready (rs := [17]) (by kernel_rfl) (by simp) ?_
                          refine AllReadyH.cons (o := { dst := some 153, op := Op.call { callee := Callee.value (Operand.func 15), args := #[Operand.tmp 150, Operand.tmp 152], argTypes := #[30, 2] }, type := 4, pos := "outright.go:45", after := #[{ on := 14, ground := Ground.data }, { on := 16, ground := Ground.data }, { on := 13, ground := Ground.chain }, { on := 13, ground := Ground.guard }], guard := some (13, true) }) rfl (fun K hK => ?_) AllReadyH.nil
                          go_simp
                          refine (HIN.out _ (Below.refl _ _).drew).mono ?_
                          rintro e' wq ⟨rfl, rfl⟩
                          go_wp2_with fail
                          refine hK.out _ _ ⟨c0, c1, o1⟩ (fun hHeld => ?_)
                          clear hK K
                          try simp only [Act.put, List.setIfInBounds_toArray, List.set_cons_zero, List.set_cons_succ]
                          refine wpAnyH_take (i := 18) (oi := { dst := some 154, op := Op.unOp UnOp.not 4 (Operand.tmp 153), type := 4, pos := "outright.go:45", after := #[{ on := 17, ground := Ground.data }, { on := 13, ground := Ground.guard }], guard := some (13, true) }) (v := ?vv154) rfl (by kernel_rfl) (by kernel_rfl) (by kernel_rfl) (fun _ _ _ h => h) (Or.inl ⟨by rfl, ?hy154⟩) (by assumption) ?_
                          case hy154 => (intro w hSw; (try dsimp only at hSw); go_simp; all_goals with_reducible rfl)
                          try simp only [Act.put, List.setIfInBounds_toArray, List.set_cons_zero, List.set_cons_succ]
                          refine wpAnyH_take (i := 19) (oi := { dst := some 155, op := Op.pick (Operand.tmp 149) (Operand.tmp 154) (Operand.const (Value.bool false)), type := 4, pos := "outright.go:45", after := #[{ on := 13, ground := Ground.data }, { on := 18, ground := Ground.data }], guard := none }) (v := ?vv155) rfl (by kernel_rfl) (by kernel_rfl) (by kernel_rfl) (fun _ _ _ h => h) (Or.inl ⟨by rfl, ?hy155⟩) (by assumption) ?_
                          case hy155 => (intro w hSw; (try dsimp only at hSw); go_simp; all_goals with_reducible rfl)
                          try simp only [Act.put, List.setIfInBounds_toArray, List.set_cons_zero, List.set_cons_succ]
                          refine wpAnyH_take (i := 20) (oi := { dst := some 156, op := Op.move (Operand.tmp 155), type := 4, pos := "outright.go:45", after := #[{ on := 19, ground := Ground.data }, { on := 17, ground := Ground.chain }], guard := none }) (v := ?vv156) rfl (by kernel_rfl) (by kernel_rfl) (by kernel_rfl) (fun _ _ _ h => h) (Or.inl ⟨by rfl, ?hy156⟩) (by assumption) ?_
                          case hy156 => (intro w hSw; (try dsimp only at hSw); go_simp; all_goals with_reducible rfl)
                          try simp only [Act.put, List.setIfInBounds_toArray, List.set_cons_zero, List.set_cons_succ]
                          refine wpAnyH_take (i := 21) (oi := { dst := some 157, op := Op.move (Operand.tmp 11), type := 3, pos := "outright.go:45", after := #[{ on := 20, ground := Ground.guard }], guard := some (20, true) }) (v := undef) rfl (by kernel_rfl) (by kernel_rfl) (by kernel_rfl) (fun _ _ _ h => h) (Or.inr ⟨by rfl, rfl⟩) (by assumption) ?_
                          try simp only [Act.put, List.setIfInBounds_toArray, List.set_cons_zero, List.set_cons_succ]
                          refine wpAnyH_take (i := 22) (oi := { dst := some 158, op := Op.binOp BinOp.neq 3 (Operand.tmp 157) (Operand.const (Value.int IntKind.i64 6)) 3, type := 4, pos := "outright.go:45", after := #[{ on := 21, ground := Ground.data }, { on := 20, ground := Ground.guard }], guard := some (20, true) }) (v := undef) rfl (by kernel_rfl) (by kernel_rfl) (by kernel_rfl) (fun _ _ _ h => h) (Or.inr ⟨by rfl, rfl⟩) (by assumption) ?_
                          try simp only [Act.put, List.setIfInBounds_toArray, List.set_cons_zero, List.set_cons_succ]
                          refine wpAnyH_take (i := 23) (oi := { dst := some 159, op := Op.pick (Operand.tmp 156) (Operand.tmp 158) (Operand.const (Value.bool false)), type := 4, pos := "outright.go:45", after := #[{ on := 20, ground := Ground.data }, { on := 22, ground := Ground.data }], guard := none }) (v := ?vv157) rfl (by kernel_rfl) (by kernel_rfl) (by kernel_rfl) (fun _ _ _ h => h) (Or.inl ⟨by rfl, ?hy157⟩) (by assumption) ?_
                          case hy157 => (intro w hSw; (try dsimp only at hSw); go_simp; all_goals with_reducible rfl)
                          try simp only [Act.put, List.setIfInBounds_toArray, List.set_cons_zero, List.set_cons_succ]
                          refine wpAnyH_done (by kernel_rfl) ?_ _
                          go_wp2_with fail
                          go_meet
                          exact ⟨rfl, (Below.refl _ _).drew⟩
                    · have g2 : decide (id < t0') = false := decide_eq_false h2
                      clear htp hod HSk
                      as_aux_lemma =>
                        refine wp_region_held_drew (S := (fun W => W.cell? ⟨q, 0, none⟩ = some (.int .i64 t0') ∧ W.cell? ⟨q, 1, none⟩ = some (.int .i64 t1') ∧ W.cell? ⟨O, 1, none⟩ = some (.int .i64 id))) (by kernel_rfl) ⟨c0, c1, o1⟩ (fun hHeld => ?_)
                        refine wpAnyH_take (i := 0) (oi := { dst := some 136, op := Op.fieldAddr 29 (Operand.tmp 9) 1, type := 0, pos := "outright.go:45", after := #[], guard := none }) (v := ?vv158) rfl (by kernel_rfl) (by kernel_rfl) (by kernel_rfl) (fun _ _ _ h => h) (Or.inl ⟨by rfl, ?hy158⟩) (by assumption) ?_
                        case hy158 => (intro w hSw; (try dsimp only at hSw); go_simp; all_goals with_reducible rfl)
                        try simp only [Act.put, List.setIfInBounds_toArray, List.set_cons_zero, List.set_cons_succ]
                        refine wpAnyH_take (i := 1) (oi := { dst := some 137, op := Op.load 2 (Operand.tmp 136), type := 2, pos := "outright.go:45", after := #[{ on := 0, ground := Ground.data }], guard := none }) (v := ?vv159) rfl (by kernel_rfl) (by kernel_rfl) (by kernel_rfl) (fun _ _ _ h => h) (Or.inl ⟨by rfl, ?hy159⟩) (by assumption) ?_
                        case hy159 => (intro w hSw; (try dsimp only at hSw); go_simp; all_goals with_reducible rfl)
                        try simp only [Act.put, List.setIfInBounds_toArray, List.set_cons_zero, List.set_cons_succ]
                        refine wpAnyH_take (i := 2) (oi := { dst := some 138, op := Op.binOp BinOp.geq 2 (Operand.tmp 137) (Operand.const (Value.int IntKind.i64 1)) 2, type := 4, pos := "outright.go:45", after := #[{ on := 1, ground := Ground.data }], guard := none }) (v := ?vv160) rfl (by kernel_rfl) (by kernel_rfl) (by kernel_rfl) (fun _ _ _ h => h) (Or.inl ⟨by rfl, ?hy160⟩) (by assumption) ?_
                        case hy160 => (intro w hSw; (try dsimp only at hSw); go_simp; all_goals with_reducible rfl)
                        try simp only [Act.put, List.setIfInBounds_toArray, List.set_cons_zero, List.set_cons_succ]
                        refine wpAnyH_take (i := 3) (oi := { dst := some 139, op := Op.move (Operand.tmp 138), type := 4, pos := "outright.go:45", after := #[{ on := 2, ground := Ground.data }], guard := none }) (v := ?vv161) rfl (by kernel_rfl) (by kernel_rfl) (by kernel_rfl) (fun _ _ _ h => h) (Or.inl ⟨by rfl, ?hy161⟩) (by assumption) ?_
                        case hy161 => (intro w hSw; (try dsimp only at hSw); go_simp; all_goals with_reducible rfl)
                        try simp only [Act.put, List.setIfInBounds_toArray, List.set_cons_zero, List.set_cons_succ]
                        refine wpAnyH_take (i := 4) (oi := { dst := some 140, op := Op.fieldAddr 29 (Operand.tmp 9) 1, type := 0, pos := "outright.go:45", after := #[{ on := 3, ground := Ground.guard }], guard := some (3, true) }) (v := ?vv162) rfl (by kernel_rfl) (by kernel_rfl) (by kernel_rfl) (fun _ _ _ h => h) (Or.inl ⟨by rfl, ?hy162⟩) (by assumption) ?_
                        case hy162 => (intro w hSw; (try dsimp only at hSw); go_simp; all_goals with_reducible rfl)
                        try simp only [Act.put, List.setIfInBounds_toArray, List.set_cons_zero, List.set_cons_succ]
                        refine wpAnyH_take (i := 5) (oi := { dst := some 141, op := Op.load 2 (Operand.tmp 140), type := 2, pos := "outright.go:45", after := #[{ on := 4, ground := Ground.data }, { on := 3, ground := Ground.guard }], guard := some (3, true) }) (v := ?vv163) rfl (by kernel_rfl) (by kernel_rfl) (by kernel_rfl) (fun _ _ _ h => h) (Or.inl ⟨by rfl, ?hy163⟩) (by assumption) ?_
                        case hy163 => (intro w hSw; (try dsimp only at hSw); go_simp; all_goals with_reducible rfl)
                        try simp only [Act.put, List.setIfInBounds_toArray, List.set_cons_zero, List.set_cons_succ]
                        refine wpAnyH_take (i := 6) (oi := { dst := some 142, op := Op.fieldAddr 29 (Operand.tmp 9) 1, type := 0, pos := "outright.go:45", after := #[{ on := 3, ground := Ground.guard }], guard := some (3, true) }) (v := ?vv164) rfl (by kernel_rfl) (by kernel_rfl) (by kernel_rfl) (fun _ _ _ h => h) (Or.inl ⟨by rfl, ?hy164⟩) (by assumption) ?_
                        case hy164 => (intro w hSw; (try dsimp only at hSw); go_simp; all_goals with_reducible rfl)
                        try simp only [Act.put, List.setIfInBounds_toArray, List.set_cons_zero, List.set_cons_succ]
                        refine wpAnyH_take (i := 7) (oi := { dst := some 143, op := Op.load 2 (Operand.tmp 142), type := 2, pos := "outright.go:45", after := #[{ on := 6, ground := Ground.data }, { on := 3, ground := Ground.guard }], guard := some (3, true) }) (v := ?vv165) rfl (by kernel_rfl) (by kernel_rfl) (by kernel_rfl) (fun _ _ _ h => h) (Or.inl ⟨by rfl, ?hy165⟩) (by assumption) ?_
                        case hy165 => (intro w hSw; (try dsimp only at hSw); go_simp; all_goals with_reducible rfl)
                        try simp only [Act.put, List.setIfInBounds_toArray, List.set_cons_zero, List.set_cons_succ]
                        refine wpAnyH_take (i := 8) (oi := { dst := some 144, op := Op.binOp BinOp.and 2 (Operand.tmp 143) (Operand.const (Value.int IntKind.i64 1)) 2, type := 2, pos := "outright.go:45", after := #[{ on := 7, ground := Ground.data }, { on := 3, ground := Ground.guard }], guard := some (3, true) }) (v := ?vv166) rfl (by kernel_rfl) (by kernel_rfl) (by kernel_rfl) (fun _ _ _ h => h) (Or.inl ⟨by rfl, ?hy166⟩) (by assumption) ?_
                        case hy166 => (intro w hSw; (try dsimp only at hSw); go_simp; all_goals with_reducible rfl)
                        try simp only [Act.put, List.setIfInBounds_toArray, List.set_cons_zero, List.set_cons_succ]
                        refine wpAnyH_take (i := 9) (oi := { dst := some 145, op := Op.indexAddr 36 (Operand.tmp 7) (Operand.tmp 144), type := 0, pos := "outright.go:45", after := #[{ on := 8, ground := Ground.data }, { on := 3, ground := Ground.guard }], guard := some (3, true) }) (v := ?vv167) rfl (by kernel_rfl) (by kernel_rfl) (by kernel_rfl) (fun _ _ _ h => h) (Or.inl ⟨by rfl, ?hy167⟩) (by assumption) ?_
                        case hy167 => (intro w hSw; (try dsimp only at hSw); go_simp; all_goals with_reducible rfl)
                        try simp only [Act.put, List.setIfInBounds_toArray, List.set_cons_zero, List.set_cons_succ]
                        refine wpAnyH_take (i := 10) (oi := { dst := some 146, op := Op.load 2 (Operand.tmp 145), type := 2, pos := "outright.go:45", after := #[{ on := 9, ground := Ground.data }, { on := 3, ground := Ground.guard }], guard := some (3, true) }) (v := ?vv168) rfl (by kernel_rfl) (by kernel_rfl) (by kernel_rfl) (fun _ _ _ h => h) (Or.inl ⟨by rfl, ?hy168⟩) (by assumption) ?_
                        case hy168 => (intro w hSw; (try dsimp only at hSw); go_simp; all_goals with_reducible rfl)
                        try simp only [Act.put, List.setIfInBounds_toArray, List.set_cons_zero, List.set_cons_succ]
                        refine wpAnyH_take (i := 11) (oi := { dst := some 147, op := Op.binOp BinOp.lss 2 (Operand.tmp 141) (Operand.tmp 146) 2, type := 4, pos := "outright.go:45", after := #[{ on := 5, ground := Ground.data }, { on := 10, ground := Ground.data }, { on := 3, ground := Ground.guard }], guard := some (3, true) }) (v := ?vv169) rfl (by kernel_rfl) (by kernel_rfl) (by kernel_rfl) (fun _ _ _ h => h) (Or.inl ⟨by rfl, ?hy169⟩) (by assumption) ?_
                        case hy169 => (intro w hSw; (try dsimp only at hSw); go_simp; all_goals with_reducible rfl)
                        try simp only [Act.put, List.setIfInBounds_toArray, List.set_cons_zero, List.set_cons_succ]
                        refine wpAnyH_take (i := 12) (oi := { dst := some 148, op := Op.pick (Operand.tmp 139) (Operand.tmp 147) (Operand.const (Value.bool false)), type := 4, pos := "outright.go:45", after := #[{ on := 3, ground := Ground.data }, { on := 11, ground := Ground.data }], guard := none }) (v := ?vv170) rfl (by kernel_rfl) (by kernel_rfl) (by kernel_rfl) (fun _ _ _ h => h) (Or.inl ⟨by rfl, ?hy170⟩) (by assumption) ?_
                        case hy170 => (intro w hSw; (try dsimp only at hSw); go_simp; all_goals with_reducible rfl)
                        try simp only [Act.put, List.setIfInBounds_toArray, List.set_cons_zero, List.set_cons_succ]
                        refine wpAnyH_take (i := 13) (oi := { dst := some 149, op := Op.move (Operand.tmp 148), type := 4, pos := "outright.go:45", after := #[{ on := 12, ground := Ground.data }, { on := 3, ground := Ground.chain }], guard := none }) (v := ?vv171) rfl (by kernel_rfl) (by kernel_rfl) (by kernel_rfl) (fun _ _ _ h => h) (Or.inl ⟨by rfl, ?hy171⟩) (by assumption) ?_
                        case hy171 => (intro w hSw; (try dsimp only at hSw); go_simp; all_goals with_reducible rfl)
                        try simp only [Act.put, List.setIfInBounds_toArray, List.set_cons_zero, List.set_cons_succ]
                        refine wpAnyH_take (i := 14) (oi := { dst := some 150, op := Op.move (Operand.tmp 6), type := 30, pos := "outright.go:45", after := #[{ on := 13, ground := Ground.guard }], guard := some (13, true) }) (v := undef) rfl (by kernel_rfl) (by kernel_rfl) (by kernel_rfl) (fun _ _ _ h => h) (Or.inr ⟨by rfl, rfl⟩) (by assumption) ?_
                        try simp only [Act.put, List.setIfInBounds_toArray, List.set_cons_zero, List.set_cons_succ]
                        refine wpAnyH_take (i := 15) (oi := { dst := some 151, op := Op.fieldAddr 29 (Operand.tmp 9) 1, type := 0, pos := "outright.go:45", after := #[{ on := 13, ground := Ground.guard }], guard := some (13, true) }) (v := undef) rfl (by kernel_rfl) (by kernel_rfl) (by kernel_rfl) (fun _ _ _ h => h) (Or.inr ⟨by rfl, rfl⟩) (by assumption) ?_
                        try simp only [Act.put, List.setIfInBounds_toArray, List.set_cons_zero, List.set_cons_succ]
                        refine wpAnyH_take (i := 16) (oi := { dst := some 152, op := Op.load 2 (Operand.tmp 151), type := 2, pos := "outright.go:45", after := #[{ on := 15, ground := Ground.data }, { on := 13, ground := Ground.guard }], guard := some (13, true) }) (v := undef) rfl (by kernel_rfl) (by kernel_rfl) (by kernel_rfl) (fun _ _ _ h => h) (Or.inr ⟨by rfl, rfl⟩) (by assumption) ?_
                        try simp only [Act.put, List.setIfInBounds_toArray, List.set_cons_zero, List.set_cons_succ]
                        refine wpAnyH_take (i := 17) (oi := { dst := some 153, op := Op.call { callee := Callee.value (Operand.func 15), args := #[Operand.tmp 150, Operand.tmp 152], argTypes := #[30, 2] }, type := 4, pos := "outright.go:45", after := #[{ on := 14, ground := Ground.data }, { on := 16, ground := Ground.data }, { on := 13, ground := Ground.chain }, { on := 13, ground := Ground.guard }], guard := some (13, true) }) (v := undef) rfl (by kernel_rfl) (by kernel_rfl) (by kernel_rfl) (fun _ _ _ h => h) (Or.inr ⟨by rfl, rfl⟩) (by assumption) ?_
                        try simp only [Act.put, List.setIfInBounds_toArray, List.set_cons_zero, List.set_cons_succ]
                        refine wpAnyH_take (i := 18) (oi := { dst := some 154, op := Op.unOp UnOp.not 4 (Operand.tmp 153), type := 4, pos := "outright.go:45", after := #[{ on := 17, ground := Ground.data }, { on := 13, ground := Ground.guard }], guard := some (13, true) }) (v := undef) rfl (by kernel_rfl) (by kernel_rfl) (by kernel_rfl) (fun _ _ _ h => h) (Or.inr ⟨by rfl, rfl⟩) (by assumption) ?_
                        try simp only [Act.put, List.setIfInBounds_toArray, List.set_cons_zero, List.set_cons_succ]
                        refine wpAnyH_take (i := 19) (oi := { dst := some 155, op := Op.pick (Operand.tmp 149) (Operand.tmp 154) (Operand.const (Value.bool false)), type := 4, pos := "outright.go:45", after := #[{ on := 13, ground := Ground.data }, { on := 18, ground := Ground.data }], guard := none }) (v := ?vv172) rfl (by kernel_rfl) (by kernel_rfl) (by kernel_rfl) (fun _ _ _ h => h) (Or.inl ⟨by rfl, ?hy172⟩) (by assumption) ?_
                        case hy172 => (intro w hSw; (try dsimp only at hSw); go_simp; all_goals with_reducible rfl)
                        try simp only [Act.put, List.setIfInBounds_toArray, List.set_cons_zero, List.set_cons_succ]
                        refine wpAnyH_take (i := 20) (oi := { dst := some 156, op := Op.move (Operand.tmp 155), type := 4, pos := "outright.go:45", after := #[{ on := 19, ground := Ground.data }, { on := 17, ground := Ground.chain }], guard := none }) (v := ?vv173) rfl (by kernel_rfl) (by kernel_rfl) (by kernel_rfl) (fun _ _ _ h => h) (Or.inl ⟨by rfl, ?hy173⟩) (by assumption) ?_
                        case hy173 => (intro w hSw; (try dsimp only at hSw); go_simp; all_goals with_reducible rfl)
                        try simp only [Act.put, List.setIfInBounds_toArray, List.set_cons_zero, List.set_cons_succ]
                        refine wpAnyH_take (i := 21) (oi := { dst := some 157, op := Op.move (Operand.tmp 11), type := 3, pos := "outright.go:45", after := #[{ on := 20, ground := Ground.guard }], guard := some (20, true) }) (v := undef) rfl (by kernel_rfl) (by kernel_rfl) (by kernel_rfl) (fun _ _ _ h => h) (Or.inr ⟨by rfl, rfl⟩) (by assumption) ?_
                        try simp only [Act.put, List.setIfInBounds_toArray, List.set_cons_zero, List.set_cons_succ]
                        refine wpAnyH_take (i := 22) (oi := { dst := some 158, op := Op.binOp BinOp.neq 3 (Operand.tmp 157) (Operand.const (Value.int IntKind.i64 6)) 3, type := 4, pos := "outright.go:45", after := #[{ on := 21, ground := Ground.data }, { on := 20, ground := Ground.guard }], guard := some (20, true) }) (v := undef) rfl (by kernel_rfl) (by kernel_rfl) (by kernel_rfl) (fun _ _ _ h => h) (Or.inr ⟨by rfl, rfl⟩) (by assumption) ?_
                        try simp only [Act.put, List.setIfInBounds_toArray, List.set_cons_zero, List.set_cons_succ]
                        refine wpAnyH_take (i := 23) (oi := { dst := some 159, op := Op.pick (Operand.tmp 156) (Operand.tmp 158) (Operand.const (Value.bool false)), type := 4, pos := "outright.go:45", after := #[{ on := 20, ground := Ground.data }, { on := 22, ground := Ground.data }], guard := none }) (v := ?vv174) rfl (by kernel_rfl) (by kernel_rfl) (by kernel_rfl) (fun _ _ _ h => h) (Or.inl ⟨by rfl, ?hy174⟩) (by assumption) ?_
                        case hy174 => (intro w hSw; (try dsimp only at hSw); go_simp; all_goals with_reducible rfl)
                        try simp only [Act.put, List.setIfInBounds_toArray, List.set_cons_zero, List.set_cons_succ]
                        refine wpAnyH_done (by kernel_rfl) ?_ _
                        go_wp2_with fail
                        go_meet
                        exact ⟨rfl, (Below.refl _ _).drew⟩
                  · rw [hod] at hand
                    rw [if_pos rfl] at hand
                    have htp : T'.top (odd id) = t1' := by rw [hod]; exact hT8.out.2
                    by_cases h2 : id < t1'
                    · have g2 : decide (id < t1') = true := decide_eq_true h2
                      cases dd
                      · have h6 := HSk.out h1 (by rw [htp]; exact h2) (HMB.out rfl)
                        subst h6
                        clear htp hod HSk
                        as_aux_lemma =>
                          refine wp_region_held_drew (S := (fun W => W.cell? ⟨q, 0, none⟩ = some (.int .i64 t0') ∧ W.cell? ⟨q, 1, none⟩ = some (.int .i64 t1') ∧ W.cell? ⟨O, 1, none⟩ = some (.int .i64 id))) (by kernel_rfl) ⟨c0, c1, o1⟩ (fun hHeld => ?_)
                          refine wpAnyH_take (i := 0) (oi := { dst := some 136, op := Op.fieldAddr 29 (Operand.tmp 9) 1, type := 0, pos := "outright.go:45", after := #[], guard := none }) (v := ?vv175) rfl (by kernel_rfl) (by kernel_rfl) (by kernel_rfl) (fun _ _ _ h => h) (Or.inl ⟨by rfl, ?hy175⟩) (by assumption) ?_
                          case hy175 => (intro w hSw; (try dsimp only at hSw); go_simp; all_goals with_reducible rfl)
                          try simp only [Act.put, List.setIfInBounds_toArray, List.set_cons_zero, List.set_cons_succ]
                          refine wpAnyH_take (i := 1) (oi := { dst := some 137, op := Op.load 2 (Operand.tmp 136), type := 2, pos := "outright.go:45", after := #[{ on := 0, ground := Ground.data }], guard := none }) (v := ?vv176) rfl (by kernel_rfl) (by kernel_rfl) (by kernel_rfl) (fun _ _ _ h => h) (Or.inl ⟨by rfl, ?hy176⟩) (by assumption) ?_
                          case hy176 => (intro w hSw; (try dsimp only at hSw); go_simp; all_goals with_reducible rfl)
                          try simp only [Act.put, List.setIfInBounds_toArray, List.set_cons_zero, List.set_cons_succ]
                          refine wpAnyH_take (i := 2) (oi := { dst := some 138, op := Op.binOp BinOp.geq 2 (Operand.tmp 137) (Operand.const (Value.int IntKind.i64 1)) 2, type := 4, pos := "outright.go:45", after := #[{ on := 1, ground := Ground.data }], guard := none }) (v := ?vv177) rfl (by kernel_rfl) (by kernel_rfl) (by kernel_rfl) (fun _ _ _ h => h) (Or.inl ⟨by rfl, ?hy177⟩) (by assumption) ?_
                          case hy177 => (intro w hSw; (try dsimp only at hSw); go_simp; all_goals with_reducible rfl)
                          try simp only [Act.put, List.setIfInBounds_toArray, List.set_cons_zero, List.set_cons_succ]
                          refine wpAnyH_take (i := 3) (oi := { dst := some 139, op := Op.move (Operand.tmp 138), type := 4, pos := "outright.go:45", after := #[{ on := 2, ground := Ground.data }], guard := none }) (v := ?vv178) rfl (by kernel_rfl) (by kernel_rfl) (by kernel_rfl) (fun _ _ _ h => h) (Or.inl ⟨by rfl, ?hy178⟩) (by assumption) ?_
                          case hy178 => (intro w hSw; (try dsimp only at hSw); go_simp; all_goals with_reducible rfl)
                          try simp only [Act.put, List.setIfInBounds_toArray, List.set_cons_zero, List.set_cons_succ]
                          refine wpAnyH_take (i := 4) (oi := { dst := some 140, op := Op.fieldAddr 29 (Operand.tmp 9) 1, type := 0, pos := "outright.go:45", after := #[{ on := 3, ground := Ground.guard }], guard := some (3, true) }) (v := ?vv179) rfl (by kernel_rfl) (by kernel_rfl) (by kernel_rfl) (fun _ _ _ h => h) (Or.inl ⟨by rfl, ?hy179⟩) (by assumption) ?_
                          case hy179 => (intro w hSw; (try dsimp only at hSw); go_simp; all_goals with_reducible rfl)
                          try simp only [Act.put, List.setIfInBounds_toArray, List.set_cons_zero, List.set_cons_succ]
                          refine wpAnyH_take (i := 5) (oi := { dst := some 141, op := Op.load 2 (Operand.tmp 140), type := 2, pos := "outright.go:45", after := #[{ on := 4, ground := Ground.data }, { on := 3, ground := Ground.guard }], guard := some (3, true) }) (v := ?vv180) rfl (by kernel_rfl) (by kernel_rfl) (by kernel_rfl) (fun _ _ _ h => h) (Or.inl ⟨by rfl, ?hy180⟩) (by assumption) ?_
                          case hy180 => (intro w hSw; (try dsimp only at hSw); go_simp; all_goals with_reducible rfl)
                          try simp only [Act.put, List.setIfInBounds_toArray, List.set_cons_zero, List.set_cons_succ]
                          refine wpAnyH_take (i := 6) (oi := { dst := some 142, op := Op.fieldAddr 29 (Operand.tmp 9) 1, type := 0, pos := "outright.go:45", after := #[{ on := 3, ground := Ground.guard }], guard := some (3, true) }) (v := ?vv181) rfl (by kernel_rfl) (by kernel_rfl) (by kernel_rfl) (fun _ _ _ h => h) (Or.inl ⟨by rfl, ?hy181⟩) (by assumption) ?_
                          case hy181 => (intro w hSw; (try dsimp only at hSw); go_simp; all_goals with_reducible rfl)
                          try simp only [Act.put, List.setIfInBounds_toArray, List.set_cons_zero, List.set_cons_succ]
                          refine wpAnyH_take (i := 7) (oi := { dst := some 143, op := Op.load 2 (Operand.tmp 142), type := 2, pos := "outright.go:45", after := #[{ on := 6, ground := Ground.data }, { on := 3, ground := Ground.guard }], guard := some (3, true) }) (v := ?vv182) rfl (by kernel_rfl) (by kernel_rfl) (by kernel_rfl) (fun _ _ _ h => h) (Or.inl ⟨by rfl, ?hy182⟩) (by assumption) ?_
                          case hy182 => (intro w hSw; (try dsimp only at hSw); go_simp; all_goals with_reducible rfl)
                          try simp only [Act.put, List.setIfInBounds_toArray, List.set_cons_zero, List.set_cons_succ]
                          refine wpAnyH_take (i := 8) (oi := { dst := some 144, op := Op.binOp BinOp.and 2 (Operand.tmp 143) (Operand.const (Value.int IntKind.i64 1)) 2, type := 2, pos := "outright.go:45", after := #[{ on := 7, ground := Ground.data }, { on := 3, ground := Ground.guard }], guard := some (3, true) }) (v := ?vv183) rfl (by kernel_rfl) (by kernel_rfl) (by kernel_rfl) (fun _ _ _ h => h) (Or.inl ⟨by rfl, ?hy183⟩) (by assumption) ?_
                          case hy183 => (intro w hSw; (try dsimp only at hSw); go_simp; all_goals with_reducible rfl)
                          try simp only [Act.put, List.setIfInBounds_toArray, List.set_cons_zero, List.set_cons_succ]
                          refine wpAnyH_take (i := 9) (oi := { dst := some 145, op := Op.indexAddr 36 (Operand.tmp 7) (Operand.tmp 144), type := 0, pos := "outright.go:45", after := #[{ on := 8, ground := Ground.data }, { on := 3, ground := Ground.guard }], guard := some (3, true) }) (v := ?vv184) rfl (by kernel_rfl) (by kernel_rfl) (by kernel_rfl) (fun _ _ _ h => h) (Or.inl ⟨by rfl, ?hy184⟩) (by assumption) ?_
                          case hy184 => (intro w hSw; (try dsimp only at hSw); go_simp; all_goals with_reducible rfl)
                          try simp only [Act.put, List.setIfInBounds_toArray, List.set_cons_zero, List.set_cons_succ]
                          refine wpAnyH_take (i := 10) (oi := { dst := some 146, op := Op.load 2 (Operand.tmp 145), type := 2, pos := "outright.go:45", after := #[{ on := 9, ground := Ground.data }, { on := 3, ground := Ground.guard }], guard := some (3, true) }) (v := ?vv185) rfl (by kernel_rfl) (by kernel_rfl) (by kernel_rfl) (fun _ _ _ h => h) (Or.inl ⟨by rfl, ?hy185⟩) (by assumption) ?_
                          case hy185 => (intro w hSw; (try dsimp only at hSw); go_simp; all_goals with_reducible rfl)
                          try simp only [Act.put, List.setIfInBounds_toArray, List.set_cons_zero, List.set_cons_succ]
                          refine wpAnyH_take (i := 11) (oi := { dst := some 147, op := Op.binOp BinOp.lss 2 (Operand.tmp 141) (Operand.tmp 146) 2, type := 4, pos := "outright.go:45", after := #[{ on := 5, ground := Ground.data }, { on := 10, ground := Ground.data }, { on := 3, ground := Ground.guard }], guard := some (3, true) }) (v := ?vv186) rfl (by kernel_rfl) (by kernel_rfl) (by kernel_rfl) (fun _ _ _ h => h) (Or.inl ⟨by rfl, ?hy186⟩) (by assumption) ?_
                          case hy186 => (intro w hSw; (try dsimp only at hSw); go_simp; all_goals with_reducible rfl)
                          try simp only [Act.put, List.setIfInBounds_toArray, List.set_cons_zero, List.set_cons_succ]
                          refine wpAnyH_take (i := 12) (oi := { dst := some 148, op := Op.pick (Operand.tmp 139) (Operand.tmp 147) (Operand.const (Value.bool false)), type := 4, pos := "outright.go:45", after := #[{ on := 3, ground := Ground.data }, { on := 11, ground := Ground.data }], guard := none }) (v := ?vv187) rfl (by kernel_rfl) (by kernel_rfl) (by kernel_rfl) (fun _ _ _ h => h) (Or.inl ⟨by rfl, ?hy187⟩) (by assumption) ?_
                          case hy187 => (intro w hSw; (try dsimp only at hSw); go_simp; all_goals with_reducible rfl)
                          try simp only [Act.put, List.setIfInBounds_toArray, List.set_cons_zero, List.set_cons_succ]
                          refine wpAnyH_take (i := 13) (oi := { dst := some 149, op := Op.move (Operand.tmp 148), type := 4, pos := "outright.go:45", after := #[{ on := 12, ground := Ground.data }, { on := 3, ground := Ground.chain }], guard := none }) (v := ?vv188) rfl (by kernel_rfl) (by kernel_rfl) (by kernel_rfl) (fun _ _ _ h => h) (Or.inl ⟨by rfl, ?hy188⟩) (by assumption) ?_
                          case hy188 => (intro w hSw; (try dsimp only at hSw); go_simp; all_goals with_reducible rfl)
                          try simp only [Act.put, List.setIfInBounds_toArray, List.set_cons_zero, List.set_cons_succ]
                          refine wpAnyH_take (i := 14) (oi := { dst := some 150, op := Op.move (Operand.tmp 6), type := 30, pos := "outright.go:45", after := #[{ on := 13, ground := Ground.guard }], guard := some (13, true) }) (v := ?vv189) rfl (by kernel_rfl) (by kernel_rfl) (by kernel_rfl) (fun _ _ _ h => h) (Or.inl ⟨by rfl, ?hy189⟩) (by assumption) ?_
                          case hy189 => (intro w hSw; (try dsimp only at hSw); go_simp; all_goals with_reducible rfl)
                          try simp only [Act.put, List.setIfInBounds_toArray, List.set_cons_zero, List.set_cons_succ]
                          refine wpAnyH_take (i := 15) (oi := { dst := some 151, op := Op.fieldAddr 29 (Operand.tmp 9) 1, type := 0, pos := "outright.go:45", after := #[{ on := 13, ground := Ground.guard }], guard := some (13, true) }) (v := ?vv190) rfl (by kernel_rfl) (by kernel_rfl) (by kernel_rfl) (fun _ _ _ h => h) (Or.inl ⟨by rfl, ?hy190⟩) (by assumption) ?_
                          case hy190 => (intro w hSw; (try dsimp only at hSw); go_simp; all_goals with_reducible rfl)
                          try simp only [Act.put, List.setIfInBounds_toArray, List.set_cons_zero, List.set_cons_succ]
                          refine wpAnyH_take (i := 16) (oi := { dst := some 152, op := Op.load 2 (Operand.tmp 151), type := 2, pos := "outright.go:45", after := #[{ on := 15, ground := Ground.data }, { on := 13, ground := Ground.guard }], guard := some (13, true) }) (v := ?vv191) rfl (by kernel_rfl) (by kernel_rfl) (by kernel_rfl) (fun _ _ _ h => h) (Or.inl ⟨by rfl, ?hy191⟩) (by assumption) ?_
                          case hy191 => (intro w hSw; (try dsimp only at hSw); go_simp; all_goals with_reducible rfl)
                          try simp only [Act.put, List.setIfInBounds_toArray, List.set_cons_zero, List.set_cons_succ]
                          refine wpAnyH_ready (rs := [17]) (by kernel_rfl) (by simp) ?_
                          refine AllReadyH.cons (o := { dst := some 153, op := Op.call { callee := Callee.value (Operand.func 15), args := #[Operand.tmp 150, Operand.tmp 152], argTypes := #[30, 2] }, type := 4, pos := "outright.go:45", after := #[{ on := 14, ground := Ground.data }, { on := 16, ground := Ground.data }, { on := 13, ground := Ground.chain }, { on := 13, ground := Ground.guard }], guard := some (13, true) }) rfl (fun K hK => ?_) AllReadyH.nil
                          go_simp
                          refine (HIN.out _ (Below.refl _ _).drew).mono ?_
                          rintro e' wq ⟨rfl, rfl⟩
                          go_wp2_with fail
                          refine hK.out _ _ ⟨c0, c1, o1⟩ (fun hHeld => ?_)
                          clear hK K
                          try simp only [Act.put, List.setIfInBounds_toArray, List.set_cons_zero, List.set_cons_succ]
                          refine wpAnyH_take (i := 18) (oi := { dst := some 154, op := Op.unOp UnOp.not 4 (Operand.tmp 153), type := 4, pos := "outright.go:45", after := #[{ on := 17, ground := Ground.data }, { on := 13, ground := Ground.guard }], guard := some (13, true) }) (v := ?vv192) rfl (by kernel_rfl) (by kernel_rfl) (by kernel_rfl) (fun _ _ _ h => h) (Or.inl ⟨by rfl, ?hy192⟩) (by assumption) ?_
                          case hy192 => (intro w hSw; (try dsimp only at hSw); go_simp; all_goals with_reducible rfl)
                          try simp only [Act.put, List.setIfInBounds_toArray, List.set_cons_zero, List.set_cons_succ]
                          refine wpAnyH_take (i := 19) (oi := { dst := some 155, op := Op.pick (Operand.tmp 149) (Operand.tmp 154) (Operand.const (Value.bool false)), type := 4, pos := "outright.go:45", after := #[{ on := 13, ground := Ground.data }, { on := 18, ground := Ground.data }], guard := none }) (v := ?vv193) rfl (by kernel_rfl) (by kernel_rfl) (by kernel_rfl) (fun _ _ _ h => h) (Or.inl ⟨by rfl, ?hy193⟩) (by assumption) ?_
                          case hy193 => (intro w hSw; (try dsimp only at hSw); go_simp; all_goals with_reducible rfl)
                          try simp only [Act.put, List.setIfInBounds_toArray, List.set_cons_zero, List.set_cons_succ]
                          refine wpAnyH_take (i := 20) (oi := { dst := some 156, op := Op.move (Operand.tmp 155), type := 4, pos := "outright.go:45", after := #[{ on := 19, ground := Ground.data }, { on := 17, ground := Ground.chain }], guard := none }) (v := ?vv194) rfl (by kernel_rfl) (by kernel_rfl) (by kernel_rfl) (fun _ _ _ h => h) (Or.inl ⟨by rfl, ?hy194⟩) (by assumption) ?_
                          case hy194 => (intro w hSw; (try dsimp only at hSw); go_simp; all_goals with_reducible rfl)
                          try simp only [Act.put, List.setIfInBounds_toArray, List.set_cons_zero, List.set_cons_succ]
                          refine wpAnyH_take (i := 21) (oi := { dst := some 157, op := Op.move (Operand.tmp 11), type := 3, pos := "outright.go:45", after := #[{ on := 20, ground := Ground.guard }], guard := some (20, true) }) (v := ?vv195) rfl (by kernel_rfl) (by kernel_rfl) (by kernel_rfl) (fun _ _ _ h => h) (Or.inl ⟨by rfl, ?hy195⟩) (by assumption) ?_
                          case hy195 => (intro w hSw; (try dsimp only at hSw); go_simp; all_goals with_reducible rfl)
                          try simp only [Act.put, List.setIfInBounds_toArray, List.set_cons_zero, List.set_cons_succ]
                          refine wpAnyH_take (i := 22) (oi := { dst := some 158, op := Op.binOp BinOp.neq 3 (Operand.tmp 157) (Operand.const (Value.int IntKind.i64 6)) 3, type := 4, pos := "outright.go:45", after := #[{ on := 21, ground := Ground.data }, { on := 20, ground := Ground.guard }], guard := some (20, true) }) (v := ?vv196) rfl (by kernel_rfl) (by kernel_rfl) (by kernel_rfl) (fun _ _ _ h => h) (Or.inl ⟨by rfl, ?hy196⟩) (by assumption) ?_
                          case hy196 => (intro w hSw; (try dsimp only at hSw); go_simp; all_goals with_reducible rfl)
                          try simp only [Act.put, List.setIfInBounds_toArray, List.set_cons_zero, List.set_cons_succ]
                          refine wpAnyH_take (i := 23) (oi := { dst := some 159, op := Op.pick (Operand.tmp 156) (Operand.tmp 158) (Operand.const (Value.bool false)), type := 4, pos := "outright.go:45", after := #[{ on := 20, ground := Ground.data }, { on := 22, ground := Ground.data }], guard := none }) (v := ?vv197) rfl (by kernel_rfl) (by kernel_rfl) (by kernel_rfl) (fun _ _ _ h => h) (Or.inl ⟨by rfl, ?hy197⟩) (by assumption) ?_
                          case hy197 => (intro w hSw; (try dsimp only at hSw); go_simp; all_goals with_reducible rfl)
                          try simp only [Act.put, List.setIfInBounds_toArray, List.set_cons_zero, List.set_cons_succ]
                          refine wpAnyH_done (by kernel_rfl) ?_ _
                          go_wp2_with fail
                          go_meet
                          exact ⟨rfl, (Below.refl _ _).drew⟩
                      · clear htp hod HSk
                        as_aux_lemma =>
                          refine wp_region_held_drew (S := (fun W => W.cell? ⟨q, 0, none⟩ = some (.int .i64 t0') ∧ W.cell? ⟨q, 1, none⟩ = some (.int .i64 t1') ∧ W.cell? ⟨O, 1, none⟩ = some (.int .i64 id))) (by kernel_rfl) ⟨c0, c1, o1⟩ (fun hHeld => ?_)
                          refine wpAnyH_take (i := 0) (oi := { dst := some 136, op := Op.fieldAddr 29 (Operand.tmp 9) 1, type := 0, pos := "outright.go:45", after := #[], guard := none }) (v := ?vv198) rfl (by kernel_rfl) (by kernel_rfl) (by kernel_rfl) (fun _ _ _ h => h) (Or.inl ⟨by rfl, ?hy198⟩) (by assumption) ?_
                          case hy198 => (intro w hSw; (try dsimp only at hSw); go_simp; all_goals with_reducible rfl)
                          try simp only [Act.put, List.setIfInBounds_toArray, List.set_cons_zero, List.set_cons_succ]
                          refine wpAnyH_take (i := 1) (oi := { dst := some 137, op := Op.load 2 (Operand.tmp 136), type := 2, pos := "outright.go:45", after := #[{ on := 0, ground := Ground.data }], guard := none }) (v := ?vv199) rfl (by kernel_rfl) (by kernel_rfl) (by kernel_rfl) (fun _ _ _ h => h) (Or.inl ⟨by rfl, ?hy199⟩) (by assumption) ?_
                          case hy199 => (intro w hSw; (try dsimp only at hSw); go_simp; all_goals with_reducible rfl)
                          try simp only [Act.put, List.setIfInBounds_toArray, List.set_cons_zero, List.set_cons_succ]
                          refine wpAnyH_take (i := 2) (oi := { dst := some 138, op := Op.binOp BinOp.geq 2 (Operand.tmp 137) (Operand.const (Value.int IntKind.i64 1)) 2, type := 4, pos := "outright.go:45", after := #[{ on := 1, ground := Ground.data }], guard := none }) (v := ?vv200) rfl (by kernel_rfl) (by kernel_rfl) (by kernel_rfl) (fun _ _ _ h => h) (Or.inl ⟨by rfl, ?hy200⟩) (by assumption) ?_
                          case hy200 => (intro w hSw; (try dsimp only at hSw); go_simp; all_goals with_reducible rfl)
                          try simp only [Act.put, List.setIfInBounds_toArray, List.set_cons_zero, List.set_cons_succ]
                          refine wpAnyH_take (i := 3) (oi := { dst := some 139, op := Op.move (Operand.tmp 138), type := 4, pos := "outright.go:45", after := #[{ on := 2, ground := Ground.data }], guard := none }) (v := ?vv201) rfl (by kernel_rfl) (by kernel_rfl) (by kernel_rfl) (fun _ _ _ h => h) (Or.inl ⟨by rfl, ?hy201⟩) (by assumption) ?_
                          case hy201 => (intro w hSw; (try dsimp only at hSw); go_simp; all_goals with_reducible rfl)
                          try simp only [Act.put, List.setIfInBounds_toArray, List.set_cons_zero, List.set_cons_succ]
                          refine wpAnyH_take (i := 4) (oi := { dst := some 140, op := Op.fieldAddr 29 (Operand.tmp 9) 1, type := 0, pos := "outright.go:45", after := #[{ on := 3, ground := Ground.guard }], guard := some (3, true) }) (v := ?vv202) rfl (by kernel_rfl) (by kernel_rfl) (by kernel_rfl) (fun _ _ _ h => h) (Or.inl ⟨by rfl, ?hy202⟩) (by assumption) ?_
                          case hy202 => (intro w hSw; (try dsimp only at hSw); go_simp; all_goals with_reducible rfl)
                          try simp only [Act.put, List.setIfInBounds_toArray, List.set_cons_zero, List.set_cons_succ]
                          refine wpAnyH_take (i := 5) (oi := { dst := some 141, op := Op.load 2 (Operand.tmp 140), type := 2, pos := "outright.go:45", after := #[{ on := 4, ground := Ground.data }, { on := 3, ground := Ground.guard }], guard := some (3, true) }) (v := ?vv203) rfl (by kernel_rfl) (by kernel_rfl) (by kernel_rfl) (fun _ _ _ h => h) (Or.inl ⟨by rfl, ?hy203⟩) (by assumption) ?_
                          case hy203 => (intro w hSw; (try dsimp only at hSw); go_simp; all_goals with_reducible rfl)
                          try simp only [Act.put, List.setIfInBounds_toArray, List.set_cons_zero, List.set_cons_succ]
                          refine wpAnyH_take (i := 6) (oi := { dst := some 142, op := Op.fieldAddr 29 (Operand.tmp 9) 1, type := 0, pos := "outright.go:45", after := #[{ on := 3, ground := Ground.guard }], guard := some (3, true) }) (v := ?vv204) rfl (by kernel_rfl) (by kernel_rfl) (by kernel_rfl) (fun _ _ _ h => h) (Or.inl ⟨by rfl, ?hy204⟩) (by assumption) ?_
                          case hy204 => (intro w hSw; (try dsimp only at hSw); go_simp; all_goals with_reducible rfl)
                          try simp only [Act.put, List.setIfInBounds_toArray, List.set_cons_zero, List.set_cons_succ]
                          refine wpAnyH_take (i := 7) (oi := { dst := some 143, op := Op.load 2 (Operand.tmp 142), type := 2, pos := "outright.go:45", after := #[{ on := 6, ground := Ground.data }, { on := 3, ground := Ground.guard }], guard := some (3, true) }) (v := ?vv205) rfl (by kernel_rfl) (by kernel_rfl) (by kernel_rfl) (fun _ _ _ h => h) (Or.inl ⟨by rfl, ?hy205⟩) (by assumption) ?_
                          case hy205 => (intro w hSw; (try dsimp only at hSw); go_simp; all_goals with_reducible rfl)
                          try simp only [Act.put, List.setIfInBounds_toArray, List.set_cons_zero, List.set_cons_succ]
                          refine wpAnyH_take (i := 8) (oi := { dst := some 144, op := Op.binOp BinOp.and 2 (Operand.tmp 143) (Operand.const (Value.int IntKind.i64 1)) 2, type := 2, pos := "outright.go:45", after := #[{ on := 7, ground := Ground.data }, { on := 3, ground := Ground.guard }], guard := some (3, true) }) (v := ?vv206) rfl (by kernel_rfl) (by kernel_rfl) (by kernel_rfl) (fun _ _ _ h => h) (Or.inl ⟨by rfl, ?hy206⟩) (by assumption) ?_
                          case hy206 => (intro w hSw; (try dsimp only at hSw); go_simp; all_goals with_reducible rfl)
                          try simp only [Act.put, List.setIfInBounds_toArray, List.set_cons_zero, List.set_cons_succ]
                          refine wpAnyH_take (i := 9) (oi := { dst := some 145, op := Op.indexAddr 36 (Operand.tmp 7) (Operand.tmp 144), type := 0, pos := "outright.go:45", after := #[{ on := 8, ground := Ground.data }, { on := 3, ground := Ground.guard }], guard := some (3, true) }) (v := ?vv207) rfl (by kernel_rfl) (by kernel_rfl) (by kernel_rfl) (fun _ _ _ h => h) (Or.inl ⟨by rfl, ?hy207⟩) (by assumption) ?_
                          case hy207 => (intro w hSw; (try dsimp only at hSw); go_simp; all_goals with_reducible rfl)
                          try simp only [Act.put, List.setIfInBounds_toArray, List.set_cons_zero, List.set_cons_succ]
                          refine wpAnyH_take (i := 10) (oi := { dst := some 146, op := Op.load 2 (Operand.tmp 145), type := 2, pos := "outright.go:45", after := #[{ on := 9, ground := Ground.data }, { on := 3, ground := Ground.guard }], guard := some (3, true) }) (v := ?vv208) rfl (by kernel_rfl) (by kernel_rfl) (by kernel_rfl) (fun _ _ _ h => h) (Or.inl ⟨by rfl, ?hy208⟩) (by assumption) ?_
                          case hy208 => (intro w hSw; (try dsimp only at hSw); go_simp; all_goals with_reducible rfl)
                          try simp only [Act.put, List.setIfInBounds_toArray, List.set_cons_zero, List.set_cons_succ]
                          refine wpAnyH_take (i := 11) (oi := { dst := some 147, op := Op.binOp BinOp.lss 2 (Operand.tmp 141) (Operand.tmp 146) 2, type := 4, pos := "outright.go:45", after := #[{ on := 5, ground := Ground.data }, { on := 10, ground := Ground.data }, { on := 3, ground := Ground.guard }], guard := some (3, true) }) (v := ?vv209) rfl (by kernel_rfl) (by kernel_rfl) (by kernel_rfl) (fun _ _ _ h => h) (Or.inl ⟨by rfl, ?hy209⟩) (by assumption) ?_
                          case hy209 => (intro w hSw; (try dsimp only at hSw); go_simp; all_goals with_reducible rfl)
                          try simp only [Act.put, List.setIfInBounds_toArray, List.set_cons_zero, List.set_cons_succ]
                          refine wpAnyH_take (i := 12) (oi := { dst := some 148, op := Op.pick (Operand.tmp 139) (Operand.tmp 147) (Operand.const (Value.bool false)), type := 4, pos := "outright.go:45", after := #[{ on := 3, ground := Ground.data }, { on := 11, ground := Ground.data }], guard := none }) (v := ?vv210) rfl (by kernel_rfl) (by kernel_rfl) (by kernel_rfl) (fun _ _ _ h => h) (Or.inl ⟨by rfl, ?hy210⟩) (by assumption) ?_
                          case hy210 => (intro w hSw; (try dsimp only at hSw); go_simp; all_goals with_reducible rfl)
                          try simp only [Act.put, List.setIfInBounds_toArray, List.set_cons_zero, List.set_cons_succ]
                          refine wpAnyH_take (i := 13) (oi := { dst := some 149, op := Op.move (Operand.tmp 148), type := 4, pos := "outright.go:45", after := #[{ on := 12, ground := Ground.data }, { on := 3, ground := Ground.chain }], guard := none }) (v := ?vv211) rfl (by kernel_rfl) (by kernel_rfl) (by kernel_rfl) (fun _ _ _ h => h) (Or.inl ⟨by rfl, ?hy211⟩) (by assumption) ?_
                          case hy211 => (intro w hSw; (try dsimp only at hSw); go_simp; all_goals with_reducible rfl)
                          try simp only [Act.put, List.setIfInBounds_toArray, List.set_cons_zero, List.set_cons_succ]
                          refine wpAnyH_take (i := 14) (oi := { dst := some 150, op := Op.move (Operand.tmp 6), type := 30, pos := "outright.go:45", after := #[{ on := 13, ground := Ground.guard }], guard := some (13, true) }) (v := ?vv212) rfl (by kernel_rfl) (by kernel_rfl) (by kernel_rfl) (fun _ _ _ h => h) (Or.inl ⟨by rfl, ?hy212⟩) (by assumption) ?_
                          case hy212 => (intro w hSw; (try dsimp only at hSw); go_simp; all_goals with_reducible rfl)
                          try simp only [Act.put, List.setIfInBounds_toArray, List.set_cons_zero, List.set_cons_succ]
                          refine wpAnyH_take (i := 15) (oi := { dst := some 151, op := Op.fieldAddr 29 (Operand.tmp 9) 1, type := 0, pos := "outright.go:45", after := #[{ on := 13, ground := Ground.guard }], guard := some (13, true) }) (v := ?vv213) rfl (by kernel_rfl) (by kernel_rfl) (by kernel_rfl) (fun _ _ _ h => h) (Or.inl ⟨by rfl, ?hy213⟩) (by assumption) ?_
                          case hy213 => (intro w hSw; (try dsimp only at hSw); go_simp; all_goals with_reducible rfl)
                          try simp only [Act.put, List.setIfInBounds_toArray, List.set_cons_zero, List.set_cons_succ]
                          refine wpAnyH_take (i := 16) (oi := { dst := some 152, op := Op.load 2 (Operand.tmp 151), type := 2, pos := "outright.go:45", after := #[{ on := 15, ground := Ground.data }, { on := 13, ground := Ground.guard }], guard := some (13, true) }) (v := ?vv214) rfl (by kernel_rfl) (by kernel_rfl) (by kernel_rfl) (fun _ _ _ h => h) (Or.inl ⟨by rfl, ?hy214⟩) (by assumption) ?_
                          case hy214 => (intro w hSw; (try dsimp only at hSw); go_simp; all_goals with_reducible rfl)
                          try simp only [Act.put, List.setIfInBounds_toArray, List.set_cons_zero, List.set_cons_succ]
                          refine wpAnyH_ready (rs := [17]) (by kernel_rfl) (by simp) ?_
                          refine AllReadyH.cons (o := { dst := some 153, op := Op.call { callee := Callee.value (Operand.func 15), args := #[Operand.tmp 150, Operand.tmp 152], argTypes := #[30, 2] }, type := 4, pos := "outright.go:45", after := #[{ on := 14, ground := Ground.data }, { on := 16, ground := Ground.data }, { on := 13, ground := Ground.chain }, { on := 13, ground := Ground.guard }], guard := some (13, true) }) rfl (fun K hK => ?_) AllReadyH.nil
                          go_simp
                          refine (HIN.out _ (Below.refl _ _).drew).mono ?_
                          rintro e' wq ⟨rfl, rfl⟩
                          go_wp2_with fail
                          refine hK.out _ _ ⟨c0, c1, o1⟩ (fun hHeld => ?_)
                          clear hK K
                          try simp only [Act.put, List.setIfInBounds_toArray, List.set_cons_zero, List.set_cons_succ]
                          refine wpAnyH_take (i := 18) (oi := { dst := some 154, op := Op.unOp UnOp.not 4 (Operand.tmp 153), type := 4, pos := "outright.go:45", after := #[{ on := 17, ground := Ground.data }, { on := 13, ground := Ground.guard }], guard := some (13, true) }) (v := ?vv215) rfl (by kernel_rfl) (by kernel_rfl) (by kernel_rfl) (fun _ _ _ h => h) (Or.inl ⟨by rfl, ?hy215⟩) (by assumption) ?_
                          case hy215 => (intro w hSw; (try dsimp only at hSw); go_simp; all_goals with_reducible rfl)
                          try simp only [Act.put, List.setIfInBounds_toArray, List.set_cons_zero, List.set_cons_succ]
                          refine wpAnyH_take (i := 19) (oi := { dst := some 155, op := Op.pick (Operand.tmp 149) (Operand.tmp 154) (Operand.const (Value.bool false)), type := 4, pos := "outright.go:45", after := #[{ on := 13, ground := Ground.data }, { on := 18, ground := Ground.data }], guard := none }) (v := ?vv216) rfl (by kernel_rfl) (by kernel_rfl) (by kernel_rfl) (fun _ _ _ h => h) (Or.inl ⟨by rfl, ?hy216⟩) (by assumption) ?_
                          case hy216 => (intro w hSw; (try dsimp only at hSw); go_simp; all_goals with_reducible rfl)
                          try simp only [Act.put, List.setIfInBounds_toArray, List.set_cons_zero, List.set_cons_succ]
                          refine wpAnyH_take (i := 20) (oi := { dst := some 156, op := Op.move (Operand.tmp 155), type := 4, pos := "outright.go:45", after := #[{ on := 19, ground := Ground.data }, { on := 17, ground := Ground.chain }], guard := none }) (v := ?vv217) rfl (by kernel_rfl) (by kernel_rfl) (by kernel_rfl) (fun _ _ _ h => h) (Or.inl ⟨by rfl, ?hy217⟩) (by assumption) ?_
                          case hy217 => (intro w hSw; (try dsimp only at hSw); go_simp; all_goals with_reducible rfl)
                          try simp only [Act.put, List.setIfInBounds_toArray, List.set_cons_zero, List.set_cons_succ]
                          refine wpAnyH_take (i := 21) (oi := { dst := some 157, op := Op.move (Operand.tmp 11), type := 3, pos := "outright.go:45", after := #[{ on := 20, ground := Ground.guard }], guard := some (20, true) }) (v := undef) rfl (by kernel_rfl) (by kernel_rfl) (by kernel_rfl) (fun _ _ _ h => h) (Or.inr ⟨by rfl, rfl⟩) (by assumption) ?_
                          try simp only [Act.put, List.setIfInBounds_toArray, List.set_cons_zero, List.set_cons_succ]
                          refine wpAnyH_take (i := 22) (oi := { dst := some 158, op := Op.binOp BinOp.neq 3 (Operand.tmp 157) (Operand.const (Value.int IntKind.i64 6)) 3, type := 4, pos := "outright.go:45", after := #[{ on := 21, ground := Ground.data }, { on := 20, ground := Ground.guard }], guard := some (20, true) }) (v := undef) rfl (by kernel_rfl) (by kernel_rfl) (by kernel_rfl) (fun _ _ _ h => h) (Or.inr ⟨by rfl, rfl⟩) (by assumption) ?_
                          try simp only [Act.put, List.setIfInBounds_toArray, List.set_cons_zero, List.set_cons_succ]
                          refine wpAnyH_take (i := 23) (oi := { dst := some 159, op := Op.pick (Operand.tmp 156) (Operand.tmp 158) (Operand.const (Value.bool false)), type := 4, pos := "outright.go:45", after := #[{ on := 20, ground := Ground.data }, { on := 22, ground := Ground.data }], guard := none }) (v := ?vv218) rfl (by kernel_rfl) (by kernel_rfl) (by kernel_rfl) (fun _ _ _ h => h) (Or.inl ⟨by rfl, ?hy218⟩) (by assumption) ?_
                          case hy218 => (intro w hSw; (try dsimp only at hSw); go_simp; all_goals with_reducible rfl)
                          try simp only [Act.put, List.setIfInBounds_toArray, List.set_cons_zero, List.set_cons_succ]
                          refine wpAnyH_done (by kernel_rfl) ?_ _
                          go_wp2_with fail
                          go_meet
                          exact ⟨rfl, (Below.refl _ _).drew⟩
                    · have g2 : decide (id < t1') = false := decide_eq_false h2
                      clear htp hod HSk
                      as_aux_lemma =>
                        refine wp_region_held_drew (S := (fun W => W.cell? ⟨q, 0, none⟩ = some (.int .i64 t0') ∧ W.cell? ⟨q, 1, none⟩ = some (.int .i64 t1') ∧ W.cell? ⟨O, 1, none⟩ = some (.int .i64 id))) (by kernel_rfl) ⟨c0, c1, o1⟩ (fun hHeld => ?_)
                        refine wpAnyH_take (i := 0) (oi := { dst := some 136, op := Op.fieldAddr 29 (Operand.tmp 9) 1, type := 0, pos := "outright.go:45", after := #[], guard := none }) (v := ?vv219) rfl (by kernel_rfl) (by kernel_rfl) (by kernel_rfl) (fun _ _ _ h => h) (Or.inl ⟨by rfl, ?hy219⟩) (by assumption) ?_
                        case hy219 => (intro w hSw; (try dsimp only at hSw); go_simp; all_goals with_reducible rfl)
                        try simp only [Act.put, List.setIfInBounds_toArray, List.set_cons_zero, List.set_cons_succ]
                        refine wpAnyH_take (i := 1) (oi := { dst := some 137, op := Op.load 2 (Operand.tmp 136), type := 2, pos := "outright.go:45", after := #[{ on := 0, ground := Ground.data }], guard := none }) (v := ?vv220) rfl (by kernel_rfl) (by kernel_rfl) (by kernel_rfl) (fun _ _ _ h => h) (Or.inl ⟨by rfl, ?hy220⟩) (by assumption) ?_
                        case hy220 => (intro w hSw; (try dsimp only at hSw); go_simp; all_goals with_reducible rfl)
                        try simp only [Act.put, List.setIfInBounds_toArray, List.set_cons_zero, List.set_cons_succ]
                        refine wpAnyH_take (i := 2) (oi := { dst := some 138, op := Op.binOp BinOp.geq 2 (Operand.tmp 137) (Operand.const (Value.int IntKind.i64 1)) 2, type := 4, pos := "outright.go:45", after := #[{ on := 1, ground := Ground.data }], guard := none }) (v := ?vv221) rfl (by kernel_rfl) (by kernel_rfl) (by kernel_rfl) (fun _ _ _ h => h) (Or.inl ⟨by rfl, ?hy221⟩) (by assumption) ?_
                        case hy221 => (intro w hSw; (try dsimp only at hSw); go_simp; all_goals with_reducible rfl)
                        try simp only [Act.put, List.setIfInBounds_toArray, List.set_cons_zero, List.set_cons_succ]
                        refine wpAnyH_take (i := 3) (oi := { dst := some 139, op := Op.move (Operand.tmp 138), type := 4, pos := "outright.go:45", after := #[{ on := 2, ground := Ground.data }], guard := none }) (v := ?vv222) rfl (by kernel_rfl) (by kernel_rfl) (by kernel_rfl) (fun _ _ _ h => h) (Or.inl ⟨by rfl, ?hy222⟩) (by assumption) ?_
                        case hy222 => (intro w hSw; (try dsimp only at hSw); go_simp; all_goals with_reducible rfl)
                        try simp only [Act.put, List.setIfInBounds_toArray, List.set_cons_zero, List.set_cons_succ]
                        refine wpAnyH_take (i := 4) (oi := { dst := some 140, op := Op.fieldAddr 29 (Operand.tmp 9) 1, type := 0, pos := "outright.go:45", after := #[{ on := 3, ground := Ground.guard }], guard := some (3, true) }) (v := ?vv223) rfl (by kernel_rfl) (by kernel_rfl) (by kernel_rfl) (fun _ _ _ h => h) (Or.inl ⟨by rfl, ?hy223⟩) (by assumption) ?_
                        case hy223 => (intro w hSw; (try dsimp only at hSw); go_simp; all_goals with_reducible rfl)
                        try simp only [Act.put, List.setIfInBounds_toArray, List.set_cons_zero, List.set_cons_succ]
                        refine wpAnyH_take (i := 5) (oi := { dst := some 141, op := Op.load 2 (Operand.tmp 140), type := 2, pos := "outright.go:45", after := #[{ on := 4, ground := Ground.data }, { on := 3, ground := Ground.guard }], guard := some (3, true) }) (v := ?vv224) rfl (by kernel_rfl) (by kernel_rfl) (by kernel_rfl) (fun _ _ _ h => h) (Or.inl ⟨by rfl, ?hy224⟩) (by assumption) ?_
                        case hy224 => (intro w hSw; (try dsimp only at hSw); go_simp; all_goals with_reducible rfl)
                        try simp only [Act.put, List.setIfInBounds_toArray, List.set_cons_zero, List.set_cons_succ]
                        refine wpAnyH_take (i := 6) (oi := { dst := some 142, op := Op.fieldAddr 29 (Operand.tmp 9) 1, type := 0, pos := "outright.go:45", after := #[{ on := 3, ground := Ground.guard }], guard := some (3, true) }) (v := ?vv225) rfl (by kernel_rfl) (by kernel_rfl) (by kernel_rfl) (fun _ _ _ h => h) (Or.inl ⟨by rfl, ?hy225⟩) (by assumption) ?_
                        case hy225 => (intro w hSw; (try dsimp only at hSw); go_simp; all_goals with_reducible rfl)
                        try simp only [Act.put, List.setIfInBounds_toArray, List.set_cons_zero, List.set_cons_succ]
                        refine wpAnyH_take (i := 7) (oi := { dst := some 143, op := Op.load 2 (Operand.tmp 142), type := 2, pos := "outright.go:45", after := #[{ on := 6, ground := Ground.data }, { on := 3, ground := Ground.guard }], guard := some (3, true) }) (v := ?vv226) rfl (by kernel_rfl) (by kernel_rfl) (by kernel_rfl) (fun _ _ _ h => h) (Or.inl ⟨by rfl, ?hy226⟩) (by assumption) ?_
                        case hy226 => (intro w hSw; (try dsimp only at hSw); go_simp; all_goals with_reducible rfl)
                        try simp only [Act.put, List.setIfInBounds_toArray, List.set_cons_zero, List.set_cons_succ]
                        refine wpAnyH_take (i := 8) (oi := { dst := some 144, op := Op.binOp BinOp.and 2 (Operand.tmp 143) (Operand.const (Value.int IntKind.i64 1)) 2, type := 2, pos := "outright.go:45", after := #[{ on := 7, ground := Ground.data }, { on := 3, ground := Ground.guard }], guard := some (3, true) }) (v := ?vv227) rfl (by kernel_rfl) (by kernel_rfl) (by kernel_rfl) (fun _ _ _ h => h) (Or.inl ⟨by rfl, ?hy227⟩) (by assumption) ?_
                        case hy227 => (intro w hSw; (try dsimp only at hSw); go_simp; all_goals with_reducible rfl)
                        try simp only [Act.put, List.setIfInBounds_toArray, List.set_cons_zero, List.set_cons_succ]
                        refine wpAnyH_take (i := 9) (oi := { dst := some 145, op := Op.indexAddr 36 (Operand.tmp 7) (Operand.tmp 144), type := 0, pos := "outright.go:45", after := #[{ on := 8, ground := Ground.data }, { on := 3, ground := Ground.guard }], guard := some (3, true) }) (v := ?vv228) rfl (by kernel_rfl) (by kernel_rfl) (by kernel_rfl) (fun _ _ _ h => h) (Or.inl ⟨by rfl, ?hy228⟩) (by assumption) ?_
                        case hy228 => (intro w hSw; (try dsimp only at hSw); go_simp; all_goals with_reducible rfl)
                        try simp only [Act.put, List.setIfInBounds_toArray, List.set_cons_zero, List.set_cons_succ]
                        refine wpAnyH_take (i := 10) (oi := { dst := some 146, op := Op.load 2 (Operand.tmp 145), type := 2, pos := "outright.go:45", after := #[{ on := 9, ground := Ground.data }, { on := 3, ground := Ground.guard }], guard := some (3, true) }) (v := ?vv229) rfl (by kernel_rfl) (by kernel_rfl) (by kernel_rfl) (fun _ _ _ h => h) (Or.inl ⟨by rfl, ?hy229⟩) (by assumption) ?_
                        case hy229 => (intro w hSw; (try dsimp only at hSw); go_simp; all_goals with_reducible rfl)
                        try simp only [Act.put, List.setIfInBounds_toArray, List.set_cons_zero, List.set_cons_succ]
                        refine wpAnyH_take (i := 11) (oi := { dst := some 147, op := Op.binOp BinOp.lss 2 (Operand.tmp 141) (Operand.tmp 146) 2, type := 4, pos := "outright.go:45", after := #[{ on := 5, ground := Ground.data }, { on := 10, ground := Ground.data }, { on := 3, ground := Ground.guard }], guard := some (3, true) }) (v := ?vv230) rfl (by kernel_rfl) (by kernel_rfl) (by kernel_rfl) (fun _ _ _ h => h) (Or.inl ⟨by rfl, ?hy230⟩) (by assumption) ?_
                        case hy230 => (intro w hSw; (try dsimp only at hSw); go_simp; all_goals with_reducible rfl)
                        try simp only [Act.put, List.setIfInBounds_toArray, List.set_cons_zero, List.set_cons_succ]
                        refine wpAnyH_take (i := 12) (oi := { dst := some 148, op := Op.pick (Operand.tmp 139) (Operand.tmp 147) (Operand.const (Value.bool false)), type := 4, pos := "outright.go:45", after := #[{ on := 3, ground := Ground.data }, { on := 11, ground := Ground.data }], guard := none }) (v := ?vv231) rfl (by kernel_rfl) (by kernel_rfl) (by kernel_rfl) (fun _ _ _ h => h) (Or.inl ⟨by rfl, ?hy231⟩) (by assumption) ?_
                        case hy231 => (intro w hSw; (try dsimp only at hSw); go_simp; all_goals with_reducible rfl)
                        try simp only [Act.put, List.setIfInBounds_toArray, List.set_cons_zero, List.set_cons_succ]
                        refine wpAnyH_take (i := 13) (oi := { dst := some 149, op := Op.move (Operand.tmp 148), type := 4, pos := "outright.go:45", after := #[{ on := 12, ground := Ground.data }, { on := 3, ground := Ground.chain }], guard := none }) (v := ?vv232) rfl (by kernel_rfl) (by kernel_rfl) (by kernel_rfl) (fun _ _ _ h => h) (Or.inl ⟨by rfl, ?hy232⟩) (by assumption) ?_
                        case hy232 => (intro w hSw; (try dsimp only at hSw); go_simp; all_goals with_reducible rfl)
                        try simp only [Act.put, List.setIfInBounds_toArray, List.set_cons_zero, List.set_cons_succ]
                        refine wpAnyH_take (i := 14) (oi := { dst := some 150, op := Op.move (Operand.tmp 6), type := 30, pos := "outright.go:45", after := #[{ on := 13, ground := Ground.guard }], guard := some (13, true) }) (v := undef) rfl (by kernel_rfl) (by kernel_rfl) (by kernel_rfl) (fun _ _ _ h => h) (Or.inr ⟨by rfl, rfl⟩) (by assumption) ?_
                        try simp only [Act.put, List.setIfInBounds_toArray, List.set_cons_zero, List.set_cons_succ]
                        refine wpAnyH_take (i := 15) (oi := { dst := some 151, op := Op.fieldAddr 29 (Operand.tmp 9) 1, type := 0, pos := "outright.go:45", after := #[{ on := 13, ground := Ground.guard }], guard := some (13, true) }) (v := undef) rfl (by kernel_rfl) (by kernel_rfl) (by kernel_rfl) (fun _ _ _ h => h) (Or.inr ⟨by rfl, rfl⟩) (by assumption) ?_
                        try simp only [Act.put, List.setIfInBounds_toArray, List.set_cons_zero, List.set_cons_succ]
                        refine wpAnyH_take (i := 16) (oi := { dst := some 152, op := Op.load 2 (Operand.tmp 151), type := 2, pos := "outright.go:45", after := #[{ on := 15, ground := Ground.data }, { on := 13, ground := Ground.guard }], guard := some (13, true) }) (v := undef) rfl (by kernel_rfl) (by kernel_rfl) (by kernel_rfl) (fun _ _ _ h => h) (Or.inr ⟨by rfl, rfl⟩) (by assumption) ?_
                        try simp only [Act.put, List.setIfInBounds_toArray, List.set_cons_zero, List.set_cons_succ]
                        refine wpAnyH_take (i := 17) (oi := { dst := some 153, op := Op.call { callee := Callee.value (Operand.func 15), args := #[Operand.tmp 150, Operand.tmp 152], argTypes := #[30, 2] }, type := 4, pos := "outright.go:45", after := #[{ on := 14, ground := Ground.data }, { on := 16, ground := Ground.data }, { on := 13, ground := Ground.chain }, { on := 13, ground := Ground.guard }], guard := some (13, true) }) (v := undef) rfl (by kernel_rfl) (by kernel_rfl) (by kernel_rfl) (fun _ _ _ h => h) (Or.inr ⟨by rfl, rfl⟩) (by assumption) ?_
                        try simp only [Act.put, List.setIfInBounds_toArray, List.set_cons_zero, List.set_cons_succ]
                        refine wpAnyH_take (i := 18) (oi := { dst := some 154, op := Op.unOp UnOp.not 4 (Operand.tmp 153), type := 4, pos := "outright.go:45", after := #[{ on := 17, ground := Ground.data }, { on := 13, ground := Ground.guard }], guard := some (13, true) }) (v := undef) rfl (by kernel_rfl) (by kernel_rfl) (by kernel_rfl) (fun _ _ _ h => h) (Or.inr ⟨by rfl, rfl⟩) (by assumption) ?_
                        try simp only [Act.put, List.setIfInBounds_toArray, List.set_cons_zero, List.set_cons_succ]
                        refine wpAnyH_take (i := 19) (oi := { dst := some 155, op := Op.pick (Operand.tmp 149) (Operand.tmp 154) (Operand.const (Value.bool false)), type := 4, pos := "outright.go:45", after := #[{ on := 13, ground := Ground.data }, { on := 18, ground := Ground.data }], guard := none }) (v := ?vv233) rfl (by kernel_rfl) (by kernel_rfl) (by kernel_rfl) (fun _ _ _ h => h) (Or.inl ⟨by rfl, ?hy233⟩) (by assumption) ?_
                        case hy233 => (intro w hSw; (try dsimp only at hSw); go_simp; all_goals with_reducible rfl)
                        try simp only [Act.put, List.setIfInBounds_toArray, List.set_cons_zero, List.set_cons_succ]
                        refine wpAnyH_take (i := 20) (oi := { dst := some 156, op := Op.move (Operand.tmp 155), type := 4, pos := "outright.go:45", after := #[{ on := 19, ground := Ground.data }, { on := 17, ground := Ground.chain }], guard := none }) (v := ?vv234) rfl (by kernel_rfl) (by kernel_rfl) (by kernel_rfl) (fun _ _ _ h => h) (Or.inl ⟨by rfl, ?hy234⟩) (by assumption) ?_
                        case hy234 => (intro w hSw; (try dsimp only at hSw); go_simp; all_goals with_reducible rfl)
                        try simp only [Act.put, List.setIfInBounds_toArray, List.set_cons_zero, List.set_cons_succ]
                        refine wpAnyH_take (i := 21) (oi := { dst := some 157, op := Op.move (Operand.tmp 11), type := 3, pos := "outright.go:45", after := #[{ on := 20, ground := Ground.guard }], guard := some (20, true) }) (v := undef) rfl (by kernel_rfl) (by kernel_rfl) (by kernel_rfl) (fun _ _ _ h => h) (Or.inr ⟨by rfl, rfl⟩) (by assumption) ?_
                        try simp only [Act.put, List.setIfInBounds_toArray, List.set_cons_zero, List.set_cons_succ]
                        refine wpAnyH_take (i := 22) (oi := { dst := some 158, op := Op.binOp BinOp.neq 3 (Operand.tmp 157) (Operand.const (Value.int IntKind.i64 6)) 3, type := 4, pos := "outright.go:45", after := #[{ on := 21, ground := Ground.data }, { on := 20, ground := Ground.guard }], guard := some (20, true) }) (v := undef) rfl (by kernel_rfl) (by kernel_rfl) (by kernel_rfl) (fun _ _ _ h => h) (Or.inr ⟨by rfl, rfl⟩) (by assumption) ?_
                        try simp only [Act.put, List.setIfInBounds_toArray, List.set_cons_zero, List.set_cons_succ]
                        refine wpAnyH_take (i := 23) (oi := { dst := some 159, op := Op.pick (Operand.tmp 156) (Operand.tmp 158) (Operand.const (Value.bool false)), type := 4, pos := "outright.go:45", after := #[{ on := 20, ground := Ground.data }, { on := 22, ground := Ground.data }], guard := none }) (v := ?vv235) rfl (by kernel_rfl) (by kernel_rfl) (by kernel_rfl) (fun _ _ _ h => h) (Or.inl ⟨by rfl, ?hy235⟩) (by assumption) ?_
                        case hy235 => (intro w hSw; (try dsimp only at hSw); go_simp; all_goals with_reducible rfl)
                        try simp only [Act.put, List.setIfInBounds_toArray, List.set_cons_zero, List.set_cons_succ]
                        refine wpAnyH_done (by kernel_rfl) ?_ _
                        go_wp2_with fail
                        go_meet
                        exact ⟨rfl, (Below.refl _ _).drew⟩
                · have g1 : decide (1 ≤ id) = false := decide_eq_false h1
                  as_aux_lemma =>
                    refine wp_region_held_drew (S := (fun W => W.cell? ⟨q, 0, none⟩ = some (.int .i64 t0') ∧ W.cell? ⟨q, 1, none⟩ = some (.int .i64 t1') ∧ W.cell? ⟨O, 1, none⟩ = some (.int .i64 id))) (by kernel_rfl) ⟨c0, c1, o1⟩ (fun hHeld => ?_)
                    refine wpAnyH_take (i := 0) (oi := { dst := some 136, op := Op.fieldAddr 29 (Operand.tmp 9) 1, type := 0, pos := "outright.go:45", after := #[], guard := none }) (v := ?vv236) rfl (by kernel_rfl) (by kernel_rfl) (by kernel_rfl) (fun _ _ _ h => h) (Or.inl ⟨by rfl, ?hy236⟩) (by assumption) ?_
                    case hy236 => (intro w hSw; (try dsimp only at hSw); go_simp; all_goals with_reducible rfl)
                    try simp only [Act.put, List.setIfInBounds_toArray, List.set_cons_zero, List.set_cons_succ]
                    refine wpAnyH_take (i := 1) (oi := { dst := some 137, op := Op.load 2 (Operand.tmp 136), type := 2, pos := "outright.go:45", after := #[{ on := 0, ground := Ground.data }], guard := none }) (v := ?vv237) rfl (by kernel_rfl) (by kernel_rfl) (by kernel_rfl) (fun _ _ _ h => h) (Or.inl ⟨by rfl, ?hy237⟩) (by assumption) ?_
                    case hy237 => (intro w hSw; (try dsimp only at hSw); go_simp; all_goals with_reducible rfl)
                    try simp only [Act.put, List.setIfInBounds_toArray, List.set_cons_zero, List.set_cons_succ]
                    refine wpAnyH_take (i := 2) (oi := { dst := some 138, op := Op.binOp BinOp.geq 2 (Operand.tmp 137) (Operand.const (Value.int IntKind.i64 1)) 2, type := 4, pos := "outright.go:45", after := #[{ on := 1, ground := Ground.data }], guard := none }) (v := ?vv238) rfl (by kernel_rfl) (by kernel_rfl) (by kernel_rfl) (fun _ _ _ h => h) (Or.inl ⟨by rfl, ?hy238⟩) (by assumption) ?_
                    case hy238 => (intro w hSw; (try dsimp only at hSw); go_simp; all_goals with_reducible rfl)
                    try simp only [Act.put, List.setIfInBounds_toArray, List.set_cons_zero, List.set_cons_succ]
                    refine wpAnyH_take (i := 3) (oi := { dst := some 139, op := Op.move (Operand.tmp 138), type := 4, pos := "outright.go:45", after := #[{ on := 2, ground := Ground.data }], guard := none }) (v := ?vv239) rfl (by kernel_rfl) (by kernel_rfl) (by kernel_rfl) (fun _ _ _ h => h) (Or.inl ⟨by rfl, ?hy239⟩) (by assumption) ?_
                    case hy239 => (intro w hSw; (try dsimp only at hSw); go_simp; all_goals with_reducible rfl)
                    try simp only [Act.put, List.setIfInBounds_toArray, List.set_cons_zero, List.set_cons_succ]
                    refine wpAnyH_take (i := 4) (oi := { dst := some 140, op := Op.fieldAddr 29 (Operand.tmp 9) 1, type := 0, pos := "outright.go:45", after := #[{ on := 3, ground := Ground.guard }], guard := some (3, true) }) (v := undef) rfl (by kernel_rfl) (by kernel_rfl) (by kernel_rfl) (fun _ _ _ h => h) (Or.inr ⟨by rfl, rfl⟩) (by assumption) ?_
                    try simp only [Act.put, List.setIfInBounds_toArray, List.set_cons_zero, List.set_cons_succ]
                    refine wpAnyH_take (i := 5) (oi := { dst := some 141, op := Op.load 2 (Operand.tmp 140), type := 2, pos := "outright.go:45", after := #[{ on := 4, ground := Ground.data }, { on := 3, ground := Ground.guard }], guard := some (3, true) }) (v := undef) rfl (by kernel_rfl) (by kernel_rfl) (by kernel_rfl) (fun _ _ _ h => h) (Or.inr ⟨by rfl, rfl⟩) (by assumption) ?_
                    try simp only [Act.put, List.setIfInBounds_toArray, List.set_cons_zero, List.set_cons_succ]
                    refine wpAnyH_take (i := 6) (oi := { dst := some 142, op := Op.fieldAddr 29 (Operand.tmp 9) 1, type := 0, pos := "outright.go:45", after := #[{ on := 3, ground := Ground.guard }], guard := some (3, true) }) (v := undef) rfl (by kernel_rfl) (by kernel_rfl) (by kernel_rfl) (fun _ _ _ h => h) (Or.inr ⟨by rfl, rfl⟩) (by assumption) ?_
                    try simp only [Act.put, List.setIfInBounds_toArray, List.set_cons_zero, List.set_cons_succ]
                    refine wpAnyH_take (i := 7) (oi := { dst := some 143, op := Op.load 2 (Operand.tmp 142), type := 2, pos := "outright.go:45", after := #[{ on := 6, ground := Ground.data }, { on := 3, ground := Ground.guard }], guard := some (3, true) }) (v := undef) rfl (by kernel_rfl) (by kernel_rfl) (by kernel_rfl) (fun _ _ _ h => h) (Or.inr ⟨by rfl, rfl⟩) (by assumption) ?_
                    try simp only [Act.put, List.setIfInBounds_toArray, List.set_cons_zero, List.set_cons_succ]
                    refine wpAnyH_take (i := 8) (oi := { dst := some 144, op := Op.binOp BinOp.and 2 (Operand.tmp 143) (Operand.const (Value.int IntKind.i64 1)) 2, type := 2, pos := "outright.go:45", after := #[{ on := 7, ground := Ground.data }, { on := 3, ground := Ground.guard }], guard := some (3, true) }) (v := undef) rfl (by kernel_rfl) (by kernel_rfl) (by kernel_rfl) (fun _ _ _ h => h) (Or.inr ⟨by rfl, rfl⟩) (by assumption) ?_
                    try simp only [Act.put, List.setIfInBounds_toArray, List.set_cons_zero, List.set_cons_succ]
                    refine wpAnyH_take (i := 9) (oi := { dst := some 145, op := Op.indexAddr 36 (Operand.tmp 7) (Operand.tmp 144), type := 0, pos := "outright.go:45", after := #[{ on := 8, ground := Ground.data }, { on := 3, ground := Ground.guard }], guard := some (3, true) }) (v := undef) rfl (by kernel_rfl) (by kernel_rfl) (by kernel_rfl) (fun _ _ _ h => h) (Or.inr ⟨by rfl, rfl⟩) (by assumption) ?_
                    try simp only [Act.put, List.setIfInBounds_toArray, List.set_cons_zero, List.set_cons_succ]
                    refine wpAnyH_take (i := 10) (oi := { dst := some 146, op := Op.load 2 (Operand.tmp 145), type := 2, pos := "outright.go:45", after := #[{ on := 9, ground := Ground.data }, { on := 3, ground := Ground.guard }], guard := some (3, true) }) (v := undef) rfl (by kernel_rfl) (by kernel_rfl) (by kernel_rfl) (fun _ _ _ h => h) (Or.inr ⟨by rfl, rfl⟩) (by assumption) ?_
                    try simp only [Act.put, List.setIfInBounds_toArray, List.set_cons_zero, List.set_cons_succ]
                    refine wpAnyH_take (i := 11) (oi := { dst := some 147, op := Op.binOp BinOp.lss 2 (Operand.tmp 141) (Operand.tmp 146) 2, type := 4, pos := "outright.go:45", after := #[{ on := 5, ground := Ground.data }, { on := 10, ground := Ground.data }, { on := 3, ground := Ground.guard }], guard := some (3, true) }) (v := undef) rfl (by kernel_rfl) (by kernel_rfl) (by kernel_rfl) (fun _ _ _ h => h) (Or.inr ⟨by rfl, rfl⟩) (by assumption) ?_
                    try simp only [Act.put, List.setIfInBounds_toArray, List.set_cons_zero, List.set_cons_succ]
                    refine wpAnyH_take (i := 12) (oi := { dst := some 148, op := Op.pick (Operand.tmp 139) (Operand.tmp 147) (Operand.const (Value.bool false)), type := 4, pos := "outright.go:45", after := #[{ on := 3, ground := Ground.data }, { on := 11, ground := Ground.data }], guard := none }) (v := ?vv240) rfl (by kernel_rfl) (by kernel_rfl) (by kernel_rfl) (fun _ _ _ h => h) (Or.inl ⟨by rfl, ?hy240⟩) (by assumption) ?_
                    case hy240 => (intro w hSw; (try dsimp only at hSw); go_simp; all_goals with_reducible rfl)
                    try simp only [Act.put, List.setIfInBounds_toArray, List.set_cons_zero, List.set_cons_succ]
                    refine wpAnyH_take (i := 13) (oi := { dst := some 149, op := Op.move (Operand.tmp 148), type := 4, pos := "outright.go:45", after := #[{ on := 12, ground := Ground.data }, { on := 3, ground := Ground.chain }], guard := none }) (v := ?vv241) rfl (by kernel_rfl) (by kernel_rfl) (by kernel_rfl) (fun _ _ _ h => h) (Or.inl ⟨by rfl, ?hy241⟩) (by assumption) ?_
                    case hy241 => (intro w hSw; (try dsimp only at hSw); go_simp; all_goals with_reducible rfl)
                    try simp only [Act.put, List.setIfInBounds_toArray, List.set_cons_zero, List.set_cons_succ]
                    refine wpAnyH_take (i := 14) (oi := { dst := some 150, op := Op.move (Operand.tmp 6), type := 30, pos := "outright.go:45", after := #[{ on := 13, ground := Ground.guard }], guard := some (13, true) }) (v := undef) rfl (by kernel_rfl) (by kernel_rfl) (by kernel_rfl) (fun _ _ _ h => h) (Or.inr ⟨by rfl, rfl⟩) (by assumption) ?_
                    try simp only [Act.put, List.setIfInBounds_toArray, List.set_cons_zero, List.set_cons_succ]
                    refine wpAnyH_take (i := 15) (oi := { dst := some 151, op := Op.fieldAddr 29 (Operand.tmp 9) 1, type := 0, pos := "outright.go:45", after := #[{ on := 13, ground := Ground.guard }], guard := some (13, true) }) (v := undef) rfl (by kernel_rfl) (by kernel_rfl) (by kernel_rfl) (fun _ _ _ h => h) (Or.inr ⟨by rfl, rfl⟩) (by assumption) ?_
                    try simp only [Act.put, List.setIfInBounds_toArray, List.set_cons_zero, List.set_cons_succ]
                    refine wpAnyH_take (i := 16) (oi := { dst := some 152, op := Op.load 2 (Operand.tmp 151), type := 2, pos := "outright.go:45", after := #[{ on := 15, ground := Ground.data }, { on := 13, ground := Ground.guard }], guard := some (13, true) }) (v := undef) rfl (by kernel_rfl) (by kernel_rfl) (by kernel_rfl) (fun _ _ _ h => h) (Or.inr ⟨by rfl, rfl⟩) (by assumption) ?_
                    try simp only [Act.put, List.setIfInBounds_toArray, List.set_cons_zero, List.set_cons_succ]
                    refine wpAnyH_take (i := 17) (oi := { dst := some 153, op := Op.call { callee := Callee.value (Operand.func 15), args := #[Operand.tmp 150, Operand.tmp 152], argTypes := #[30, 2] }, type := 4, pos := "outright.go:45", after := #[{ on := 14, ground := Ground.data }, { on := 16, ground := Ground.data }, { on := 13, ground := Ground.chain }, { on := 13, ground := Ground.guard }], guard := some (13, true) }) (v := undef) rfl (by kernel_rfl) (by kernel_rfl) (by kernel_rfl) (fun _ _ _ h => h) (Or.inr ⟨by rfl, rfl⟩) (by assumption) ?_
                    try simp only [Act.put, List.setIfInBounds_toArray, List.set_cons_zero, List.set_cons_succ]
                    refine wpAnyH_take (i := 18) (oi := { dst := some 154, op := Op.unOp UnOp.not 4 (Operand.tmp 153), type := 4, pos := "outright.go:45", after := #[{ on := 17, ground := Ground.data }, { on := 13, ground := Ground.guard }], guard := some (13, true) }) (v := undef) rfl (by kernel_rfl) (by kernel_rfl) (by kernel_rfl) (fun _ _ _ h => h) (Or.inr ⟨by rfl, rfl⟩) (by assumption) ?_
                    try simp only [Act.put, List.setIfInBounds_toArray, List.set_cons_zero, List.set_cons_succ]
                    refine wpAnyH_take (i := 19) (oi := { dst := some 155, op := Op.pick (Operand.tmp 149) (Operand.tmp 154) (Operand.const (Value.bool false)), type := 4, pos := "outright.go:45", after := #[{ on := 13, ground := Ground.data }, { on := 18, ground := Ground.data }], guard := none }) (v := ?vv242) rfl (by kernel_rfl) (by kernel_rfl) (by kernel_rfl) (fun _ _ _ h => h) (Or.inl ⟨by rfl, ?hy242⟩) (by assumption) ?_
                    case hy242 => (intro w hSw; (try dsimp only at hSw); go_simp; all_goals with_reducible rfl)
                    try simp only [Act.put, List.setIfInBounds_toArray, List.set_cons_zero, List.set_cons_succ]
                    refine wpAnyH_take (i := 20) (oi := { dst := some 156, op := Op.move (Operand.tmp 155), type := 4, pos := "outright.go:45", after := #[{ on := 19, ground := Ground.data }, { on := 17, ground := Ground.chain }], guard := none }) (v := ?vv243) rfl (by kernel_rfl) (by kernel_rfl) (by kernel_rfl) (fun _ _ _ h => h) (Or.inl ⟨by rfl, ?hy243⟩) (by assumption) ?_
                    case hy243 => (intro w hSw; (try dsimp only at hSw); go_simp; all_goals with_reducible rfl)
                    try simp only [Act.put, List.setIfInBounds_toArray, List.set_cons_zero, List.set_cons_succ]
                    refine wpAnyH_take (i := 21) (oi := { dst := some 157, op := Op.move (Operand.tmp 11), type := 3, pos := "outright.go:45", after := #[{ on := 20, ground := Ground.guard }], guard := some (20, true) }) (v := undef) rfl (by kernel_rfl) (by kernel_rfl) (by kernel_rfl) (fun _ _ _ h => h) (Or.inr ⟨by rfl, rfl⟩) (by assumption) ?_
                    try simp only [Act.put, List.setIfInBounds_toArray, List.set_cons_zero, List.set_cons_succ]
                    refine wpAnyH_take (i := 22) (oi := { dst := some 158, op := Op.binOp BinOp.neq 3 (Operand.tmp 157) (Operand.const (Value.int IntKind.i64 6)) 3, type := 4, pos := "outright.go:45", after := #[{ on := 21, ground := Ground.data }, { on := 20, ground := Ground.guard }], guard := some (20, true) }) (v := undef) rfl (by kernel_rfl) (by kernel_rfl) (by kernel_rfl) (fun _ _ _ h => h) (Or.inr ⟨by rfl, rfl⟩) (by assumption) ?_
                    try simp only [Act.put, List.setIfInBounds_toArray, List.set_cons_zero, List.set_cons_succ]
                    refine wpAnyH_take (i := 23) (oi := { dst := some 159, op := Op.pick (Operand.tmp 156) (Operand.tmp 158) (Operand.const (Value.bool false)), type := 4, pos := "outright.go:45", after := #[{ on := 20, ground := Ground.data }, { on := 22, ground := Ground.data }], guard := none }) (v := ?vv244) rfl (by kernel_rfl) (by kernel_rfl) (by kernel_rfl) (fun _ _ _ h => h) (Or.inl ⟨by rfl, ?hy244⟩) (by assumption) ?_
                    case hy244 => (intro w hSw; (try dsimp only at hSw); go_simp; all_goals with_reducible rfl)
                    try simp only [Act.put, List.setIfInBounds_toArray, List.set_cons_zero, List.set_cons_succ]
                    refine wpAnyH_done (by kernel_rfl) ?_ _
                    go_wp2_with fail
                    go_meet
                    exact ⟨rfl, (Below.refl _ _).drew⟩
              case rest =>
                obtain ⟨rfl, hB9⟩ := hcut
                have HS9 : Hid (Bs w _ p b q t0' t1' T' (.slice yb' bn'.length yc') bn') := hS8.out.below hB9
                clear hS8 hop8 HIN HSk HMB HOk HS2 o1 ol
                go_wp2_with fail
                go_roundw
                case rel => exact ⟨k + 1, T', bn', t0', t1', by omega, by simp, HS9, hBi8, HCl', hT8⟩
                case measure => simp [intOf]; omega
    · obtain rfl : k = n := by omega
      as_aux_lemma =>
        have hS1 := hS.out
        have ok := hS1.ti.ok
        have hl1 := live_any wr p b T hS1.ti
        obtain ⟨yb, yc, hye, hyc1, hyc2⟩ := hS1.row.slice
        subst hye
        have HOk : Hid T.Ok := ok
        clear ok hS1
        go_wp2_with fail
        refine hl1.mono ?_
        rintro e w5 ⟨lv, rfl, hRl, _, hB5⟩
        have HS5 : Hid (Bs w w5 p b q t0 t1 T (.slice yb bn.length yc) bn) := hS.out.below hB5
        obtain ⟨lb, lc, hle, hlc1, hlc2⟩ := hRl.slice
        subst hle
        have HRl : Hid (R EI w5 (.slice lb T.live.length lc) T.live) := hRl
        clear hl1 hB5 hS hRl
        obtain ⟨m, hm⟩ : ∃ m, bn.length = m := ⟨_, rfl⟩
        have HM : Hid (bn.length = m) := hm
        have HML : Hid (m ≤ 2147483647) := by rw [← hm]; exact hBi.out.length
        rw [hm] at HS5 hyc1 ⊢
        clear hm
        obtain ⟨f1, hf1⟩ : ∃ f1 : Int → Bool, f1 = fun x => ct (T.st x) && (odd x == cl) := ⟨_, rfl⟩
        obtain ⟨f2, hf2⟩ : ∃ f2 : Int → Bool, f2 = fun x => ct (T.st x) && !(odd x == cl) := ⟨_, rfl⟩
        obtain ⟨f3, hf3⟩ : ∃ f3 : Int → Bool, f3 = fun x => !(T.st x == 6) := ⟨_, rfl⟩
        have HF : Hid (f1 = (fun x => ct (T.st x) && (odd x == cl)) ∧ f2 = (fun x => ct (T.st x) && !(odd x == cl)) ∧ f3 = fun x => !(T.st x == 6)) := ⟨hf1, hf2, hf3⟩
        clear hf1 hf2 hf3
        go_wp2_with fail
        go_loopw [15, 16, 17, 18] (fun a b c x wz => ∃ (j : Nat), j ≤ m ∧ x = .int .i64 (j : Int) ∧ a = .int .i64 (((bn.take j).filter f1).length : Int) ∧ b = .int .i64 (((bn.take j).filter f2).length : Int) ∧ c = .int .i64 (((bn.take j).filter f3).length : Int) ∧ Hid (Below w5.heap.size w5 wz)) (fun _ _ _ x _ => m - (intOf x).toNat)
        case atStart => exact ⟨0, by omega, rfl, rfl, rfl, rfl, Below.refl _ _⟩
        case round =>
          obtain ⟨j, hj, hx, ha, hb, hc, hBz⟩ := hrel
          subst hx
          subst ha
          subst hb
          subst hc
          by_cases hlt : j < m
          · have hlm := HM.out
            have hS6 := HS5.out.below hBz.out
            obtain ⟨B1, o1, c1, e1, hB1, d1⟩ := hS6.row.isIn.int j (by omega)
            injection e1 with e1 ex ey
            clear ex ey
            subst e1
            have hmem : bn[j]'(by omega) ∈ bn := List.getElem_mem _
            have htk : ∀ f : Int → Bool, ((bn.take (j + 1)).filter f).length = ((bn.take j).filter f).length + if f (bn[j]'(by omega)) = true then 1 else 0 := fun f => by
              rw [List.take_succ_eq_append_getElem (by omega), List.filter_append, List.length_append]
              congr 1
              simp only [List.filter_cons, List.filter_nil]
              split <;> rfl
            have hle : ∀ f : Int → Bool, ((bn.take j).filter f).length ≤ 2147483647 := fun f => Nat.le_trans (List.length_filter_le _ _) (by rw [List.length_take]; have := HML.out; omega)
            obtain ⟨x, hx⟩ : ∃ x, bn[j]'(by omega) = x := ⟨_, rfl⟩
            rw [hx] at d1 hmem htk
            clear hx hlm
            have hst := HOk.out.born_st (hBi.out.born x hmem)
            have hpos : 1 ≤ x := (isStr_iff.1 (hBi.out.born x hmem).1).1
            have hxi : I64 x := by have := (isStr_iff.1 (hBi.out.born x hmem).1).2; unfold I64; omega
            have hml := hBi.out.mem_live HOk.out hmem
            have htm := tmod_pos hpos
            have htm2 := (odd_pos hpos).symm
            have k1 := htk f1
            have k2 := htk f2
            have k3 := htk f3
            have z1 := hle f1
            have z2 := hle f2
            have z3 := hle f3
            have v1 : f1 x = (ct (T.st x) && (odd x == cl)) := by rw [HF.out.1]
            have v2 : f2 x = (ct (T.st x) && !(odd x == cl)) := by rw [HF.out.2.1]
            have v3 : f3 x = !(T.st x == 6) := by rw [HF.out.2.2]
            rw [v1] at k1
            rw [v2] at k2
            rw [v3] at k3
            clear v1 v2 v3 htk hle
            have hsa := state_any _ p b T x hS6.ti hxi
            have hrl := HRl.out.below hBz.out
            have hia := fun W (hB : Below _ _ W) => in_any W _ T.live x (hrl.below hB).isIn
            rw [hml] at hia
            obtain ⟨s, hs⟩ : ∃ s, T.st x = s := ⟨_, rfl⟩
            rw [hs] at k1 k2 k3 hsa hia hst
            clear hs hml hmem hrl
            have K1 : Hid _ := k1
            have K2 : Hid _ := k2
            have K3 : Hid _ := k3
            have HIA : Hid _ := hia
            clear k1 k2 k3 hia
            generalize ((bn.take j).filter f1).length = n1 at K1 z1
            generalize ((bn.take j).filter f2).length = n2 at K2 z2
            generalize ((bn.take j).filter f3).length = n3 at K3 z3
            have hs6 : s = 1 ∨ s = 2 ∨ s = 3 ∨ s = 4 ∨ s = 5 ∨ s = 6 := by omega
            clear hst hpos hxi
            go_wp2_with fail
            refine hsa.mono ?_
            rintro e w6 ⟨rfl, hB6⟩
            have d1' : w6.cell? ⟨B1, o1 + j, none⟩ = some (.int .i64 x) := (hB6.cell hB1).trans d1
            have hB1' : B1 < w6.heap.size := Nat.lt_of_lt_of_le hB1 hB6.size
            have hin2 := HIA.out _ hB6
            have HB6 : Hid (Below w5.heap.size w5 w6) := hBz.out.trans (hB6.mono hBz.out.size)
            clear hsa hB6 HIA d1 hB1 hS6
            rcases hs6 with rfl | rfl | rfl | rfl | rfl | rfl
            · as_aux_lemma =>
                rw [show (!(((1 : Int) == 6))) = true from rfl] at hin2
                go_wp2_with fail
                refine hin2.mono ?_
                rintro e w6 ⟨rfl, rfl⟩
                clear hin2
                go_wp2_with fail
                refine (counts_any 1 _).mono ?_
                rintro e w6 ⟨rfl, rfl⟩
                rw [show ct 1 = false from rfl]
                go_wp2_with fail
                refine (counts_any 1 _).mono ?_
                rintro e w6 ⟨rfl, rfl⟩
                rw [show ct 1 = false from rfl]
                go_wp2_with fail
                go_roundw
                case rel =>
                  refine ⟨j + 1, by omega, by simp, ?_, ?_, ?_, HB6⟩
                  · rw [K1.out]; first | rfl | simp
                  · rw [K2.out]; first | rfl | simp
                  · rw [K3.out]; first | rfl | simp
                case measure => simp [intOf]; omega
            · as_aux_lemma =>
                rw [show (!(((2 : Int) == 6))) = true from rfl] at hin2
                go_wp2_with fail
                refine hin2.mono ?_
                rintro e w6 ⟨rfl, rfl⟩
                clear hin2
                go_wp2_with fail
                refine (counts_any 2 _).mono ?_
                rintro e w6 ⟨rfl, rfl⟩
                rw [show ct 2 = false from rfl]
                go_wp2_with fail
                refine (counts_any 2 _).mono ?_
                rintro e w6 ⟨rfl, rfl⟩
                rw [show ct 2 = false from rfl]
                go_wp2_with fail
                go_roundw
                case rel =>
                  refine ⟨j + 1, by omega, by simp, ?_, ?_, ?_, HB6⟩
                  · rw [K1.out]; first | rfl | simp
                  · rw [K2.out]; first | rfl | simp
                  · rw [K3.out]; first | rfl | simp
                case measure => simp [intOf]; omega
            · cases hod : odd x
              · rw [hod] at htm htm2 K1 K2
                clear hod
                cases cl
                · as_aux_lemma =>
                    rw [show (!(((3 : Int) == 6))) = true from rfl] at hin2
                    go_wp2_with fail
                    refine hin2.mono ?_
                    rintro e w6 ⟨rfl, rfl⟩
                    clear hin2
                    go_wp2_with fail
                    refine (counts_any 3 _).mono ?_
                    rintro e w6 ⟨rfl, rfl⟩
                    rw [show ct 3 = true from rfl]
                    go_wp2_with fail
                    go_roundw
                    case rel =>
                      refine ⟨j + 1, by omega, by simp, ?_, ?_, ?_, HB6⟩
                      · rw [K1.out]; first | rfl | simp
                      · rw [K2.out]; first | rfl | simp
                      · rw [K3.out]; first | rfl | simp
                    case measure => simp [intOf]; omega
                · as_aux_lemma =>
                    rw [show (!(((3 : Int) == 6))) = true from rfl] at hin2
                    go_wp2_with fail
                    refine hin2.mono ?_
                    rintro e w6 ⟨rfl, rfl⟩
                    clear hin2
                    go_wp2_with fail
                    refine (counts_any 3 _).mono ?_
                    rintro e w6 ⟨rfl, rfl⟩
                    rw [show ct 3 = true from rfl]
                    go_wp2_with fail
                    refine (counts_any 3 _).mono ?_
                    rintro e w6 ⟨rfl, rfl⟩
                    rw [show ct 3 = true from rfl]
                    go_wp2_with fail
                    go_roundw
                    case rel =>
                      refine ⟨j + 1, by omega, by simp, ?_, ?_, ?_, HB6⟩
                      · rw [K1.out]; first | rfl | simp
                      · rw [K2.out]; first | rfl | simp
                      · rw [K3.out]; first | rfl | simp
                    case measure => simp [intOf]; omega
              · rw [hod] at htm htm2 K1 K2
                clear hod
                cases cl
                · as_aux_lemma =>
                    rw [show (!(((3 : Int) == 6))) = true from rfl] at hin2
                    go_wp2_with fail
                    refine hin2.mono ?_
                    rintro e w6 ⟨rfl, rfl⟩
                    clear hin2
                    go_wp2_with fail
                    refine (counts_any 3 _).mono ?_
                    rintro e w6 ⟨rfl, rfl⟩
                    rw [show ct 3 = true from rfl]
                    go_wp2_with fail
                    refine (counts_any 3 _).mono ?_
                    rintro e w6 ⟨rfl, rfl⟩
                    rw [show ct 3 = true from rfl]
                    go_wp2_with fail
                    go_roundw
                    case rel =>
                      refine ⟨j + 1, by omega, by simp, ?_, ?_, ?_, HB6⟩
                      · rw [K1.out]; first | rfl | simp
                      · rw [K2.out]; first | rfl | simp
                      · rw [K3.out]; first | rfl | simp
                    case measure => simp [intOf]; omega
                · as_aux_lemma =>
                    rw [show (!(((3 : Int) == 6))) = true from rfl] at hin2
                    go_wp2_with fail
                    refine hin2.mono ?_
                    rintro e w6 ⟨rfl, rfl⟩
                    clear hin2
                    go_wp2_with fail
                    refine (counts_any 3 _).mono ?_
                    rintro e w6 ⟨rfl, rfl⟩
                    rw [show ct 3 = true from rfl]
                    go_wp2_with fail
                    go_roundw
                    case rel =>
                      refine ⟨j + 1, by omega, by simp, ?_, ?_, ?_, HB6⟩
                      · rw [K1.out]; first | rfl | simp
                      · rw [K2.out]; first | rfl | simp
                      · rw [K3.out]; first | rfl | simp
                    case measure => simp [intOf]; omega
            · cases hod : odd x
              · rw [hod] at htm htm2 K1 K2
                clear hod
                cases cl
                · as_aux_lemma =>
                    rw [show (!(((4 : Int) == 6))) = true from rfl] at hin2
                    go_wp2_with fail
                    refine hin2.mono ?_
                    rintro e w6 ⟨rfl, rfl⟩
                    clear hin2
                    go_wp2_with fail
                    refine (counts_any 4 _).mono ?_
                    rintro e w6 ⟨rfl, rfl⟩
                    rw [show ct 4 = true from rfl]
                    go_wp2_with fail
                    go_roundw
                    case rel =>
                      refine ⟨j + 1, by omega, by simp, ?_, ?_, ?_, HB6⟩
                      · rw [K1.out]; first | rfl | simp
                      · rw [K2.out]; first | rfl | simp
                      · rw [K3.out]; first | rfl | simp
                    case measure => simp [intOf]; omega
                · as_aux_lemma =>
                    rw [show (!(((4 : Int) == 6))) = true from rfl] at hin2
                    go_wp2_with fail
                    refine hin2.mono ?_
                    rintro e w6 ⟨rfl, rfl⟩
                    clear hin2
                    go_wp2_with fail
                    refine (counts_any 4 _).mono ?_
                    rintro e w6 ⟨rfl, rfl⟩
                    rw [show ct 4 = true from rfl]
                    go_wp2_with fail
                    refine (counts_any 4 _).mono ?_
                    rintro e w6 ⟨rfl, rfl⟩
                    rw [show ct 4 = true from rfl]
                    go_wp2_with fail
                    go_roundw
                    case rel =>
                      refine ⟨j + 1, by omega, by simp, ?_, ?_, ?_, HB6⟩
                      · rw [K1.out]; first | rfl | simp
                      · rw [K2.out]; first | rfl | simp
                      · rw [K3.out]; first | rfl | simp
                    case measure => simp [intOf]; omega
              · rw [hod] at htm htm2 K1 K2
                clear hod
                cases cl
                · as_aux_lemma =>
                    rw [show (!(((4 : Int) == 6))) = true from rfl] at hin2
                    go_wp2_with fail
                    refine hin2.mono ?_
                    rintro e w6 ⟨rfl, rfl⟩
                    clear hin2
                    go_wp2_with fail
                    refine (counts_any 4 _).mono ?_
                    rintro e w6 ⟨rfl, rfl⟩
                    rw [show ct 4 = true from rfl]
                    go_wp2_with fail
                    refine (counts_any 4 _).mono ?_
                    rintro e w6 ⟨rfl, rfl⟩
                    rw [show ct 4 = true from rfl]
                    go_wp2_with fail
                    go_roundw
                    case rel =>
                      refine ⟨j + 1, by omega, by simp, ?_, ?_, ?_, HB6⟩
                      · rw [K1.out]; first | rfl | simp
                      · rw [K2.out]; first | rfl | simp
                      · rw [K3.out]; first | rfl | simp
                    case measure => simp [intOf]; omega
                · as_aux_lemma =>
                    rw [show (!(((4 : Int) == 6))) = true from rfl] at hin2
                    go_wp2_with fail
                    refine hin2.mono ?_
                    rintro e w6 ⟨rfl, rfl⟩
                    clear hin2
                    go_wp2_with fail
                    refine (counts_any 4 _).mono ?_
                    rintro e w6 ⟨rfl, rfl⟩
                    rw [show ct 4 = true from rfl]
                    go_wp2_with fail
                    go_roundw
                    case rel =>
                      refine ⟨j + 1, by omega, by simp, ?_, ?_, ?_, HB6⟩
                      · rw [K1.out]; first | rfl | simp
                      · rw [K2.out]; first | rfl | simp
                      · rw [K3.out]; first | rfl | simp
                    case measure => simp [intOf]; omega
            · cases hod : odd x
              · rw [hod] at htm htm2 K1 K2
                clear hod
                cases cl
                · as_aux_lemma =>
                    rw [show (!(((5 : Int) == 6))) = true from rfl] at hin2
                    go_wp2_with fail
                    refine hin2.mono ?_
                    rintro e w6 ⟨rfl, rfl⟩
                    clear hin2
                    go_wp2_with fail
                    refine (counts_any 5 _).mono ?_
                    rintro e w6 ⟨rfl, rfl⟩
                    rw [show ct 5 = true from rfl]
                    go_wp2_with fail
                    go_roundw
                    case rel =>
                      refine ⟨j + 1, by omega, by simp, ?_, ?_, ?_, HB6⟩
                      · rw [K1.out]; first | rfl | simp
                      · rw [K2.out]; first | rfl | simp
                      · rw [K3.out]; first | rfl | simp
                    case measure => simp [intOf]; omega
                · as_aux_lemma =>
                    rw [show (!(((5 : Int) == 6))) = true from rfl] at hin2
                    go_wp2_with fail
                    refine hin2.mono ?_
                    rintro e w6 ⟨rfl, rfl⟩
                    clear hin2
                    go_wp2_with fail
                    refine (counts_any 5 _).mono ?_
                    rintro e w6 ⟨rfl, rfl⟩
                    rw [show ct 5 = true from rfl]
                    go_wp2_with fail
                    refine (counts_any 5 _).mono ?_
                    rintro e w6 ⟨rfl, rfl⟩
                    rw [show ct 5 = true from rfl]
                    go_wp2_with fail
                    go_roundw
                    case rel =>
                      refine ⟨j + 1, by omega, by simp, ?_, ?_, ?_, HB6⟩
                      · rw [K1.out]; first | rfl | simp
                      · rw [K2.out]; first | rfl | simp
                      · rw [K3.out]; first | rfl | simp
                    case measure => simp [intOf]; omega
              · rw [hod] at htm htm2 K1 K2
                clear hod
                cases cl
                · as_aux_lemma =>
                    rw [show (!(((5 : Int) == 6))) = true from rfl] at hin2
                    go_wp2_with fail
                    refine hin2.mono ?_
                    rintro e w6 ⟨rfl, rfl⟩
                    clear hin2
                    go_wp2_with fail
                    refine (counts_any 5 _).mono ?_
                    rintro e w6 ⟨rfl, rfl⟩
                    rw [show ct 5 = true from rfl]
                    go_wp2_with fail
                    refine (counts_any 5 _).mono ?_
                    rintro e w6 ⟨rfl, rfl⟩
                    rw [show ct 5 = true from rfl]
                    go_wp2_with fail
                    go_roundw
                    case rel =>
                      refine ⟨j + 1, by omega, by simp, ?_, ?_, ?_, HB6⟩
                      · rw [K1.out]; first | rfl | simp
                      · rw [K2.out]; first | rfl | simp
                      · rw [K3.out]; first | rfl | simp
                    case measure => simp [intOf]; omega
                · as_aux_lemma =>
                    rw [show (!(((5 : Int) == 6))) = true from rfl] at hin2
                    go_wp2_with fail
                    refine hin2.mono ?_
                    rintro e w6 ⟨rfl, rfl⟩
                    clear hin2
                    go_wp2_with fail
                    refine (counts_any 5 _).mono ?_
                    rintro e w6 ⟨rfl, rfl⟩
                    rw [show ct 5 = true from rfl]
                    go_wp2_with fail
                    go_roundw
                    case rel =>
                      refine ⟨j + 1, by omega, by simp, ?_, ?_, ?_, HB6⟩
                      · rw [K1.out]; first | rfl | simp
                      · rw [K2.out]; first | rfl | simp
                      · rw [K3.out]; first | rfl | simp
                    case measure => simp [intOf]; omega
            · as_aux_lemma =>
                rw [show (!(((6 : Int) == 6))) = false from rfl] at hin2
                go_wp2_with fail
                refine hin2.mono ?_
                rintro e w6 ⟨rfl, rfl⟩
                clear hin2
                go_wp2_with fail
                refine (counts_any 6 _).mono ?_
                rintro e w6 ⟨rfl, rfl⟩
                rw [show ct 6 = false from rfl]
                go_wp2_with fail
                refine (counts_any 6 _).mono ?_
                rintro e w6 ⟨rfl, rfl⟩
                rw [show ct 6 = false from rfl]
                go_wp2_with fail
                go_roundw
                case rel =>
                  refine ⟨j + 1, by omega, by simp, ?_, ?_, ?_, HB6⟩
                  · rw [K1.out]; first | rfl | simp
                  · rw [K2.out]; first | rfl | simp
                  · rw [K3.out]; first | rfl | simp
                case measure => simp [intOf]; omega
          · obtain rfl : j = m := by omega
            have ha : (bn.take j).filter f1 = bn.filter f1 := by rw [List.take_of_length_le (by rw [HM.out]; exact Nat.le_refl _)]
            have hb : (bn.take j).filter f2 = bn.filter f2 := by rw [List.take_of_length_le (by rw [HM.out]; exact Nat.le_refl _)]
            have hc : (bn.take j).filter f3 = bn.filter f3 := by rw [List.take_of_length_le (by rw [HM.out]; exact Nat.le_refl _)]
            have hT0 := HS5.out.below hBz.out
            have ok := hT0.ti.ok
            have g1 : (bn.filter f1).length = T.count true := by
              rw [HF.out.1]
              refine (hBi.out.counted ok (fun x s => ct s && (odd x == cl)) (fun _ => rfl)).trans ?_
              unfold Tb.count
              congr 1
              refine List.filter_congr fun p _ => ?_
              unfold Tb.ours
              rw [hcl.out]
              cases ct p.2 <;> cases (odd p.1 == cl) <;> rfl
            have g2 : (bn.filter f2).length = T.count false := by
              rw [HF.out.2.1]
              refine (hBi.out.counted ok (fun x s => ct s && !(odd x == cl)) (fun _ => rfl)).trans ?_
              unfold Tb.count
              congr 1
              refine List.filter_congr fun p _ => ?_
              unfold Tb.ours
              rw [hcl.out]
              cases ct p.2 <;> cases (odd p.1 == cl) <;> rfl
            have g3 : (bn.filter f3).length = T.live.length := by
              rw [HF.out.2.2]
              refine (hBi.out.counted ok (fun x s => !(s == 6)) (fun _ => rfl)).trans ?_
              unfold Tb.live
              rw [List.length_map]
            rw [ha, hb, hc, g1, g2, g3]
            have HC1 := fun W (h : TI W p b T) => count_any W p b T true h
            have HC2 := fun W (h : TI W p b T) => count_any W p b T false h
            have hrise := live_rise ok
            have hns := ok.next_says
            have hlo := ok.lo
            have htops : (cl = true → t1 = T.lo ∧ t0 = T.lt) ∧ (cl = false → t0 = T.lo ∧ t1 = T.lt) := by
              obtain ⟨ta, tb⟩ := htop.out
              unfold Tb.top at ta tb
              rw [hcl.out] at ta tb
              constructor
              · rintro rfl
                exact ⟨tb.symm, ta.symm⟩
              · rintro rfl
                exact ⟨ta.symm, tb.symm⟩
            rw [hcl.out] at hns
            have hlm : T.live.length ≤ 2147483647 := by
              refine Nat.le_trans ?_ ok.length
              unfold Tb.live
              rw [List.length_map]
              exact List.length_filter_le _ _
            have HRZ : Hid (R EI wr (.slice lb T.live.length lc) T.live) := HRl.out.below hBz.out
            have HTZ : Hid (Bs w wr p b q t0 t1 T (.slice (yb) j yc) bn) := hT0
            have HNX : Hid _ := fun W (h : TI W p b T) => next_any W p b T h
            have HLA : Hid _ := fun W (h : TI W p b T) => last_any W p b T true h
            have HLB : Hid _ := fun W (h : TI W p b T) => last_any W p b T false h
            have HCA : Hid _ := HC1
            have HCB : Hid _ := HC2
            have HRS : Hid _ := hrise
            have HNS : Hid _ := hns
            have HTP : Hid _ := htops
            obtain ⟨lo, hlo'⟩ : ∃ lo, T.lo = lo := ⟨_, rfl⟩
            obtain ⟨lt, hlt'⟩ : ∃ lt, T.lt = lt := ⟨_, rfl⟩
            rw [show T.last true = T.lo from rfl, hlo'] at HLA
            rw [show T.last false = T.lt from rfl, hlt'] at HLB
            rw [hlo'] at hlo HNS HTP
            rw [hlt'] at HTP
            obtain ⟨nn, hnn⟩ : ∃ nn, T.next.1 = nn := ⟨_, rfl⟩
            obtain ⟨okb, hokb⟩ : ∃ okb, T.next.2 = okb := ⟨_, rfl⟩
            rw [hnn, hokb] at HNX HNS
            obtain ⟨N1, hN1⟩ : ∃ N1, T.count true = N1 := ⟨_, rfl⟩
            obtain ⟨N2, hN2⟩ : ∃ N2, T.count false = N2 := ⟨_, rfl⟩
            rw [hN1] at HCA ⊢
            rw [hN2] at HCB ⊢
            obtain ⟨ll, hll⟩ : ∃ ll, T.live = ll := ⟨_, rfl⟩
            rw [hll] at HRZ hlc1 HRS hlm ⊢
            clear ha hb hc g1 g2 g3 hT0 ok HC1 HC2 hrise hns htops hlo' hlt' hnn hokb hN1 hN2 HRl HS5 hBz HF hll
            obtain ⟨ml, hml⟩ : ∃ ml, ll.length = ml := ⟨_, rfl⟩
            have HML2 : Hid (ll.length = ml) := hml
            rw [hml] at HRZ hlc1 hlm ⊢
            clear hml
            go_wp2_with fail
            go_loopw [20] (fun x wz => ∃ (i : Nat), i ≤ ml ∧ x = .int .i64 ((i : Int) + 1) ∧ Hid (Below wr.heap.size wr wz)) (fun x _ => ml + 1 - (intOf x).toNat)
            case atStart => exact ⟨0, by omega, rfl, Below.refl _ _⟩
            case round =>
              obtain ⟨i, hi, hx, hBy⟩ := hrel
              subst hx
              by_cases hlt2 : i + 1 < ml
              · have hl2 := HML2.out
                obtain ⟨B1, o1, c1, e1, hB1, d1⟩ := (HRZ.out.below hBy.out).isIn.int i (by omega)
                obtain ⟨B2, o2, c2, e2, hB2, d2⟩ := (HRZ.out.below hBy.out).isIn.int (i + 1) (by omega)
                injection e1 with e1 ex ey
                clear ex ey
                subst e1
                injection e2 with e2 ex ey
                clear ex ey
                injection e2 with e2
                injection e2 with e3 e4 e5
                subst e3 e4
                clear e5 hB2
                have hrs := List.pairwise_iff_getElem.1 HRS.out i (i + 1) (by omega) (by omega) (by omega)
                obtain ⟨x, hx⟩ : ∃ x, ll[i]'(by omega) = x := ⟨_, rfl⟩
                obtain ⟨y, hy⟩ : ∃ y, ll[i + 1]'(by omega) = y := ⟨_, rfl⟩
                rw [hx] at d1 hrs
                rw [hy] at d2 hrs
                have hd : decide (y ≤ x) = false := decide_eq_false (by omega)
                clear hx hy hl2 hrs
                go_wp2_with fail
                go_region
                all_goals
                  go_wp2_with fail
                  go_roundw
                  case rel => exact ⟨i + 1, by omega, by simp, hBy.out.drew⟩
                  case measure => simp [intOf]; omega
              · have HTY : Hid (Bs w _ p b q t0 t1 T (.slice yb j yc) bn) := HTZ.out.below hBy.out
                clear HTZ HRZ hBy
                have hdl : decide (((i : Int) + 1) < (ml : Int)) = false := decide_eq_false (by omega)
                obtain ⟨tpa, tpb⟩ := HTP.out
                obtain ⟨nsa, nsb⟩ := HNS.out
                clear HTP HNS
                cases cl
                · obtain ⟨te1, te2⟩ := tpb rfl
                  subst te1
                  subst te2
                  clear tpa tpb
                  have c0 := cell_blk HTY.out.ar 0
                  have c1 := cell_blk HTY.out.ar 1
                  simp only [List.getElem?_toArray, List.getElem?_cons_zero, List.getElem?_cons_succ] at c0 c1
                  have cq := heap_lt HTY.out.ar
                  have HTN : Hid (∀ N, Bs w (World.drewN _ N) p b q _ _ T (.slice yb j yc) bn) := fun N => HTY.out.below ⟨rfl, rfl, rfl, Nat.le_refl _, fun _ _ => rfl⟩
                  clear HTY
                  go_wp2_with fail
                  go_quiet (fail)
                  go_wp2_with fail
                  refine (HNX.out _ (HTN.out _).ti).mono ?_
                  rintro e wn ⟨rfl, rfl⟩
                  clear HNX
                  cases okb
                  · have hd2 : decide (t0 + 2 ≤ 2147483647) = false := nsa.symm
                    clear nsa nsb
                    as_aux_lemma =>
                      go_wp2_with fail
                      refine (HCA.out _ (HTN.out _).ti).mono ?_
                      rintro e wn ⟨rfl, hBn⟩
                      have HT1 : Hid (Bs w _ p b q _ _ T (.slice yb j yc) bn) := (HTN.out _).below hBn
                      clear HTN hBn
                      go_wp2_with fail
                      refine (HCB.out _ HT1.out.ti).mono ?_
                      rintro e wn2 ⟨rfl, hBn⟩
                      have HT2 : Hid (Bs w _ p b q _ _ T (.slice yb j yc) bn) := HT1.out.below hBn
                      clear HT1 hBn
                      go_wp2_with fail
                      refine (HLA.out _ HT2.out.ti).mono ?_
                      rintro e wn2 ⟨rfl, rfl⟩
                      go_wp2_with fail
                      refine (HLB.out _ HT2.out.ti).mono ?_
                      rintro e wn2 ⟨rfl, rfl⟩
                      go_wp2
                      go_ret
                      exact ⟨rfl, HT2.out.bel⟩
                  · have hd2 : decide (t0 + 2 ≤ 2147483647) = true := nsa.symm
                    obtain ⟨h1, h2, h3⟩ := nsb rfl
                    have g1 : decide (nn ≤ t0) = false := decide_eq_false (by omega)
                    have g2 : decide (t0 + 2 < nn) = false := decide_eq_false (by omega)
                    have h4 : (nn % 2 == 1) = false := by rw [← h3, Int.tmod_eq_emod_of_nonneg (by omega)]
                    clear nsa nsb
                    as_aux_lemma =>
                      go_wp2_with fail
                      refine (HCA.out _ (HTN.out _).ti).mono ?_
                      rintro e wn ⟨rfl, hBn⟩
                      have HT1 : Hid (Bs w _ p b q _ _ T (.slice yb j yc) bn) := (HTN.out _).below hBn
                      clear HTN hBn
                      go_wp2_with fail
                      refine (HCB.out _ HT1.out.ti).mono ?_
                      rintro e wn2 ⟨rfl, hBn⟩
                      have HT2 : Hid (Bs w _ p b q _ _ T (.slice yb j yc) bn) := HT1.out.below hBn
                      clear HT1 hBn
                      go_wp2_with fail
                      refine (HLA.out _ HT2.out.ti).mono ?_
                      rintro e wn2 ⟨rfl, rfl⟩
                      go_wp2_with fail
                      refine (HLB.out _ HT2.out.ti).mono ?_
                      rintro e wn2 ⟨rfl, rfl⟩
                      go_wp2
                      go_ret
                      exact ⟨rfl, HT2.out.bel⟩
                · obtain ⟨te1, te2⟩ := tpa rfl
                  subst te1
                  subst te2
                  clear tpa tpb
                  have c0 := cell_blk HTY.out.ar 0
                  have c1 := cell_blk HTY.out.ar 1
                  simp only [List.getElem?_toArray, List.getElem?_cons_zero, List.getElem?_cons_succ] at c0 c1
                  have cq := heap_lt HTY.out.ar
                  have HTN : Hid (∀ N, Bs w (World.drewN _ N) p b q _ _ T (.slice yb j yc) bn) := fun N => HTY.out.below ⟨rfl, rfl, rfl, Nat.le_refl _, fun _ _ => rfl⟩
                  clear HTY
                  go_wp2_with fail
                  go_quiet (fail)
                  go_wp2_with fail
                  go_quiet (fail)
                  go_wp2_with fail
                  refine (HNX.out _ (HTN.out _).ti).mono ?_
                  rintro e wn ⟨rfl, rfl⟩
                  clear HNX
                  cases okb
                  · have hd2 : decide (t1 + 2 ≤ 2147483647) = false := nsa.symm
                    clear nsa nsb
                    as_aux_lemma =>
                      go_wp2_with fail
                      refine (HCA.out _ (HTN.out _).ti).mono ?_
                      rintro e wn ⟨rfl, hBn⟩
                      have HT1 : Hid (Bs w _ p b q _ _ T (.slice yb j yc) bn) := (HTN.out _).below hBn
                      clear HTN hBn
                      go_wp2_with fail
                      refine (HCB.out _ HT1.out.ti).mono ?_
                      rintro e wn2 ⟨rfl, hBn⟩
                      have HT2 : Hid (Bs w _ p b q _ _ T (.slice yb j yc) bn) := HT1.out.below hBn
                      clear HT1 hBn
                      go_wp2_with fail
                      refine (HLA.out _ HT2.out.ti).mono ?_
                      rintro e wn2 ⟨rfl, rfl⟩
                      go_wp2_with fail
                      refine (HLB.out _ HT2.out.ti).mono ?_
                      rintro e wn2 ⟨rfl, rfl⟩
                      go_wp2
                      go_ret
                      exact ⟨rfl, HT2.out.bel⟩
                  · have hd2 : decide (t1 + 2 ≤ 2147483647) = true := nsa.symm
                    obtain ⟨h1, h2, h3⟩ := nsb rfl
                    have g1 : decide (nn ≤ t1) = false := decide_eq_false (by omega)
                    have g2 : decide (t1 + 2 < nn) = false := decide_eq_false (by omega)
                    have h4 : (nn % 2 == 1) = true := by rw [← h3, Int.tmod_eq_emod_of_nonneg (by omega)]
                    clear nsa nsb
                    as_aux_lemma =>
                      go_wp2_with fail
                      refine (HCA.out _ (HTN.out _).ti).mono ?_
                      rintro e wn ⟨rfl, hBn⟩
                      have HT1 : Hid (Bs w _ p b q _ _ T (.slice yb j yc) bn) := (HTN.out _).below hBn
                      clear HTN hBn
                      go_wp2_with fail
                      refine (HCB.out _ HT1.out.ti).mono ?_
                      rintro e wn2 ⟨rfl, hBn⟩
                      have HT2 : Hid (Bs w _ p b q _ _ T (.slice yb j yc) bn) := HT1.out.below hBn
                      clear HT1 hBn
                      go_wp2_with fail
                      refine (HLA.out _ HT2.out.ti).mono ?_
                      rintro e wn2 ⟨rfl, rfl⟩
                      go_wp2_with fail
                      refine (HLB.out _ HT2.out.ti).mono ?_
                      rintro e wn2 ⟨rfl, rfl⟩
                      go_wp2
                      go_ret
                      exact ⟨rfl, HT2.out.bel⟩
                
end Go.Proofs.Ytaaocgppniflcaa
