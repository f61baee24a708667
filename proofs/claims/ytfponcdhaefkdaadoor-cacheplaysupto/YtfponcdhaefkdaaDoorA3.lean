/- Match. -/
import Derived.Test.YtfponcdhaefkdaaDoorA2
import Derived.Deep.RegionHeld3
namespace Go.Proofs.YtfponcdhaefkdaaDoor
open Go.RowKit
set_option linter.unusedVariables false
set_option linter.unusedSimpArgs false

/-- the values of each name are the same in both -/
def mtL (P Q : List Fd) (l : List ByteArray) : Bool := l.all fun x => eqB (vsL P x) (vsL Q x)
def mtB (p q : Rq) (P Q : List Fd) (l : List ByteArray) : Bool := eqB (hdL p) (hdL q) && mtL P Q l
theorem mtL_succ (P Q : List Fd) (l : List ByteArray) (k : Nat) (h : k < l.length) : mtL P Q (l.take (k + 1)) = (mtL P Q (l.take k) && eqB (vsL P l[k]) (vsL Q l[k])) := by
  unfold mtL
  rw [List.take_succ_eq_append_getElem h, List.all_append]
  simp
theorem mtL_false (P Q : List Fd) (l : List ByteArray) (k : Nat) (h : k < l.length) (hx : eqB (vsL P l[k]) (vsL Q l[k]) = false) : mtL P Q l = false := by
  unfold mtL
  rw [List.all_eq_false]
  exact ⟨l[k], List.getElem_mem h, by simp [hx]⟩

set_option maxHeartbeats 8000000 in
set_option maxRecDepth 100000 in
theorem match_any (p q : Rq) (t : SV) (P Q : List Fd) (l : List ByteArray) (w : World) (hP : In EFd w (sv p.y) P) (hQ : In EFd w (sv q.y) Q) (hl : In ES w (sv t) l) (zP : P.length * 40 ≤ 140737488355328) (zQ : Q.length * 40 ≤ 140737488355328) :
    Calls Tryd.prog 70 #[.agg (rqv p), .agg (rqv q), sv t] w fun e w' => e = .returned (.bool (mtB p q P Q l)) ∧ Below w.heap.size w w' := by
  have F1 : RqB ((w.alloc (.cells (rqv p) 24)).alloc (.cells (rqv q) 24)) w.heap.size p := by unfold RqB; rw [heap_al, if_neg (by simp), heap_al, if_pos rfl]
  have F2 : RqB ((w.alloc (.cells (rqv p) 24)).alloc (.cells (rqv q) 24)) (w.heap.size + 1) q := by unfold RqB; exact fresh2 _ _ _
  have B2 := bel2 w (.cells (rqv p) 24) (.cells (rqv q) 24)
  have HP : Hid (∀ W, Below w.heap.size w W → In EFd W (sv p.y) P) := fun W hb => hP.below hb
  have HQ : Hid (∀ W, Below w.heap.size w W → In EFd W (sv q.y) Q) := fun W hb => hQ.below hb
  have HT : Hid (In ES w (sv t) l) := hl
  have HL : Hid (P.length * 40 ≤ 140737488355328 ∧ Q.length * 40 ≤ 140737488355328) := ⟨zP, zQ⟩
  have HM : Hid (mtB p q P Q l = (eqB (hdL p) (hdL q) && mtL P Q l)) := rfl
  obtain ⟨X, hX⟩ : ∃ X, mtB p q P Q l = X := ⟨_, rfl⟩
  rw [hX] at HM ⊢
  clear hP hQ hl zP zQ hX
  obtain ⟨pm, ps, pa, pp, ⟨pyb, pyl, pyc⟩, pb⟩ := p
  obtain ⟨qm, qs, qa, qp, ⟨qyb, qyl, qyc⟩, qb⟩ := q
  obtain ⟨tb, tl, tc⟩ := t
  simp only [hdL, rqv, sv] at *
  obtain ⟨e1, e2, e3⟩ := slice_len HT.out
  have E1 : Hid (tl = l.length) := e1
  have e2' : tl ≤ tc := by omega
  clear e1 e2
  obtain ⟨w2, hw2⟩ : ∃ x, (w.alloc (.cells #[.string pm, .string ps, .string pa, .string pp, .slice pyb pyl pyc, .string pb] 24)).alloc (.cells #[.string qm, .string qs, .string qa, .string qp, .slice qyb qyl qyc, .string qb] 24) = x := ⟨_, rfl⟩
  rw [hw2] at F1 F2 B2
  have BW : Hid (Below w.heap.size w w2) := B2
  have hcelw : Hid (∀ W, Below w2.heap.size w2 W → (fun W => W.cell? ⟨w.heap.size, 0, none⟩ = some (.string pm) ∧ W.cell? ⟨w.heap.size, 1, none⟩ = some (.string ps) ∧ W.cell? ⟨w.heap.size, 2, none⟩ = some (.string pa) ∧ W.cell? ⟨w.heap.size, 3, none⟩ = some (.string pp) ∧ W.cell? ⟨w.heap.size, 4, none⟩ = some (.slice pyb pyl pyc) ∧ W.cell? ⟨w.heap.size, 5, none⟩ = some (.string pb) ∧ W.cell? ⟨w.heap.size + 1, 0, none⟩ = some (.string qm) ∧ W.cell? ⟨w.heap.size + 1, 1, none⟩ = some (.string qs) ∧ W.cell? ⟨w.heap.size + 1, 2, none⟩ = some (.string qa) ∧ W.cell? ⟨w.heap.size + 1, 3, none⟩ = some (.string qp) ∧ W.cell? ⟨w.heap.size + 1, 4, none⟩ = some (.slice qyb qyl qyc) ∧ W.cell? ⟨w.heap.size + 1, 5, none⟩ = some (.string qb)) W) := fun W hb => by
    obtain ⟨x0, x1, x2, x3, x4, x5, _⟩ := (F1.below hb).cells
    obtain ⟨y0, y1, y2, y3, y4, y5, _⟩ := (F2.below hb).cells
    exact ⟨x0, x1, x2, x3, x4, x5, y0, y1, y2, y3, y4, y5⟩
  have hsz : Hid (w.heap.size + 1 < w2.heap.size) := heap_lt F2
  have hw2' : Hid _ := hw2
  clear F1 F2 B2 hw2
  go_enter Tryd.func70, Tryd.ntmps70
  go_upto_region 1 with fail
  rw [hw2'.out]
  clear hw2'
  go_cut [14] from 9 (fun x wx => x = .bool (!eqB [pm, ps, pa, pp] [qm, qs, qa, qp]) ∧ Hid (Below w2.heap.size w2 wx))
  case first =>
    have hcel : Hid (∀ W, Below w2.heap.size w2 W → (fun W => W.cell? ⟨w.heap.size, 0, none⟩ = some (.string pm) ∧ W.cell? ⟨w.heap.size, 1, none⟩ = some (.string ps) ∧ W.cell? ⟨w.heap.size, 2, none⟩ = some (.string pa) ∧ W.cell? ⟨w.heap.size, 3, none⟩ = some (.string pp) ∧ W.cell? ⟨w.heap.size, 4, none⟩ = some (.slice pyb pyl pyc) ∧ W.cell? ⟨w.heap.size, 5, none⟩ = some (.string pb) ∧ W.cell? ⟨w.heap.size + 1, 0, none⟩ = some (.string qm) ∧ W.cell? ⟨w.heap.size + 1, 1, none⟩ = some (.string qs) ∧ W.cell? ⟨w.heap.size + 1, 2, none⟩ = some (.string qa) ∧ W.cell? ⟨w.heap.size + 1, 3, none⟩ = some (.string qp) ∧ W.cell? ⟨w.heap.size + 1, 4, none⟩ = some (.slice qyb qyl qyc) ∧ W.cell? ⟨w.heap.size + 1, 5, none⟩ = some (.string qb)) W) := hcelw
    as_aux_lemma =>
      have hIW : Below w2.heap.size w2 (w2.drew) := (Below.refl _ _).drew
      refine wp_region_held_drew (S := (fun W => W.cell? ⟨w.heap.size, 0, none⟩ = some (.string pm) ∧ W.cell? ⟨w.heap.size, 1, none⟩ = some (.string ps) ∧ W.cell? ⟨w.heap.size, 2, none⟩ = some (.string pa) ∧ W.cell? ⟨w.heap.size, 3, none⟩ = some (.string pp) ∧ W.cell? ⟨w.heap.size, 4, none⟩ = some (.slice pyb pyl pyc) ∧ W.cell? ⟨w.heap.size, 5, none⟩ = some (.string pb) ∧ W.cell? ⟨w.heap.size + 1, 0, none⟩ = some (.string qm) ∧ W.cell? ⟨w.heap.size + 1, 1, none⟩ = some (.string qs) ∧ W.cell? ⟨w.heap.size + 1, 2, none⟩ = some (.string qa) ∧ W.cell? ⟨w.heap.size + 1, 3, none⟩ = some (.string qp) ∧ W.cell? ⟨w.heap.size + 1, 4, none⟩ = some (.slice qyb qyl qyc) ∧ W.cell? ⟨w.heap.size + 1, 5, none⟩ = some (.string qb))) (by kernel_rfl) (hcel.out _ hIW) (fun hHeld => ?_)
      generalize hWg : World.drew _ = W at hIW hHeld ⊢
      clear hWg
      refine wpAnyH_take (i := 0) (oi := { dst := some 9, op := Op.load 24 (Operand.tmp 3), type := 24, pos := "vary.go:38", after := #[], guard := none }) (v := ?vv1) rfl (by kernel_rfl) (by kernel_rfl) (by kernel_rfl) (fun _ _ _ h => h) (Or.inl ⟨by rfl, ?hy1⟩) (by assumption) ?_
      case hy1 => (intro w hSw; (try dsimp only at hSw); go_simp; all_goals with_reducible rfl)
      try simp only [Act.put, List.setIfInBounds_toArray, List.set_cons_zero, List.set_cons_succ]
      refine wpAnyH_take (i := 2) (oi := { dst := some 11, op := Op.load 24 (Operand.tmp 4), type := 24, pos := "vary.go:38", after := #[], guard := none }) (v := ?vv2) rfl (by kernel_rfl) (by kernel_rfl) (by kernel_rfl) (fun _ _ _ h => h) (Or.inl ⟨by rfl, ?hy2⟩) (by assumption) ?_
      case hy2 => (intro w hSw; (try dsimp only at hSw); go_simp; all_goals with_reducible rfl)
      try simp only [Act.put, List.setIfInBounds_toArray, List.set_cons_zero, List.set_cons_succ]
      refine wpAnyH_ready (rs := [1]) (by kernel_rfl) (by simp) ?_
      refine AllReadyH.cons (o := { dst := some 10, op := Op.call { callee := Callee.value (Operand.func 84), args := #[Operand.tmp 9], argTypes := #[24] }, type := 27, pos := "vary.go:38", after := #[{ on := 0, ground := Ground.data }], guard := none }) rfl (fun K hK => ?_) AllReadyH.nil
      go_simp
      refine ((head_any ⟨pm, ps, pa, pp, (pyb, pyl, pyc), pb⟩ W)).mono ?_
      rintro e' Wx ⟨⟨ub, ul, uc⟩, rfl, bX, uR, _⟩
      have hIWx : Below w2.heap.size w2 Wx := hIW.trans (bX.mono hIW.size)
      replace uR : Hid (R ES Wx (.slice ub ul uc) ([pm, ps, pa, pp])) := uR
      simp only [sv]
      go_wp2_with fail
      refine hK.out _ _ (hcel.out _ hIWx) (fun hHeld => ?_)
      clear hK K bX hIW
      try simp only [Act.put, List.setIfInBounds_toArray, List.set_cons_zero, List.set_cons_succ]
      refine wpAnyH_ready (rs := [3]) (by kernel_rfl) (by simp) ?_
      refine AllReadyH.cons (o := { dst := some 12, op := Op.call { callee := Callee.value (Operand.func 84), args := #[Operand.tmp 11], argTypes := #[24] }, type := 27, pos := "vary.go:38", after := #[{ on := 2, ground := Ground.data }, { on := 1, ground := Ground.chain }], guard := none }) rfl (fun K hK => ?_) AllReadyH.nil
      go_simp
      refine ((head_any ⟨qm, qs, qa, qp, (qyb, qyl, qyc), qb⟩ Wx)).mono ?_
      rintro e' Wxx ⟨⟨vb, vl, vc⟩, rfl, bX, vR, _⟩
      have hIWxx : Below w2.heap.size w2 Wxx := hIWx.trans (bX.mono hIWx.size)
      replace vR : Hid (R ES Wxx (.slice vb vl vc) ([qm, qs, qa, qp])) := vR
      replace uR : Hid (R ES Wxx (.slice ub ul uc) ([pm, ps, pa, pp])) := R.below uR.out bX
      simp only [sv]
      go_wp2_with fail
      refine hK.out _ _ (hcel.out _ hIWxx) (fun hHeld => ?_)
      clear hK K bX hIWx
      try simp only [Act.put, List.setIfInBounds_toArray, List.set_cons_zero, List.set_cons_succ]
      refine wpAnyH_ready (rs := [4]) (by kernel_rfl) (by simp) ?_
      refine AllReadyH.cons (o := { dst := some 13, op := Op.call { callee := Callee.value (Operand.func 83), args := #[Operand.tmp 10, Operand.tmp 12], argTypes := #[27, 27] }, type := 4, pos := "vary.go:38", after := #[{ on := 1, ground := Ground.data }, { on := 3, ground := Ground.data }, { on := 3, ground := Ground.chain }], guard := none }) rfl (fun K hK => ?_) AllReadyH.nil
      go_simp
      refine (vsame_any (ub, ul, uc) (vb, vl, vc) ([pm, ps, pa, pp]) ([qm, qs, qa, qp]) _ uR.out.isIn vR.out.isIn).mono ?_
      rintro e' Wxxx ⟨rfl, bX⟩
      have hIWxxx : Below w2.heap.size w2 Wxxx := hIWxx.trans (bX.mono hIWxx.size)
      go_wp2_with fail
      refine hK.out _ _ (hcel.out _ hIWxxx) (fun hHeld => ?_)
      clear hK K bX hIWxx
      try simp only [Act.put, List.setIfInBounds_toArray, List.set_cons_zero, List.set_cons_succ]
      refine wpAnyH_take (i := 5) (oi := { dst := some 14, op := Op.unOp UnOp.not 4 (Operand.tmp 13), type := 4, pos := "vary.go:38", after := #[{ on := 4, ground := Ground.data }], guard := none }) (v := ?vv3) rfl (by kernel_rfl) (by kernel_rfl) (by kernel_rfl) (fun _ _ _ h => h) (Or.inl ⟨by rfl, ?hy3⟩) (by assumption) ?_
      case hy3 => (intro w hSw; (try dsimp only at hSw); go_simp; all_goals with_reducible rfl)
      try simp only [Act.put, List.setIfInBounds_toArray, List.set_cons_zero, List.set_cons_succ]
      refine wpAnyH_done (by kernel_rfl) ?_ _
      go_wp2_with fail
      go_meet
      exact ⟨by first | rfl | simp, hIWxxx⟩

  obtain ⟨hx, hb2⟩ := hcut
  subst hx
  cases hh : eqB [pm, ps, pa, pp] [qm, qs, qa, qp]
  · have HX : Hid (X = false) := by show _ = _; rw [HM.out, hh]; rfl
    clear hh HM
    go_wp2_with fail
    go_ret
    exact ⟨by rw [HX.out]; rfl, BW.out.trans (hb2.out.mono BW.out.size)⟩
  · have HX : Hid (X = mtL P Q l) := by show _ = _; rw [HM.out, hh]; rfl
    have hbw : Hid (Below w.heap.size w wc) := BW.out.trans (hb2.out.mono BW.out.size)
    clear hh HM
    go_wp2_with fail
    go_loopw [6, 8, 17] (fun rv _ iv wr => ∃ k : Nat, iv = .int .i64 (k : Int) ∧ rv = .bool false ∧ k ≤ tl ∧ Hid (mtL P Q (l.take k) = true) ∧ Hid (Below w.heap.size w wr) ∧ Hid (Below w2.heap.size w2 wr)) (fun _ _ iv _ => tl - (intOf iv).toNat)
    case atStart => exact ⟨0, rfl, rfl, by omega, by show _ = _; simp [mtL], hbw.out, hb2.out⟩
    case round =>
      obtain ⟨k, rfl, rfl, hk, hp, hb, hbz⟩ := hrel
      clear hbw hb2
      by_cases hlt : k < tl
      · have ka : k < l.length := by have := E1.out; omega
        obtain ⟨B1, o1, c1, e, c0⟩ := HT.out.str k ka
        injection e with e1 e2 e3
        subst e1
        clear e2 e3
        replace c0 := c0 wr hb.out
        have hlt' : (k : Int) < (tl : Int) := by omega
        have hcel : Hid (∀ W, Below wr.heap.size wr W → (fun W => W.cell? ⟨w.heap.size, 0, none⟩ = some (.string pm) ∧ W.cell? ⟨w.heap.size, 1, none⟩ = some (.string ps) ∧ W.cell? ⟨w.heap.size, 2, none⟩ = some (.string pa) ∧ W.cell? ⟨w.heap.size, 3, none⟩ = some (.string pp) ∧ W.cell? ⟨w.heap.size, 4, none⟩ = some (.slice pyb pyl pyc) ∧ W.cell? ⟨w.heap.size, 5, none⟩ = some (.string pb) ∧ W.cell? ⟨w.heap.size + 1, 0, none⟩ = some (.string qm) ∧ W.cell? ⟨w.heap.size + 1, 1, none⟩ = some (.string qs) ∧ W.cell? ⟨w.heap.size + 1, 2, none⟩ = some (.string qa) ∧ W.cell? ⟨w.heap.size + 1, 3, none⟩ = some (.string qp) ∧ W.cell? ⟨w.heap.size + 1, 4, none⟩ = some (.slice qyb qyl qyc) ∧ W.cell? ⟨w.heap.size + 1, 5, none⟩ = some (.string qb)) W) := fun W h => hcelw.out W (hbz.out.trans (h.mono hbz.out.size))
        obtain ⟨x, hx⟩ : ∃ x, l[k] = x := ⟨_, rfl⟩
        rw [hx] at c0
        have HK : Hid (mtL P Q (l.take (k + 1)) = (mtL P Q (l.take k) && eqB (vsL P x) (vsL Q x))) := by show _ = _; rw [mtL_succ P Q l k ka, hx]
        have HF : Hid (eqB (vsL P x) (vsL Q x) = false → mtL P Q l = false) := fun h => mtL_false P Q l k ka (by rw [hx]; exact h)
        clear hx ka
        go_upto_region 6 with fail
        go_cut [17, 30] from 17 to 31 (fun c z wx => z = .bool (!eqB (vsL P x) (vsL Q x)) ∧ c = .int .i64 (k : Int) ∧ Hid (Below wr.heap.size wr wx))
        case first =>
          as_aux_lemma =>
            have hIW : Below wr.heap.size wr (wr.drew) := (Below.refl _ _).drew
            refine wp_region_held_drew (S := (fun W => W.cell? ⟨w.heap.size, 0, none⟩ = some (.string pm) ∧ W.cell? ⟨w.heap.size, 1, none⟩ = some (.string ps) ∧ W.cell? ⟨w.heap.size, 2, none⟩ = some (.string pa) ∧ W.cell? ⟨w.heap.size, 3, none⟩ = some (.string pp) ∧ W.cell? ⟨w.heap.size, 4, none⟩ = some (.slice pyb pyl pyc) ∧ W.cell? ⟨w.heap.size, 5, none⟩ = some (.string pb) ∧ W.cell? ⟨w.heap.size + 1, 0, none⟩ = some (.string qm) ∧ W.cell? ⟨w.heap.size + 1, 1, none⟩ = some (.string qs) ∧ W.cell? ⟨w.heap.size + 1, 2, none⟩ = some (.string qa) ∧ W.cell? ⟨w.heap.size + 1, 3, none⟩ = some (.string qp) ∧ W.cell? ⟨w.heap.size + 1, 4, none⟩ = some (.slice qyb qyl qyc) ∧ W.cell? ⟨w.heap.size + 1, 5, none⟩ = some (.string qb))) (by kernel_rfl) (hcel.out _ hIW) (fun hHeld => ?_)
            generalize hWg : World.drew _ = W at hIW hHeld ⊢
            clear hWg
            refine wpAnyH_take (i := 0) (oi := { dst := some 21, op := Op.fieldAddr 24 (Operand.tmp 3) 4, type := 0, pos := "vary.go:42", after := #[], guard := none }) (v := ?vv4) rfl (by kernel_rfl) (by kernel_rfl) (by kernel_rfl) (fun _ _ _ h => h) (Or.inl ⟨by rfl, ?hy4⟩) (by assumption) ?_
            case hy4 => (intro w hSw; (try dsimp only at hSw); go_simp; all_goals with_reducible rfl)
            try simp only [Act.put, List.setIfInBounds_toArray, List.set_cons_zero, List.set_cons_succ]
            refine wpAnyH_take (i := 1) (oi := { dst := some 22, op := Op.load 22 (Operand.tmp 21), type := 22, pos := "vary.go:42", after := #[{ on := 0, ground := Ground.data }], guard := none }) (v := ?vv5) rfl (by kernel_rfl) (by kernel_rfl) (by kernel_rfl) (fun _ _ _ h => h) (Or.inl ⟨by rfl, ?hy5⟩) (by assumption) ?_
            case hy5 => (intro w hSw; (try dsimp only at hSw); go_simp; all_goals with_reducible rfl)
            try simp only [Act.put, List.setIfInBounds_toArray, List.set_cons_zero, List.set_cons_succ]
            refine wpAnyH_take (i := 2) (oi := { dst := some 23, op := Op.move (Operand.tmp 8), type := 9, pos := "vary.go:42", after := #[], guard := none }) (v := ?vv6) rfl (by kernel_rfl) (by kernel_rfl) (by kernel_rfl) (fun _ _ _ h => h) (Or.inl ⟨by rfl, ?hy6⟩) (by assumption) ?_
            case hy6 => (intro w hSw; (try dsimp only at hSw); go_simp; all_goals with_reducible rfl)
            try simp only [Act.put, List.setIfInBounds_toArray, List.set_cons_zero, List.set_cons_succ]
            refine wpAnyH_take (i := 4) (oi := { dst := some 25, op := Op.fieldAddr 24 (Operand.tmp 4) 4, type := 0, pos := "vary.go:42", after := #[], guard := none }) (v := ?vv7) rfl (by kernel_rfl) (by kernel_rfl) (by kernel_rfl) (fun _ _ _ h => h) (Or.inl ⟨by rfl, ?hy7⟩) (by assumption) ?_
            case hy7 => (intro w hSw; (try dsimp only at hSw); go_simp; all_goals with_reducible rfl)
            try simp only [Act.put, List.setIfInBounds_toArray, List.set_cons_zero, List.set_cons_succ]
            refine wpAnyH_take (i := 5) (oi := { dst := some 26, op := Op.load 22 (Operand.tmp 25), type := 22, pos := "vary.go:42", after := #[{ on := 4, ground := Ground.data }], guard := none }) (v := ?vv8) rfl (by kernel_rfl) (by kernel_rfl) (by kernel_rfl) (fun _ _ _ h => h) (Or.inl ⟨by rfl, ?hy8⟩) (by assumption) ?_
            case hy8 => (intro w hSw; (try dsimp only at hSw); go_simp; all_goals with_reducible rfl)
            try simp only [Act.put, List.setIfInBounds_toArray, List.set_cons_zero, List.set_cons_succ]
            refine wpAnyH_take (i := 6) (oi := { dst := some 27, op := Op.move (Operand.tmp 8), type := 9, pos := "vary.go:42", after := #[], guard := none }) (v := ?vv9) rfl (by kernel_rfl) (by kernel_rfl) (by kernel_rfl) (fun _ _ _ h => h) (Or.inl ⟨by rfl, ?hy9⟩) (by assumption) ?_
            case hy9 => (intro w hSw; (try dsimp only at hSw); go_simp; all_goals with_reducible rfl)
            try simp only [Act.put, List.setIfInBounds_toArray, List.set_cons_zero, List.set_cons_succ]
            refine wpAnyH_ready (rs := [3]) (by kernel_rfl) (by simp) ?_
            refine AllReadyH.cons (o := { dst := some 24, op := Op.call { callee := Callee.value (Operand.func 28), args := #[Operand.tmp 22, Operand.tmp 23], argTypes := #[22, 9] }, type := 27, pos := "vary.go:42", after := #[{ on := 1, ground := Ground.data }, { on := 2, ground := Ground.data }], guard := none }) rfl (fun K hK => ?_) AllReadyH.nil
            go_simp
            refine ((values_any (pyb, pyl, pyc) P x W (HP.out _ (hb.out.trans (hIW.mono hb.out.size))) HL.out.1)).mono ?_
            rintro e' Wx ⟨⟨ub, ul, uc⟩, rfl, bX, uR, _⟩
            have hIWx : Below wr.heap.size wr Wx := hIW.trans (bX.mono hIW.size)
            replace uR : Hid (R ES Wx (.slice ub ul uc) (vsL P x)) := uR
            simp only [sv]
            go_wp2_with fail
            refine hK.out _ _ (hcel.out _ hIWx) (fun hHeld => ?_)
            clear hK K bX hIW
            try simp only [Act.put, List.setIfInBounds_toArray, List.set_cons_zero, List.set_cons_succ]
            refine wpAnyH_ready (rs := [7]) (by kernel_rfl) (by simp) ?_
            refine AllReadyH.cons (o := { dst := some 28, op := Op.call { callee := Callee.value (Operand.func 28), args := #[Operand.tmp 26, Operand.tmp 27], argTypes := #[22, 9] }, type := 27, pos := "vary.go:42", after := #[{ on := 5, ground := Ground.data }, { on := 6, ground := Ground.data }, { on := 3, ground := Ground.chain }], guard := none }) rfl (fun K hK => ?_) AllReadyH.nil
            go_simp
            refine ((values_any (qyb, qyl, qyc) Q x Wx (HQ.out _ (hb.out.trans (hIWx.mono hb.out.size))) HL.out.2)).mono ?_
            rintro e' Wxx ⟨⟨vb, vl, vc⟩, rfl, bX, vR, _⟩
            have hIWxx : Below wr.heap.size wr Wxx := hIWx.trans (bX.mono hIWx.size)
            replace vR : Hid (R ES Wxx (.slice vb vl vc) (vsL Q x)) := vR
            replace uR : Hid (R ES Wxx (.slice ub ul uc) (vsL P x)) := R.below uR.out bX
            simp only [sv]
            go_wp2_with fail
            refine hK.out _ _ (hcel.out _ hIWxx) (fun hHeld => ?_)
            clear hK K bX hIWx
            try simp only [Act.put, List.setIfInBounds_toArray, List.set_cons_zero, List.set_cons_succ]
            refine wpAnyH_ready (rs := [8]) (by kernel_rfl) (by simp) ?_
            refine AllReadyH.cons (o := { dst := some 29, op := Op.call { callee := Callee.value (Operand.func 83), args := #[Operand.tmp 24, Operand.tmp 28], argTypes := #[27, 27] }, type := 4, pos := "vary.go:42", after := #[{ on := 3, ground := Ground.data }, { on := 7, ground := Ground.data }, { on := 7, ground := Ground.chain }], guard := none }) rfl (fun K hK => ?_) AllReadyH.nil
            go_simp
            refine (vsame_any (ub, ul, uc) (vb, vl, vc) (vsL P x) (vsL Q x) _ uR.out.isIn vR.out.isIn).mono ?_
            rintro e' Wxxx ⟨rfl, bX⟩
            have hIWxxx : Below wr.heap.size wr Wxxx := hIWxx.trans (bX.mono hIWxx.size)
            go_wp2_with fail
            refine hK.out _ _ (hcel.out _ hIWxxx) (fun hHeld => ?_)
            clear hK K bX hIWxx
            try simp only [Act.put, List.setIfInBounds_toArray, List.set_cons_zero, List.set_cons_succ]
            refine wpAnyH_take (i := 9) (oi := { dst := some 30, op := Op.unOp UnOp.not 4 (Operand.tmp 29), type := 4, pos := "vary.go:42", after := #[{ on := 8, ground := Ground.data }], guard := none }) (v := ?vv10) rfl (by kernel_rfl) (by kernel_rfl) (by kernel_rfl) (fun _ _ _ h => h) (Or.inl ⟨by rfl, ?hy10⟩) (by assumption) ?_
            case hy10 => (intro w hSw; (try dsimp only at hSw); go_simp; all_goals with_reducible rfl)
            try simp only [Act.put, List.setIfInBounds_toArray, List.set_cons_zero, List.set_cons_succ]
            refine wpAnyH_done (by kernel_rfl) ?_ _
            go_wp2_with fail
            go_meet
            exact ⟨by first | rfl | simp, rfl, hIWxxx⟩

        obtain ⟨hx, hy, hb3⟩ := hcut
        subst hx hy
        cases hh : eqB (vsL P x) (vsL Q x)
        · have HX2 : Hid (X = false) := by show _ = _; rw [HX.out]; exact HF.out hh
          clear hh HX HK HF
          go_wp2_with fail
          go_ret
          exact ⟨by rw [HX2.out]; rfl, hb.out.trans (hb3.out.mono hb.out.size)⟩
        · have hnx : Hid (mtL P Q (l.take (k + 1)) = true) := by show _ = _; rw [HK.out, hp.out, hh]; rfl
          clear hh HK HF hp
          go_wp2_with fail
          go_roundw
          case rel => exact ⟨k + 1, by simp, rfl, by omega, hnx.out, hb.out.trans (hb3.out.mono hb.out.size), hbz.out.trans (hb3.out.mono hbz.out.size)⟩
          case measure => simp [intOf]; omega
      · obtain rfl : k = tl := by omega
        have hlt' : ¬ (k : Int) < (k : Int) := by omega
        have HX2 : Hid (X = true) := by
          show _ = _
          rw [HX.out]
          have := hp.out
          rw [E1.out, List.take_length] at this
          exact this
        clear hp HX
        go_wp2_with fail
        go_ret
        exact ⟨by rw [HX2.out]; rfl, hb.out⟩
end Go.Proofs.YtfponcdhaefkdaaDoor
