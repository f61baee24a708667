import Derived.Test.YtfponcdhaefkdaaDoorA3
import Derived.Test.YtfponcdhaefkdaaDoorVa
import Derived.Deep.RegionHeld3
import Derived.Test.YtfponcdhaefkdaaDoorVc
import Derived.Test.YtfponcdhaefkdaaDoorB6
import Derived.Deep.Cut
import Derived.Deep.CutRange
/- Match as the document tells it. -/
namespace Go.Proofs.YtfponcdhaefkdaaDoor
open Go.RowKit
set_option linter.unusedVariables false
set_option linter.unusedSimpArgs false

set_option maxHeartbeats 8000000 in
set_option maxRecDepth 100000 in
theorem rmatch_any (p q : Rq) (t : SV) (P Q : List Fd) (l : List ByteArray) (w : World) (hP : In EFd w (sv p.y) P) (hQ : In EFd w (sv q.y) Q) (hl : In ES w (sv t) l) (zP : P.length * 40 ≤ 140737488355328) (zQ : Q.length * 40 ≤ 140737488355328) :
    Calls Tryd.prog 87 #[.agg (rqv p), .agg (rqv q), sv t] w fun e w' => e = .returned (.bool (mtB p q P Q l)) ∧ Below w.heap.size w w' := by
  have F1 : RqB ((w.alloc (.cells (rqv p) 24)).alloc (.cells (rqv q) 24)) w.heap.size p := by unfold RqB; rw [heap_al, if_neg (by simp), heap_al, if_pos rfl]
  have F2 : RqB ((w.alloc (.cells (rqv p) 24)).alloc (.cells (rqv q) 24)) (w.heap.size + 1) q := by unfold RqB; exact fresh2 _ _ _
  have B2 := bel2 w (.cells (rqv p) 24) (.cells (rqv q) 24)
  have HP : Hid (∀ W, Below w.heap.size w W → In EFd W (sv p.y) P) := fun W hb => hP.below hb
  have HQ : Hid (∀ W, Below w.heap.size w W → In EFd W (sv q.y) Q) := fun W hb => hQ.below hb
  have HT : Hid (In ES w (sv t) l) := hl
  have HL : Hid (P.length * 40 ≤ 140737488355328 ∧ Q.length * 40 ≤ 140737488355328) := ⟨zP, zQ⟩
  have HM : Hid (mtB p q P Q l = (eqB (hdL p) (hdL q) && mtL P Q l)) := rfl
  obtain ⟨X, hX⟩ : ∃ X, mtB p q P Q l = X := ⟨_, rfl⟩
  rw [hX] at HM ⊢
  clear hP hQ hl zP zQ hX
  obtain ⟨pm, ps, pa, pp, ⟨pyb, pyl, pyc⟩, pb⟩ := p
  obtain ⟨qm, qs, qa, qp, ⟨qyb, qyl, qyc⟩, qb⟩ := q
  obtain ⟨tb, tl, tc⟩ := t
  simp only [hdL, rqv, sv] at *
  obtain ⟨e1, e2, e3⟩ := slice_len HT.out
  have E1 : Hid (tl = l.length) := e1
  have e2' : tl ≤ tc := by omega
  clear e1 e2
  obtain ⟨w2, hw2⟩ : ∃ x, (w.alloc (.cells #[.string pm, .string ps, .string pa, .string pp, .slice pyb pyl pyc, .string pb] 24)).alloc (.cells #[.string qm, .string qs, .string qa, .string qp, .slice qyb qyl qyc, .string qb] 24) = x := ⟨_, rfl⟩
  rw [hw2] at F1 F2 B2
  have BW : Hid (Below w.heap.size w w2) := B2
  have hcelw : Hid (∀ W, Below w2.heap.size w2 W → (fun W => W.cell? ⟨w.heap.size, 0, none⟩ = some (.string pm) ∧ W.cell? ⟨w.heap.size, 1, none⟩ = some (.string ps) ∧ W.cell? ⟨w.heap.size, 2, none⟩ = some (.string pa) ∧ W.cell? ⟨w.heap.size, 3, none⟩ = some (.string pp) ∧ W.cell? ⟨w.heap.size, 4, none⟩ = some (.slice pyb pyl pyc) ∧ W.cell? ⟨w.heap.size, 5, none⟩ = some (.string pb) ∧ W.cell? ⟨w.heap.size + 1, 0, none⟩ = some (.string qm) ∧ W.cell? ⟨w.heap.size + 1, 1, none⟩ = some (.string qs) ∧ W.cell? ⟨w.heap.size + 1, 2, none⟩ = some (.string qa) ∧ W.cell? ⟨w.heap.size + 1, 3, none⟩ = some (.string qp) ∧ W.cell? ⟨w.heap.size + 1, 4, none⟩ = some (.slice qyb qyl qyc) ∧ W.cell? ⟨w.heap.size + 1, 5, none⟩ = some (.string qb)) W) := fun W hb => by
    obtain ⟨x0, x1, x2, x3, x4, x5, _⟩ := (F1.below hb).cells
    obtain ⟨y0, y1, y2, y3, y4, y5, _⟩ := (F2.below hb).cells
    exact ⟨x0, x1, x2, x3, x4, x5, y0, y1, y2, y3, y4, y5⟩
  have hsz : w.heap.size + 1 < w2.heap.size := heap_lt F2
  have hw2' : Hid _ := hw2
  clear F1 F2 B2 hw2
  go_enter Tryd.func87, Tryd.ntmps87
  go_upto_region 1 with fail
  rw [hw2'.out]
  clear hw2'
  obtain ⟨x0, x1, x2, x3, x4, x5, y0, y1, y2, y3, y4, y5⟩ := hcelw.out w2 (Below.refl _ _)
  have HNE : Hid (∀ a b : List ByteArray, a = [pm, ps, pa, pp] → b = [qm, qs, qa, qp] → a ≠ b → X = false) := fun a b ha hb h => by
    subst ha hb
    show _ = _
    rw [HM.out, eqB_false h]
    rfl
  by_cases h0 : pm = qm
  case neg =>
    have q0 := str_ne h0
    have r0 : (pm.toList != qm.toList) = true := by rw [bne, q0]; rfl
    have HX : Hid (X = false) := HNE.out _ _ rfl rfl (by simp [h0])
    clear h0 HNE
    go_wp2_with fail
    go_ret
    exact ⟨by rw [HX.out]; first | rfl | simp, BW.out⟩
  subst h0
  have q0 := str_eq (rfl : pm = pm)
  have r0 : (pm.toList != pm.toList) = false := by rw [bne, q0]; rfl
  by_cases h1 : ps = qs
  case neg =>
    have q1 := str_ne h1
    have r1 : (ps.toList != qs.toList) = true := by rw [bne, q1]; rfl
    have HX : Hid (X = false) := HNE.out _ _ rfl rfl (by simp [h1])
    clear h1 HNE
    go_wp2_with fail
    go_ret
    exact ⟨by rw [HX.out]; first | rfl | simp, BW.out⟩
  subst h1
  have q1 := str_eq (rfl : ps = ps)
  have r1 : (ps.toList != ps.toList) = false := by rw [bne, q1]; rfl
  by_cases h2 : pa = qa
  case neg =>
    have q2 := str_ne h2
    have r2 : (pa.toList != qa.toList) = true := by rw [bne, q2]; rfl
    have HX : Hid (X = false) := HNE.out _ _ rfl rfl (by simp [h2])
    clear h2 HNE
    go_wp2_with fail
    go_ret
    exact ⟨by rw [HX.out]; first | rfl | simp, BW.out⟩
  subst h2
  have q2 := str_eq (rfl : pa = pa)
  have r2 : (pa.toList != pa.toList) = false := by rw [bne, q2]; rfl
  by_cases h3 : pp = qp
  case neg =>
    have q3 := str_ne h3
    have r3 : (pp.toList != qp.toList) = true := by rw [bne, q3]; rfl
    have HX : Hid (X = false) := HNE.out _ _ rfl rfl (by simp [h3])
    clear h3 HNE
    go_wp2_with fail
    go_ret
    exact ⟨by rw [HX.out]; first | rfl | simp, BW.out⟩
  subst h3
  have q3 := str_eq (rfl : pp = pp)
  have r3 : (pp.toList != pp.toList) = false := by rw [bne, q3]; rfl
  have HX : Hid (X = mtL P Q l) := by show _ = _; rw [HM.out, eqB_true rfl]; rfl
  clear HM HNE
  go_wp2_with fail
  clear x0 x1 x2 x3 x4 x5 y0 y1 y2 y3 y4 y5 q0 q1 q2 q3 r0 r1 r2 r3
  go_loopw [7, 8, 9, 10] (fun iv _ _ _ wr => ∃ k : Nat, iv = .int .i64 (k : Int) ∧ k ≤ tl ∧ Hid (mtL P Q (l.take k) = true) ∧ Hid (Below w.heap.size w wr) ∧ Hid (Below w2.heap.size w2 wr)) (fun iv _ _ _ _ => tl - (intOf iv).toNat)
  case atStart => exact ⟨0, rfl, by omega, by show _ = _; simp [mtL], BW.out, Below.refl _ _⟩
  case round =>
    obtain ⟨k, rfl, hk, hp, hb, hbz⟩ := hrel
    by_cases hlt : k < tl
    · have ka : k < l.length := by have := E1.out; omega
      obtain ⟨B1, o1, c1, e, c0⟩ := HT.out.str k ka
      injection e with e1 e2 e3
      subst e1
      clear e2 e3
      have hlt' : (k : Int) < (tl : Int) := by omega
      obtain ⟨x, hx⟩ : ∃ x, l[k] = x := ⟨_, rfl⟩
      rw [hx] at c0
      have hcel0 : Hid (∀ W, Below w.heap.size w W → Below w2.heap.size w2 W → (fun W => W.cell? ⟨w.heap.size, 4, none⟩ = some (.slice pyb pyl pyc) ∧ W.cell? ⟨w.heap.size + 1, 4, none⟩ = some (.slice qyb qyl qyc) ∧ W.cell? ⟨B1, o1 + k, none⟩ = some (.string x)) W) := fun W h h' => by
        obtain ⟨x0, x1, x2, x3, x4, x5, y0, y1, y2, y3, y4, y5⟩ := hcelw.out W h'
        exact ⟨x4, y4, c0 W h⟩
      have hcel : Hid (∀ W, Below wr.heap.size wr W → (fun W => W.cell? ⟨w.heap.size, 4, none⟩ = some (.slice pyb pyl pyc) ∧ W.cell? ⟨w.heap.size + 1, 4, none⟩ = some (.slice qyb qyl qyc) ∧ W.cell? ⟨B1, o1 + k, none⟩ = some (.string x)) W) := fun W h => hcel0.out W (hb.out.trans (h.mono hb.out.size)) (hbz.out.trans (h.mono hbz.out.size))
      have HK : Hid (mtL P Q (l.take (k + 1)) = (mtL P Q (l.take k) && eqB (vsL P x) (vsL Q x))) := by show _ = _; rw [mtL_succ P Q l k ka, hx]
      have HF : Hid (eqB (vsL P x) (vsL Q x) = false → mtL P Q l = false) := fun h => mtL_false P Q l k ka (by rw [hx]; exact h)
      clear hx ka c0
      go_upto_region 6 with fail
      go_cut [8] from 37 to 76 (fun v wx => ∃ ub ul uc, v = .slice ub ul uc ∧ Hid (Below wr.heap.size wr wx) ∧ Hid (R ES wx (.slice ub ul uc) (vsL P x)))
      case first =>
        as_aux_lemma =>
          have hIW : Below wr.heap.size wr (wr.drew) := (Below.refl _ _).drew
          refine wp_region_held_drew (S := (fun W => W.cell? ⟨w.heap.size, 4, none⟩ = some (.slice pyb pyl pyc) ∧ W.cell? ⟨w.heap.size + 1, 4, none⟩ = some (.slice qyb qyl qyc) ∧ W.cell? ⟨B1, o1 + k, none⟩ = some (.string x))) (by kernel_rfl) (hcel.out _ hIW) (fun hHeld => ?_)
          generalize hWg : World.drew _ = W at hIW hHeld ⊢
          clear hWg
          refine wpAnyH_take (i := 0) (oi := { dst := some 43, op := Op.fieldAddr 24 (Operand.tmp 3) 4, type := 0, pos := "ref.go:86", after := #[], guard := none }) (v := ?vv1) rfl (by kernel_rfl) (by kernel_rfl) (by kernel_rfl) (fun _ _ _ h => h) (Or.inl ⟨by rfl, ?hy1⟩) (by assumption) ?_
          case hy1 => (intro w hSw; (try dsimp only at hSw); go_simp; all_goals with_reducible rfl)
          try simp only [Act.put, List.setIfInBounds_toArray, List.set_cons_zero, List.set_cons_succ]
          refine wpAnyH_take (i := 1) (oi := { dst := some 44, op := Op.load 22 (Operand.tmp 43), type := 22, pos := "ref.go:86", after := #[{ on := 0, ground := Ground.data }], guard := none }) (v := ?vv2) rfl (by kernel_rfl) (by kernel_rfl) (by kernel_rfl) (fun _ _ _ h => h) (Or.inl ⟨by rfl, ?hy2⟩) (by assumption) ?_
          case hy2 => (intro w hSw; (try dsimp only at hSw); go_simp; all_goals with_reducible rfl)
          try simp only [Act.put, List.setIfInBounds_toArray, List.set_cons_zero, List.set_cons_succ]
          refine wpAnyH_take (i := 2) (oi := { dst := some 45, op := Op.move (Operand.tmp 2), type := 27, pos := "ref.go:86", after := #[], guard := none }) (v := ?vv3) rfl (by kernel_rfl) (by kernel_rfl) (by kernel_rfl) (fun _ _ _ h => h) (Or.inl ⟨by rfl, ?hy3⟩) (by assumption) ?_
          case hy3 => (intro w hSw; (try dsimp only at hSw); go_simp; all_goals with_reducible rfl)
          try simp only [Act.put, List.setIfInBounds_toArray, List.set_cons_zero, List.set_cons_succ]
          refine wpAnyH_take (i := 3) (oi := { dst := some 46, op := Op.move (Operand.tmp 7), type := 3, pos := "ref.go:86", after := #[], guard := none }) (v := ?vv4) rfl (by kernel_rfl) (by kernel_rfl) (by kernel_rfl) (fun _ _ _ h => h) (Or.inl ⟨by rfl, ?hy4⟩) (by assumption) ?_
          case hy4 => (intro w hSw; (try dsimp only at hSw); go_simp; all_goals with_reducible rfl)
          try simp only [Act.put, List.setIfInBounds_toArray, List.set_cons_zero, List.set_cons_succ]
          refine wpAnyH_take (i := 4) (oi := { dst := some 47, op := Op.indexAddr 27 (Operand.tmp 45) (Operand.tmp 46), type := 0, pos := "ref.go:86", after := #[{ on := 2, ground := Ground.data }, { on := 3, ground := Ground.data }], guard := none }) (v := ?vv5) rfl (by kernel_rfl) (by kernel_rfl) (by kernel_rfl) (fun _ _ _ h => h) (Or.inl ⟨by rfl, ?hy5⟩) (by assumption) ?_
          case hy5 => (intro w hSw; (try dsimp only at hSw); go_simp; all_goals with_reducible rfl)
          try simp only [Act.put, List.setIfInBounds_toArray, List.set_cons_zero, List.set_cons_succ]
          refine wpAnyH_take (i := 5) (oi := { dst := some 48, op := Op.load 9 (Operand.tmp 47), type := 9, pos := "ref.go:86", after := #[{ on := 4, ground := Ground.data }], guard := none }) (v := ?vv6) rfl (by kernel_rfl) (by kernel_rfl) (by kernel_rfl) (fun _ _ _ h => h) (Or.inl ⟨by rfl, ?hy6⟩) (by assumption) ?_
          case hy6 => (intro w hSw; (try dsimp only at hSw); go_simp; all_goals with_reducible rfl)
          try simp only [Act.put, List.setIfInBounds_toArray, List.set_cons_zero, List.set_cons_succ]
          refine wpAnyH_ready (rs := [6]) (by kernel_rfl) (by simp) ?_
          refine AllReadyH.cons (o := { dst := some 49, op := Op.call { callee := Callee.value (Operand.func 93), args := #[Operand.tmp 44, Operand.tmp 48], argTypes := #[22, 9] }, type := 27, pos := "ref.go:86", after := #[{ on := 1, ground := Ground.data }, { on := 5, ground := Ground.data }], guard := none }) rfl (fun K hK => ?_) AllReadyH.nil
          go_simp
          refine (rvalues_any (pyb, pyl, pyc) P x W (HP.out _ (hb.out.trans (hIW.mono hb.out.size))) HL.out.1).mono ?_
          rintro e' Wx ⟨⟨ub, ul, uc⟩, rfl, bX, uR, _⟩
          have hIWx : Below wr.heap.size wr Wx := hIW.trans (bX.mono hIW.size)
          replace uR : Hid (Go.Proofs.YtfponcdhaefkdaaDoor.R ES Wx (.slice ub ul uc) (vsL P x)) := uR
          simp only [sv]
          go_wp2_with fail
          refine hK.out _ _ (hcel.out _ hIWx) (fun hHeld => ?_)
          clear hK K bX hIW
          try simp only [Act.put, List.setIfInBounds_toArray, List.set_cons_zero, List.set_cons_succ]
          refine wpAnyH_take (i := 7) (oi := { dst := some 8, op := Op.assign (Operand.tmp 49), type := 27, pos := "ref.go:86", after := #[{ on := 6, ground := Ground.data }, { on := 6, ground := Ground.chain }, { on := 0, ground := Ground.phase }, { on := 1, ground := Ground.phase }, { on := 2, ground := Ground.phase }, { on := 3, ground := Ground.phase }, { on := 4, ground := Ground.phase }, { on := 5, ground := Ground.phase }, { on := 6, ground := Ground.phase }], guard := none }) (v := ?vv7) rfl (by kernel_rfl) (by kernel_rfl) (by kernel_rfl) (fun _ _ _ h => h) (Or.inl ⟨by rfl, ?hy7⟩) (by assumption) ?_
          case hy7 => (intro w hSw; (try dsimp only at hSw); go_simp; all_goals with_reducible rfl)
          try simp only [Act.put, List.setIfInBounds_toArray, List.set_cons_zero, List.set_cons_succ]
          refine wpAnyH_done (by kernel_rfl) ?_ _
          go_wp2_with fail
          go_meet
          exact ⟨ub, ul, uc, by first | rfl | simp, hIWx, uR.out⟩
      obtain ⟨ub, ul, uc, rfl, hb3, uR⟩ := hcut
      obtain ⟨wq, hwq⟩ : ∃ x, wc = x := ⟨_, rfl⟩
      rw [hwq] at hb3 uR ⊢
      have hbq : Hid (Below w.heap.size w wq) := hb.out.trans (hb3.out.mono hb.out.size)
      have hbzq : Hid (Below w2.heap.size w2 wq) := hbz.out.trans (hb3.out.mono hbz.out.size)
      clear hwq hb3 hb hbz hcel
      have hb := hbq
      have hcel : Hid (∀ W, Below wq.heap.size wq W → (fun W => W.cell? ⟨w.heap.size, 4, none⟩ = some (.slice pyb pyl pyc) ∧ W.cell? ⟨w.heap.size + 1, 4, none⟩ = some (.slice qyb qyl qyc) ∧ W.cell? ⟨B1, o1 + k, none⟩ = some (.string x)) W) := fun W h => hcel0.out W (hbq.out.trans (h.mono hbq.out.size)) (hbzq.out.trans (h.mono hbzq.out.size))
      go_upto_region 7 with fail
      go_cut [9] from 37 to 76 (fun v wx => ∃ ub ul uc, v = .slice ub ul uc ∧ Hid (Below wq.heap.size wq wx) ∧ Hid (R ES wx (.slice ub ul uc) (vsL Q x)))
      case first =>
        clear uR
        as_aux_lemma =>
          have hIW : Below wq.heap.size wq (wq.drew) := (Below.refl _ _).drew
          refine wp_region_held_drew (S := (fun W => W.cell? ⟨w.heap.size, 4, none⟩ = some (.slice pyb pyl pyc) ∧ W.cell? ⟨w.heap.size + 1, 4, none⟩ = some (.slice qyb qyl qyc) ∧ W.cell? ⟨B1, o1 + k, none⟩ = some (.string x))) (by kernel_rfl) (hcel.out _ hIW) (fun hHeld => ?_)
          generalize hWg : World.drew _ = W at hIW hHeld ⊢
          clear hWg
          refine wpAnyH_take (i := 0) (oi := { dst := some 50, op := Op.fieldAddr 24 (Operand.tmp 4) 4, type := 0, pos := "ref.go:87", after := #[], guard := none }) (v := ?vv8) rfl (by kernel_rfl) (by kernel_rfl) (by kernel_rfl) (fun _ _ _ h => h) (Or.inl ⟨by rfl, ?hy8⟩) (by assumption) ?_
          case hy8 => (intro w hSw; (try dsimp only at hSw); go_simp; all_goals with_reducible rfl)
          try simp only [Act.put, List.setIfInBounds_toArray, List.set_cons_zero, List.set_cons_succ]
          refine wpAnyH_take (i := 1) (oi := { dst := some 51, op := Op.load 22 (Operand.tmp 50), type := 22, pos := "ref.go:87", after := #[{ on := 0, ground := Ground.data }], guard := none }) (v := ?vv9) rfl (by kernel_rfl) (by kernel_rfl) (by kernel_rfl) (fun _ _ _ h => h) (Or.inl ⟨by rfl, ?hy9⟩) (by assumption) ?_
          case hy9 => (intro w hSw; (try dsimp only at hSw); go_simp; all_goals with_reducible rfl)
          try simp only [Act.put, List.setIfInBounds_toArray, List.set_cons_zero, List.set_cons_succ]
          refine wpAnyH_take (i := 2) (oi := { dst := some 52, op := Op.move (Operand.tmp 2), type := 27, pos := "ref.go:87", after := #[], guard := none }) (v := ?vv10) rfl (by kernel_rfl) (by kernel_rfl) (by kernel_rfl) (fun _ _ _ h => h) (Or.inl ⟨by rfl, ?hy10⟩) (by assumption) ?_
          case hy10 => (intro w hSw; (try dsimp only at hSw); go_simp; all_goals with_reducible rfl)
          try simp only [Act.put, List.setIfInBounds_toArray, List.set_cons_zero, List.set_cons_succ]
          refine wpAnyH_take (i := 3) (oi := { dst := some 53, op := Op.move (Operand.tmp 7), type := 3, pos := "ref.go:87", after := #[], guard := none }) (v := ?vv11) rfl (by kernel_rfl) (by kernel_rfl) (by kernel_rfl) (fun _ _ _ h => h) (Or.inl ⟨by rfl, ?hy11⟩) (by assumption) ?_
          case hy11 => (intro w hSw; (try dsimp only at hSw); go_simp; all_goals with_reducible rfl)
          try simp only [Act.put, List.setIfInBounds_toArray, List.set_cons_zero, List.set_cons_succ]
          refine wpAnyH_take (i := 4) (oi := { dst := some 54, op := Op.indexAddr 27 (Operand.tmp 52) (Operand.tmp 53), type := 0, pos := "ref.go:87", after := #[{ on := 2, ground := Ground.data }, { on := 3, ground := Ground.data }], guard := none }) (v := ?vv12) rfl (by kernel_rfl) (by kernel_rfl) (by kernel_rfl) (fun _ _ _ h => h) (Or.inl ⟨by rfl, ?hy12⟩) (by assumption) ?_
          case hy12 => (intro w hSw; (try dsimp only at hSw); go_simp; all_goals with_reducible rfl)
          try simp only [Act.put, List.setIfInBounds_toArray, List.set_cons_zero, List.set_cons_succ]
          refine wpAnyH_take (i := 5) (oi := { dst := some 55, op := Op.load 9 (Operand.tmp 54), type := 9, pos := "ref.go:87", after := #[{ on := 4, ground := Ground.data }], guard := none }) (v := ?vv13) rfl (by kernel_rfl) (by kernel_rfl) (by kernel_rfl) (fun _ _ _ h => h) (Or.inl ⟨by rfl, ?hy13⟩) (by assumption) ?_
          case hy13 => (intro w hSw; (try dsimp only at hSw); go_simp; all_goals with_reducible rfl)
          try simp only [Act.put, List.setIfInBounds_toArray, List.set_cons_zero, List.set_cons_succ]
          refine wpAnyH_ready (rs := [6]) (by kernel_rfl) (by simp) ?_
          refine AllReadyH.cons (o := { dst := some 56, op := Op.call { callee := Callee.value (Operand.func 93), args := #[Operand.tmp 51, Operand.tmp 55], argTypes := #[22, 9] }, type := 27, pos := "ref.go:87", after := #[{ on := 1, ground := Ground.data }, { on := 5, ground := Ground.data }], guard := none }) rfl (fun K hK => ?_) AllReadyH.nil
          go_simp
          refine (rvalues_any (qyb, qyl, qyc) Q x W (HQ.out _ (hb.out.trans (hIW.mono hb.out.size))) HL.out.2).mono ?_
          rintro e' Wx ⟨⟨ub, ul, uc⟩, rfl, bX, uR, _⟩
          have hIWx : Below wq.heap.size wq Wx := hIW.trans (bX.mono hIW.size)
          replace uR : Hid (Go.Proofs.YtfponcdhaefkdaaDoor.R ES Wx (.slice ub ul uc) (vsL Q x)) := uR
          simp only [sv]
          go_wp2_with fail
          refine hK.out _ _ (hcel.out _ hIWx) (fun hHeld => ?_)
          clear hK K bX hIW
          try simp only [Act.put, List.setIfInBounds_toArray, List.set_cons_zero, List.set_cons_succ]
          refine wpAnyH_take (i := 7) (oi := { dst := some 9, op := Op.assign (Operand.tmp 56), type := 27, pos := "ref.go:87", after := #[{ on := 6, ground := Ground.data }, { on := 6, ground := Ground.chain }, { on := 0, ground := Ground.phase }, { on := 1, ground := Ground.phase }, { on := 2, ground := Ground.phase }, { on := 3, ground := Ground.phase }, { on := 4, ground := Ground.phase }, { on := 5, ground := Ground.phase }, { on := 6, ground := Ground.phase }], guard := none }) (v := ?vv14) rfl (by kernel_rfl) (by kernel_rfl) (by kernel_rfl) (fun _ _ _ h => h) (Or.inl ⟨by rfl, ?hy14⟩) (by assumption) ?_
          case hy14 => (intro w hSw; (try dsimp only at hSw); go_simp; all_goals with_reducible rfl)
          try simp only [Act.put, List.setIfInBounds_toArray, List.set_cons_zero, List.set_cons_succ]
          refine wpAnyH_done (by kernel_rfl) ?_ _
          go_wp2_with fail
          go_meet
          exact ⟨ub, ul, uc, by first | rfl | simp, hIWx, uR.out⟩
      obtain ⟨vb, vl, vc, rfl, hb3, vR⟩ := hcut
      obtain ⟨wz, hwz⟩ : ∃ x, wc = x := ⟨_, rfl⟩
      rw [hwz] at hb3 vR ⊢
      have UI : Hid (In ES wz (.slice ub ul uc) (vsL P x)) := (R.isIn uR.out).below hb3.out
      have VI : Hid (In ES wz (.slice vb vl vc) (vsL Q x)) := R.isIn vR.out
      have hbw : Hid (Below w.heap.size w wz) := hbq.out.trans (hb3.out.mono hbq.out.size)
      have hbz2 : Hid (Below w2.heap.size w2 wz) := hbzq.out.trans (hb3.out.mono hbzq.out.size)
      clear hwz hb3 hb hbq hbzq hcel hcel0 uR vR
      obtain ⟨A, hA⟩ : ∃ a, vsL P x = a := ⟨_, rfl⟩
      obtain ⟨B, hB⟩ : ∃ a, vsL Q x = a := ⟨_, rfl⟩
      rw [hA] at UI HK HF
      rw [hB] at VI HK HF
      clear hA hB
      obtain ⟨e1, e2, e3⟩ := slice_len UI.out
      obtain ⟨f1, f2, f3⟩ := slice_len VI.out
      by_cases hl : A.length = B.length
      · obtain rfl : ul = vl := by omega
        have E2 : Hid (ul = A.length ∧ A.length = B.length) := ⟨e1, hl⟩
        have huc : ul ≤ uc := by omega
        have hvc : ul ≤ vc := by omega
        clear e1 e2 f1 f2 hl
        go_wp2_with fail
        go_loopw [10] (fun iv wy => ∃ j : Nat, iv = .int .i64 (j : Int) ∧ j ≤ ul ∧ Hid (A.take j = B.take j) ∧ Hid (Below wz.heap.size wz wy)) (fun iv _ => ul - (intOf iv).toNat)
        case atStart => exact ⟨0, rfl, by omega, by show _ = _; simp, Below.refl _ _⟩
        case round =>
          obtain ⟨j, rfl, hj, hq, hy⟩ := hrel
          by_cases hjl : j < ul
          · have ja : j < A.length := by have := E2.out; omega
            have jb : j < B.length := by have := E2.out; omega
            obtain ⟨B3, o3, c3, e, d0⟩ := UI.out.str j ja
            injection e with e1 e2 e3
            subst e1
            clear e2 e3
            obtain ⟨B4, o4, c4, e, d1⟩ := VI.out.str j jb
            injection e with e1 e2 e3
            subst e1
            clear e2 e3
            replace d0 := d0 _ hy.out
            replace d1 := d1 _ hy.out
            have hjl' : (j : Int) < (ul : Int) := by omega
            obtain ⟨y, hyy⟩ : ∃ y, A[j] = y := ⟨_, rfl⟩
            obtain ⟨z, hzz⟩ : ∃ y, B[j] = y := ⟨_, rfl⟩
            rw [hyy] at d0
            rw [hzz] at d1
            by_cases hxy : y = z
            · have hnx : Hid (A.take (j + 1) = B.take (j + 1)) := by
                show _ = _
                rw [List.take_succ_eq_append_getElem ja, List.take_succ_eq_append_getElem jb, hq.out, hyy, hzz, hxy]
              have q1 := str_eq hxy
              have q2 : (y.toList != z.toList) = false := by rw [bne, q1]; rfl
              clear hq hyy hzz hxy ja jb
              go_wp2_with fail
              go_quiet (fail)
              go_wp2_with fail
              go_roundw
              case rel => exact ⟨j + 1, by simp, by omega, hnx.out, below_drewN hy.out _⟩
              case measure => simp [intOf]; omega
            · have hne : Hid (X = false) := by
                show _ = _
                rw [HX.out]
                refine HF.out (eqB_false fun e => hxy ?_)
                subst e
                rw [← hyy, ← hzz]
              have q1 := str_ne hxy
              have q2 : (y.toList != z.toList) = true := by rw [bne, q1]; rfl
              have hyw : Hid (Below w.heap.size w _) := hbw.out.trans (hy.out.mono hbw.out.size)
              clear hq hyy hzz hxy ja jb
              go_wp2_with fail
              go_quiet (fail)
              go_wp2_with fail
              go_ret
              exact ⟨by rw [hne.out]; first | rfl | simp, below_drewN hyw.out _⟩
          · obtain rfl : j = ul := by omega
            have hjl' : ¬ (j : Int) < (j : Int) := by omega
            have hnx : Hid (mtL P Q (l.take (k + 1)) = true) := by
              show _ = _
              have := hq.out
              rw [E2.out.1, List.take_length] at this
              rw [HK.out, hp.out, eqB_true (show A = B by rw [this, E2.out.2, List.take_length])]
              rfl
            have hyw : Hid (Below w.heap.size w _) := hbw.out.trans (hy.out.mono hbw.out.size)
            have hyz : Hid (Below w2.heap.size w2 _) := hbz2.out.trans (hy.out.mono hbz2.out.size)
            clear hq hy
            go_wp2_with fail
            go_roundw
            case rel => exact ⟨k + 1, by simp, by omega, hnx.out, hyw.out, hyz.out⟩
            case measure => simp [intOf]; omega
      · have hl1 : ((ul : Int) != (vl : Int)) = true := by simp; omega
        have hl2 : ¬ (ul : Int) = (vl : Int) := by omega
        have hne : Hid (X = false) := by show _ = _; rw [HX.out]; exact HF.out (eqB_false fun e => hl (by rw [e]))
        clear e1 e2 f1 f2 hl
        go_wp2_with fail
        go_ret
        exact ⟨by rw [hne.out]; first | rfl | simp, hbw.out⟩
    · obtain rfl : k = tl := by omega
      have hlt' : ¬ (k : Int) < (k : Int) := by omega
      have HX2 : Hid (X = true) := by
        show _ = _
        rw [HX.out]
        have := hp.out
        rw [E1.out, List.take_length] at this
        exact this
      clear hp HX
      go_wp2_with fail
      go_ret
      exact ⟨by rw [HX2.out]; first | rfl | simp, hb.out⟩
end Go.Proofs.YtfponcdhaefkdaaDoor
/- The document's small letters. -/
namespace Go.Proofs.YtfponcdhaefkdaaDoor
open Go.RowKit
set_option linter.unusedVariables false
set_option linter.unusedSimpArgs false
set_option maxRecDepth 100000 in
theorem conv_none (w : World) : Sem.run Tryd.prog (convert 103 9 (.slice none 0 0)) w = .ok (.string ⟨#[]⟩) w := by
  simp [convert, Conv.bytesToString, go_sem, Tryd.underlying103, Tryd.underlying5, Tryd.underlying9]
  rfl
set_option maxRecDepth 100000 in
theorem conv_row' {w : World} {b : Option Addr} {n c : Nat} {l : List UInt8} (h : In EB w (.slice b n c) l) : Sem.run Tryd.prog (convert 103 9 (.slice b n c)) w = .ok (.string (bt l)) w := by
  have h' := h
  rcases h with ⟨e, rfl⟩ | ⟨a, cap, e, h1, h2, hc⟩
  · injection e with e1 e2 e3
    subst e1 e2 e3
    exact conv_none w
  · injection e with e1 e2 e3
    subst e1 e2 e3
    exact run_convert_bytes_back (P := Tryd.prog) w 103 9 5 a c l Tryd.underlying103 Tryd.underlying5 Tryd.underlying9 (fun j hj => by
      have := hc j (.int .u8 (l[j].toNat : Int)) (by rw [csB, List.getElem?_map, List.getElem?_eq_getElem hj]; rfl)
      exact this)
set_option maxHeartbeats 4000000 in
set_option maxRecDepth 100000 in
theorem rsmall_any (s : ByteArray) (w : World) (hs : s.size ≤ 140737488351232) : Calls Tryd.prog 100 #[.string s] w fun e w' => e = .returned (.string (smS s)) ∧ Below w.heap.size w w' := by
  have HL : Hid (s.data.toList.length = s.size) := (Lib.size_eq s).symm
  go_enter Tryd.func100, Tryd.ntmps100
  go_wp2_with fail
  go_loopw [3, 4, 5] (fun bv iv _ wr => ∃ (k : Nat) (b : Option Addr) (c : Nat), iv = .int .i64 (k : Int) ∧ bv = .slice b k c ∧ k ≤ s.size ∧ Hid (R EB wr (.slice b k c) (smL (s.data.toList.take k)) ∧ Below w.heap.size w wr ∧ ∀ j, (Value.slice b k c).ownBlock = some j → w.heap.size ≤ j)) (fun _ iv _ _ => s.size - (intOf iv).toNat)
  case atStart => exact ⟨0, none, 0, rfl, rfl, by omega, by simpa [smL] using R.nil EB w, Below.refl _ _, fun j hj => by simp [Value.ownBlock] at hj⟩
  case round =>
    obtain ⟨k, b, c, rfl, rfl, hk, hS⟩ := hrel
    by_cases hlt : k < s.size
    · have hlt' : (k : Int) < (s.size : Int) := by omega
      obtain ⟨x, hx⟩ : ∃ x : UInt8, s[k] = x := ⟨_, rfl⟩
      have kl : k < s.data.toList.length := by rw [HL.out]; exact hlt
      have hxl : s.data.toList[k]'kl = x := by rw [← hx]; simp; rfl
      have HN : Hid (∀ y : UInt8, smC x = y → ∃ b2 c2 w2, (Builtin.append_ #[103, 103] 103 #[.slice b k c, .slice (some ⟨wr.heap.size, 0, none⟩) 1 1]).run Tryd.prog (wr.alloc (.cells #[.int .u8 (y.toNat : Int)] 5)) = .ok (.slice b2 (k + 1) c2) w2 ∧ R EB w2 (.slice b2 (k + 1) c2) (smL (s.data.toList.take (k + 1))) ∧ Below w.heap.size w w2 ∧ ∀ j, (Value.slice b2 (k + 1) c2).ownBlock = some j → w.heap.size ≤ j) := fun y hy => by
        have ba := bel1 wr (.cells #[.int .u8 (y.toNat : Int)] 5)
        obtain ⟨b2, c2, w2, e1, e2, e3⟩ := app okB (wr.alloc (.cells #[.int .u8 (y.toNat : Int)] 5)) _ _ (R.below hS.out.1 ba) (.slice (some ⟨wr.heap.size, 0, none⟩) 1 1) [y] (in_one (x := y) _ _ #[.int .u8 (y.toNat : Int)] 5 (0, 0) (by rw [heap_al, if_pos rfl]) rfl) (by simp only [EB, smL, List.length_map, List.length_take, List.length_singleton]; omega)
        have el : (smL (s.data.toList.take k)).length + [y].length = k + 1 := by simp only [smL, List.length_map, List.length_take, List.length_singleton]; omega
        rw [el] at e1 e2 e3
        refine ⟨b2, c2, w2, e1, ?_, ?_, fun j hj => ?_⟩
        · rw [List.take_succ_eq_append_getElem kl, hxl, smL, List.map_append]
          simp only [List.map_cons, List.map_nil, hy]
          exact e2
        · exact hS.out.2.1.trans (Below.trans (ba.mono hS.out.2.1.size) (e3.belowB (Nat.le_trans hS.out.2.1.size ba.size) hS.out.2.2))
        · rcases e3.own j hj with e | e
          · exact hS.out.2.2 j e
          · exact Nat.le_trans (Nat.le_trans hS.out.2.1.size ba.size) e
      have hx8 := x.toNat_lt
      clear hS hxl kl
      by_cases h1 : 65 ≤ x.toNat
      · have h1' : (65 : Int) ≤ (x.toNat : Int) := by omega
        by_cases h2 : x.toNat ≤ 90
        · have h2' : (x.toNat : Int) ≤ 90 := by omega
          have hy := smC_up h1 h2
          obtain ⟨y, hyy⟩ : ∃ y, smC x = y := ⟨_, rfl⟩
          rw [hyy] at hy
          have hw2 : IntKind.u8.wrap ((x.toNat : Int) + 32) = (y.toNat : Int) := by rw [IntKind.wrap_u8]; omega
          obtain ⟨b2, c2, w2, a1, a2⟩ := HN.out y hyy
          replace a1 : Hid _ := a1
          replace a2 : Hid _ := a2
          clear HN hyy hy
          skip
          go_wp2_with (at_builtin; refine Lib.wpList_append_run _ rfl _ _ _ _ rfl _ _ rfl rfl _ _ a1.out ?_)
          go_roundw
          case rel => exact ⟨k + 1, b2, c2, by simp, by first | rfl | simp, by omega, a2.out⟩
          case measure => simp [intOf]; omega
        · have h2' : ¬ (x.toNat : Int) ≤ 90 := by omega
          obtain ⟨b2, c2, w2, a1, a2⟩ := HN.out x (smC_id (by omega))
          replace a1 : Hid _ := a1
          replace a2 : Hid _ := a2
          clear HN
          skip
          go_wp2_with (at_builtin; refine Lib.wpList_append_run _ rfl _ _ _ _ rfl _ _ rfl rfl _ _ a1.out ?_)
          go_roundw
          case rel => exact ⟨k + 1, b2, c2, by simp, by first | rfl | simp, by omega, a2.out⟩
          case measure => simp [intOf]; omega
      · have h1' : ¬ (65 : Int) ≤ (x.toNat : Int) := by omega
        obtain ⟨b2, c2, w2, a1, a2⟩ := HN.out x (smC_id (by omega))
        replace a1 : Hid _ := a1
        replace a2 : Hid _ := a2
        clear HN
        skip
        go_wp2_with (at_builtin; refine Lib.wpList_append_run _ rfl _ _ _ _ rfl _ _ rfl rfl _ _ a1.out ?_)
        go_roundw
        case rel => exact ⟨k + 1, b2, c2, by simp, by first | rfl | simp, by omega, a2.out⟩
        case measure => simp [intOf]; omega
    · obtain rfl : k = s.size := by omega
      have hlt' : ¬ (s.size : Int) < (s.size : Int) := by omega
      have HB : Hid (Below w.heap.size w wr) := hS.out.2.1
      have hR : R EB wr (.slice b s.size c) (smL s.data.toList) := by
        have h := hS.out.1
        rw [← HL.out, List.take_length] at h
        rw [HL.out] at h
        exact h
      clear hS
      have hcv2 : Sem.run Tryd.prog (convert 103 9 (.slice b s.size c)) wr = .ok (.string (smS s)) wr := conv_row' (R.isIn hR)
      clear hR
      go_wp2_with fail
      go_ret
      exact ⟨rfl, HB.out⟩
end Go.Proofs.YtfponcdhaefkdaaDoor
/- The document's trimmed. -/
namespace Go.Proofs.YtfponcdhaefkdaaDoor
open Go.RowKit
set_option linter.unusedVariables false
set_option linter.unusedSimpArgs false
/-- a space or a tab -/
def blB (x : UInt8) : Bool := [(32 : UInt8), 9].contains x
theorem blB_iff {x : UInt8} : blB x = true ↔ x.toNat = 32 ∨ x.toNat = 9 := by
  unfold blB
  simp only [List.contains_cons, List.contains_nil, Bool.or_false, Bool.or_eq_true, beq_iff_eq]
  constructor
  · rintro (rfl | rfl)
    · exact .inl rfl
    · exact .inr rfl
  · rintro (h | h)
    · exact .inl (UInt8.toNat_inj.1 h)
    · exact .inr (UInt8.toNat_inj.1 h)
set_option maxRecDepth 100000 in
theorem blank_any (x : UInt8) (w : World) : Calls Tryd.prog 104 #[.int .u8 (x.toNat : Int)] w fun e w' => e = .returned (.bool (blB x)) ∧ w' = w := by
  have hx8 := x.toNat_lt
  by_cases h1 : x.toNat = 32
  · have HB : Hid (blB x = true) := blB_iff.2 (.inl h1)
    have h1' : (x.toNat : Int) = 32 := by omega
    rw [h1']
    clear h1 h1' hx8
    go_enter Tryd.func104, Tryd.ntmps104
    go_wp2_with fail
    go_ret
    exact ⟨by rw [HB.out]; first | rfl | simp, rfl⟩
  · have q1 : ((x.toNat : Int) == 32) = false := by simp; omega
    have q1' : ¬ (x.toNat : Int) = 32 := by omega
    by_cases h2 : x.toNat = 9
    · have HB : Hid (blB x = true) := blB_iff.2 (.inr h2)
      have h2' : (x.toNat : Int) = 9 := by omega
      rw [h2']
      clear h1 h2 h2' q1 q1' hx8
      go_enter Tryd.func104, Tryd.ntmps104
      go_wp2_with fail
      go_ret
      exact ⟨by rw [HB.out]; first | rfl | simp, rfl⟩
    · have q2 : ((x.toNat : Int) == 9) = false := by simp; omega
      have q2' : ¬ (x.toNat : Int) = 9 := by omega
      have HB : Hid (blB x = false) := by
        show _ = _
        cases h : blB x
        · rfl
        · rcases blB_iff.1 h with e | e
          · exact absurd e h1
          · exact absurd e h2
      clear h1 h2
      go_enter Tryd.func104, Tryd.ntmps104
      go_wp2_with fail
      go_ret
      exact ⟨by rw [HB.out]; first | rfl | simp, rfl⟩
theorem trim_two (l : List UInt8) (k m : Nat) (hk : k ≤ l.length) (hm : m ≤ l.length - k) (h1 : ∀ (j : Nat) b, j < k → l[j]? = some b → blB b = true) (h2 : ∀ b, l[k]? = some b → blB b = false) (h3 : ∀ (j : Nat) b, m ≤ j → (l.drop k)[j]? = some b → blB b = true) (h4 : ∀ b, 0 < m → (l.drop k)[m - 1]? = some b → blB b = false) : Lib.trimS l [32, 9] = (l.drop k).take m := by
  unfold Lib.trimS
  by_cases h0 : m = 0
  · subst h0
    have e : Lib.trimRightS l [32, 9] = l.take 0 := by
      refine Lib.trimRightS_take l _ 0 (Nat.zero_le _) (fun j b _ hb => ?_) (fun b h => absurd h (by omega))
      by_cases hj : j < k
      · exact h1 j b hj hb
      · refine h3 (j - k) b (Nat.zero_le _) ?_
        rw [List.getElem?_drop, show k + (j - k) = j by omega]
        exact hb
    rw [e]
    simp [Lib.trimLeftS]
  · have e : Lib.trimRightS l [32, 9] = l.take (k + m) := by
      refine Lib.trimRightS_take l _ (k + m) (by omega) (fun j b hj hb => ?_) (fun b _ hb => ?_)
      · refine h3 (j - k) b (by omega) ?_
        rw [List.getElem?_drop, show k + (j - k) = j by omega]
        exact hb
      · refine h4 b (by omega) ?_
        rw [List.getElem?_drop, show k + (m - 1) = k + m - 1 by omega]
        exact hb
    rw [e]
    have e2 : Lib.trimLeftS (l.take (k + m)) [32, 9] = (l.take (k + m)).drop k := by
      refine Lib.trimLeftS_drop _ _ k (by rw [List.length_take]; omega) (fun j b hj hb => ?_) (fun b hb => ?_)
      · rw [List.getElem?_take_of_lt (by omega)] at hb
        exact h1 j b hj hb
      · rw [List.getElem?_take_of_lt (by omega)] at hb
        exact h2 b hb
    rw [e2, List.drop_take]
    congr 1
    omega
def strSz : Value → Nat
  | .string u => u.size
  | _ => 0
theorem tail_list (u : ByteArray) : (u.extract 1 u.size).data.toList = u.data.toList.drop 1 := by
  rw [ByteArray.data_extract, Array.toList_extract]
  simp only [List.extract_eq_take_drop]
  exact List.take_of_length_le (by rw [List.length_drop, ← Lib.size_eq]; exact Nat.le_refl _)
theorem front_list (u : ByteArray) (n : Nat) : (u.extract 0 n).data.toList = u.data.toList.take n := by
  rw [ByteArray.data_extract, Array.toList_extract]
  simp only [List.extract_eq_take_drop, List.drop_zero, Nat.sub_zero]
set_option maxHeartbeats 4000000 in
set_option maxRecDepth 100000 in
theorem trimmed_any (s : ByteArray) (w : World) (hs : s.size ≤ 140737488355328) : Calls Tryd.prog 101 #[.string s] w fun e w' => e = .returned (.string ⟨(Lib.trimS s.data.toList [32, 9]).toArray⟩) ∧ w' = w := by
  obtain ⟨l, hl⟩ : ∃ l, s.data.toList = l := ⟨_, rfl⟩
  have HS : Hid (s.data.toList = l ∧ s.size = l.length) := ⟨hl, by rw [Lib.size_eq, hl]⟩
  rw [hl]
  clear hl
  have HZ : Hid (l.length ≤ 140737488355328) := by show _ ≤ _; rw [← HS.out.2]; exact hs
  clear hs
  go_enter Tryd.func101, Tryd.ntmps101
  go_wp2_with fail
  go_loopw [0] (fun sv' wr => ∃ (u : ByteArray) (k : Nat), sv' = .string u ∧ wr = w ∧ Hid (u.data.toList = l.drop k ∧ k ≤ l.length ∧ ∀ (j : Nat) b, j < k → l[j]? = some b → blB b = true)) (fun sv' _ => strSz sv')
  case atStart => exact ⟨s, 0, rfl, rfl, by rw [HS.out.1]; rfl, Nat.zero_le _, fun j b hj => absurd hj (by omega)⟩
  case round =>
    obtain ⟨u, k, rfl, hwr, hS⟩ := hrel
    replace hwr := hwr.symm
    subst hwr
    have hul : u.size = l.length - k := by rw [Lib.size_eq, hS.out.1, List.length_drop]
    have hu47 : u.size ≤ 140737488355328 := by have := HZ.out; omega
    have HU : Hid (u.size = l.length - k) := hul
    clear hul
    by_cases h0 : u.size = 0
    · have HST : Hid (∀ b, l[k]? = some b → blB b = false) := fun b hb => by
        rw [List.getElem?_eq_none (by have := HU.out; omega)] at hb
        cases hb
      have h0' : ¬ (0 : Int) < (u.size : Int) := by omega
      go_wp2_with fail
      go_loopw [0] (fun sv' wr => ∃ (v : ByteArray) (m : Nat), sv' = .string v ∧ wr = w ∧ Hid (v.data.toList = (l.drop k).take m ∧ m ≤ l.length - k ∧ ∀ (j : Nat) b, m ≤ j → (l.drop k)[j]? = some b → blB b = true)) (fun sv' _ => strSz sv')
      case atStart => exact ⟨u, l.length - k, rfl, rfl, by rw [hS.out.1, List.take_of_length_le (by rw [List.length_drop]; omega)], Nat.le_refl _, fun j b hj hb => by rw [List.getElem?_eq_none (by rw [List.length_drop]; omega)] at hb; cases hb⟩
      case round =>
        obtain ⟨v, m, rfl, hwr, hV⟩ := hrel
        replace hwr := hwr.symm
        subst hwr
        have HVL : Hid (v.size = m) := by show _ = _; rw [Lib.size_eq, hV.out.1, List.length_take, List.length_drop]; have := hV.out.2.1; omega
        have HV47 : Hid (v.size ≤ 140737488355328) := by show _ ≤ _; rw [HVL.out]; have := hV.out.2.1; have := HZ.out; omega
        clear hu47
        by_cases h0 : v.size = 0
        · have HE : Hid (v = ⟨(Lib.trimS l [32, 9]).toArray⟩) := by
            show _ = _
            rw [trim_two l k m hS.out.2.1 hV.out.2.1 hS.out.2.2 HST.out hV.out.2.2 (fun b hb => by have := HVL.out; omega), ← hV.out.1]
          have h0' : ¬ (0 : Int) < (v.size : Int) := by omega
          clear hV
          go_wp2_with fail
          go_ret
          exact ⟨by rw [← HE.out]; rfl, rfl⟩
        · obtain ⟨q, hq⟩ : ∃ q, v.size = q + 1 := ⟨v.size - 1, by omega⟩
          have hq47 : q ≤ 140737488355328 := by have := HV47.out; omega
          have h0' : (0 : Int) < (v.size : Int) := by omega
          have hi' : (0 : Int) ≤ (q : Int) := by omega
          have hql : q < v.size := by omega
          obtain ⟨x, hx⟩ : ∃ x : UInt8, v[q] = x := ⟨_, rfl⟩
          have HXL : Hid ((l.drop k)[q]? = some x) := by
            show _ = _
            have h1 : v.data.toList[q]? = some x := by
              rw [List.getElem?_eq_getElem (by rw [← Lib.size_eq]; exact hql), ← hx]
              simp <;> rfl
            rw [hV.out.1, List.getElem?_take_of_lt (by rw [← HVL.out]; exact hql)] at h1
            exact h1
          cases hb : blB x
          · have HE : Hid (v = ⟨(Lib.trimS l [32, 9]).toArray⟩) := by
              show _ = _
              rw [trim_two l k m hS.out.2.1 hV.out.2.1 hS.out.2.2 HST.out hV.out.2.2 (fun b _ hb' => by
                have hm : m - 1 = q := by have := HVL.out; omega
                rw [hm, HXL.out] at hb'
                injection hb' with hb'
                rw [← hb']; exact hb), ← hV.out.1]
            have HB : Hid (blB x = false) := hb
            clear hV hb h0
            go_wp2_with fail
            go_at_call 104
            refine (blank_any x _).mono ?_
            rintro e w' ⟨rfl, hww⟩
            replace hww := hww.symm
            subst hww
            rw [HB.out]
            go_wp2_with fail
            go_ret
            exact ⟨by rw [← HE.out]; rfl, rfl⟩
          · have HN : Hid ((v.extract 0 q).data.toList = (l.drop k).take q ∧ q ≤ l.length - k ∧ ∀ (j : Nat) b, q ≤ j → (l.drop k)[j]? = some b → blB b = true) := by
              have hm : m = q + 1 := by have := HVL.out; omega
              refine ⟨?_, by have := hV.out.2.1; omega, fun j b hj hb' => ?_⟩
              · rw [front_list, hV.out.1, List.take_take, hm, Nat.min_eq_left (by omega)]
              · by_cases e : j = q
                · rw [e, HXL.out] at hb'
                  injection hb' with hb'
                  rw [← hb']; exact hb
                · exact hV.out.2.2 j b (by omega) hb'
            have HB : Hid (blB x = true) := hb
            have HSZ : Hid ((v.extract 0 q).size = q) := by
              show _ = _
              rw [Lib.size_eq, HN.out.1, List.length_take, List.length_drop]
              have := HN.out.2.1
              omega
            clear hV hb h0
            go_wp2_with fail
            go_at_call 104
            refine (blank_any x _).mono ?_
            rintro e w' ⟨rfl, hww⟩
            replace hww := hww.symm
            subst hww
            rw [HB.out]
            go_wp2_with fail
            go_roundw
            case rel => exact ⟨v.extract 0 q, q, by first | rfl | simp, by first | rfl | trivial, HN.out⟩
            case measure => simp only [strSz]; have := HSZ.out; omega
    · have h0' : (0 : Int) < (u.size : Int) := by omega
      have h0n : 0 < u.size := by omega
      obtain ⟨x, hx⟩ : ∃ x : UInt8, u[0] = x := ⟨_, rfl⟩
      have HXL : Hid (l[k]? = some x) := by
        show _ = _
        have h1 : u.data.toList[0]? = some x := by
          rw [List.getElem?_eq_getElem (by rw [← Lib.size_eq]; exact h0n), ← hx]
          simp <;> rfl
        rw [hS.out.1, List.getElem?_drop] at h1
        exact h1
      cases hb : blB x
      · have HST : Hid (∀ b, l[k]? = some b → blB b = false) := fun b hb' => by
          rw [HXL.out] at hb'
          injection hb' with hb'
          rw [← hb']; exact hb
        have HB : Hid (blB x = false) := hb
        clear hb h0
        go_wp2_with fail
        go_at_call 104
        refine (blank_any x _).mono ?_
        rintro e w' ⟨rfl, hww⟩
        replace hww := hww.symm
        subst hww
        rw [HB.out]
        go_wp2_with fail
        go_loopw [0] (fun sv' wr => ∃ (v : ByteArray) (m : Nat), sv' = .string v ∧ wr = w ∧ Hid (v.data.toList = (l.drop k).take m ∧ m ≤ l.length - k ∧ ∀ (j : Nat) b, m ≤ j → (l.drop k)[j]? = some b → blB b = true)) (fun sv' _ => strSz sv')
        case atStart => exact ⟨u, l.length - k, rfl, rfl, by rw [hS.out.1, List.take_of_length_le (by rw [List.length_drop]; omega)], Nat.le_refl _, fun j b hj hb => by rw [List.getElem?_eq_none (by rw [List.length_drop]; omega)] at hb; cases hb⟩
        case round =>
          obtain ⟨v, m, rfl, hwr, hV⟩ := hrel
          replace hwr := hwr.symm
          subst hwr
          have HVL : Hid (v.size = m) := by show _ = _; rw [Lib.size_eq, hV.out.1, List.length_take, List.length_drop]; have := hV.out.2.1; omega
          have HV47 : Hid (v.size ≤ 140737488355328) := by show _ ≤ _; rw [HVL.out]; have := hV.out.2.1; have := HZ.out; omega
          clear hu47
          by_cases h0 : v.size = 0
          · have HE : Hid (v = ⟨(Lib.trimS l [32, 9]).toArray⟩) := by
              show _ = _
              rw [trim_two l k m hS.out.2.1 hV.out.2.1 hS.out.2.2 HST.out hV.out.2.2 (fun b hb => by have := HVL.out; omega), ← hV.out.1]
            have h0' : ¬ (0 : Int) < (v.size : Int) := by omega
            clear hV
            go_wp2_with fail
            go_ret
            exact ⟨by rw [← HE.out]; rfl, rfl⟩
          · obtain ⟨q, hq⟩ : ∃ q, v.size = q + 1 := ⟨v.size - 1, by omega⟩
            have hq47 : q ≤ 140737488355328 := by have := HV47.out; omega
            have h0' : (0 : Int) < (v.size : Int) := by omega
            have hi' : (0 : Int) ≤ (q : Int) := by omega
            have hql : q < v.size := by omega
            obtain ⟨x, hx⟩ : ∃ x : UInt8, v[q] = x := ⟨_, rfl⟩
            have HXL : Hid ((l.drop k)[q]? = some x) := by
              show _ = _
              have h1 : v.data.toList[q]? = some x := by
                rw [List.getElem?_eq_getElem (by rw [← Lib.size_eq]; exact hql), ← hx]
                simp <;> rfl
              rw [hV.out.1, List.getElem?_take_of_lt (by rw [← HVL.out]; exact hql)] at h1
              exact h1
            cases hb : blB x
            · have HE : Hid (v = ⟨(Lib.trimS l [32, 9]).toArray⟩) := by
                show _ = _
                rw [trim_two l k m hS.out.2.1 hV.out.2.1 hS.out.2.2 HST.out hV.out.2.2 (fun b _ hb' => by
                  have hm : m - 1 = q := by have := HVL.out; omega
                  rw [hm, HXL.out] at hb'
                  injection hb' with hb'
                  rw [← hb']; exact hb), ← hV.out.1]
              have HB : Hid (blB x = false) := hb
              clear hV hb h0
              go_wp2_with fail
              go_at_call 104
              refine (blank_any x _).mono ?_
              rintro e w' ⟨rfl, hww⟩
              replace hww := hww.symm
              subst hww
              rw [HB.out]
              go_wp2_with fail
              go_ret
              exact ⟨by rw [← HE.out]; rfl, rfl⟩
            · have HN : Hid ((v.extract 0 q).data.toList = (l.drop k).take q ∧ q ≤ l.length - k ∧ ∀ (j : Nat) b, q ≤ j → (l.drop k)[j]? = some b → blB b = true) := by
                have hm : m = q + 1 := by have := HVL.out; omega
                refine ⟨?_, by have := hV.out.2.1; omega, fun j b hj hb' => ?_⟩
                · rw [front_list, hV.out.1, List.take_take, hm, Nat.min_eq_left (by omega)]
                · by_cases e : j = q
                  · rw [e, HXL.out] at hb'
                    injection hb' with hb'
                    rw [← hb']; exact hb
                  · exact hV.out.2.2 j b (by omega) hb'
              have HB : Hid (blB x = true) := hb
              have HSZ : Hid ((v.extract 0 q).size = q) := by
                show _ = _
                rw [Lib.size_eq, HN.out.1, List.length_take, List.length_drop]
                have := HN.out.2.1
                omega
              clear hV hb h0
              go_wp2_with fail
              go_at_call 104
              refine (blank_any x _).mono ?_
              rintro e w' ⟨rfl, hww⟩
              replace hww := hww.symm
              subst hww
              rw [HB.out]
              go_wp2_with fail
              go_roundw
              case rel => exact ⟨v.extract 0 q, q, by first | rfl | simp, by first | rfl | trivial, HN.out⟩
              case measure => simp only [strSz]; have := HSZ.out; omega
      · have HN : Hid ((u.extract 1 u.size).data.toList = l.drop (k + 1) ∧ k + 1 ≤ l.length ∧ ∀ (j : Nat) b, j < k + 1 → l[j]? = some b → blB b = true) := by
          refine ⟨?_, by have := HU.out; omega, fun j b hj hb' => ?_⟩
          · rw [tail_list, hS.out.1, List.drop_drop]
          · by_cases e : j = k
            · rw [e, HXL.out] at hb'
              injection hb' with hb'
              rw [← hb']; exact hb
            · exact hS.out.2.2 j b (by omega) hb'
        have HSZ : Hid ((u.extract 1 u.size).size < u.size) := by
          show _ < _
          rw [Lib.size_eq, HN.out.1, List.length_drop, HU.out]
          have := HN.out.2.1
          omega
        have HB : Hid (blB x = true) := hb
        clear hS hb h0
        go_wp2_with fail
        go_at_call 104
        refine (blank_any x _).mono ?_
        rintro e w' ⟨rfl, hww⟩
        replace hww := hww.symm
        subst hww
        rw [HB.out]
        go_wp2_with fail
        go_roundw
        case rel => exact ⟨u.extract 1 u.size, k + 1, by first | rfl | simp, by first | rfl | trivial, HN.out⟩
        case measure => simp only [strSz]; exact HSZ.out
end Go.Proofs.YtfponcdhaefkdaaDoor
/- The document's pieces. -/
namespace Go.Proofs.YtfponcdhaefkdaaDoor
open Go.RowKit
set_option linter.unusedVariables false
set_option linter.unusedSimpArgs false
theorem ext_list (s : ByteArray) (a b : Nat) : (s.extract a b).data.toList = (s.data.toList.drop a).take (b - a) := by
  rw [ByteArray.data_extract, Array.toList_extract]
theorem pc_of (s : ByteArray) (a b : Nat) (l : List UInt8) (h : s.data.toList = l) : smS ⟨(Lib.trimS (s.extract a b).data.toList [32, 9]).toArray⟩ = pcS (bt ((l.drop a).take (b - a))) := by
  unfold pcS
  rw [bt_list, ext_list, h]
theorem dw_len (p : UInt8 → Bool) : ∀ l : List UInt8, (l.dropWhile p).length ≤ l.length
  | [] => Nat.le_refl _
  | a :: r => by
    rw [List.dropWhile_cons]
    split
    · have := dw_len p r
      simp only [List.length_cons]
      omega
    · exact Nat.le_refl _
theorem trim_len (l cs : List UInt8) : (Lib.trimS l cs).length ≤ l.length := by
  unfold Lib.trimS Lib.trimLeftS Lib.trimRightS
  refine Nat.le_trans (dw_len _ _) ?_
  rw [List.length_reverse]
  refine Nat.le_trans (dw_len _ _) ?_
  rw [List.length_reverse]
  exact Nat.le_refl _
/-- how far the pieces are found -/
def PcS (l : List UInt8) (i fr : Nat) (Dl : List (List UInt8)) : Prop :=
  (i ≤ l.length ∧ fr ≤ i ∧ cutL l = Dl ++ cutL (l.drop fr) ∧ ∀ j : Nat, fr ≤ j → j < i → l[j]? ≠ some 44) ∨ (i = l.length + 1 ∧ cutL l = Dl)
theorem PcS.last {l : List UInt8} {fr : Nat} {Dl : List (List UInt8)} (h : PcS l l.length fr Dl) : PcS l (l.length + 1) (l.length + 1) (Dl ++ [(l.drop fr).take (l.length - fr)]) := by
  rcases h with ⟨_, h1, h2, h3⟩ | ⟨h, _⟩
  · refine .inr ⟨rfl, ?_⟩
    rw [h2, cut_none (l := l.drop fr) (fun k e => ?_), List.take_of_length_le (by rw [List.length_drop]; exact Nat.le_refl _)]
    rw [List.getElem?_drop] at e
    exact h3 (fr + k) (by omega) (List.getElem?_eq_some_iff.1 e).1 e
  · omega
theorem PcS.comma {l : List UInt8} {i fr : Nat} {Dl : List (List UInt8)} (h : PcS l i fr Dl) (hi : i < l.length) (hc : l[i]? = some 44) : PcS l (i + 1) (i + 1) (Dl ++ [(l.drop fr).take (i - fr)]) := by
  rcases h with ⟨_, h1, h2, h3⟩ | ⟨h, _⟩
  · refine .inl ⟨hi, Nat.le_refl _, ?_, fun j h4 h5 => absurd h5 (by omega)⟩
    rw [h2, cut_some (l := l.drop fr) (o := i - fr) (by rw [List.getElem?_drop, show fr + (i - fr) = i by omega]; exact hc) (fun k hk => by rw [List.getElem?_drop]; exact h3 _ (by omega) (by omega)), List.drop_drop, show fr + (i - fr + 1) = i + 1 by omega, List.append_assoc]
    rfl
  · omega
theorem PcS.other {l : List UInt8} {i fr : Nat} {Dl : List (List UInt8)} (h : PcS l i fr Dl) (hi : i < l.length) (hc : l[i]? ≠ some 44) : PcS l (i + 1) fr Dl := by
  rcases h with ⟨_, h1, h2, h3⟩ | ⟨h, _⟩
  · refine .inl ⟨hi, by omega, h2, fun j h4 h5 => ?_⟩
    by_cases e : j = i
    · rw [e]; exact hc
    · exact h3 j h4 (by omega)
  · omega
theorem PcS.few {l : List UInt8} {i fr : Nat} {Dl : List (List UInt8)} (h : PcS l i fr Dl) (hi : i ≤ l.length) : Dl.length + 1 ≤ (cutL l).length ∧ fr ≤ i := by
  rcases h with ⟨_, h1, h2, h3⟩ | ⟨h, _⟩
  · rw [h2, List.length_append]
    have := List.length_pos_iff.2 (cutL_ne (l.drop fr))
    omega
  · omega
set_option maxHeartbeats 4000000 in
set_option maxRecDepth 100000 in
theorem pieces_any (s : ByteArray) (w : World) (hs : s.size ≤ 140737488351232) (hn : (cutS s).length ≤ 4398046511104) : Calls Tryd.prog 92 #[.string s] w fun e w' => VsPost ((cutS s).map pcS) w e w' := by
  obtain ⟨l, hl⟩ : ∃ l, s.data.toList = l := ⟨_, rfl⟩
  have HS : Hid (s.data.toList = l ∧ s.size = l.length) := ⟨hl, by rw [Lib.size_eq, hl]⟩
  have HN : Hid ((cutL l).length ≤ 4398046511104) := by
    show _ ≤ _
    rw [cutS, List.length_map, hl] at hn
    exact hn
  rw [show (cutS s).map pcS = (cutL l).map (fun x => pcS (bt x)) by rw [cutS, hl, List.map_map]; rfl]
  clear hl hn
  go_enter Tryd.func92, Tryd.ntmps92
  go_wp2_with fail
  go_loopw [3, 4, 5, 6] (fun ov fv iv _ wr => ∃ (i fr n : Nat) (b : Option Addr) (c : Nat) (Dl : List (List UInt8)), iv = .int .i64 (i : Int) ∧ fv = .int .i64 (fr : Int) ∧ ov = .slice b n c ∧ i ≤ s.size + 1 ∧ Hid (PcS l i fr Dl ∧ n = Dl.length ∧ R ES wr (.slice b n c) (Dl.map fun x => pcS (bt x)) ∧ Below w.heap.size w wr ∧ ∀ j, (Value.slice b n c).ownBlock = some j → w.heap.size ≤ j)) (fun _ _ iv _ _ => s.size + 1 - (intOf iv).toNat)
  case atStart => exact ⟨0, 0, 0, none, 0, [], rfl, rfl, rfl, by omega, .inl ⟨Nat.zero_le _, Nat.le_refl _, rfl, fun j _ h => absurd h (by omega)⟩, rfl, R.nil ES w, Below.refl _ _, fun j hj => by simp [Value.ownBlock] at hj⟩
  case round =>
    obtain ⟨i, fr, n, b, c, Dl, rfl, rfl, rfl, hi, hS⟩ := hrel
    by_cases hle : i ≤ s.size
    · have hle' : (i : Int) ≤ (s.size : Int) := by omega
      have hfr : fr ≤ i := (hS.out.1.few (by rw [← HS.out.2]; exact hle)).2
      have hfr' : (fr : Int) ≤ (i : Int) := by omega
      have HA : Hid (∀ W (p : ByteArray), Below wr.heap.size wr W → ∃ b2 c2 w2, (Builtin.append_ #[27, 27] 27 #[.slice b n c, .slice (some ⟨W.heap.size, 0, none⟩) 1 1]).run Tryd.prog (W.alloc (.cells #[.string p] 9)) = .ok (.slice b2 (n + 1) c2) w2 ∧ R ES w2 (.slice b2 (n + 1) c2) ((Dl.map fun x => pcS (bt x)) ++ [p]) ∧ Below w.heap.size w w2 ∧ ∀ j, (Value.slice b2 (n + 1) c2).ownBlock = some j → w.heap.size ≤ j) := fun W p hb => by
        have ba := bel1 W (.cells #[.string p] 9)
        have hbw := hS.out.2.2.2.1.trans (hb.mono hS.out.2.2.2.1.size)
        obtain ⟨b2, c2, w2, e1, e2, e3⟩ := app okS (W.alloc (.cells #[.string p] 9)) _ _ (R.below (R.below hS.out.2.2.1 hb) ba) (.slice (some ⟨W.heap.size, 0, none⟩) 1 1) [p] (in_one (x := p) _ _ #[.string p] 9 (0, 0) (by rw [heap_al, if_pos rfl]) rfl) (by
          have h1 := (hS.out.1.few (by rw [← HS.out.2]; exact hle)).1
          have h2 := HN.out
          simp only [ES, List.length_map, List.length_singleton]
          omega)
        have el : (Dl.map fun x => pcS (bt x)).length + [p].length = n + 1 := by rw [List.length_map, hS.out.2.1]; rfl
        rw [el] at e1 e2 e3
        refine ⟨b2, c2, w2, e1, e2, hbw.trans (Below.trans (ba.mono hbw.size) (e3.belowB (Nat.le_trans hbw.size ba.size) hS.out.2.2.2.2)), fun j hj => ?_⟩
        rcases e3.own j hj with e | e
        · exact hS.out.2.2.2.2 j e
        · exact Nat.le_trans (Nat.le_trans hbw.size ba.size) e
      have HX : Hid ((s.extract fr i).size ≤ 140737488351232) := by
        show _ ≤ _
        rw [Lib.size_eq, ext_list, List.length_take, List.length_drop, ← Lib.size_eq]
        omega
      have HT : Hid ((⟨(Lib.trimS (s.extract fr i).data.toList [32, 9]).toArray⟩ : ByteArray).size ≤ 140737488351232) := by
        show _ ≤ _
        have h1 := trim_len (s.extract fr i).data.toList [32, 9]
        have h2 := HX.out
        rw [Lib.size_eq] at h2
        rw [Lib.size_eq]
        simp only [List.toList_toArray]
        omega
      obtain ⟨T, hT⟩ : ∃ T, (⟨(Lib.trimS (s.extract fr i).data.toList [32, 9]).toArray⟩ : ByteArray) = T := ⟨_, rfl⟩
      have HTT : Hid ((⟨(Lib.trimS (s.extract fr i).data.toList [32, 9]).toArray⟩ : ByteArray) = T) := hT
      obtain ⟨p, hp⟩ : ∃ p, smS T = p := ⟨_, rfl⟩
      have HP : Hid (smS T = p) := hp
      have HPC : Hid (pcS (bt ((l.drop fr).take (i - fr))) = p) := by show _ = _; rw [← hp, ← hT, pc_of s fr i l HS.out.1]
      rw [hT] at HT
      clear hp hT
      by_cases hel : i = s.size
      · have HNX : Hid (PcS l (i + 1) (i + 1) (Dl ++ [(l.drop fr).take (i - fr)]) ∧ n + 1 = (Dl ++ [(l.drop fr).take (i - fr)]).length) := by
          have h := hS.out.1
          rw [hel, HS.out.2] at h
          refine ⟨?_, by rw [List.length_append, hS.out.2.1]; rfl⟩
          rw [hel, HS.out.2]
          exact h.last
        have he1 : ((i : Int) == (s.size : Int)) = true := by simp; omega
        have he2 : (i : Int) = (s.size : Int) := by omega
        clear hS
        subst hel
        go_wp2_with fail
        go_at_call 101
        refine (trimmed_any (s.extract fr (s.size)) _ (by have := HX.out; omega)).mono ?_
        rintro e w' ⟨rfl, hww⟩
        rw [HTT.out]
        replace hww := hww.symm
        subst hww
        go_wp2_with fail
        go_at_call 100
        refine (rsmall_any T _ HT.out).mono ?_
        rintro e w1 ⟨rfl, bX⟩
        rw [HP.out]
        obtain ⟨b2, c2, w2, a1, a2⟩ := HA.out w1 p bX
        replace a1 : Hid _ := a1
        replace a2 : Hid _ := a2
        clear bX HA
        go_wp2_with (at_builtin; refine Lib.wpList_append_run _ rfl _ _ _ _ rfl _ _ rfl rfl _ _ a1.out ?_)
        go_roundw
        case rel => exact ⟨s.size + 1, s.size + 1, n + 1, b2, c2, Dl ++ [(l.drop fr).take ((s.size) - fr)], by simp, by simp, by first | rfl | simp, by omega, HNX.out.1, HNX.out.2, by rw [List.map_append, List.map_cons, List.map_nil, HPC.out]; exact a2.out.1, a2.out.2⟩
        case measure => simp [intOf]
      · have hlt : i < s.size := by omega
        have hlt' : (i : Int) < (s.size : Int) := by omega
        have he1 : ((i : Int) == (s.size : Int)) = false := by simp; omega
        have he2 : ¬ (i : Int) = (s.size : Int) := by omega
        obtain ⟨x, hx⟩ : ∃ x : UInt8, s[i] = x := ⟨_, rfl⟩
        have HXL : Hid (l[i]? = some x) := by
          show _ = _
          rw [← HS.out.1, List.getElem?_eq_getElem (by rw [← Lib.size_eq]; exact hlt), ← hx]
          simp <;> rfl
        by_cases hc : x.toNat = 44
        · have HNX : Hid (PcS l (i + 1) (i + 1) (Dl ++ [(l.drop fr).take (i - fr)]) ∧ n + 1 = (Dl ++ [(l.drop fr).take (i - fr)]).length) := by
            refine ⟨hS.out.1.comma (by rw [← HS.out.2]; exact hlt) ?_, by rw [List.length_append, hS.out.2.1]; rfl⟩
            rw [HXL.out, show x = 44 from UInt8.toNat_inj.1 hc]
          have hc1 : ((x.toNat : Int) == 44) = true := by simp; omega
          have hc2 : (x.toNat : Int) = 44 := by omega
          clear hS hc
          go_wp2_with fail
          go_at_call 101
          refine (trimmed_any (s.extract fr (i)) _ (by have := HX.out; omega)).mono ?_
          rintro e w' ⟨rfl, hww⟩
          rw [HTT.out]
          replace hww := hww.symm
          subst hww
          go_wp2_with fail
          go_at_call 100
          refine (rsmall_any T _ HT.out).mono ?_
          rintro e w1 ⟨rfl, bX⟩
          rw [HP.out]
          obtain ⟨b2, c2, w2, a1, a2⟩ := HA.out w1 p bX
          replace a1 : Hid _ := a1
          replace a2 : Hid _ := a2
          clear bX HA
          go_wp2_with (at_builtin; refine Lib.wpList_append_run _ rfl _ _ _ _ rfl _ _ rfl rfl _ _ a1.out ?_)
          go_roundw
          case rel => exact ⟨i + 1, i + 1, n + 1, b2, c2, Dl ++ [(l.drop fr).take ((i) - fr)], by simp, by simp, by first | rfl | simp, by omega, HNX.out.1, HNX.out.2, by rw [List.map_append, List.map_cons, List.map_nil, HPC.out]; exact a2.out.1, a2.out.2⟩
          case measure => simp [intOf]; omega
        · have HNX : Hid (PcS l (i + 1) fr Dl) := hS.out.1.other (by rw [← HS.out.2]; exact hlt) (by rw [HXL.out]; intro e; injection e with e; exact hc (by rw [e]; rfl))
          have hc1 : ((x.toNat : Int) == 44) = false := by simp; omega
          have hc2 : ¬ (x.toNat : Int) = 44 := by omega
          have HST := hS
          clear hS hc HA HX HT HP HPC
          go_wp2_with fail
          go_roundw
          case rel => exact ⟨i + 1, fr, n, b, c, Dl, by simp, by first | rfl | simp, by first | rfl | simp, by omega, HNX.out, HST.out.2⟩
          case measure => simp [intOf]; omega
    · have hle' : ¬ (i : Int) ≤ (s.size : Int) := by omega
      have HE : Hid (VsPost ((cutL l).map fun x => pcS (bt x)) w (.returned (.slice b n c)) wr) := by
        obtain ⟨h1, h2, h3, h4, h5⟩ := hS.out
        rcases h1 with ⟨h, _⟩ | ⟨_, h⟩
        · have := HS.out.2; omega
        · rw [h]; exact ⟨(b, n, c), rfl, h4, h3, h5⟩
      clear hS
      go_wp2_with fail
      go_ret
      exact HE.out
end Go.Proofs.YtfponcdhaefkdaaDoor
/- Which requests are alike: plain facts. -/
namespace Go.Proofs.YtfponcdhaefkdaaDoor
open Go.RowKit
set_option linter.unusedVariables false
set_option linter.unusedSimpArgs false

theorem eqB_iff {a b : List ByteArray} : eqB a b = true ↔ a = b := by unfold eqB; simp
theorem mtB_iff {p q : Rq} {P Q : List Fd} {l : List ByteArray} : mtB p q P Q l = true ↔ hdL p = hdL q ∧ ∀ x ∈ l, vsL P x = vsL Q x := by
  unfold mtB mtL
  rw [Bool.and_eq_true, eqB_iff, List.all_eq_true]
  constructor
  · rintro ⟨h1, h2⟩
    exact ⟨h1, fun x hx => eqB_iff.1 (h2 x hx)⟩
  · rintro ⟨h1, h2⟩
    exact ⟨h1, fun x hx => eqB_iff.2 (h2 x hx)⟩
theorem mtB_refl (p : Rq) (P : List Fd) (l : List ByteArray) : mtB p p P P l = true := mtB_iff.2 ⟨rfl, fun _ _ => rfl⟩
theorem mtB_eq {p q p' q' : Rq} {P Q P' Q' : List Fd} {l l' : List ByteArray} (h : mtB p q P Q l = true ↔ mtB p' q' P' Q' l' = true) : mtB p q P Q l = mtB p' q' P' Q' l' := by
  cases h1 : mtB p q P Q l <;> cases h2 : mtB p' q' P' Q' l' <;> simp_all
theorem mtB_symm (p q : Rq) (P Q : List Fd) (l : List ByteArray) : mtB q p Q P l = mtB p q P Q l := mtB_eq (by
  rw [mtB_iff, mtB_iff]
  exact ⟨fun h => ⟨h.1.symm, fun x hx => (h.2 x hx).symm⟩, fun h => ⟨h.1.symm, fun x hx => (h.2 x hx).symm⟩⟩)
theorem mtB_trans {p q r : Rq} {P Q R' : List Fd} {l : List ByteArray} (h1 : mtB p q P Q l = true) (h2 : mtB q r Q R' l = true) : mtB p r P R' l = true := by
  rw [mtB_iff] at *
  exact ⟨h1.1.trans h2.1, fun x hx => (h1.2 x hx).trans (h2.2 x hx)⟩
theorem mtB_mem {p q : Rq} {P Q : List Fd} {l l' : List ByteArray} (h : ∀ x, x ∈ l ↔ x ∈ l') : mtB p q P Q l = mtB p q P Q l' := mtB_eq (by
  rw [mtB_iff, mtB_iff]
  exact ⟨fun g => ⟨g.1, fun x hx => g.2 x ((h x).2 hx)⟩, fun g => ⟨g.1, fun x hx => g.2 x ((h x).1 hx)⟩⟩)
theorem mtB_take {p q : Rq} {P Q : List Fd} {l : List ByteArray} (k : Nat) (h : mtB p q P Q l = true) : mtB p q P Q (l.take k) = true := by
  rw [mtB_iff] at *
  exact ⟨h.1, fun x hx => h.2 x (List.mem_of_mem_take hx)⟩
/-- names from the last on, each twice -/
def tnD (l : List ByteArray) (j : Nat) : List ByteArray := (l.drop j).reverse.flatMap fun x => [x, x]
theorem tnD_step (l : List ByteArray) (j : Nat) (h : j < l.length) : tnD l j = tnD l (j + 1) ++ [l[j], l[j]] := by
  unfold tnD
  rw [List.drop_eq_getElem_cons h, List.reverse_cons, List.flatMap_append]
  simp
theorem tnD_end (l : List ByteArray) : tnD l l.length = [] := by simp [tnD]
theorem two_len : ∀ l : List ByteArray, (l.flatMap fun x => [x, x]).length = 2 * l.length
  | [] => rfl
  | x :: r => by
    rw [List.flatMap_cons, List.length_append, two_len r]
    simp
    omega
theorem tnD_len (l : List ByteArray) (j : Nat) : (tnD l j).length ≤ 2 * l.length := by
  unfold tnD
  rw [two_len, List.length_reverse, List.length_drop]
  omega
theorem tnD_mem (l : List ByteArray) (x : ByteArray) : x ∈ tnD l 0 ↔ x ∈ l := by
  unfold tnD
  simp
end Go.Proofs.YtfponcdhaefkdaaDoor
/- Fields that are named and that are not: plain facts; named. -/
namespace Go.Proofs.YtfponcdhaefkdaaDoor
open Go.RowKit
set_option linter.unusedVariables false
set_option linter.unusedSimpArgs false

def nmB (l : List ByteArray) (s : ByteArray) : Bool := l.any fun x => decide (x = s)
theorem nmB_iff {l : List ByteArray} {s : ByteArray} : nmB l s = true ↔ s ∈ l := by
  unfold nmB
  rw [List.any_eq_true]
  constructor
  · rintro ⟨x, hx, h⟩
    have : x = s := by simpa using h
    rw [← this]; exact hx
  · intro h
    exact ⟨s, h, by simp⟩
theorem vsL_app (a b : List Fd) (s : ByteArray) : vsL (a ++ b) s = vsL a s ++ vsL b s := by unfold vsL; rw [List.filterMap_append]
theorem vsL_one (f : Fd) (s : ByteArray) : vsL [f] s = if f.n = s then [f.v] else [] := by
  unfold vsL
  by_cases h : f.n = s <;> simp [h]
theorem mt_not {p q : Rq} {P Q : List Fd} {l : List ByteArray} {s : ByteArray} (hh : hdL p = hdL q) (h1 : vsL P s ≠ vsL Q s) (h2 : ∀ x, x ≠ s → vsL P x = vsL Q x) : mtB p q P Q l = !nmB l s := by
  cases hn : nmB l s
  · refine mtB_iff.2 ⟨hh, fun x hx => h2 x fun e => ?_⟩
    rw [e] at hx
    rw [nmB_iff.2 hx] at hn
    cases hn
  · cases hm : mtB p q P Q l
    · rfl
    · exact absurd ((mtB_iff.1 hm).2 s (nmB_iff.1 hn)) h1
def inL (P : List Fd) (a : Nat) (f : Fd) : List Fd := P.take a ++ [f] ++ P.drop a
theorem vs_in (P : List Fd) (a : Nat) (f : Fd) (x : ByteArray) : vsL (inL P a f) x = vsL (P.take a) x ++ (if f.n = x then [f.v] else []) ++ vsL (P.drop a) x := by
  unfold inL
  rw [vsL_app, vsL_app, vsL_one]
theorem vs_parts (P : List Fd) (a : Nat) (x : ByteArray) : vsL P x = vsL (P.take a) x ++ vsL (P.drop a) x := by
  rw [← vsL_app, List.take_append_drop]
theorem in_len {P : List Fd} {a : Nat} (h : a ≤ P.length) (f : Fd) : (inL P a f).length = P.length + 1 := by
  unfold inL; simp; omega
theorem in_set {P : List Fd} {a : Nat} (h : a ≤ P.length) (f g : Fd) : (inL P a f).set a g = inL P a g := by
  unfold inL
  rw [List.append_assoc, List.append_assoc, List.set_append_right _ _ (by simp <;> omega)]
  congr 1
  have : a - (P.take a).length = 0 := by simp; omega
  rw [this]
  rfl
theorem in_at {P : List Fd} {a : Nat} (h : a ≤ P.length) (f : Fd) (h' : a < (inL P a f).length) : (inL P a f)[a] = f := by
  unfold inL
  have hl : (P.take a).length = a := by simp; omega
  simp only [List.append_assoc]
  rw [List.getElem_append_right (by omega)]
  simp [hl]
/-- one field more -/
theorem mt_more (p q : Rq) (P : List Fd) (l : List ByteArray) (a : Nat) (f : Fd) (hh : hdL p = hdL q) : mtB p q P (inL P a f) l = !nmB l f.n := by
  refine mt_not hh (fun e => ?_) fun x hx => ?_
  · have := congrArg List.length e
    rw [vs_in, vs_parts P a] at this
    simp at this
  · rw [vs_in, vs_parts P a, if_neg (fun e => hx e.symm)]
    simp
/-- another value -/
theorem mt_other (p q : Rq) (P : List Fd) (l : List ByteArray) (a : Nat) (f g : Fd) (hh : hdL p = hdL q) (hn : g.n = f.n) (hv : g.v ≠ f.v) : mtB p q (inL P a g) (inL P a f) l = !nmB l f.n := by
  refine mt_not hh (fun e => ?_) fun x hx => ?_
  · rw [vs_in, vs_in, hn, if_pos rfl, if_pos rfl, List.append_assoc, List.append_assoc] at e
    have := List.append_cancel_left e
    simp at this
    exact hv this
  · rw [vs_in, vs_in, hn, if_neg (fun e => hx e.symm), if_neg (fun e => hx e.symm)]
/-- the same value -/
theorem mt_same (p q : Rq) (P : List Fd) (l : List ByteArray) (a : Nat) (f g : Fd) (hh : hdL p = hdL q) (hn : g.n = f.n) (hv : g.v = f.v) : mtB p q (inL P a g) (inL P a f) l = true := by
  refine mtB_iff.2 ⟨hh, fun x _ => ?_⟩
  rw [vs_in, vs_in, hn, hv]
theorem more_ne (v w : ByteArray) (h : 0 < w.size) : v ++ w ≠ v := fun e => by
  have := congrArg ByteArray.size e
  rw [ByteArray.size_append] at this
  omega

end Go.Proofs.YtfponcdhaefkdaaDoor
/- The document's Names. -/
namespace Go.Proofs.YtfponcdhaefkdaaDoor
open Go.RowKit
set_option linter.unusedVariables false
set_option linter.unusedSimpArgs false
theorem cnt_snoc2 (ps : List ByteArray) (q p : ByteArray) : cnt (ps ++ [q]) p = cnt ps p + if q = p then 1 else 0 := by
  unfold cnt
  rw [List.countP_append]
  by_cases h : q = p <;> simp [h]
theorem cnt_cons (r : List ByteArray) (q p : ByteArray) : cnt (q :: r) p = cnt r p + if q = p then 1 else 0 := by
  unfold cnt
  by_cases h : q = p <;> simp [h]
theorem mem_nmG (p : ByteArray) : ∀ (r seen : List ByteArray), p ∈ nmG seen r ↔ cnt seen p = 0 ∧ cnt r p ≠ 0 ∧ p ≠ noS ∧ p ≠ starS
  | [], seen => by simp [nmG, cnt]
  | q :: r, seen => by
    rw [nmG, List.mem_append, mem_nmG p r (seen ++ [q]), cnt_snoc2, cnt_cons]
    by_cases h : q = p
    · subst h
      by_cases hc : cnt seen q ≠ 0 ∨ q = noS ∨ q = starS
      · rw [if_pos hc]
        simp only [if_true, List.not_mem_nil, false_or]
        constructor
        · rintro ⟨h, _⟩; omega
        · rintro ⟨h1, _, h2, h3⟩
          rcases hc with h | h | h
          · exact absurd h1 h
          · exact absurd h h2
          · exact absurd h h3
      · rw [if_neg hc]
        simp only [not_or, Decidable.not_not, ne_eq] at hc
        simp [hc.1, hc.2.1, hc.2.2]
    · rw [if_neg h]
      have hm : p ∉ (if cnt seen q ≠ 0 ∨ q = noS ∨ q = starS then [] else [q]) := by
        split
        · simp
        · simp; exact fun e => h e.symm
      simp [hm]
theorem mem_nmL (p : ByteArray) (ps : List ByteArray) : p ∈ nmL ps ↔ cnt ps p ≠ 0 ∧ p ≠ noS ∧ p ≠ starS := by
  unfold nmL
  rw [mem_nmG]
  simp [cnt]
/-- what is told already, or is no name -/
def thB (ps : List ByteArray) (p : ByteArray) : Bool := decide (cnt ps p ≠ 0 ∨ p = noS ∨ p = starS)
/-- so far as the first j that are told show it -/
def thJ (ps : List ByteArray) (p : ByteArray) (j : Nat) : Bool := decide (p = noS ∨ p = starS) || ((nmL ps).take j).any fun x => decide (x = p)
theorem thJ_all (ps : List ByteArray) (p : ByteArray) : thJ ps p (nmL ps).length = thB ps p := by
  unfold thJ thB
  rw [List.take_length]
  have hm := mem_nmL p ps
  have ha : ((nmL ps).any fun x => decide (x = p)) = true ↔ p ∈ nmL ps := by
    rw [List.any_eq_true]
    constructor
    · rintro ⟨x, h1, h2⟩
      rw [← of_decide_eq_true h2]; exact h1
    · exact fun h => ⟨p, h, decide_eq_true rfl⟩
  rw [Bool.eq_iff_iff, Bool.or_eq_true, ha, hm, decide_eq_true_iff, decide_eq_true_iff]
  constructor
  · rintro (h | h)
    · exact .inr h
    · exact .inl h.1
  · rintro (h | h)
    · by_cases h1 : p = noS
      · exact .inl (.inl h1)
      · by_cases h2 : p = starS
        · exact .inl (.inr h2)
        · exact .inr ⟨h, h1, h2⟩
    · exact .inl h
theorem thJ_succ (ps : List ByteArray) (p : ByteArray) (j : Nat) (h : j < (nmL ps).length) : thJ ps p (j + 1) = (thJ ps p j || decide ((nmL ps)[j] = p)) := by
  unfold thJ
  rw [List.take_succ_eq_append_getElem h, List.any_append, ← Bool.or_assoc]
  simp
structure RnJ (w wb : World) (b : Option Addr) (n c : Nat) (PS : List ByteArray) (st : Bool) (W : World) : Prop where
  row : R ES W (.slice b n c) (nmL PS)
  len : n = (nmL PS).length
  star : st = decide (0 < cnt PS starS)
  bel : Below wb.heap.size wb W
  own : ∀ j, (Value.slice b n c).ownBlock = some j → w.heap.size ≤ j
theorem RnJ.below {w wb : World} {b : Option Addr} {n c : Nat} {PS : List ByteArray} {st : Bool} {W W' : World} (h : RnJ w wb b n c PS st W) (hb : Below W.heap.size W W') : RnJ w wb b n c PS st W' := ⟨R.below h.row hb, h.len, h.star, h.bel.trans (hb.mono h.bel.size), h.own⟩
end Go.Proofs.YtfponcdhaefkdaaDoor
/- The document's Names, walked. -/
namespace Go.Proofs.YtfponcdhaefkdaaDoor
open Go.RowKit
set_option linter.unusedVariables false
set_option linter.unusedSimpArgs false
theorem no_eq {p : ByteArray} (h : p ≠ noS) : (p.toList == []) = false := by
  rw [beq_eq_false_iff_ne, ByteArray.toList_eq]
  exact fun e => h (ba_eq (b := noS) (by rw [e]; rfl))
theorem ne_vary {p : ByteArray} (h : p ≠ varyS) : (p.toList == [118, 97, 114, 121]) = false := by
  rw [beq_eq_false_iff_ne, ByteArray.toList_eq]
  exact fun e => h (ba_eq (b := varyS) (by rw [e]; rfl))
theorem star_snoc (PS : List ByteArray) (p : ByteArray) : decide (0 < cnt (PS ++ [p]) starS) = (decide (0 < cnt PS starS) || decide (p = starS)) := by
  rw [cnt_snoc2]
  by_cases h : p = starS <;> simp [h]
theorem RnJ.skip {w wb : World} {b : Option Addr} {n c : Nat} {PS : List ByteArray} {st : Bool} {W : World} (h : RnJ w wb b n c PS st W) {p : ByteArray} (ht : thB PS p = true) : RnJ w wb b n c (PS ++ [p]) (st || decide (p = starS)) W := by
  have e : nmL (PS ++ [p]) = nmL PS := by rw [nmL_snoc, if_pos (of_decide_eq_true ht), List.append_nil]
  exact ⟨by rw [e]; exact h.row, by rw [e]; exact h.len, by rw [star_snoc, h.star], h.bel, h.own⟩
theorem RnJ.add {wb : World} {b : Option Addr} {n c : Nat} {PS : List ByteArray} {st : Bool} {W : World} (h : RnJ wb wb b n c PS st W) {p : ByteArray} (ht : thB PS p = false) (hl : PS.length ≤ 4398046511104) {lb : Option Addr} {lm lc : Nat} {pcs : List ByteArray} (hr : R ES W (.slice lb lm lc) pcs) (hd : ∀ j, (Value.slice b n c).ownBlock = some j → (Value.slice lb lm lc).ownBlock ≠ some j) :
    ∃ b2 c2 w2, (Builtin.append_ #[27, 27] 27 #[.slice b n c, .slice (some ⟨W.heap.size, 0, none⟩) 1 1]).run Tryd.prog (W.alloc (.cells #[.string p] 9)) = .ok (.slice b2 (n + 1) c2) w2 ∧ RnJ wb wb b2 (n + 1) c2 (PS ++ [p]) (st || decide (p = starS)) w2 ∧ R ES w2 (.slice lb lm lc) pcs ∧ ∀ j, (Value.slice b2 (n + 1) c2).ownBlock = some j → (Value.slice lb lm lc).ownBlock ≠ some j := by
  have ba := bel1 W (.cells #[.string p] 9)
  obtain ⟨b2, c2, w2, e1, e2, e3⟩ := app okS (W.alloc (.cells #[.string p] 9)) _ _ (R.below h.row ba) (.slice (some ⟨W.heap.size, 0, none⟩) 1 1) [p] (in_one (x := p) _ _ #[.string p] 9 (0, 0) (by rw [heap_al, if_pos rfl]) rfl) (by
    have := nmL_len PS
    simp only [ES, List.length_singleton]
    omega)
  have el : (nmL PS).length + [p].length = n + 1 := by rw [h.len]; rfl
  rw [el] at e1 e2 e3
  have hn : nmL (PS ++ [p]) = nmL PS ++ [p] := by rw [nmL_snoc, if_neg (of_decide_eq_false ht)]
  have hlt : ∀ j, (Value.slice lb lm lc).ownBlock = some j → j < W.heap.size := fun j hj => R.lt hr j hj
  refine ⟨b2, c2, w2, e1, ⟨by rw [hn]; exact e2, by rw [hn, List.length_append, ← h.len]; rfl, by rw [star_snoc, h.star], h.bel.trans (Below.trans (ba.mono h.bel.size) (e3.belowB (Nat.le_trans h.bel.size ba.size) h.own)), fun j hj => ?_⟩, R.stays (R.below hr ba) (fun j hj hl' => e3.block j hl' fun e => hd j e hj), fun j hj hj2 => ?_⟩
  · rcases e3.own j hj with e | e
    · exact h.own j e
    · exact Nat.le_trans (Nat.le_trans h.bel.size ba.size) e
  · rcases e3.own j hj with e | e
    · exact hd j e hj2
    · have := hlt j hj2
      have := ba.size
      omega
theorem vs_step (L : List Fd) (i : Nat) (h : i < L.length) (s : ByteArray) : vsL (L.take (i + 1)) s = vsL (L.take i) s ++ (if L[i].n = s then [L[i].v] else []) := by
  rw [List.take_succ_eq_append_getElem h, vsL_app, vsL_one]
theorem allP_app (a b : List ByteArray) : allP (a ++ b) = allP a ++ allP b := by unfold allP; rw [List.flatMap_append]
theorem allP_one (v : ByteArray) : allP [v] = (cutS v).map pcS := by unfold allP; simp
theorem vs_front (L : List Fd) (i : Nat) (s : ByteArray) : ∃ t, vsL L s = vsL (L.take i) s ++ t := ⟨vsL (L.drop i) s, by rw [← vsL_app, List.take_append_drop]⟩
set_option maxHeartbeats 8000000 in
set_option maxRecDepth 100000 in
theorem rnames_any (n0 : Int) (y : SV) (b0 : ByteArray) (L : List Fd) (w : World) (hI : In EFd w (sv y) L) (hz : ∀ v ∈ vsL L varyS, v.size ≤ 140737488351232) (hp : (allP (vsL L varyS)).length ≤ 4398046511104) :
    Calls Tryd.prog 85 #[.agg (rsv n0 (sv y) b0)] w fun e w' => NmPost (vsL L varyS) w e w' := by
  obtain ⟨yb, n, yc⟩ := y
  obtain ⟨wb, hwb⟩ : ∃ x, w.alloc (.cells (rsv n0 (sv (yb, n, yc)) b0) 26) = x := ⟨_, rfl⟩
  have BB : Hid (Below w.heap.size w wb) := by rw [← hwb]; exact bel1 w _
  have HBX : Hid (wb.heap[w.heap.size]? = some (.cells (rsv n0 (sv (yb, n, yc)) b0) 26)) := by rw [← hwb]; show _ = _; rw [heap_al, if_pos rfl]
  have HW : Hid (w.alloc (.cells #[.int .i64 n0, .slice yb n yc, .string b0] 26) = wb) := hwb
  obtain ⟨e1, e2, e3⟩ := slice_len (show In EFd w (.slice yb n yc) L from hI)
  have EN : Hid (n = L.length) := e1
  have hnc : n ≤ yc := by omega
  have HI : Hid (In EFd w (.slice yb n yc) L) := hI
  have HZ : Hid (∀ v ∈ vsL L varyS, v.size ≤ 140737488351232) := hz
  have HP : Hid ((allP (vsL L varyS)).length ≤ 4398046511104) := hp
  clear hI hz hp hwb e1 e2
  simp only [rsv, sv]
  go_enter Tryd.func85, Tryd.ntmps85
  go_wp2_with fail
  rw [HW.out]
  clear HW
  go_loopw [4, 5, 6, 7, 8, 9, 10] (fun ov tv iv _ _ _ _ wr => ∃ (i : Nat) (b : Option Addr) (m c : Nat) (st : Bool), iv = .int .i64 (i : Int) ∧ ov = .slice b m c ∧ tv = .bool st ∧ i ≤ n ∧ Hid (RnJ wb wb b m c (allP (vsL (L.take i) varyS)) st wr)) (fun _ _ iv _ _ _ _ _ => n - (intOf iv).toNat)
  case atStart => exact ⟨0, none, 0, 0, false, rfl, rfl, rfl, by omega, R.nil ES wb, rfl, rfl, Below.refl _ _, fun j hj => by simp [Value.ownBlock] at hj⟩
  case round =>
    obtain ⟨i, b, m, c, st, rfl, rfl, rfl, hi, hS⟩ := hrel
    have hbl := (hS.out.bel.block _ (heap_lt HBX.out)).trans HBX.out
    have x1 := cell_blk hbl 1
    have xl := heap_lt hbl
    simp only [rsv, sv, List.getElem?_toArray, List.getElem?_cons_succ, List.getElem?_cons_zero] at x1
    clear hbl
    by_cases hlt : i < n
    · have hlt' : (i : Int) < (n : Int) := by omega
      have ka : i < L.length := by have := EN.out; omega
      have BW : Below w.heap.size w wr := BB.out.trans (hS.out.bel.mono BB.out.size)
      obtain ⟨B1, o1, c1, e, c0⟩ := HI.out.fd i ka
      injection e with e1 e2 e3
      subst e1
      clear e2 e3
      obtain ⟨f0, f1, f2⟩ := c0 wr BW
      have HV : Hid (vsL (L.take (i + 1)) varyS = vsL (L.take i) varyS ++ (if L[i].n = varyS then [L[i].v] else [])) := vs_step L i ka varyS
      have HVZ : Hid (L[i].n = varyS → L[i].v.size ≤ 140737488351232) := fun h => HZ.out _ (by
        obtain ⟨t, ht⟩ := vs_front L (i + 1) varyS
        rw [ht, HV.out, if_pos h]; simp)
      have HVP : Hid (L[i].n = varyS → (allP (vsL (L.take i) varyS)).length + ((cutS L[i].v).map pcS).length ≤ 4398046511104) := fun h => by
        obtain ⟨t, ht⟩ := vs_front L (i + 1) varyS
        have h1 := HP.out
        rw [ht, HV.out, if_pos h, allP_app, allP_app, allP_one, List.length_append, List.length_append] at h1
        omega
      obtain ⟨⟨fn, fv, fnv⟩, hf⟩ : ∃ f, L[i] = f := ⟨_, rfl⟩
      rw [hf] at f0 f1 f2 HV HVZ HVP
      simp only at f0 f1 f2 HV HVZ HVP
      clear c0 hf f2 BW ka
      by_cases hv : fn = varyS
      · subst hv
        rw [if_pos rfl] at HV
        have vz := HVZ.out rfl
        have vp : Hid _ := HVP.out rfl
        obtain ⟨PS, hPS⟩ : ∃ x, allP (vsL (L.take i) varyS) = x := ⟨_, rfl⟩
        obtain ⟨pcs, hpcs⟩ : ∃ x, (cutS fv).map pcS = x := ⟨_, rfl⟩
        have HNX : Hid (allP (vsL (L.take (i + 1)) varyS) = PS ++ pcs) := by show _ = _; rw [HV.out, allP_app, allP_one, hPS, hpcs]
        rw [hPS] at hS vp
        rw [hpcs] at vp
        have hpp := pieces_any fv wr vz (by have h := vp.out; rw [← hpcs, List.length_map] at h; omega)
        rw [hpcs] at hpp
        replace hpp : Hid (Calls Tryd.prog 92 #[.string fv] wr fun e w' => VsPost pcs wr e w') := hpp
        clear hPS hpcs HV HVZ HVP vz
        simp only [varyS] at f0
        go_wp2_with fail
        go_at_call 92
        refine Calls.mono hpp.out ?_
        rintro e w1 ⟨⟨lb, lm, lc⟩, rfl, bX, rX, oX⟩
        have RR : Hid (RnJ wb wb b m c PS st w1 ∧ R ES w1 (.slice lb lm lc) pcs ∧ ∀ j, (Value.slice b m c).ownBlock = some j → (Value.slice lb lm lc).ownBlock ≠ some j) := ⟨hS.out.below bX, rX, fun j h1 h2 => by
          have h3 := R.lt hS.out.row j h1
          have h4 := oX j h2
          omega⟩
        obtain ⟨q1, q2, q3⟩ := slice_len (R.isIn (show R ES w1 (.slice lb lm lc) pcs from rX))
        have EL : Hid (lm = pcs.length) := q1
        have hlc : lm ≤ lc := by omega
        have hlm : lm ≤ 4398046511104 := by have := vp.out; omega
        clear hS bX rX oX x1 xl f0 f1 hpp q1 q2
        simp only [sv]
        go_wp2_with fail
        go_loopw [4, 5, 8, 9, 10] (fun ov tv kv _ _ W => ∃ (k : Nat) (b : Option Addr) (m c : Nat) (st : Bool), kv = .int .i64 (k : Int) ∧ ov = .slice b m c ∧ tv = .bool st ∧ k ≤ lm ∧ Hid (RnJ wb wb b m c (PS ++ pcs.take k) st W ∧ R ES W (.slice lb lm lc) pcs ∧ ∀ j, (Value.slice b m c).ownBlock = some j → (Value.slice lb lm lc).ownBlock ≠ some j)) (fun _ _ kv _ _ _ => lm - (intOf kv).toNat)
        case atStart => exact ⟨0, b, m, c, st, rfl, rfl, rfl, by omega, by show _ ∧ _; rw [List.take_zero, List.append_nil]; exact RR.out⟩
        case round =>
          obtain ⟨k, b', m', c', st', rfl, rfl, rfl, hk, hT⟩ := hrel
          clear RR
          obtain ⟨W, hW⟩ : ∃ x, wr = x := ⟨_, rfl⟩
          by_cases hkl : k < lm
          · have hkl' : (k : Int) < (lm : Int) := by omega
            have kp : k < pcs.length := by have := EL.out; omega
            obtain ⟨B2, o2, c2, e, d0⟩ := (R.isIn hT.out.2.1).str k kp
            injection e with e1 e2 e3
            subst e1
            clear e2 e3
            obtain ⟨p, hp⟩ : ∃ p, pcs[k] = p := ⟨_, rfl⟩
            rw [hp] at d0
            have HTK : Hid (PS ++ pcs.take (k + 1) = PS ++ pcs.take k ++ [p]) := by show _ = _; rw [List.take_succ_eq_append_getElem kp, hp, List.append_assoc]
            obtain ⟨PK, hPK⟩ : ∃ x, PS ++ pcs.take k = x := ⟨_, rfl⟩
            have HPL : Hid (PK.length ≤ 4398046511104) := by
              show _ ≤ _
              have h := vp.out
              rw [← hPK, List.length_append, List.length_take]
              omega
            rw [hPK] at hT HTK
            have HD : Hid (∀ V, Below wr.heap.size wr V → V.cell? ⟨B2, o2 + k, none⟩ = some (.string p)) := d0
            obtain ⟨r1, r2, r3⟩ := slice_len (R.isIn hT.out.1.row)
            have hm4 : m' ≤ 4398046511104 := by
              have h1 := nmL_len PK
              have h2 := HPL.out
              omega
            have hmc : m' ≤ c' := by omega
            have HSK : Hid (thB PK p = true → ∀ V, Below wr.heap.size wr V → RnJ wb wb b' m' c' (PS ++ pcs.take (k + 1)) (st' || decide (p = starS)) V ∧ R ES V (.slice (some ⟨B2, o2, none⟩) lm lc) pcs ∧ ∀ j, (Value.slice b' m' c').ownBlock = some j → (Value.slice (some ⟨B2, o2, none⟩) lm lc).ownBlock ≠ some j) := fun h V hV => by
              rw [HTK.out]
              exact ⟨(hT.out.1.below hV).skip h, R.below hT.out.2.1 hV, hT.out.2.2⟩
            have d1 := d0 _ (Below.refl _ _)
            clear r1 r2 hp hPK kp d0
            subst hW
            by_cases h1 : p = noS
            · have hth : thB PK p = true := by unfold thB; simp [h1]
              replace HSK : Hid (∀ V, Below wr.heap.size wr V → _) := HSK.out hth
              subst h1
              simp only [show decide (noS = starS) = false from rfl, Bool.or_false] at HSK
              simp only [noS] at d1
              clear hT HTK HD hth
              cases st'
              · skip
                obtain ⟨wr0, hwr0⟩ : ∃ x, x = wr := ⟨_, rfl⟩
                subst hwr0
                go_wp2_with fail
                go_loopw [9, 10] (fun tv jv wz => ∃ j : Nat, jv = .int .i64 (j : Int) ∧ tv = .bool true ∧ j ≤ m' ∧ Hid (Below wr0.heap.size wr0 wz)) (fun _ jv _ => m' - (intOf jv).toNat)
                case atStart => exact ⟨0, rfl, rfl, by omega, Below.refl _ _⟩
                case round =>
                  obtain ⟨j, rfl, rfl, hj, hy⟩ := hrel
                  by_cases hjl : j < m'
                  · have hjl' : (j : Int) < (m' : Int) := by omega
                    go_wp2_with fail
                    go_quiet (fail)
                    go_wp2_with fail
                    go_roundw
                    case rel => exact ⟨j + 1, by simp, by first | rfl | simp, by omega, below_drewN hy.out _⟩
                    case measure => simp [intOf]; omega
                  · obtain rfl : j = m' := by omega
                    have hjl' : ¬ (j : Int) < (j : Int) := by omega
                    have hfin : Hid _ := HSK.out wr hy.out
                    go_wp2_with fail
                    go_roundw
                    case rel => exact ⟨k + 1, b', j, c', false, by simp, by first | rfl | simp, by first | rfl | simp, by omega, hfin.out⟩
                    case measure => simp [intOf]; omega
              · skip
                obtain ⟨wr0, hwr0⟩ : ∃ x, x = wr := ⟨_, rfl⟩
                subst hwr0
                go_wp2_with fail
                go_loopw [9, 10] (fun tv jv wz => ∃ j : Nat, jv = .int .i64 (j : Int) ∧ tv = .bool true ∧ j ≤ m' ∧ Hid (Below wr0.heap.size wr0 wz)) (fun _ jv _ => m' - (intOf jv).toNat)
                case atStart => exact ⟨0, rfl, rfl, by omega, Below.refl _ _⟩
                case round =>
                  obtain ⟨j, rfl, rfl, hj, hy⟩ := hrel
                  by_cases hjl : j < m'
                  · have hjl' : (j : Int) < (m' : Int) := by omega
                    go_wp2_with fail
                    go_quiet (fail)
                    go_wp2_with fail
                    go_roundw
                    case rel => exact ⟨j + 1, by simp, by first | rfl | simp, by omega, below_drewN hy.out _⟩
                    case measure => simp [intOf]; omega
                  · obtain rfl : j = m' := by omega
                    have hjl' : ¬ (j : Int) < (j : Int) := by omega
                    have hfin : Hid _ := HSK.out wr hy.out
                    go_wp2_with fail
                    go_roundw
                    case rel => exact ⟨k + 1, b', j, c', true, by simp, by first | rfl | simp, by first | rfl | simp, by omega, hfin.out⟩
                    case measure => simp [intOf]; omega
            · by_cases h2 : p = starS
              · have hth : thB PK p = true := by unfold thB; simp [h2]
                replace HSK : Hid (∀ V, Below wr.heap.size wr V → _) := HSK.out hth
                subst h2
                simp only [show decide (starS = starS) = true from rfl, Bool.or_true] at HSK
                simp only [starS] at d1
                clear hT HTK HD hth h1
                cases st'
                · skip
                  obtain ⟨wr0, hwr0⟩ : ∃ x, x = wr := ⟨_, rfl⟩
                  subst hwr0
                  go_wp2_with fail
                  go_loopw [9, 10] (fun tv jv wz => ∃ j : Nat, jv = .int .i64 (j : Int) ∧ tv = .bool true ∧ j ≤ m' ∧ Hid (Below wr0.heap.size wr0 wz)) (fun _ jv _ => m' - (intOf jv).toNat)
                  case atStart => exact ⟨0, rfl, rfl, by omega, Below.refl _ _⟩
                  case round =>
                    obtain ⟨j, rfl, rfl, hj, hy⟩ := hrel
                    by_cases hjl : j < m'
                    · have hjl' : (j : Int) < (m' : Int) := by omega
                      go_wp2_with fail
                      go_quiet (fail)
                      go_wp2_with fail
                      go_roundw
                      case rel => exact ⟨j + 1, by simp, by first | rfl | simp, by omega, below_drewN hy.out _⟩
                      case measure => simp [intOf]; omega
                    · obtain rfl : j = m' := by omega
                      have hjl' : ¬ (j : Int) < (j : Int) := by omega
                      have hfin : Hid _ := HSK.out wr hy.out
                      go_wp2_with fail
                      go_roundw
                      case rel => exact ⟨k + 1, b', j, c', true, by simp, by first | rfl | simp, by first | rfl | simp, by omega, hfin.out⟩
                      case measure => simp [intOf]; omega
                · skip
                  obtain ⟨wr0, hwr0⟩ : ∃ x, x = wr := ⟨_, rfl⟩
                  subst hwr0
                  go_wp2_with fail
                  go_loopw [9, 10] (fun tv jv wz => ∃ j : Nat, jv = .int .i64 (j : Int) ∧ tv = .bool true ∧ j ≤ m' ∧ Hid (Below wr0.heap.size wr0 wz)) (fun _ jv _ => m' - (intOf jv).toNat)
                  case atStart => exact ⟨0, rfl, rfl, by omega, Below.refl _ _⟩
                  case round =>
                    obtain ⟨j, rfl, rfl, hj, hy⟩ := hrel
                    by_cases hjl : j < m'
                    · have hjl' : (j : Int) < (m' : Int) := by omega
                      go_wp2_with fail
                      go_quiet (fail)
                      go_wp2_with fail
                      go_roundw
                      case rel => exact ⟨j + 1, by simp, by first | rfl | simp, by omega, below_drewN hy.out _⟩
                      case measure => simp [intOf]; omega
                    · obtain rfl : j = m' := by omega
                      have hjl' : ¬ (j : Int) < (j : Int) := by omega
                      have hfin : Hid _ := HSK.out wr hy.out
                      go_wp2_with fail
                      go_roundw
                      case rel => exact ⟨k + 1, b', j, c', true, by simp, by first | rfl | simp, by first | rfl | simp, by omega, hfin.out⟩
                      case measure => simp [intOf]; omega
              · skip
                have n1 := no_eq h1
                have n2 := ne_empty h1
                have n3 := ne_star h2
                have HTH : Hid (thJ PK p 0 = false) := by show _ = _; unfold thJ; simp [h1, h2]
                have HST : Hid (∀ st, (st || decide (p = starS)) = st) := fun st => by simp [h2]
                have HAL : Hid (thJ PK p m' = thB PK p) := by show _ = _; rw [hT.out.1.len]; exact thJ_all PK p
                clear h1 h2
                obtain ⟨wr0, hwr0⟩ : ∃ x, x = wr := ⟨_, rfl⟩
                subst hwr0
                cases st'
                · skip
                  go_wp2_with fail
                  go_loopw [9, 10] (fun tv jv wz => ∃ (j : Nat) (th : Bool), jv = .int .i64 (j : Int) ∧ tv = .bool th ∧ j ≤ m' ∧ Hid (thJ PK p j = th) ∧ Hid (Below wr0.heap.size wr0 wz)) (fun _ jv _ => m' - (intOf jv).toNat)
                  case atStart => exact ⟨0, false, rfl, rfl, by omega, HTH.out, Below.refl _ _⟩
                  case round =>
                    obtain ⟨j, th, rfl, rfl, hj, hth, hy⟩ := hrel
                    have d2 := HD.out wr hy.out
                    clear d1
                    by_cases hjl : j < m'
                    · have hjl' : (j : Int) < (m' : Int) := by omega
                      have jn : j < (nmL PK).length := by rw [← hT.out.1.len]; exact hjl
                      obtain ⟨B3, o3, c3, e, g0⟩ := (R.isIn hT.out.1.row).str j jn
                      injection e with e1 e2 e3
                      subst e1
                      clear e2 e3
                      have g1 := g0 wr hy.out
                      obtain ⟨z, hz⟩ : ∃ z, (nmL PK)[j] = z := ⟨_, rfl⟩
                      rw [hz] at g1
                      have HJ : Hid (thJ PK p (j + 1) = (thJ PK p j || decide (z = p))) := by show _ = _; rw [thJ_succ PK p j jn, hz]
                      clear g0 hz jn
                      cases th
                      · by_cases hzp : z = p
                        · have q1 := str_eq hzp
                          have hnx : Hid (thJ PK p (j + 1) = true) := by show _ = _; rw [HJ.out, hzp]; simp
                          clear HJ hzp hth hT HSK
                          go_wp2_with fail
                          go_quiet (fail)
                          go_wp2_with fail
                          go_roundw
                          case rel => exact ⟨j + 1, true, by simp, by first | rfl | simp, by omega, hnx.out, below_drewN hy.out _⟩
                          case measure => simp [intOf]; omega
                        · have q1 := str_ne hzp
                          have hnx : Hid (thJ PK p (j + 1) = false) := by show _ = _; rw [HJ.out, hth.out]; simp [hzp]
                          clear HJ hzp hth hT HSK
                          go_wp2_with fail
                          go_quiet (fail)
                          go_wp2_with fail
                          go_roundw
                          case rel => exact ⟨j + 1, false, by simp, by first | rfl | simp, by omega, hnx.out, below_drewN hy.out _⟩
                          case measure => simp [intOf]; omega
                      · have hnx : Hid (thJ PK p (j + 1) = true) := by show _ = _; rw [HJ.out, hth.out]; rfl
                        clear HJ hth hT HSK
                        go_wp2_with fail
                        go_quiet (fail)
                        go_wp2_with fail
                        go_roundw
                        case rel => exact ⟨j + 1, true, by simp, by first | rfl | simp, by omega, hnx.out, below_drewN hy.out _⟩
                        case measure => simp [intOf]; omega
                    · obtain rfl : j = m' := by omega
                      have hjl' : ¬ (j : Int) < (j : Int) := by omega
                      rw [HAL.out] at hth
                      cases th
                      · obtain ⟨b2, c2, w2, a1, a2, a3, a4⟩ := (hT.out.1.below hy.out).add hth.out HPL.out (R.below hT.out.2.1 hy.out) hT.out.2.2
                        rw [HST.out, ← HTK.out] at a2
                        have hfin : Hid _ := And.intro a2 (And.intro a3 a4)
                        replace a1 : Hid _ := a1
                        clear a2 a3 a4 hT HSK
                        go_wp2_with (at_builtin; refine Lib.wpList_append_run _ rfl _ _ _ _ rfl _ _ rfl rfl _ _ a1.out ?_)
                        go_roundw
                        case rel => exact ⟨k + 1, b2, j + 1, c2, false, by simp, by first | rfl | simp, by first | rfl | simp, by omega, hfin.out⟩
                        case measure => simp [intOf]; omega
                      · have hfin := HSK.out hth.out wr hy.out
                        rw [HST.out] at hfin
                        replace hfin : Hid _ := hfin
                        clear hT HSK
                        go_wp2_with fail
                        go_roundw
                        case rel => exact ⟨k + 1, b', j, c', false, by simp, by first | rfl | simp, by first | rfl | simp, by omega, hfin.out⟩
                        case measure => simp [intOf]; omega
                · skip
                  go_wp2_with fail
                  go_loopw [9, 10] (fun tv jv wz => ∃ (j : Nat) (th : Bool), jv = .int .i64 (j : Int) ∧ tv = .bool th ∧ j ≤ m' ∧ Hid (thJ PK p j = th) ∧ Hid (Below wr0.heap.size wr0 wz)) (fun _ jv _ => m' - (intOf jv).toNat)
                  case atStart => exact ⟨0, false, rfl, rfl, by omega, HTH.out, Below.refl _ _⟩
                  case round =>
                    obtain ⟨j, th, rfl, rfl, hj, hth, hy⟩ := hrel
                    have d2 := HD.out wr hy.out
                    clear d1
                    by_cases hjl : j < m'
                    · have hjl' : (j : Int) < (m' : Int) := by omega
                      have jn : j < (nmL PK).length := by rw [← hT.out.1.len]; exact hjl
                      obtain ⟨B3, o3, c3, e, g0⟩ := (R.isIn hT.out.1.row).str j jn
                      injection e with e1 e2 e3
                      subst e1
                      clear e2 e3
                      have g1 := g0 wr hy.out
                      obtain ⟨z, hz⟩ : ∃ z, (nmL PK)[j] = z := ⟨_, rfl⟩
                      rw [hz] at g1
                      have HJ : Hid (thJ PK p (j + 1) = (thJ PK p j || decide (z = p))) := by show _ = _; rw [thJ_succ PK p j jn, hz]
                      clear g0 hz jn
                      cases th
                      · by_cases hzp : z = p
                        · have q1 := str_eq hzp
                          have hnx : Hid (thJ PK p (j + 1) = true) := by show _ = _; rw [HJ.out, hzp]; simp
                          clear HJ hzp hth hT HSK
                          go_wp2_with fail
                          go_quiet (fail)
                          go_wp2_with fail
                          go_roundw
                          case rel => exact ⟨j + 1, true, by simp, by first | rfl | simp, by omega, hnx.out, below_drewN hy.out _⟩
                          case measure => simp [intOf]; omega
                        · have q1 := str_ne hzp
                          have hnx : Hid (thJ PK p (j + 1) = false) := by show _ = _; rw [HJ.out, hth.out]; simp [hzp]
                          clear HJ hzp hth hT HSK
                          go_wp2_with fail
                          go_quiet (fail)
                          go_wp2_with fail
                          go_roundw
                          case rel => exact ⟨j + 1, false, by simp, by first | rfl | simp, by omega, hnx.out, below_drewN hy.out _⟩
                          case measure => simp [intOf]; omega
                      · have hnx : Hid (thJ PK p (j + 1) = true) := by show _ = _; rw [HJ.out, hth.out]; rfl
                        clear HJ hth hT HSK
                        go_wp2_with fail
                        go_quiet (fail)
                        go_wp2_with fail
                        go_roundw
                        case rel => exact ⟨j + 1, true, by simp, by first | rfl | simp, by omega, hnx.out, below_drewN hy.out _⟩
                        case measure => simp [intOf]; omega
                    · obtain rfl : j = m' := by omega
                      have hjl' : ¬ (j : Int) < (j : Int) := by omega
                      rw [HAL.out] at hth
                      cases th
                      · obtain ⟨b2, c2, w2, a1, a2, a3, a4⟩ := (hT.out.1.below hy.out).add hth.out HPL.out (R.below hT.out.2.1 hy.out) hT.out.2.2
                        rw [HST.out, ← HTK.out] at a2
                        have hfin : Hid _ := And.intro a2 (And.intro a3 a4)
                        replace a1 : Hid _ := a1
                        clear a2 a3 a4 hT HSK
                        go_wp2_with (at_builtin; refine Lib.wpList_append_run _ rfl _ _ _ _ rfl _ _ rfl rfl _ _ a1.out ?_)
                        go_roundw
                        case rel => exact ⟨k + 1, b2, j + 1, c2, true, by simp, by first | rfl | simp, by first | rfl | simp, by omega, hfin.out⟩
                        case measure => simp [intOf]; omega
                      · have hfin := HSK.out hth.out wr hy.out
                        rw [HST.out] at hfin
                        replace hfin : Hid _ := hfin
                        clear hT HSK
                        go_wp2_with fail
                        go_roundw
                        case rel => exact ⟨k + 1, b', j, c', true, by simp, by first | rfl | simp, by first | rfl | simp, by omega, hfin.out⟩
                        case measure => simp [intOf]; omega
          · obtain rfl : k = lm := by omega
            have hkl' : ¬ (k : Int) < (k : Int) := by omega
            have HN : Hid (RnJ wb wb b' m' c' (allP (vsL (L.take (i + 1)) varyS)) st' wr) := by
              have h := hT.out.1
              rw [EL.out, List.take_length] at h
              rw [HNX.out]
              exact h
            clear hT hW
            go_wp2_with fail
            go_roundw
            case rel => exact ⟨i + 1, b', m', c', st', by simp, by first | rfl | simp, by first | rfl | simp, by omega, HN.out⟩
            case measure => simp [intOf]; omega
      · have HV2 : Hid (vsL (L.take (i + 1)) varyS = vsL (L.take i) varyS) := by show _ = _; rw [HV.out, if_neg hv, List.append_nil]
        have q1 := ne_vary hv
        have q2 : (fn.toList != [118, 97, 114, 121]) = true := by rw [bne, q1]; rfl
        have HN : Hid (RnJ wb wb b m c (allP (vsL (L.take (i + 1)) varyS)) st wr) := by rw [HV2.out]; exact hS.out
        clear hS hv HV HVZ HVP
        go_wp2_with fail
        go_roundw
        case rel => exact ⟨i + 1, b, m, c, st, by simp, by first | rfl | simp, by first | rfl | simp, by omega, HN.out⟩
        case measure => simp [intOf]; omega
    · obtain rfl : i = n := by omega
      have hlt' : ¬ (i : Int) < (i : Int) := by omega
      have HE : Hid (NmPost (vsL L varyS) w (.returned (.tuple #[.slice b m c, .bool st])) wr) := by
        have h := hS.out
        rw [EN.out, List.take_length] at h
        refine ⟨(b, m, c), by rw [h.star]; rfl, BB.out.trans (h.bel.mono BB.out.size), h.row, fun j hj => Nat.le_trans BB.out.size (h.own j hj)⟩
      clear hS
      go_wp2_with fail
      go_ret2
      exact HE.out
end Go.Proofs.YtfponcdhaefkdaaDoor
