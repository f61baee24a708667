/- Match as the document tells it. -/
import Derived.Test.YtckdldbheejmhaaDoorA3
import Derived.Test.YtckdldbheejmhaaDoorS
import Derived.Deep.RegionHeld3
namespace Go.Proofs.YtckdldbheejmhaaDoor
open Go.RowKit
set_option linter.unusedVariables false
set_option linter.unusedSimpArgs false

set_option maxHeartbeats 8000000 in
set_option maxRecDepth 100000 in
theorem rmatch_any (p q : Rq) (t : SV) (P Q : List Fd) (l : List ByteArray) (w : World) (hP : In EFd w (sv p.y) P) (hQ : In EFd w (sv q.y) Q) (hl : In ES w (sv t) l) (zP : P.length * 40 ≤ 140737488355328) (zQ : Q.length * 40 ≤ 140737488355328) :
    Calls Tryd.prog 15 #[.agg (rqv p), .agg (rqv q), sv t] w fun e w' => e = .returned (.bool (mtB p q P Q l)) ∧ Below w.heap.size w w' := by
  have F1 : RqB ((w.alloc (.cells (rqv p) 24)).alloc (.cells (rqv q) 24)) w.heap.size p := by unfold RqB; rw [heap_al, if_neg (by simp), heap_al, if_pos rfl]
  have F2 : RqB ((w.alloc (.cells (rqv p) 24)).alloc (.cells (rqv q) 24)) (w.heap.size + 1) q := by unfold RqB; exact fresh2 _ _ _
  have B2 := bel2 w (.cells (rqv p) 24) (.cells (rqv q) 24)
  have HP : Hid (∀ W, Below w.heap.size w W → In EFd W (sv p.y) P) := fun W hb => hP.below hb
  have HQ : Hid (∀ W, Below w.heap.size w W → In EFd W (sv q.y) Q) := fun W hb => hQ.below hb
  have HT : Hid (In ES w (sv t) l) := hl
  have HL : Hid (P.length * 40 ≤ 140737488355328 ∧ Q.length * 40 ≤ 140737488355328) := ⟨zP, zQ⟩
  have HM : Hid (mtB p q P Q l = (eqB (hdL p) (hdL q) && mtL P Q l)) := rfl
  obtain ⟨X, hX⟩ : ∃ X, mtB p q P Q l = X := ⟨_, rfl⟩
  rw [hX] at HM ⊢
  clear hP hQ hl zP zQ hX
  obtain ⟨pm, ps, pa, pp, ⟨pyb, pyl, pyc⟩, pb⟩ := p
  obtain ⟨qm, qs, qa, qp, ⟨qyb, qyl, qyc⟩, qb⟩ := q
  obtain ⟨tb, tl, tc⟩ := t
  simp only [hdL, rqv, sv] at *
  obtain ⟨e1, e2, e3⟩ := slice_len HT.out
  have E1 : Hid (tl = l.length) := e1
  have e2' : tl ≤ tc := by omega
  clear e1 e2
  obtain ⟨w2, hw2⟩ : ∃ x, (w.alloc (.cells #[.string pm, .string ps, .string pa, .string pp, .slice pyb pyl pyc, .string pb] 24)).alloc (.cells #[.string qm, .string qs, .string qa, .string qp, .slice qyb qyl qyc, .string qb] 24) = x := ⟨_, rfl⟩
  rw [hw2] at F1 F2 B2
  have BW : Hid (Below w.heap.size w w2) := B2
  have hcelw : Hid (∀ W, Below w2.heap.size w2 W → (fun W => W.cell? ⟨w.heap.size, 0, none⟩ = some (.string pm) ∧ W.cell? ⟨w.heap.size, 1, none⟩ = some (.string ps) ∧ W.cell? ⟨w.heap.size, 2, none⟩ = some (.string pa) ∧ W.cell? ⟨w.heap.size, 3, none⟩ = some (.string pp) ∧ W.cell? ⟨w.heap.size, 4, none⟩ = some (.slice pyb pyl pyc) ∧ W.cell? ⟨w.heap.size, 5, none⟩ = some (.string pb) ∧ W.cell? ⟨w.heap.size + 1, 0, none⟩ = some (.string qm) ∧ W.cell? ⟨w.heap.size + 1, 1, none⟩ = some (.string qs) ∧ W.cell? ⟨w.heap.size + 1, 2, none⟩ = some (.string qa) ∧ W.cell? ⟨w.heap.size + 1, 3, none⟩ = some (.string qp) ∧ W.cell? ⟨w.heap.size + 1, 4, none⟩ = some (.slice qyb qyl qyc) ∧ W.cell? ⟨w.heap.size + 1, 5, none⟩ = some (.string qb)) W) := fun W hb => by
    obtain ⟨x0, x1, x2, x3, x4, x5, _⟩ := (F1.below hb).cells
    obtain ⟨y0, y1, y2, y3, y4, y5, _⟩ := (F2.below hb).cells
    exact ⟨x0, x1, x2, x3, x4, x5, y0, y1, y2, y3, y4, y5⟩
  have hsz : w.heap.size + 1 < w2.heap.size := heap_lt F2
  have hw2' : Hid _ := hw2
  clear F1 F2 B2 hw2
  go_enter Tryd.func15, Tryd.ntmps15
  go_upto_region 1 with fail
  rw [hw2'.out]
  clear hw2'
  obtain ⟨x0, x1, x2, x3, x4, x5, y0, y1, y2, y3, y4, y5⟩ := hcelw.out w2 (Below.refl _ _)
  have HNE : Hid (∀ a b : List ByteArray, a = [pm, ps, pa, pp] → b = [qm, qs, qa, qp] → a ≠ b → X = false) := fun a b ha hb h => by
    subst ha hb
    show _ = _
    rw [HM.out, eqB_false h]
    rfl
  by_cases h0 : pm = qm
  case neg =>
    have q0 := str_ne h0
    have r0 : (pm.toList != qm.toList) = true := by rw [bne, q0]; rfl
    have HX : Hid (X = false) := HNE.out _ _ rfl rfl (by simp [h0])
    clear h0 HNE
    go_wp2_with fail
    go_ret
    exact ⟨by rw [HX.out]; first | rfl | simp, BW.out⟩
  subst h0
  have q0 := str_eq (rfl : pm = pm)
  have r0 : (pm.toList != pm.toList) = false := by rw [bne, q0]; rfl
  by_cases h1 : ps = qs
  case neg =>
    have q1 := str_ne h1
    have r1 : (ps.toList != qs.toList) = true := by rw [bne, q1]; rfl
    have HX : Hid (X = false) := HNE.out _ _ rfl rfl (by simp [h1])
    clear h1 HNE
    go_wp2_with fail
    go_ret
    exact ⟨by rw [HX.out]; first | rfl | simp, BW.out⟩
  subst h1
  have q1 := str_eq (rfl : ps = ps)
  have r1 : (ps.toList != ps.toList) = false := by rw [bne, q1]; rfl
  by_cases h2 : pa = qa
  case neg =>
    have q2 := str_ne h2
    have r2 : (pa.toList != qa.toList) = true := by rw [bne, q2]; rfl
    have HX : Hid (X = false) := HNE.out _ _ rfl rfl (by simp [h2])
    clear h2 HNE
    go_wp2_with fail
    go_ret
    exact ⟨by rw [HX.out]; first | rfl | simp, BW.out⟩
  subst h2
  have q2 := str_eq (rfl : pa = pa)
  have r2 : (pa.toList != pa.toList) = false := by rw [bne, q2]; rfl
  by_cases h3 : pp = qp
  case neg =>
    have q3 := str_ne h3
    have r3 : (pp.toList != qp.toList) = true := by rw [bne, q3]; rfl
    have HX : Hid (X = false) := HNE.out _ _ rfl rfl (by simp [h3])
    clear h3 HNE
    go_wp2_with fail
    go_ret
    exact ⟨by rw [HX.out]; first | rfl | simp, BW.out⟩
  subst h3
  have q3 := str_eq (rfl : pp = pp)
  have r3 : (pp.toList != pp.toList) = false := by rw [bne, q3]; rfl
  have HX : Hid (X = mtL P Q l) := by show _ = _; rw [HM.out, eqB_true rfl]; rfl
  clear HM HNE
  go_wp2_with fail
  clear x0 x1 x2 x3 x4 x5 y0 y1 y2 y3 y4 y5 q0 q1 q2 q3 r0 r1 r2 r3
  go_loopw [7, 8, 9, 10] (fun iv _ _ _ wr => ∃ k : Nat, iv = .int .i64 (k : Int) ∧ k ≤ tl ∧ Hid (mtL P Q (l.take k) = true) ∧ Hid (Below w.heap.size w wr) ∧ Hid (Below w2.heap.size w2 wr)) (fun iv _ _ _ _ => tl - (intOf iv).toNat)
  case atStart => exact ⟨0, rfl, by omega, by show _ = _; simp [mtL], BW.out, Below.refl _ _⟩
  case round =>
    obtain ⟨k, rfl, hk, hp, hb, hbz⟩ := hrel
    by_cases hlt : k < tl
    · have ka : k < l.length := by have := E1.out; omega
      obtain ⟨B1, o1, c1, e, c0⟩ := HT.out.str k ka
      injection e with e1 e2 e3
      subst e1
      clear e2 e3
      have hlt' : (k : Int) < (tl : Int) := by omega
      obtain ⟨x, hx⟩ : ∃ x, l[k] = x := ⟨_, rfl⟩
      rw [hx] at c0
      have hcel0 : Hid (∀ W, Below w.heap.size w W → Below w2.heap.size w2 W → (fun W => W.cell? ⟨w.heap.size, 4, none⟩ = some (.slice pyb pyl pyc) ∧ W.cell? ⟨w.heap.size + 1, 4, none⟩ = some (.slice qyb qyl qyc) ∧ W.cell? ⟨B1, o1 + k, none⟩ = some (.string x)) W) := fun W h h' => by
        obtain ⟨x0, x1, x2, x3, x4, x5, y0, y1, y2, y3, y4, y5⟩ := hcelw.out W h'
        exact ⟨x4, y4, c0 W h⟩
      have hcel : Hid (∀ W, Below wr.heap.size wr W → (fun W => W.cell? ⟨w.heap.size, 4, none⟩ = some (.slice pyb pyl pyc) ∧ W.cell? ⟨w.heap.size + 1, 4, none⟩ = some (.slice qyb qyl qyc) ∧ W.cell? ⟨B1, o1 + k, none⟩ = some (.string x)) W) := fun W h => hcel0.out W (hb.out.trans (h.mono hb.out.size)) (hbz.out.trans (h.mono hbz.out.size))
      have HK : Hid (mtL P Q (l.take (k + 1)) = (mtL P Q (l.take k) && eqB (vsL P x) (vsL Q x))) := by show _ = _; rw [mtL_succ P Q l k ka, hx]
      have HF : Hid (eqB (vsL P x) (vsL Q x) = false → mtL P Q l = false) := fun h => mtL_false P Q l k ka (by rw [hx]; exact h)
      clear hx ka c0
      go_upto_region 6 with fail
      go_cut [8] from 37 to 76 (fun v wx => ∃ ub ul uc, v = .slice ub ul uc ∧ Hid (Below wr.heap.size wr wx) ∧ Hid (R ES wx (.slice ub ul uc) (vsL P x)))
      case first =>
        as_aux_lemma =>
          have hIW : Below wr.heap.size wr (wr.drew) := (Below.refl _ _).drew
          refine wp_region_held_drew (S := (fun W => W.cell? ⟨w.heap.size, 4, none⟩ = some (.slice pyb pyl pyc) ∧ W.cell? ⟨w.heap.size + 1, 4, none⟩ = some (.slice qyb qyl qyc) ∧ W.cell? ⟨B1, o1 + k, none⟩ = some (.string x))) (by kernel_rfl) (hcel.out _ hIW) (fun hHeld => ?_)
          generalize hWg : World.drew _ = W at hIW hHeld ⊢
          clear hWg
          refine wpAnyH_take (i := 0) (oi := { dst := some 43, op := Op.fieldAddr 24 (Operand.tmp 3) 4, type := 0, pos := "ref.go:86", after := #[], guard := none }) (v := ?vv1) rfl (by kernel_rfl) (by kernel_rfl) (by kernel_rfl) (fun _ _ _ h => h) (Or.inl ⟨by rfl, ?hy1⟩) (by assumption) ?_
          case hy1 => (intro w hSw; (try dsimp only at hSw); go_simp; all_goals with_reducible rfl)
          try simp only [Act.put, List.setIfInBounds_toArray, List.set_cons_zero, List.set_cons_succ]
          refine wpAnyH_take (i := 1) (oi := { dst := some 44, op := Op.load 22 (Operand.tmp 43), type := 22, pos := "ref.go:86", after := #[{ on := 0, ground := Ground.data }], guard := none }) (v := ?vv2) rfl (by kernel_rfl) (by kernel_rfl) (by kernel_rfl) (fun _ _ _ h => h) (Or.inl ⟨by rfl, ?hy2⟩) (by assumption) ?_
          case hy2 => (intro w hSw; (try dsimp only at hSw); go_simp; all_goals with_reducible rfl)
          try simp only [Act.put, List.setIfInBounds_toArray, List.set_cons_zero, List.set_cons_succ]
          refine wpAnyH_take (i := 2) (oi := { dst := some 45, op := Op.move (Operand.tmp 2), type := 25, pos := "ref.go:86", after := #[], guard := none }) (v := ?vv3) rfl (by kernel_rfl) (by kernel_rfl) (by kernel_rfl) (fun _ _ _ h => h) (Or.inl ⟨by rfl, ?hy3⟩) (by assumption) ?_
          case hy3 => (intro w hSw; (try dsimp only at hSw); go_simp; all_goals with_reducible rfl)
          try simp only [Act.put, List.setIfInBounds_toArray, List.set_cons_zero, List.set_cons_succ]
          refine wpAnyH_take (i := 3) (oi := { dst := some 46, op := Op.move (Operand.tmp 7), type := 3, pos := "ref.go:86", after := #[], guard := none }) (v := ?vv4) rfl (by kernel_rfl) (by kernel_rfl) (by kernel_rfl) (fun _ _ _ h => h) (Or.inl ⟨by rfl, ?hy4⟩) (by assumption) ?_
          case hy4 => (intro w hSw; (try dsimp only at hSw); go_simp; all_goals with_reducible rfl)
          try simp only [Act.put, List.setIfInBounds_toArray, List.set_cons_zero, List.set_cons_succ]
          refine wpAnyH_take (i := 4) (oi := { dst := some 47, op := Op.indexAddr 25 (Operand.tmp 45) (Operand.tmp 46), type := 0, pos := "ref.go:86", after := #[{ on := 2, ground := Ground.data }, { on := 3, ground := Ground.data }], guard := none }) (v := ?vv5) rfl (by kernel_rfl) (by kernel_rfl) (by kernel_rfl) (fun _ _ _ h => h) (Or.inl ⟨by rfl, ?hy5⟩) (by assumption) ?_
          case hy5 => (intro w hSw; (try dsimp only at hSw); go_simp; all_goals with_reducible rfl)
          try simp only [Act.put, List.setIfInBounds_toArray, List.set_cons_zero, List.set_cons_succ]
          refine wpAnyH_take (i := 5) (oi := { dst := some 48, op := Op.load 9 (Operand.tmp 47), type := 9, pos := "ref.go:86", after := #[{ on := 4, ground := Ground.data }], guard := none }) (v := ?vv6) rfl (by kernel_rfl) (by kernel_rfl) (by kernel_rfl) (fun _ _ _ h => h) (Or.inl ⟨by rfl, ?hy6⟩) (by assumption) ?_
          case hy6 => (intro w hSw; (try dsimp only at hSw); go_simp; all_goals with_reducible rfl)
          try simp only [Act.put, List.setIfInBounds_toArray, List.set_cons_zero, List.set_cons_succ]
          refine wpAnyH_ready (rs := [6]) (by kernel_rfl) (by simp) ?_
          refine AllReadyH.cons (o := { dst := some 49, op := Op.call { callee := Callee.value (Operand.func 24), args := #[Operand.tmp 44, Operand.tmp 48], argTypes := #[22, 9] }, type := 25, pos := "ref.go:86", after := #[{ on := 1, ground := Ground.data }, { on := 5, ground := Ground.data }], guard := none }) rfl (fun K hK => ?_) AllReadyH.nil
          go_simp
          refine (rvalues_any (pyb, pyl, pyc) P x W (HP.out _ (hb.out.trans (hIW.mono hb.out.size))) HL.out.1).mono ?_
          rintro e' Wx ⟨⟨ub, ul, uc⟩, rfl, bX, uR, _⟩
          have hIWx : Below wr.heap.size wr Wx := hIW.trans (bX.mono hIW.size)
          replace uR : Hid (Go.Proofs.YtckdldbheejmhaaDoor.R ES Wx (.slice ub ul uc) (vsL P x)) := uR
          simp only [sv]
          go_wp2_with fail
          refine hK.out _ _ (hcel.out _ hIWx) (fun hHeld => ?_)
          clear hK K bX hIW
          try simp only [Act.put, List.setIfInBounds_toArray, List.set_cons_zero, List.set_cons_succ]
          refine wpAnyH_take (i := 7) (oi := { dst := some 8, op := Op.assign (Operand.tmp 49), type := 25, pos := "ref.go:86", after := #[{ on := 6, ground := Ground.data }, { on := 6, ground := Ground.chain }, { on := 0, ground := Ground.phase }, { on := 1, ground := Ground.phase }, { on := 2, ground := Ground.phase }, { on := 3, ground := Ground.phase }, { on := 4, ground := Ground.phase }, { on := 5, ground := Ground.phase }, { on := 6, ground := Ground.phase }], guard := none }) (v := ?vv7) rfl (by kernel_rfl) (by kernel_rfl) (by kernel_rfl) (fun _ _ _ h => h) (Or.inl ⟨by rfl, ?hy7⟩) (by assumption) ?_
          case hy7 => (intro w hSw; (try dsimp only at hSw); go_simp; all_goals with_reducible rfl)
          try simp only [Act.put, List.setIfInBounds_toArray, List.set_cons_zero, List.set_cons_succ]
          refine wpAnyH_done (by kernel_rfl) ?_ _
          go_wp2_with fail
          go_meet
          exact ⟨ub, ul, uc, by first | rfl | simp, hIWx, uR.out⟩
      obtain ⟨ub, ul, uc, rfl, hb3, uR⟩ := hcut
      obtain ⟨wq, hwq⟩ : ∃ x, wc = x := ⟨_, rfl⟩
      rw [hwq] at hb3 uR ⊢
      have hbq : Hid (Below w.heap.size w wq) := hb.out.trans (hb3.out.mono hb.out.size)
      have hbzq : Hid (Below w2.heap.size w2 wq) := hbz.out.trans (hb3.out.mono hbz.out.size)
      clear hwq hb3 hb hbz hcel
      have hb := hbq
      have hcel : Hid (∀ W, Below wq.heap.size wq W → (fun W => W.cell? ⟨w.heap.size, 4, none⟩ = some (.slice pyb pyl pyc) ∧ W.cell? ⟨w.heap.size + 1, 4, none⟩ = some (.slice qyb qyl qyc) ∧ W.cell? ⟨B1, o1 + k, none⟩ = some (.string x)) W) := fun W h => hcel0.out W (hbq.out.trans (h.mono hbq.out.size)) (hbzq.out.trans (h.mono hbzq.out.size))
      go_upto_region 7 with fail
      go_cut [9] from 37 to 76 (fun v wx => ∃ ub ul uc, v = .slice ub ul uc ∧ Hid (Below wq.heap.size wq wx) ∧ Hid (R ES wx (.slice ub ul uc) (vsL Q x)))
      case first =>
        clear uR
        as_aux_lemma =>
          have hIW : Below wq.heap.size wq (wq.drew) := (Below.refl _ _).drew
          refine wp_region_held_drew (S := (fun W => W.cell? ⟨w.heap.size, 4, none⟩ = some (.slice pyb pyl pyc) ∧ W.cell? ⟨w.heap.size + 1, 4, none⟩ = some (.slice qyb qyl qyc) ∧ W.cell? ⟨B1, o1 + k, none⟩ = some (.string x))) (by kernel_rfl) (hcel.out _ hIW) (fun hHeld => ?_)
          generalize hWg : World.drew _ = W at hIW hHeld ⊢
          clear hWg
          refine wpAnyH_take (i := 0) (oi := { dst := some 50, op := Op.fieldAddr 24 (Operand.tmp 4) 4, type := 0, pos := "ref.go:87", after := #[], guard := none }) (v := ?vv8) rfl (by kernel_rfl) (by kernel_rfl) (by kernel_rfl) (fun _ _ _ h => h) (Or.inl ⟨by rfl, ?hy8⟩) (by assumption) ?_
          case hy8 => (intro w hSw; (try dsimp only at hSw); go_simp; all_goals with_reducible rfl)
          try simp only [Act.put, List.setIfInBounds_toArray, List.set_cons_zero, List.set_cons_succ]
          refine wpAnyH_take (i := 1) (oi := { dst := some 51, op := Op.load 22 (Operand.tmp 50), type := 22, pos := "ref.go:87", after := #[{ on := 0, ground := Ground.data }], guard := none }) (v := ?vv9) rfl (by kernel_rfl) (by kernel_rfl) (by kernel_rfl) (fun _ _ _ h => h) (Or.inl ⟨by rfl, ?hy9⟩) (by assumption) ?_
          case hy9 => (intro w hSw; (try dsimp only at hSw); go_simp; all_goals with_reducible rfl)
          try simp only [Act.put, List.setIfInBounds_toArray, List.set_cons_zero, List.set_cons_succ]
          refine wpAnyH_take (i := 2) (oi := { dst := some 52, op := Op.move (Operand.tmp 2), type := 25, pos := "ref.go:87", after := #[], guard := none }) (v := ?vv10) rfl (by kernel_rfl) (by kernel_rfl) (by kernel_rfl) (fun _ _ _ h => h) (Or.inl ⟨by rfl, ?hy10⟩) (by assumption) ?_
          case hy10 => (intro w hSw; (try dsimp only at hSw); go_simp; all_goals with_reducible rfl)
          try simp only [Act.put, List.setIfInBounds_toArray, List.set_cons_zero, List.set_cons_succ]
          refine wpAnyH_take (i := 3) (oi := { dst := some 53, op := Op.move (Operand.tmp 7), type := 3, pos := "ref.go:87", after := #[], guard := none }) (v := ?vv11) rfl (by kernel_rfl) (by kernel_rfl) (by kernel_rfl) (fun _ _ _ h => h) (Or.inl ⟨by rfl, ?hy11⟩) (by assumption) ?_
          case hy11 => (intro w hSw; (try dsimp only at hSw); go_simp; all_goals with_reducible rfl)
          try simp only [Act.put, List.setIfInBounds_toArray, List.set_cons_zero, List.set_cons_succ]
          refine wpAnyH_take (i := 4) (oi := { dst := some 54, op := Op.indexAddr 25 (Operand.tmp 52) (Operand.tmp 53), type := 0, pos := "ref.go:87", after := #[{ on := 2, ground := Ground.data }, { on := 3, ground := Ground.data }], guard := none }) (v := ?vv12) rfl (by kernel_rfl) (by kernel_rfl) (by kernel_rfl) (fun _ _ _ h => h) (Or.inl ⟨by rfl, ?hy12⟩) (by assumption) ?_
          case hy12 => (intro w hSw; (try dsimp only at hSw); go_simp; all_goals with_reducible rfl)
          try simp only [Act.put, List.setIfInBounds_toArray, List.set_cons_zero, List.set_cons_succ]
          refine wpAnyH_take (i := 5) (oi := { dst := some 55, op := Op.load 9 (Operand.tmp 54), type := 9, pos := "ref.go:87", after := #[{ on := 4, ground := Ground.data }], guard := none }) (v := ?vv13) rfl (by kernel_rfl) (by kernel_rfl) (by kernel_rfl) (fun _ _ _ h => h) (Or.inl ⟨by rfl, ?hy13⟩) (by assumption) ?_
          case hy13 => (intro w hSw; (try dsimp only at hSw); go_simp; all_goals with_reducible rfl)
          try simp only [Act.put, List.setIfInBounds_toArray, List.set_cons_zero, List.set_cons_succ]
          refine wpAnyH_ready (rs := [6]) (by kernel_rfl) (by simp) ?_
          refine AllReadyH.cons (o := { dst := some 56, op := Op.call { callee := Callee.value (Operand.func 24), args := #[Operand.tmp 51, Operand.tmp 55], argTypes := #[22, 9] }, type := 25, pos := "ref.go:87", after := #[{ on := 1, ground := Ground.data }, { on := 5, ground := Ground.data }], guard := none }) rfl (fun K hK => ?_) AllReadyH.nil
          go_simp
          refine (rvalues_any (qyb, qyl, qyc) Q x W (HQ.out _ (hb.out.trans (hIW.mono hb.out.size))) HL.out.2).mono ?_
          rintro e' Wx ⟨⟨ub, ul, uc⟩, rfl, bX, uR, _⟩
          have hIWx : Below wq.heap.size wq Wx := hIW.trans (bX.mono hIW.size)
          replace uR : Hid (Go.Proofs.YtckdldbheejmhaaDoor.R ES Wx (.slice ub ul uc) (vsL Q x)) := uR
          simp only [sv]
          go_wp2_with fail
          refine hK.out _ _ (hcel.out _ hIWx) (fun hHeld => ?_)
          clear hK K bX hIW
          try simp only [Act.put, List.setIfInBounds_toArray, List.set_cons_zero, List.set_cons_succ]
          refine wpAnyH_take (i := 7) (oi := { dst := some 9, op := Op.assign (Operand.tmp 56), type := 25, pos := "ref.go:87", after := #[{ on := 6, ground := Ground.data }, { on := 6, ground := Ground.chain }, { on := 0, ground := Ground.phase }, { on := 1, ground := Ground.phase }, { on := 2, ground := Ground.phase }, { on := 3, ground := Ground.phase }, { on := 4, ground := Ground.phase }, { on := 5, ground := Ground.phase }, { on := 6, ground := Ground.phase }], guard := none }) (v := ?vv14) rfl (by kernel_rfl) (by kernel_rfl) (by kernel_rfl) (fun _ _ _ h => h) (Or.inl ⟨by rfl, ?hy14⟩) (by assumption) ?_
          case hy14 => (intro w hSw; (try dsimp only at hSw); go_simp; all_goals with_reducible rfl)
          try simp only [Act.put, List.setIfInBounds_toArray, List.set_cons_zero, List.set_cons_succ]
          refine wpAnyH_done (by kernel_rfl) ?_ _
          go_wp2_with fail
          go_meet
          exact ⟨ub, ul, uc, by first | rfl | simp, hIWx, uR.out⟩
      obtain ⟨vb, vl, vc, rfl, hb3, vR⟩ := hcut
      obtain ⟨wz, hwz⟩ : ∃ x, wc = x := ⟨_, rfl⟩
      rw [hwz] at hb3 vR ⊢
      have UI : Hid (In ES wz (.slice ub ul uc) (vsL P x)) := (R.isIn uR.out).below hb3.out
      have VI : Hid (In ES wz (.slice vb vl vc) (vsL Q x)) := R.isIn vR.out
      have hbw : Hid (Below w.heap.size w wz) := hbq.out.trans (hb3.out.mono hbq.out.size)
      have hbz2 : Hid (Below w2.heap.size w2 wz) := hbzq.out.trans (hb3.out.mono hbzq.out.size)
      clear hwz hb3 hb hbq hbzq hcel hcel0 uR vR
      obtain ⟨A, hA⟩ : ∃ a, vsL P x = a := ⟨_, rfl⟩
      obtain ⟨B, hB⟩ : ∃ a, vsL Q x = a := ⟨_, rfl⟩
      rw [hA] at UI HK HF
      rw [hB] at VI HK HF
      clear hA hB
      obtain ⟨e1, e2, e3⟩ := slice_len UI.out
      obtain ⟨f1, f2, f3⟩ := slice_len VI.out
      by_cases hl : A.length = B.length
      · obtain rfl : ul = vl := by omega
        have E2 : Hid (ul = A.length ∧ A.length = B.length) := ⟨e1, hl⟩
        have huc : ul ≤ uc := by omega
        have hvc : ul ≤ vc := by omega
        clear e1 e2 f1 f2 hl
        go_wp2_with fail
        go_loopw [10] (fun iv wy => ∃ j : Nat, iv = .int .i64 (j : Int) ∧ j ≤ ul ∧ Hid (A.take j = B.take j) ∧ Hid (Below wz.heap.size wz wy)) (fun iv _ => ul - (intOf iv).toNat)
        case atStart => exact ⟨0, rfl, by omega, by show _ = _; simp, Below.refl _ _⟩
        case round =>
          obtain ⟨j, rfl, hj, hq, hy⟩ := hrel
          by_cases hjl : j < ul
          · have ja : j < A.length := by have := E2.out; omega
            have jb : j < B.length := by have := E2.out; omega
            obtain ⟨B3, o3, c3, e, d0⟩ := UI.out.str j ja
            injection e with e1 e2 e3
            subst e1
            clear e2 e3
            obtain ⟨B4, o4, c4, e, d1⟩ := VI.out.str j jb
            injection e with e1 e2 e3
            subst e1
            clear e2 e3
            replace d0 := d0 _ hy.out
            replace d1 := d1 _ hy.out
            have hjl' : (j : Int) < (ul : Int) := by omega
            obtain ⟨y, hyy⟩ : ∃ y, A[j] = y := ⟨_, rfl⟩
            obtain ⟨z, hzz⟩ : ∃ y, B[j] = y := ⟨_, rfl⟩
            rw [hyy] at d0
            rw [hzz] at d1
            by_cases hxy : y = z
            · have hnx : Hid (A.take (j + 1) = B.take (j + 1)) := by
                show _ = _
                rw [List.take_succ_eq_append_getElem ja, List.take_succ_eq_append_getElem jb, hq.out, hyy, hzz, hxy]
              have q1 := str_eq hxy
              have q2 : (y.toList != z.toList) = false := by rw [bne, q1]; rfl
              clear hq hyy hzz hxy ja jb
              go_wp2_with fail
              go_quiet (fail)
              go_wp2_with fail
              go_roundw
              case rel => exact ⟨j + 1, by simp, by omega, hnx.out, below_drewN hy.out _⟩
              case measure => simp [intOf]; omega
            · have hne : Hid (X = false) := by
                show _ = _
                rw [HX.out]
                refine HF.out (eqB_false fun e => hxy ?_)
                subst e
                rw [← hyy, ← hzz]
              have q1 := str_ne hxy
              have q2 : (y.toList != z.toList) = true := by rw [bne, q1]; rfl
              have hyw : Hid (Below w.heap.size w _) := hbw.out.trans (hy.out.mono hbw.out.size)
              clear hq hyy hzz hxy ja jb
              go_wp2_with fail
              go_quiet (fail)
              go_wp2_with fail
              go_ret
              exact ⟨by rw [hne.out]; first | rfl | simp, below_drewN hyw.out _⟩
          · obtain rfl : j = ul := by omega
            have hjl' : ¬ (j : Int) < (j : Int) := by omega
            have hnx : Hid (mtL P Q (l.take (k + 1)) = true) := by
              show _ = _
              have := hq.out
              rw [E2.out.1, List.take_length] at this
              rw [HK.out, hp.out, eqB_true (show A = B by rw [this, E2.out.2, List.take_length])]
              rfl
            have hyw : Hid (Below w.heap.size w _) := hbw.out.trans (hy.out.mono hbw.out.size)
            have hyz : Hid (Below w2.heap.size w2 _) := hbz2.out.trans (hy.out.mono hbz2.out.size)
            clear hq hy
            go_wp2_with fail
            go_roundw
            case rel => exact ⟨k + 1, by simp, by omega, hnx.out, hyw.out, hyz.out⟩
            case measure => simp [intOf]; omega
      · have hl1 : ((ul : Int) != (vl : Int)) = true := by simp; omega
        have hl2 : ¬ (ul : Int) = (vl : Int) := by omega
        have hne : Hid (X = false) := by show _ = _; rw [HX.out]; exact HF.out (eqB_false fun e => hl (by rw [e]))
        clear e1 e2 f1 f2 hl
        go_wp2_with fail
        go_ret
        exact ⟨by rw [hne.out]; first | rfl | simp, hbw.out⟩
    · obtain rfl : k = tl := by omega
      have hlt' : ¬ (k : Int) < (k : Int) := by omega
      have HX2 : Hid (X = true) := by
        show _ = _
        rw [HX.out]
        have := hp.out
        rw [E1.out, List.take_length] at this
        exact this
      clear hp HX
      go_wp2_with fail
      go_ret
      exact ⟨by rw [HX2.out]; first | rfl | simp, hb.out⟩
end Go.Proofs.YtckdldbheejmhaaDoor
