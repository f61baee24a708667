/- VaryAlike, walked. -/
import Derived.Test.YtckdldbheejmhaaDoorD1
import Derived.Deep.Cut
import Derived.Deep.CutRange
import Derived.Deep.RegionHeld3
namespace Go.Proofs.YtckdldbheejmhaaDoor
open Go.RowKit
set_option linter.unusedVariables false
set_option linter.unusedSimpArgs false

theorem in_take {w : World} {b : Option Addr} {n cap : Nat} {l : List ByteArray} (h : In ES w (.slice b n cap) l) (k : Nat) (hk : k ≤ l.length) : In ES w (.slice b k cap) (l.take k) := by
  rcases h with ⟨h, h'⟩ | ⟨a, cap', e, h1, h2, h3⟩
  · subst h'
    have : k = 0 := by simpa using hk
    subst this
    injection h with e1 e2 e3
    subst e1 e3
    exact .inl ⟨rfl, rfl⟩
  · injection e with e1 e2 e3
    subst e1 e3
    refine .inr ⟨a, cap, ?_, by rw [List.length_take]; omega, h2, fun j u hu => h3 j u ?_⟩
    · rw [List.length_take, Nat.min_eq_left hk]
    · have hsp : ES.cs l = ES.cs (l.take k) ++ ES.cs (l.drop k) := by rw [← El.cs_append, List.take_append_drop]
      rw [hsp, List.getElem?_append_left (List.getElem?_eq_some_iff.1 hu).1]
      exact hu
set_option maxHeartbeats 40000000 in
set_option maxRecDepth 100000 in
theorem varyAlike_any (p q r : Rq) (t : SV) (P Q V : List Fd) (l : List ByteArray) (w : World) (hP : In EFd w (sv p.y) P) (hQ : In EFd w (sv q.y) Q) (hR : In EFd w (sv r.y) V) (hl : In ES w (sv t) l) (zP : P.length * 40 ≤ 140737488355328) (zQ : Q.length * 40 ≤ 140737488355328) (zR : V.length * 40 ≤ 140737488355328) (zl : l.length ≤ 1048576) :
    Calls Tryd.prog 3 #[.agg (rqv p), .agg (rqv q), .agg (rqv r), sv t] w fun e w' => e = .returned (.bool true) ∧ Below w.heap.size w w' := by
  obtain ⟨w3, hw3⟩ : ∃ x, ((w.alloc (.cells (rqv p) 24)).alloc (.cells (rqv q) 24)).alloc (.cells (rqv r) 24) = x := ⟨_, rfl⟩
  have B3 : Below w.heap.size w w3 := by rw [← hw3]; exact bel3 w _ _ _
  have HB : Hid (RqB w3 w.heap.size p ∧ RqB w3 (w.heap.size + 1) q ∧ RqB w3 (w.heap.size + 1 + 1) r) := by
    rw [← hw3]
    refine ⟨?_, ?_, ?_⟩
    · unfold RqB; rw [heap_al, if_neg (by simp <;> omega), heap_al, if_neg (by simp), heap_al, if_pos rfl]
    · unfold RqB; rw [heap_al, if_neg (by simp)]; exact fresh2 _ _ _
    · unfold RqB; exact fresh3 _ _ _ _
  have BW : Hid (Below w.heap.size w w3) := B3
  have HI : Hid ((∀ W, Below w3.heap.size w3 W → In EFd W (sv p.y) P) ∧ (∀ W, Below w3.heap.size w3 W → In EFd W (sv q.y) Q) ∧ (∀ W, Below w3.heap.size w3 W → In EFd W (sv r.y) V) ∧ ∀ W, Below w3.heap.size w3 W → In ES W (sv t) l) := ⟨fun W hb => (hP.below B3).below hb, fun W hb => (hQ.below B3).below hb, fun W hb => (hR.below B3).below hb, fun W hb => (hl.below B3).below hb⟩
  have HL : Hid (P.length * 40 ≤ 140737488355328 ∧ Q.length * 40 ≤ 140737488355328 ∧ V.length * 40 ≤ 140737488355328 ∧ True) := ⟨zP, zQ, zR, trivial⟩
  have HLT : Hid (l.length ≤ 1048576) := zl
  clear hP hQ hR B3 zP zQ zR zl
  obtain ⟨tb, tl, tc⟩ := t
  obtain ⟨e1, e2, e3⟩ := slice_len (show In ES w (.slice tb tl tc) l from hl)
  have E1 : Hid (tl = l.length) := e1
  have htc : tl ≤ tc := by omega
  have htc2 : tc ≤ 9223372036854775807 := e3
  replace HLT : Hid (l.length ≤ 1048576) := HLT.out
  have htl20 : tl ≤ 1048576 := by have := HLT.out; omega
  clear hl e1 e2 e3
  obtain ⟨pm, ps, pa, pp, ⟨pyb, pyl, pyc⟩, pb⟩ := p
  obtain ⟨qm, qs, qa, qp, ⟨qyb, qyl, qyc⟩, qb⟩ := q
  obtain ⟨rm, rs, ra, rp, ⟨ryb, ryl, ryc⟩, rb⟩ := r
  have HW3 : Hid (((w.alloc (.cells #[.string pm, .string ps, .string pa, .string pp, .slice pyb pyl pyc, .string pb] 24)).alloc (.cells #[.string qm, .string qs, .string qa, .string qp, .slice qyb qyl qyc, .string qb] 24)).alloc (.cells #[.string rm, .string rs, .string ra, .string rp, .slice ryb ryl ryc, .string rb] 24) = w3) := hw3
  clear hw3
  simp only [rqv, sv] at HI ⊢
  cases hA : mtB ⟨pm, ps, pa, pp, (pyb, pyl, pyc), pb⟩ ⟨qm, qs, qa, qp, (qyb, qyl, qyc), qb⟩ P Q l
  · have HA : Hid (mtB ⟨pm, ps, pa, pp, (pyb, pyl, pyc), pb⟩ ⟨qm, qs, qa, qp, (qyb, qyl, qyc), qb⟩ P Q l = false) := hA
    have ALK : ∀ b c : Bool, b = mtB ⟨qm, qs, qa, qp, (qyb, qyl, qyc), qb⟩ ⟨rm, rs, ra, rp, (ryb, ryl, ryc), rb⟩ Q V l → c = mtB ⟨pm, ps, pa, pp, (pyb, pyl, pyc), pb⟩ ⟨rm, rs, ra, rp, (ryb, ryl, ryc), rb⟩ P V l → (b && c) = false := fun b c hb hc => by
      cases b
      · rfl
      · cases c
        · rfl
        · have := mtB_trans hc.symm (by rw [mtB_symm]; exact hb.symm : mtB ⟨rm, rs, ra, rp, (ryb, ryl, ryc), rb⟩ ⟨qm, qs, qa, qp, (qyb, qyl, qyc), qb⟩ V Q l = true)
          rw [hA] at this
          cases this
    clear hA
    as_aux_lemma =>
      have BQ : Hid (∀ b c : Bool, b = mtB ⟨qm, qs, qa, qp, (qyb, qyl, qyc), qb⟩ ⟨rm, rs, ra, rp, (ryb, ryl, ryc), rb⟩ Q V l → c = mtB ⟨pm, ps, pa, pp, (pyb, pyl, pyc), pb⟩ ⟨rm, rs, ra, rp, (ryb, ryl, ryc), rb⟩ P V l → (b && c) = false) := ALK
      go_enter Tryd.func3, Tryd.ntmps3
      go_wp2_with fail
      go_at_call 8
      rw [HW3.out]
      refine (first_any w3).mono ?_
      rintro e w4 ⟨rfl, bx⟩
      have D0 : Hid (Below w3.heap.size w3 w4) := bx
      clear bx
      obtain ⟨z0, z1, z2, z3, z4, z5, z6⟩ := (HB.out.1.below D0.out).cells
      obtain ⟨y0, y1, y2, y3, y4, y5, y6⟩ := (HB.out.2.1.below D0.out).cells
      go_wp2_with fail
      go_at_call 9
      refine (match_any ⟨pm, ps, pa, pp, (pyb, pyl, pyc), pb⟩ ⟨qm, qs, qa, qp, (qyb, qyl, qyc), qb⟩ (tb, tl, tc) P Q (l) _ (HI.out.1 _ D0.out) (HI.out.2.1 _ D0.out) (HI.out.2.2.2 _ D0.out) HL.out.1 HL.out.2.1).mono ?_
      rintro e w5 ⟨rfl, bx⟩
      rw [HA.out]
      have D1 : Hid (Below w3.heap.size w3 w5) := D0.out.trans (bx.mono D0.out.size)
      clear bx z0 z1 z2 z3 z4 z5 z6 y0 y1 y2 y3 y4 y5 y6
      obtain ⟨Bv, hBv⟩ : ∃ b, b = mtB ⟨qm, qs, qa, qp, (qyb, qyl, qyc), qb⟩ ⟨rm, rs, ra, rp, (ryb, ryl, ryc), rb⟩ Q V l := ⟨_, rfl⟩
      obtain ⟨Cv, hCv⟩ : ∃ b, b = mtB ⟨pm, ps, pa, pp, (pyb, pyl, pyc), pb⟩ ⟨rm, rs, ra, rp, (ryb, ryl, ryc), rb⟩ P V l := ⟨_, rfl⟩
      have HBv : Hid _ := hBv
      have HCv : Hid _ := hCv
      have hbc := BQ.out _ _ hBv hCv
      replace HBv : Hid (mtB ⟨qm, qs, qa, qp, (qyb, qyl, qyc), qb⟩ ⟨rm, rs, ra, rp, (ryb, ryl, ryc), rb⟩ Q V l = Bv) := hBv.symm
      replace HCv : Hid (mtB ⟨pm, ps, pa, pp, (pyb, pyl, pyc), pb⟩ ⟨rm, rs, ra, rp, (ryb, ryl, ryc), rb⟩ P V l = Cv) := hCv.symm
      clear hBv hCv BQ
      obtain ⟨z0, z1, z2, z3, z4, z5, z6⟩ := (HB.out.2.1.below D1.out).cells
      obtain ⟨y0, y1, y2, y3, y4, y5, y6⟩ := (HB.out.2.2.below D1.out).cells
      go_wp2_with fail
      go_at_call 9
      refine (match_any ⟨qm, qs, qa, qp, (qyb, qyl, qyc), qb⟩ ⟨rm, rs, ra, rp, (ryb, ryl, ryc), rb⟩ (tb, tl, tc) Q V (l) _ (HI.out.2.1 _ D1.out) (HI.out.2.2.1 _ D1.out) (HI.out.2.2.2 _ D1.out) HL.out.2.1 HL.out.2.2.1).mono ?_
      rintro e w6 ⟨rfl, bx⟩
      rw [HBv.out]
      have D2 : Hid (Below w3.heap.size w3 w6) := D1.out.trans (bx.mono D1.out.size)
      clear bx z0 z1 z2 z3 z4 z5 z6 y0 y1 y2 y3 y4 y5 y6
      obtain ⟨z0, z1, z2, z3, z4, z5, z6⟩ := (HB.out.1.below D2.out).cells
      obtain ⟨y0, y1, y2, y3, y4, y5, y6⟩ := (HB.out.2.2.below D2.out).cells
      go_wp2_with fail
      go_at_call 9
      refine (match_any ⟨pm, ps, pa, pp, (pyb, pyl, pyc), pb⟩ ⟨rm, rs, ra, rp, (ryb, ryl, ryc), rb⟩ (tb, tl, tc) P V (l) _ (HI.out.1 _ D2.out) (HI.out.2.2.1 _ D2.out) (HI.out.2.2.2 _ D2.out) HL.out.1 HL.out.2.2.1).mono ?_
      rintro e w7 ⟨rfl, bx⟩
      rw [HCv.out]
      have D3 : Hid (Below w3.heap.size w3 w7) := D2.out.trans (bx.mono D2.out.size)
      clear bx z0 z1 z2 z3 z4 z5 z6 y0 y1 y2 y3 y4 y5 y6
      clear HBv HCv
      go_upto_region 6 with fail
      go_cut [71] from 15 (fun x wx => x = .bool false ∧ Hid (Below w3.heap.size w3 wx))
      case first =>
        obtain ⟨z0, z1, z2, z3, z4, z5, z6⟩ := (HB.out.1.below D3.out).cells
        obtain ⟨y0, y1, y2, y3, y4, y5, y6⟩ := (HB.out.1.below D3.out).cells
        go_wp2_with fail
        go_at_call 9
        refine (match_any ⟨pm, ps, pa, pp, (pyb, pyl, pyc), pb⟩ ⟨pm, ps, pa, pp, (pyb, pyl, pyc), pb⟩ (tb, tl, tc) P P (l) _ (HI.out.1 _ D3.out) (HI.out.1 _ D3.out) (HI.out.2.2.2 _ D3.out) HL.out.1 HL.out.1).mono ?_
        rintro e w8 ⟨rfl, bx⟩
        rw [mtB_refl]
        have D4 : Hid (Below w3.heap.size w3 w8) := D3.out.trans (bx.mono D3.out.size)
        clear bx z0 z1 z2 z3 z4 z5 z6 y0 y1 y2 y3 y4 y5 y6
        obtain ⟨z0, z1, z2, z3, z4, z5, z6⟩ := (HB.out.2.1.below D4.out).cells
        obtain ⟨y0, y1, y2, y3, y4, y5, y6⟩ := (HB.out.1.below D4.out).cells
        go_wp2_with fail
        go_at_call 9
        refine (match_any ⟨qm, qs, qa, qp, (qyb, qyl, qyc), qb⟩ ⟨pm, ps, pa, pp, (pyb, pyl, pyc), pb⟩ (tb, tl, tc) Q P (l) _ (HI.out.2.1 _ D4.out) (HI.out.1 _ D4.out) (HI.out.2.2.2 _ D4.out) HL.out.2.1 HL.out.1).mono ?_
        rintro e w9 ⟨rfl, bx⟩
        rw [mtB_symm, HA.out]
        have D5 : Hid (Below w3.heap.size w3 w9) := D4.out.trans (bx.mono D4.out.size)
        clear bx z0 z1 z2 z3 z4 z5 z6 y0 y1 y2 y3 y4 y5 y6
        cases Bv <;> cases Cv
        · go_wp2_with fail
          go_meet
          exact ⟨by first | rfl | simp, D5.out⟩
        · go_wp2_with fail
          go_meet
          exact ⟨by first | rfl | simp, D5.out⟩
        · go_wp2_with fail
          go_meet
          exact ⟨by first | rfl | simp, D5.out⟩
        · cases hbc
      obtain ⟨hx, hD⟩ := hcut
      subst hx
      have htl : (tl : Int) ≤ 1048576 := by have := HLT.out; omega
      clear hbc D0 D1 D2 D3
      go_wp2_with fail
      go_loopw [12, 13] (fun cv iv wr => ∃ (j : Nat) (cb : Option Addr) (cl cc : Nat), iv = .int .i64 ((j : Int) - 1) ∧ j ≤ tl ∧ cv = .slice cb cl cc ∧ Hid (R ES wr (.slice cb cl cc) (tnD l j) ∧ ∀ k, (Value.slice cb cl cc).ownBlock = some k → w3.heap.size ≤ k) ∧ Hid (Below w3.heap.size w3 wr)) (fun _ iv _ => (intOf iv + 1).toNat)
      case atStart => exact ⟨tl, none, 0, 0, rfl, Nat.le_refl _, rfl, by rw [E1.out, tnD_end]; exact ⟨R.nil _ _, fun k hk => by simp [Value.ownBlock] at hk⟩, hD.out⟩
      case round =>
        obtain ⟨j', cb, cl, cc, rfl, hj, rfl, hR, hD⟩ := hrel
        rcases j' with _ | j
        · have hge : ¬ (0 : Int) ≤ ((0 : Nat) : Int) - 1 := by decide
          have hR0 : Hid (In ES wr (.slice cb cl cc) (tnD l 0)) := R.isIn hR.out.1
          clear hR
          rw [show (((0 : Nat) : Int) - 1) = -1 from rfl] at hge ⊢
          obtain ⟨z0, z1, z2, z3, z4, z5, z6⟩ := (HB.out.1.below hD.out).cells
          obtain ⟨y0, y1, y2, y3, y4, y5, y6⟩ := (HB.out.2.1.below hD.out).cells
          go_wp2_with fail
          go_at_call 9
          refine (match_any ⟨pm, ps, pa, pp, (pyb, pyl, pyc), pb⟩ ⟨qm, qs, qa, qp, (qyb, qyl, qyc), qb⟩ (cb, cl, cc) P Q (tnD l 0) _ (HI.out.1 _ hD.out) (HI.out.2.1 _ hD.out) (hR0.out) HL.out.1 HL.out.2.1).mono ?_
          rintro e w10 ⟨rfl, bx⟩
          rw [mtB_mem (tnD_mem l), HA.out]
          have D6 : Hid (Below w3.heap.size w3 w10) := hD.out.trans (bx.mono hD.out.size)
          clear bx z0 z1 z2 z3 z4 z5 z6 y0 y1 y2 y3 y4 y5 y6
          clear hR0 hD
          go_wp2_with fail
          go_loopw [14] (fun kv wr => ∃ k : Nat, kv = .int .i64 (k : Int) ∧ k ≤ tl + 1 ∧ Hid (Below w3.heap.size w3 wr)) (fun kv _ => tl + 1 - (intOf kv).toNat)
          case atStart => exact ⟨0, rfl, by omega, D6.out⟩
          case round =>
            obtain ⟨k, rfl, hk, hD⟩ := hrel
            clear D6
            by_cases hkl : k ≤ tl
            · have hkl' : (k : Int) ≤ (tl : Int) := by omega
              have hkc : (k : Int) ≤ (tc : Int) := by omega
              go_upto_region 18 with fail
              have hIW : Below wr.heap.size wr (wr.drew) := (Below.refl _ _).drew
              refine wp_region_held_drew (S := (fun _ => True)) (by kernel_rfl) (trivial) (fun hHeld => ?_)
              generalize hWg : World.drew _ = W at hIW hHeld ⊢
              clear hWg
              have hDn : Hid (Below w3.heap.size w3 W) := hD.out.trans (hIW.mono hD.out.size)
              refine wpAnyH_take (i := 0) (oi := { dst := some 102, op := Op.move (Operand.tmp 9), type := 4, pos := "outright.go:29", after := #[], guard := none }) (v := ?vv1) rfl (by kernel_rfl) (by kernel_rfl) (by kernel_rfl) (fun _ _ _ h => h) (Or.inl ⟨by rfl, ?hy1⟩) (by assumption) ?_
              case hy1 => (intro w hSw; (try dsimp only at hSw); go_simp; all_goals with_reducible rfl)
              try simp only [Act.put, List.setIfInBounds_toArray, List.set_cons_zero, List.set_cons_succ]
              refine wpAnyH_take (i := 1) (oi := { dst := some 103, op := Op.move (Operand.tmp 102), type := 4, pos := "outright.go:29", after := #[{ on := 0, ground := Ground.data }], guard := none }) (v := ?vv2) rfl (by kernel_rfl) (by kernel_rfl) (by kernel_rfl) (fun _ _ _ h => h) (Or.inl ⟨by rfl, ?hy2⟩) (by assumption) ?_
              case hy2 => (intro w hSw; (try dsimp only at hSw); go_simp; all_goals with_reducible rfl)
              try simp only [Act.put, List.setIfInBounds_toArray, List.set_cons_zero, List.set_cons_succ]
              refine wpAnyH_take (i := 2) (oi := { dst := some 104, op := Op.load 24 (Operand.tmp 4), type := 24, pos := "outright.go:29", after := #[{ on := 1, ground := Ground.guard }], guard := some (1, true) }) (v := undef) rfl (by kernel_rfl) (by kernel_rfl) (by kernel_rfl) (fun _ _ _ h => h) (Or.inr ⟨by rfl, rfl⟩) (by assumption) ?_
              try simp only [Act.put, List.setIfInBounds_toArray, List.set_cons_zero, List.set_cons_succ]
              refine wpAnyH_take (i := 3) (oi := { dst := some 105, op := Op.load 24 (Operand.tmp 5), type := 24, pos := "outright.go:29", after := #[{ on := 1, ground := Ground.guard }], guard := some (1, true) }) (v := undef) rfl (by kernel_rfl) (by kernel_rfl) (by kernel_rfl) (fun _ _ _ h => h) (Or.inr ⟨by rfl, rfl⟩) (by assumption) ?_
              try simp only [Act.put, List.setIfInBounds_toArray, List.set_cons_zero, List.set_cons_succ]
              refine wpAnyH_take (i := 4) (oi := { dst := some 106, op := Op.move (Operand.tmp 3), type := 25, pos := "outright.go:29", after := #[{ on := 1, ground := Ground.guard }], guard := some (1, true) }) (v := undef) rfl (by kernel_rfl) (by kernel_rfl) (by kernel_rfl) (fun _ _ _ h => h) (Or.inr ⟨by rfl, rfl⟩) (by assumption) ?_
              try simp only [Act.put, List.setIfInBounds_toArray, List.set_cons_zero, List.set_cons_succ]
              refine wpAnyH_take (i := 5) (oi := { dst := some 107, op := Op.move (Operand.tmp 14), type := 3, pos := "outright.go:29", after := #[{ on := 1, ground := Ground.guard }], guard := some (1, true) }) (v := undef) rfl (by kernel_rfl) (by kernel_rfl) (by kernel_rfl) (fun _ _ _ h => h) (Or.inr ⟨by rfl, rfl⟩) (by assumption) ?_
              try simp only [Act.put, List.setIfInBounds_toArray, List.set_cons_zero, List.set_cons_succ]
              refine wpAnyH_take (i := 6) (oi := { dst := some 108, op := Op.slice 25 (Operand.tmp 106) none (some (Operand.tmp 107)) none, type := 25, pos := "outright.go:29", after := #[{ on := 4, ground := Ground.data }, { on := 5, ground := Ground.data }, { on := 1, ground := Ground.guard }], guard := some (1, true) }) (v := undef) rfl (by kernel_rfl) (by kernel_rfl) (by kernel_rfl) (fun _ _ _ h => h) (Or.inr ⟨by rfl, rfl⟩) (by assumption) ?_
              try simp only [Act.put, List.setIfInBounds_toArray, List.set_cons_zero, List.set_cons_succ]
              refine wpAnyH_take (i := 7) (oi := { dst := some 109, op := Op.call { callee := Callee.value (Operand.func 9), args := #[Operand.tmp 104, Operand.tmp 105, Operand.tmp 108], argTypes := #[24, 24, 25] }, type := 4, pos := "outright.go:29", after := #[{ on := 2, ground := Ground.data }, { on := 3, ground := Ground.data }, { on := 6, ground := Ground.data }, { on := 1, ground := Ground.chain }, { on := 1, ground := Ground.guard }], guard := some (1, true) }) (v := undef) rfl (by kernel_rfl) (by kernel_rfl) (by kernel_rfl) (fun _ _ _ h => h) (Or.inr ⟨by rfl, rfl⟩) (by assumption) ?_
              try simp only [Act.put, List.setIfInBounds_toArray, List.set_cons_zero, List.set_cons_succ]
              refine wpAnyH_take (i := 8) (oi := { dst := some 110, op := Op.unOp UnOp.not 4 (Operand.tmp 109), type := 4, pos := "outright.go:29", after := #[{ on := 7, ground := Ground.data }, { on := 1, ground := Ground.guard }], guard := some (1, true) }) (v := undef) rfl (by kernel_rfl) (by kernel_rfl) (by kernel_rfl) (fun _ _ _ h => h) (Or.inr ⟨by rfl, rfl⟩) (by assumption) ?_
              try simp only [Act.put, List.setIfInBounds_toArray, List.set_cons_zero, List.set_cons_succ]
              refine wpAnyH_take (i := 9) (oi := { dst := some 111, op := Op.pick (Operand.tmp 103) (Operand.tmp 110) (Operand.const (Value.bool false)), type := 4, pos := "outright.go:29", after := #[{ on := 1, ground := Ground.data }, { on := 8, ground := Ground.data }], guard := none }) (v := ?vv3) rfl (by kernel_rfl) (by kernel_rfl) (by kernel_rfl) (fun _ _ _ h => h) (Or.inl ⟨by rfl, ?hy3⟩) (by assumption) ?_
              case hy3 => (intro w hSw; (try dsimp only at hSw); go_simp; all_goals with_reducible rfl)
              try simp only [Act.put, List.setIfInBounds_toArray, List.set_cons_zero, List.set_cons_succ]
              refine wpAnyH_done (by kernel_rfl) ?_ _
              go_wp2_with fail
              go_roundw
              case rel => exact ⟨k + 1, by simp, by omega, hDn.out⟩
              case measure => simp [intOf] <;> omega
            · obtain rfl : k = tl + 1 := by omega
              have hkl' : ¬ ((tl + 1 : Nat) : Int) ≤ (tl : Int) := by omega
              obtain ⟨z0, z1, z2, z3, z4, z5, z6⟩ := (HB.out.1.below hD.out).cells
              obtain ⟨y0, y1, y2, y3, y4, y5, y6⟩ := (HB.out.2.1.below hD.out).cells
              have BWX : Hid (Below w.heap.size w wr) := BW.out.trans (hD.out.mono BW.out.size)
              go_wp2_with fail
              go_ret
              exact ⟨by first | rfl | simp, BWX.out⟩
        · have jl : j < l.length := by rw [← E1.out]; omega
          obtain ⟨B1, o1, c1, e, cst⟩ := (HI.out.2.2.2 w3 (Below.refl _ _)).str j jl
          have hne : Hid (tb = some ⟨B1, o1, none⟩) := by injection e
          obtain ⟨x, hx⟩ : ∃ x, l[j] = x := ⟨_, rfl⟩
          rw [hx] at cst
          have HT : Hid (tnD l j = tnD l (j + 1) ++ [x, x]) := by show _ = _; rw [tnD_step l j jl, hx]
          have HLT2 := tnD_len l (j + 1)
          have HC2 : Hid (∀ W, Below w3.heap.size w3 W → (fun W => W.cell? ⟨B1, o1 + j, none⟩ = some (.string x)) W) := fun W hb => cst W hb
          have HC : Hid (∀ W, Below wr.heap.size wr W → (fun W => W.cell? ⟨B1, o1 + j, none⟩ = some (.string x)) W) := fun W hb => cst W (hD.out.trans (hb.mono hD.out.size))
          have hge : (0 : Int) ≤ (((j + 1 : Nat)) : Int) - 1 := by omega
          rw [show (((j + 1 : Nat)) : Int) - 1 = (j : Int) by omega] at hge ⊢
          have hjt : (j : Int) < (tl : Int) := by omega
          replace HLT2 : Hid ((tnD l (j + 1)).length ≤ 2 * l.length) := HLT2
          clear e hx cst jl
          rw [hne.out]
          clear hne
          go_upto_region 12 with fail
          have hIW : Below wr.heap.size wr (wr.drew) := (Below.refl _ _).drew
          refine wp_region_held_drew (S := (fun W => W.cell? ⟨B1, o1 + j, none⟩ = some (.string x))) (by kernel_rfl) (HC.out _ hIW) (fun hHeld => ?_)
          generalize hWg : World.drew _ = W at hIW hHeld ⊢
          clear hWg
          have hb1 := bel1 W (.cells #[.string x, .string x] 9)
          have hr := R.below (R.below hR.out.1 hIW) hb1
          obtain ⟨b', c', W', a1, a2, a3⟩ := app okS (W.alloc (.cells #[.string x, .string x] 9)) _ _ hr (.slice (some ⟨W.heap.size, 0, none⟩) 2 2) [x, x] (R.isIn (R.whole okS [x, x] (by simp) (by rw [heap_al, if_pos rfl]; rfl) rfl)) (by simp only [ES, List.length_cons, List.length_nil]; have := HLT.out; have := HLT2.out; omega)
          have ecl := (slice_len (R.isIn hR.out.1)).1
          rw [← ecl] at a1 a2 a3
          simp only [List.length_cons, List.length_nil, Nat.zero_add, Nat.reduceAdd] at a1 a2 a3
          have hIA := hIW.trans (hb1.mono hIW.size)
          have hD' : Hid (Below w3.heap.size w3 W') := (hD.out.trans (hIA.mono hD.out.size)).trans (a3.belowB (Nat.le_trans hD.out.size (Nat.le_trans hIW.size hb1.size)) hR.out.2)
          have hN' : Hid (R ES W' (.slice b' (cl + 2) c') (tnD l j) ∧ ∀ k, (Value.slice b' (cl + 2) c').ownBlock = some k → w3.heap.size ≤ k) := by
            refine ⟨by rw [HT.out]; exact a2, fun k hk => ?_⟩
            rcases a3.own k hk with e | e
            · exact hR.out.2 k e
            · have := hD.out.size; have := hIW.size; have := hb1.size; omega
          have hcA : Hid ((fun W => W.cell? ⟨B1, o1 + j, none⟩ = some (.string x)) (W.alloc (.cells #[.string x, .string x] 9))) := HC.out _ hIA
          have hcW : Hid ((fun W => W.cell? ⟨B1, o1 + j, none⟩ = some (.string x)) W') := HC2.out _ hD'.out
          replace a1 : Hid _ := a1
          clear hb1 hr a2 a3 ecl hIA hR hD
          refine wpAnyH_take (i := 0) (oi := { dst := some 79, op := Op.move (Operand.tmp 12), type := 25, pos := "outright.go:23", after := #[], guard := none }) (v := ?vv4) rfl (by kernel_rfl) (by kernel_rfl) (by kernel_rfl) (fun _ _ _ h => h) (Or.inl ⟨by rfl, ?hy4⟩) (by assumption) ?_
          case hy4 => (intro w hSw; (try dsimp only at hSw); go_simp; all_goals with_reducible rfl)
          try simp only [Act.put, List.setIfInBounds_toArray, List.set_cons_zero, List.set_cons_succ]
          refine wpAnyH_take (i := 1) (oi := { dst := some 80, op := Op.move (Operand.tmp 3), type := 25, pos := "outright.go:23", after := #[], guard := none }) (v := ?vv5) rfl (by kernel_rfl) (by kernel_rfl) (by kernel_rfl) (fun _ _ _ h => h) (Or.inl ⟨by rfl, ?hy5⟩) (by assumption) ?_
          case hy5 => (intro w hSw; (try dsimp only at hSw); go_simp; all_goals with_reducible rfl)
          try simp only [Act.put, List.setIfInBounds_toArray, List.set_cons_zero, List.set_cons_succ]
          refine wpAnyH_take (i := 2) (oi := { dst := some 81, op := Op.move (Operand.tmp 13), type := 3, pos := "outright.go:23", after := #[], guard := none }) (v := ?vv6) rfl (by kernel_rfl) (by kernel_rfl) (by kernel_rfl) (fun _ _ _ h => h) (Or.inl ⟨by rfl, ?hy6⟩) (by assumption) ?_
          case hy6 => (intro w hSw; (try dsimp only at hSw); go_simp; all_goals with_reducible rfl)
          try simp only [Act.put, List.setIfInBounds_toArray, List.set_cons_zero, List.set_cons_succ]
          refine wpAnyH_take (i := 3) (oi := { dst := some 82, op := Op.indexAddr 25 (Operand.tmp 80) (Operand.tmp 81), type := 0, pos := "outright.go:23", after := #[{ on := 1, ground := Ground.data }, { on := 2, ground := Ground.data }], guard := none }) (v := ?vv7) rfl (by kernel_rfl) (by kernel_rfl) (by kernel_rfl) (fun _ _ _ h => h) (Or.inl ⟨by rfl, ?hy7⟩) (by assumption) ?_
          case hy7 => (intro w hSw; (try dsimp only at hSw); go_simp; all_goals with_reducible rfl)
          try simp only [Act.put, List.setIfInBounds_toArray, List.set_cons_zero, List.set_cons_succ]
          refine wpAnyH_take (i := 4) (oi := { dst := some 83, op := Op.load 9 (Operand.tmp 82), type := 9, pos := "outright.go:23", after := #[{ on := 3, ground := Ground.data }], guard := none }) (v := ?vv8) rfl (by kernel_rfl) (by kernel_rfl) (by kernel_rfl) (fun _ _ _ h => h) (Or.inl ⟨by rfl, ?hy8⟩) (by assumption) ?_
          case hy8 => (intro w hSw; (try dsimp only at hSw); go_simp; all_goals with_reducible rfl)
          try simp only [Act.put, List.setIfInBounds_toArray, List.set_cons_zero, List.set_cons_succ]
          refine wpAnyH_take (i := 5) (oi := { dst := some 84, op := Op.move (Operand.tmp 3), type := 25, pos := "outright.go:23", after := #[], guard := none }) (v := ?vv9) rfl (by kernel_rfl) (by kernel_rfl) (by kernel_rfl) (fun _ _ _ h => h) (Or.inl ⟨by rfl, ?hy9⟩) (by assumption) ?_
          case hy9 => (intro w hSw; (try dsimp only at hSw); go_simp; all_goals with_reducible rfl)
          try simp only [Act.put, List.setIfInBounds_toArray, List.set_cons_zero, List.set_cons_succ]
          refine wpAnyH_take (i := 6) (oi := { dst := some 85, op := Op.move (Operand.tmp 13), type := 3, pos := "outright.go:23", after := #[], guard := none }) (v := ?vv10) rfl (by kernel_rfl) (by kernel_rfl) (by kernel_rfl) (fun _ _ _ h => h) (Or.inl ⟨by rfl, ?hy10⟩) (by assumption) ?_
          case hy10 => (intro w hSw; (try dsimp only at hSw); go_simp; all_goals with_reducible rfl)
          try simp only [Act.put, List.setIfInBounds_toArray, List.set_cons_zero, List.set_cons_succ]
          refine wpAnyH_take (i := 7) (oi := { dst := some 86, op := Op.indexAddr 25 (Operand.tmp 84) (Operand.tmp 85), type := 0, pos := "outright.go:23", after := #[{ on := 5, ground := Ground.data }, { on := 6, ground := Ground.data }], guard := none }) (v := ?vv11) rfl (by kernel_rfl) (by kernel_rfl) (by kernel_rfl) (fun _ _ _ h => h) (Or.inl ⟨by rfl, ?hy11⟩) (by assumption) ?_
          case hy11 => (intro w hSw; (try dsimp only at hSw); go_simp; all_goals with_reducible rfl)
          try simp only [Act.put, List.setIfInBounds_toArray, List.set_cons_zero, List.set_cons_succ]
          refine wpAnyH_take (i := 8) (oi := { dst := some 87, op := Op.load 9 (Operand.tmp 86), type := 9, pos := "outright.go:23", after := #[{ on := 7, ground := Ground.data }], guard := none }) (v := ?vv12) rfl (by kernel_rfl) (by kernel_rfl) (by kernel_rfl) (fun _ _ _ h => h) (Or.inl ⟨by rfl, ?hy12⟩) (by assumption) ?_
          case hy12 => (intro w hSw; (try dsimp only at hSw); go_simp; all_goals with_reducible rfl)
          try simp only [Act.put, List.setIfInBounds_toArray, List.set_cons_zero, List.set_cons_succ]
          refine wpAnyH_ready (rs := [9]) (by kernel_rfl) (by simp) ?_
          refine AllReadyH.cons (o := { dst := some 88, op := Op.buildSlice 25 2 #[(0, Operand.tmp 83), (1, Operand.tmp 87)], type := 25, pos := "outright.go:23", after := #[{ on := 4, ground := Ground.data }, { on := 8, ground := Ground.data }], guard := none }) rfl (fun K hK => ?_) AllReadyH.nil
          go_simp
          go_wp2_with fail
          refine hK.out _ _ (hcA.out) (fun hHeld => ?_)
          clear hK K
          try simp only [Act.put, List.setIfInBounds_toArray, List.set_cons_zero, List.set_cons_succ]
          refine wpAnyH_ready (rs := [10]) (by kernel_rfl) (by simp) ?_
          refine AllReadyH.cons (o := { dst := some 89, op := Op.call { callee := Callee.builtin Builtin.append, args := #[Operand.tmp 79, Operand.tmp 88], argTypes := #[25, 25] }, type := 25, pos := "outright.go:23", after := #[{ on := 0, ground := Ground.data }, { on := 9, ground := Ground.data }], guard := none }) rfl (fun K hK => ?_) AllReadyH.nil
          refine step_append_run rfl (.tmp 79) (.tmp 88) 25 25 rfl a1.out (by first | rfl | simp [Act.eval, Act.put]) (by first | rfl | simp [Act.eval, Act.put]) ?_
          refine hK.out _ _ hcW.out (fun hHeld => ?_)
          clear hK K
          try simp only [Act.put, List.setIfInBounds_toArray, List.set_cons_zero, List.set_cons_succ]
          refine wpAnyH_take (i := 11) (oi := { dst := some 12, op := Op.assign (Operand.tmp 89), type := 25, pos := "outright.go:23", after := #[{ on := 10, ground := Ground.data }, { on := 10, ground := Ground.chain }, { on := 0, ground := Ground.phase }, { on := 1, ground := Ground.phase }, { on := 2, ground := Ground.phase }, { on := 3, ground := Ground.phase }, { on := 4, ground := Ground.phase }, { on := 5, ground := Ground.phase }, { on := 6, ground := Ground.phase }, { on := 7, ground := Ground.phase }, { on := 8, ground := Ground.phase }, { on := 9, ground := Ground.phase }, { on := 10, ground := Ground.phase }], guard := none }) (v := ?vv13) rfl (by kernel_rfl) (by kernel_rfl) (by kernel_rfl) (fun _ _ _ h => h) (Or.inl ⟨by rfl, ?hy13⟩) (by assumption) ?_
          case hy13 => (intro w hSw; (try dsimp only at hSw); go_simp; all_goals with_reducible rfl)
          try simp only [Act.put, List.setIfInBounds_toArray, List.set_cons_zero, List.set_cons_succ]
          refine wpAnyH_done (by kernel_rfl) ?_ _
          go_wp2_with fail
          go_roundw
          case rel => exact ⟨j, b', cl + 2, c', by first | rfl | (simp; omega), by omega, rfl, hN'.out, hD'.out⟩
          case measure => simp [intOf] <;> omega

  · have HA : Hid (mtB ⟨pm, ps, pa, pp, (pyb, pyl, pyc), pb⟩ ⟨qm, qs, qa, qp, (qyb, qyl, qyc), qb⟩ P Q l = true) := hA
    have hh := (mtB_iff.1 hA).1
    simp only [hdL, List.cons.injEq, and_true] at hh
    have ALK : ∀ b c : Bool, b = mtB ⟨qm, qs, qa, qp, (qyb, qyl, qyc), qb⟩ ⟨rm, rs, ra, rp, (ryb, ryl, ryc), rb⟩ Q V l → c = mtB ⟨pm, ps, pa, pp, (pyb, pyl, pyc), pb⟩ ⟨rm, rs, ra, rp, (ryb, ryl, ryc), rb⟩ P V l → b = c := fun b c hb hc => by
      cases b
      · cases c
        · rfl
        · have := mtB_trans (by rw [mtB_symm]; exact hA : mtB ⟨qm, qs, qa, qp, (qyb, qyl, qyc), qb⟩ ⟨pm, ps, pa, pp, (pyb, pyl, pyc), pb⟩ Q P l = true) hc.symm
          rw [← hb] at this
          cases this
      · have := mtB_trans hA hb.symm
        rw [← hc] at this
        exact this.symm
    obtain ⟨h1, h2, h3, h4⟩ := hh
    subst h1 h2 h3 h4
    clear hA
    as_aux_lemma =>
      have BQ : Hid (∀ b c : Bool, b = mtB ⟨pm, ps, pa, pp, (qyb, qyl, qyc), qb⟩ ⟨rm, rs, ra, rp, (ryb, ryl, ryc), rb⟩ Q V l → c = mtB ⟨pm, ps, pa, pp, (pyb, pyl, pyc), pb⟩ ⟨rm, rs, ra, rp, (ryb, ryl, ryc), rb⟩ P V l → b = c) := ALK
      go_enter Tryd.func3, Tryd.ntmps3
      go_wp2_with fail
      go_at_call 8
      rw [HW3.out]
      refine (first_any w3).mono ?_
      rintro e w4 ⟨rfl, bx⟩
      have D0 : Hid (Below w3.heap.size w3 w4) := bx
      clear bx
      obtain ⟨z0, z1, z2, z3, z4, z5, z6⟩ := (HB.out.1.below D0.out).cells
      obtain ⟨y0, y1, y2, y3, y4, y5, y6⟩ := (HB.out.2.1.below D0.out).cells
      go_wp2_with fail
      go_at_call 9
      refine (match_any ⟨pm, ps, pa, pp, (pyb, pyl, pyc), pb⟩ ⟨pm, ps, pa, pp, (qyb, qyl, qyc), qb⟩ (tb, tl, tc) P Q (l) _ (HI.out.1 _ D0.out) (HI.out.2.1 _ D0.out) (HI.out.2.2.2 _ D0.out) HL.out.1 HL.out.2.1).mono ?_
      rintro e w5 ⟨rfl, bx⟩
      rw [HA.out]
      have D1 : Hid (Below w3.heap.size w3 w5) := D0.out.trans (bx.mono D0.out.size)
      clear bx z0 z1 z2 z3 z4 z5 z6 y0 y1 y2 y3 y4 y5 y6
      obtain ⟨Bv, hBv⟩ : ∃ b, b = mtB ⟨pm, ps, pa, pp, (qyb, qyl, qyc), qb⟩ ⟨rm, rs, ra, rp, (ryb, ryl, ryc), rb⟩ Q V l := ⟨_, rfl⟩
      obtain ⟨Cv, hCv⟩ : ∃ b, b = mtB ⟨pm, ps, pa, pp, (pyb, pyl, pyc), pb⟩ ⟨rm, rs, ra, rp, (ryb, ryl, ryc), rb⟩ P V l := ⟨_, rfl⟩
      have HBv : Hid _ := hBv
      have HCv : Hid _ := hCv
      have hbc := BQ.out _ _ hBv hCv
      replace HBv : Hid (mtB ⟨pm, ps, pa, pp, (qyb, qyl, qyc), qb⟩ ⟨rm, rs, ra, rp, (ryb, ryl, ryc), rb⟩ Q V l = Bv) := hBv.symm
      replace HCv : Hid (mtB ⟨pm, ps, pa, pp, (pyb, pyl, pyc), pb⟩ ⟨rm, rs, ra, rp, (ryb, ryl, ryc), rb⟩ P V l = Cv) := hCv.symm
      clear hBv hCv BQ
      obtain ⟨z0, z1, z2, z3, z4, z5, z6⟩ := (HB.out.2.1.below D1.out).cells
      obtain ⟨y0, y1, y2, y3, y4, y5, y6⟩ := (HB.out.2.2.below D1.out).cells
      go_wp2_with fail
      go_at_call 9
      refine (match_any ⟨pm, ps, pa, pp, (qyb, qyl, qyc), qb⟩ ⟨rm, rs, ra, rp, (ryb, ryl, ryc), rb⟩ (tb, tl, tc) Q V (l) _ (HI.out.2.1 _ D1.out) (HI.out.2.2.1 _ D1.out) (HI.out.2.2.2 _ D1.out) HL.out.2.1 HL.out.2.2.1).mono ?_
      rintro e w6 ⟨rfl, bx⟩
      rw [HBv.out]
      have D2 : Hid (Below w3.heap.size w3 w6) := D1.out.trans (bx.mono D1.out.size)
      clear bx z0 z1 z2 z3 z4 z5 z6 y0 y1 y2 y3 y4 y5 y6
      obtain ⟨z0, z1, z2, z3, z4, z5, z6⟩ := (HB.out.1.below D2.out).cells
      obtain ⟨y0, y1, y2, y3, y4, y5, y6⟩ := (HB.out.2.2.below D2.out).cells
      go_wp2_with fail
      go_at_call 9
      refine (match_any ⟨pm, ps, pa, pp, (pyb, pyl, pyc), pb⟩ ⟨rm, rs, ra, rp, (ryb, ryl, ryc), rb⟩ (tb, tl, tc) P V (l) _ (HI.out.1 _ D2.out) (HI.out.2.2.1 _ D2.out) (HI.out.2.2.2 _ D2.out) HL.out.1 HL.out.2.2.1).mono ?_
      rintro e w7 ⟨rfl, bx⟩
      rw [HCv.out]
      have D3 : Hid (Below w3.heap.size w3 w7) := D2.out.trans (bx.mono D2.out.size)
      clear bx z0 z1 z2 z3 z4 z5 z6 y0 y1 y2 y3 y4 y5 y6
      clear HBv HCv
      go_upto_region 6 with fail
      go_cut [71] from 15 (fun x wx => x = .bool false ∧ Hid (Below w3.heap.size w3 wx))
      case first =>
        obtain ⟨z0, z1, z2, z3, z4, z5, z6⟩ := (HB.out.1.below D3.out).cells
        obtain ⟨y0, y1, y2, y3, y4, y5, y6⟩ := (HB.out.1.below D3.out).cells
        go_wp2_with fail
        go_at_call 9
        refine (match_any ⟨pm, ps, pa, pp, (pyb, pyl, pyc), pb⟩ ⟨pm, ps, pa, pp, (pyb, pyl, pyc), pb⟩ (tb, tl, tc) P P (l) _ (HI.out.1 _ D3.out) (HI.out.1 _ D3.out) (HI.out.2.2.2 _ D3.out) HL.out.1 HL.out.1).mono ?_
        rintro e w8 ⟨rfl, bx⟩
        rw [mtB_refl]
        have D4 : Hid (Below w3.heap.size w3 w8) := D3.out.trans (bx.mono D3.out.size)
        clear bx z0 z1 z2 z3 z4 z5 z6 y0 y1 y2 y3 y4 y5 y6
        obtain ⟨z0, z1, z2, z3, z4, z5, z6⟩ := (HB.out.2.1.below D4.out).cells
        obtain ⟨y0, y1, y2, y3, y4, y5, y6⟩ := (HB.out.1.below D4.out).cells
        go_wp2_with fail
        go_at_call 9
        refine (match_any ⟨pm, ps, pa, pp, (qyb, qyl, qyc), qb⟩ ⟨pm, ps, pa, pp, (pyb, pyl, pyc), pb⟩ (tb, tl, tc) Q P (l) _ (HI.out.2.1 _ D4.out) (HI.out.1 _ D4.out) (HI.out.2.2.2 _ D4.out) HL.out.2.1 HL.out.1).mono ?_
        rintro e w9 ⟨rfl, bx⟩
        rw [mtB_symm, HA.out]
        have D5 : Hid (Below w3.heap.size w3 w9) := D4.out.trans (bx.mono D4.out.size)
        clear bx z0 z1 z2 z3 z4 z5 z6 y0 y1 y2 y3 y4 y5 y6
        subst hbc
        cases Bv
        · go_wp2_with fail
          go_meet
          exact ⟨by first | rfl | simp, D5.out⟩
        · go_wp2_with fail
          go_meet
          exact ⟨by first | rfl | simp, D5.out⟩
      obtain ⟨hx, hD⟩ := hcut
      subst hx
      have htl : (tl : Int) ≤ 1048576 := by have := HLT.out; omega
      clear hbc D0 D1 D2 D3
      go_wp2_with fail
      go_loopw [12, 13] (fun cv iv wr => ∃ (j : Nat) (cb : Option Addr) (cl cc : Nat), iv = .int .i64 ((j : Int) - 1) ∧ j ≤ tl ∧ cv = .slice cb cl cc ∧ Hid (R ES wr (.slice cb cl cc) (tnD l j) ∧ ∀ k, (Value.slice cb cl cc).ownBlock = some k → w3.heap.size ≤ k) ∧ Hid (Below w3.heap.size w3 wr)) (fun _ iv _ => (intOf iv + 1).toNat)
      case atStart => exact ⟨tl, none, 0, 0, rfl, Nat.le_refl _, rfl, by rw [E1.out, tnD_end]; exact ⟨R.nil _ _, fun k hk => by simp [Value.ownBlock] at hk⟩, hD.out⟩
      case round =>
        obtain ⟨j', cb, cl, cc, rfl, hj, rfl, hR, hD⟩ := hrel
        rcases j' with _ | j
        · have hge : ¬ (0 : Int) ≤ ((0 : Nat) : Int) - 1 := by decide
          have hR0 : Hid (In ES wr (.slice cb cl cc) (tnD l 0)) := R.isIn hR.out.1
          clear hR
          rw [show (((0 : Nat) : Int) - 1) = -1 from rfl] at hge ⊢
          obtain ⟨z0, z1, z2, z3, z4, z5, z6⟩ := (HB.out.1.below hD.out).cells
          obtain ⟨y0, y1, y2, y3, y4, y5, y6⟩ := (HB.out.2.1.below hD.out).cells
          go_wp2_with fail
          go_at_call 9
          refine (match_any ⟨pm, ps, pa, pp, (pyb, pyl, pyc), pb⟩ ⟨pm, ps, pa, pp, (qyb, qyl, qyc), qb⟩ (cb, cl, cc) P Q (tnD l 0) _ (HI.out.1 _ hD.out) (HI.out.2.1 _ hD.out) (hR0.out) HL.out.1 HL.out.2.1).mono ?_
          rintro e w10 ⟨rfl, bx⟩
          rw [mtB_mem (tnD_mem l), HA.out]
          have D6 : Hid (Below w3.heap.size w3 w10) := hD.out.trans (bx.mono hD.out.size)
          clear bx z0 z1 z2 z3 z4 z5 z6 y0 y1 y2 y3 y4 y5 y6
          clear hR0 hD
          go_wp2_with fail
          go_loopw [14] (fun kv wr => ∃ k : Nat, kv = .int .i64 (k : Int) ∧ k ≤ tl + 1 ∧ Hid (Below w3.heap.size w3 wr)) (fun kv _ => tl + 1 - (intOf kv).toNat)
          case atStart => exact ⟨0, rfl, by omega, D6.out⟩
          case round =>
            obtain ⟨k, rfl, hk, hD⟩ := hrel
            clear D6
            by_cases hkl : k ≤ tl
            · have hkl' : (k : Int) ≤ (tl : Int) := by omega
              have hkc : (k : Int) ≤ (tc : Int) := by omega
              have HTK : Hid (∀ W, Below w3.heap.size w3 W → In ES W (.slice tb k tc) (l.take k)) := fun W hb => in_take (HI.out.2.2.2 W hb) k (by rw [← E1.out]; exact hkl)
              have HC : Hid (∀ W, Below wr.heap.size wr W → (fun W => W.cell? ⟨w.heap.size, 0, none⟩ = some (.string pm) ∧ W.cell? ⟨w.heap.size, 1, none⟩ = some (.string ps) ∧ W.cell? ⟨w.heap.size, 2, none⟩ = some (.string pa) ∧ W.cell? ⟨w.heap.size, 3, none⟩ = some (.string pp) ∧ W.cell? ⟨w.heap.size, 4, none⟩ = some (.slice pyb pyl pyc) ∧ W.cell? ⟨w.heap.size, 5, none⟩ = some (.string pb) ∧ W.cell? ⟨w.heap.size + 1, 0, none⟩ = some (.string pm) ∧ W.cell? ⟨w.heap.size + 1, 1, none⟩ = some (.string ps) ∧ W.cell? ⟨w.heap.size + 1, 2, none⟩ = some (.string pa) ∧ W.cell? ⟨w.heap.size + 1, 3, none⟩ = some (.string pp) ∧ W.cell? ⟨w.heap.size + 1, 4, none⟩ = some (.slice qyb qyl qyc) ∧ W.cell? ⟨w.heap.size + 1, 5, none⟩ = some (.string qb)) W) := fun W hb => by
                have hb' := hD.out.trans (hb.mono hD.out.size)
                obtain ⟨x0, x1, x2, x3, x4, x5, _⟩ := (HB.out.1.below hb').cells
                obtain ⟨u0, u1, u2, u3, u4, u5, _⟩ := (HB.out.2.1.below hb').cells
                exact ⟨x0, x1, x2, x3, x4, x5, u0, u1, u2, u3, u4, u5⟩
              go_upto_region 18 with fail
              have hIW : Below wr.heap.size wr (wr.drew) := (Below.refl _ _).drew
              refine wp_region_held_drew (S := (fun W => W.cell? ⟨w.heap.size, 0, none⟩ = some (.string pm) ∧ W.cell? ⟨w.heap.size, 1, none⟩ = some (.string ps) ∧ W.cell? ⟨w.heap.size, 2, none⟩ = some (.string pa) ∧ W.cell? ⟨w.heap.size, 3, none⟩ = some (.string pp) ∧ W.cell? ⟨w.heap.size, 4, none⟩ = some (.slice pyb pyl pyc) ∧ W.cell? ⟨w.heap.size, 5, none⟩ = some (.string pb) ∧ W.cell? ⟨w.heap.size + 1, 0, none⟩ = some (.string pm) ∧ W.cell? ⟨w.heap.size + 1, 1, none⟩ = some (.string ps) ∧ W.cell? ⟨w.heap.size + 1, 2, none⟩ = some (.string pa) ∧ W.cell? ⟨w.heap.size + 1, 3, none⟩ = some (.string pp) ∧ W.cell? ⟨w.heap.size + 1, 4, none⟩ = some (.slice qyb qyl qyc) ∧ W.cell? ⟨w.heap.size + 1, 5, none⟩ = some (.string qb))) (by kernel_rfl) (HC.out _ hIW) (fun hHeld => ?_)
              generalize hWg : World.drew _ = W at hIW hHeld ⊢
              clear hWg
              refine wpAnyH_take (i := 0) (oi := { dst := some 102, op := Op.move (Operand.tmp 9), type := 4, pos := "outright.go:29", after := #[], guard := none }) (v := ?vv14) rfl (by kernel_rfl) (by kernel_rfl) (by kernel_rfl) (fun _ _ _ h => h) (Or.inl ⟨by rfl, ?hy14⟩) (by assumption) ?_
              case hy14 => (intro w hSw; (try dsimp only at hSw); go_simp; all_goals with_reducible rfl)
              try simp only [Act.put, List.setIfInBounds_toArray, List.set_cons_zero, List.set_cons_succ]
              refine wpAnyH_take (i := 1) (oi := { dst := some 103, op := Op.move (Operand.tmp 102), type := 4, pos := "outright.go:29", after := #[{ on := 0, ground := Ground.data }], guard := none }) (v := ?vv15) rfl (by kernel_rfl) (by kernel_rfl) (by kernel_rfl) (fun _ _ _ h => h) (Or.inl ⟨by rfl, ?hy15⟩) (by assumption) ?_
              case hy15 => (intro w hSw; (try dsimp only at hSw); go_simp; all_goals with_reducible rfl)
              try simp only [Act.put, List.setIfInBounds_toArray, List.set_cons_zero, List.set_cons_succ]
              refine wpAnyH_take (i := 2) (oi := { dst := some 104, op := Op.load 24 (Operand.tmp 4), type := 24, pos := "outright.go:29", after := #[{ on := 1, ground := Ground.guard }], guard := some (1, true) }) (v := ?vv16) rfl (by kernel_rfl) (by kernel_rfl) (by kernel_rfl) (fun _ _ _ h => h) (Or.inl ⟨by rfl, ?hy16⟩) (by assumption) ?_
              case hy16 => (intro w hSw; (try dsimp only at hSw); go_simp; all_goals with_reducible rfl)
              try simp only [Act.put, List.setIfInBounds_toArray, List.set_cons_zero, List.set_cons_succ]
              refine wpAnyH_take (i := 3) (oi := { dst := some 105, op := Op.load 24 (Operand.tmp 5), type := 24, pos := "outright.go:29", after := #[{ on := 1, ground := Ground.guard }], guard := some (1, true) }) (v := ?vv17) rfl (by kernel_rfl) (by kernel_rfl) (by kernel_rfl) (fun _ _ _ h => h) (Or.inl ⟨by rfl, ?hy17⟩) (by assumption) ?_
              case hy17 => (intro w hSw; (try dsimp only at hSw); go_simp; all_goals with_reducible rfl)
              try simp only [Act.put, List.setIfInBounds_toArray, List.set_cons_zero, List.set_cons_succ]
              refine wpAnyH_take (i := 4) (oi := { dst := some 106, op := Op.move (Operand.tmp 3), type := 25, pos := "outright.go:29", after := #[{ on := 1, ground := Ground.guard }], guard := some (1, true) }) (v := ?vv18) rfl (by kernel_rfl) (by kernel_rfl) (by kernel_rfl) (fun _ _ _ h => h) (Or.inl ⟨by rfl, ?hy18⟩) (by assumption) ?_
              case hy18 => (intro w hSw; (try dsimp only at hSw); go_simp; all_goals with_reducible rfl)
              try simp only [Act.put, List.setIfInBounds_toArray, List.set_cons_zero, List.set_cons_succ]
              refine wpAnyH_take (i := 5) (oi := { dst := some 107, op := Op.move (Operand.tmp 14), type := 3, pos := "outright.go:29", after := #[{ on := 1, ground := Ground.guard }], guard := some (1, true) }) (v := ?vv19) rfl (by kernel_rfl) (by kernel_rfl) (by kernel_rfl) (fun _ _ _ h => h) (Or.inl ⟨by rfl, ?hy19⟩) (by assumption) ?_
              case hy19 => (intro w hSw; (try dsimp only at hSw); go_simp; all_goals with_reducible rfl)
              try simp only [Act.put, List.setIfInBounds_toArray, List.set_cons_zero, List.set_cons_succ]
              refine wpAnyH_take (i := 6) (oi := { dst := some 108, op := Op.slice 25 (Operand.tmp 106) none (some (Operand.tmp 107)) none, type := 25, pos := "outright.go:29", after := #[{ on := 4, ground := Ground.data }, { on := 5, ground := Ground.data }, { on := 1, ground := Ground.guard }], guard := some (1, true) }) (v := ?vv20) rfl (by kernel_rfl) (by kernel_rfl) (by kernel_rfl) (fun _ _ _ h => h) (Or.inl ⟨by rfl, ?hy20⟩) (by assumption) ?_
              case hy20 => (intro w hSw; (try dsimp only at hSw); go_simp; all_goals with_reducible rfl)
              try simp only [Act.put, List.setIfInBounds_toArray, List.set_cons_zero, List.set_cons_succ]
              refine wpAnyH_ready (rs := [7]) (by kernel_rfl) (by simp) ?_
              refine AllReadyH.cons (o := { dst := some 109, op := Op.call { callee := Callee.value (Operand.func 9), args := #[Operand.tmp 104, Operand.tmp 105, Operand.tmp 108], argTypes := #[24, 24, 25] }, type := 4, pos := "outright.go:29", after := #[{ on := 2, ground := Ground.data }, { on := 3, ground := Ground.data }, { on := 6, ground := Ground.data }, { on := 1, ground := Ground.chain }, { on := 1, ground := Ground.guard }], guard := some (1, true) }) rfl (fun K hK => ?_) AllReadyH.nil
              go_simp
              refine (match_any ⟨pm, ps, pa, pp, (pyb, pyl, pyc), pb⟩ ⟨pm, ps, pa, pp, (qyb, qyl, qyc), qb⟩ (tb, k, tc) P Q (l.take k) _ (HI.out.1 _ (hD.out.trans (hIW.mono hD.out.size))) (HI.out.2.1 _ (hD.out.trans (hIW.mono hD.out.size))) (HTK.out _ (hD.out.trans (hIW.mono hD.out.size))) HL.out.1 HL.out.2.1).mono ?_
              rintro e' Wx ⟨rfl, bX⟩
              rw [mtB_take k HA.out]
              have hIWx : Below wr.heap.size wr Wx := hIW.trans (bX.mono hIW.size)
              go_wp2_with fail
              refine hK.out _ _ (HC.out _ hIWx) (fun hHeld => ?_)
              clear hK K bX hIW
              try simp only [Act.put, List.setIfInBounds_toArray, List.set_cons_zero, List.set_cons_succ]
              refine wpAnyH_take (i := 8) (oi := { dst := some 110, op := Op.unOp UnOp.not 4 (Operand.tmp 109), type := 4, pos := "outright.go:29", after := #[{ on := 7, ground := Ground.data }, { on := 1, ground := Ground.guard }], guard := some (1, true) }) (v := ?vv21) rfl (by kernel_rfl) (by kernel_rfl) (by kernel_rfl) (fun _ _ _ h => h) (Or.inl ⟨by rfl, ?hy21⟩) (by assumption) ?_
              case hy21 => (intro w hSw; (try dsimp only at hSw); go_simp; all_goals with_reducible rfl)
              try simp only [Act.put, List.setIfInBounds_toArray, List.set_cons_zero, List.set_cons_succ]
              refine wpAnyH_take (i := 9) (oi := { dst := some 111, op := Op.pick (Operand.tmp 103) (Operand.tmp 110) (Operand.const (Value.bool false)), type := 4, pos := "outright.go:29", after := #[{ on := 1, ground := Ground.data }, { on := 8, ground := Ground.data }], guard := none }) (v := ?vv22) rfl (by kernel_rfl) (by kernel_rfl) (by kernel_rfl) (fun _ _ _ h => h) (Or.inl ⟨by rfl, ?hy22⟩) (by assumption) ?_
              case hy22 => (intro w hSw; (try dsimp only at hSw); go_simp; all_goals with_reducible rfl)
              try simp only [Act.put, List.setIfInBounds_toArray, List.set_cons_zero, List.set_cons_succ]
              refine wpAnyH_done (by kernel_rfl) ?_ _
              go_wp2_with fail
              go_roundw
              case rel => exact ⟨k + 1, by simp, by omega, hD.out.trans (hIWx.mono hD.out.size)⟩
              case measure => simp [intOf] <;> omega
            · obtain rfl : k = tl + 1 := by omega
              have hkl' : ¬ ((tl + 1 : Nat) : Int) ≤ (tl : Int) := by omega
              obtain ⟨z0, z1, z2, z3, z4, z5, z6⟩ := (HB.out.1.below hD.out).cells
              obtain ⟨y0, y1, y2, y3, y4, y5, y6⟩ := (HB.out.2.1.below hD.out).cells
              have BWX : Hid (Below w.heap.size w wr) := BW.out.trans (hD.out.mono BW.out.size)
              go_wp2_with fail
              go_ret
              exact ⟨by first | rfl | simp, BWX.out⟩
        · have jl : j < l.length := by rw [← E1.out]; omega
          obtain ⟨B1, o1, c1, e, cst⟩ := (HI.out.2.2.2 w3 (Below.refl _ _)).str j jl
          have hne : Hid (tb = some ⟨B1, o1, none⟩) := by injection e
          obtain ⟨x, hx⟩ : ∃ x, l[j] = x := ⟨_, rfl⟩
          rw [hx] at cst
          have HT : Hid (tnD l j = tnD l (j + 1) ++ [x, x]) := by show _ = _; rw [tnD_step l j jl, hx]
          have HLT2 := tnD_len l (j + 1)
          have HC2 : Hid (∀ W, Below w3.heap.size w3 W → (fun W => W.cell? ⟨B1, o1 + j, none⟩ = some (.string x)) W) := fun W hb => cst W hb
          have HC : Hid (∀ W, Below wr.heap.size wr W → (fun W => W.cell? ⟨B1, o1 + j, none⟩ = some (.string x)) W) := fun W hb => cst W (hD.out.trans (hb.mono hD.out.size))
          have hge : (0 : Int) ≤ (((j + 1 : Nat)) : Int) - 1 := by omega
          rw [show (((j + 1 : Nat)) : Int) - 1 = (j : Int) by omega] at hge ⊢
          have hjt : (j : Int) < (tl : Int) := by omega
          replace HLT2 : Hid ((tnD l (j + 1)).length ≤ 2 * l.length) := HLT2
          clear e hx cst jl
          rw [hne.out]
          clear hne
          go_upto_region 12 with fail
          have hIW : Below wr.heap.size wr (wr.drew) := (Below.refl _ _).drew
          refine wp_region_held_drew (S := (fun W => W.cell? ⟨B1, o1 + j, none⟩ = some (.string x))) (by kernel_rfl) (HC.out _ hIW) (fun hHeld => ?_)
          generalize hWg : World.drew _ = W at hIW hHeld ⊢
          clear hWg
          have hb1 := bel1 W (.cells #[.string x, .string x] 9)
          have hr := R.below (R.below hR.out.1 hIW) hb1
          obtain ⟨b', c', W', a1, a2, a3⟩ := app okS (W.alloc (.cells #[.string x, .string x] 9)) _ _ hr (.slice (some ⟨W.heap.size, 0, none⟩) 2 2) [x, x] (R.isIn (R.whole okS [x, x] (by simp) (by rw [heap_al, if_pos rfl]; rfl) rfl)) (by simp only [ES, List.length_cons, List.length_nil]; have := HLT.out; have := HLT2.out; omega)
          have ecl := (slice_len (R.isIn hR.out.1)).1
          rw [← ecl] at a1 a2 a3
          simp only [List.length_cons, List.length_nil, Nat.zero_add, Nat.reduceAdd] at a1 a2 a3
          have hIA := hIW.trans (hb1.mono hIW.size)
          have hD' : Hid (Below w3.heap.size w3 W') := (hD.out.trans (hIA.mono hD.out.size)).trans (a3.belowB (Nat.le_trans hD.out.size (Nat.le_trans hIW.size hb1.size)) hR.out.2)
          have hN' : Hid (R ES W' (.slice b' (cl + 2) c') (tnD l j) ∧ ∀ k, (Value.slice b' (cl + 2) c').ownBlock = some k → w3.heap.size ≤ k) := by
            refine ⟨by rw [HT.out]; exact a2, fun k hk => ?_⟩
            rcases a3.own k hk with e | e
            · exact hR.out.2 k e
            · have := hD.out.size; have := hIW.size; have := hb1.size; omega
          have hcA : Hid ((fun W => W.cell? ⟨B1, o1 + j, none⟩ = some (.string x)) (W.alloc (.cells #[.string x, .string x] 9))) := HC.out _ hIA
          have hcW : Hid ((fun W => W.cell? ⟨B1, o1 + j, none⟩ = some (.string x)) W') := HC2.out _ hD'.out
          replace a1 : Hid _ := a1
          clear hb1 hr a2 a3 ecl hIA hR hD
          refine wpAnyH_take (i := 0) (oi := { dst := some 79, op := Op.move (Operand.tmp 12), type := 25, pos := "outright.go:23", after := #[], guard := none }) (v := ?vv23) rfl (by kernel_rfl) (by kernel_rfl) (by kernel_rfl) (fun _ _ _ h => h) (Or.inl ⟨by rfl, ?hy23⟩) (by assumption) ?_
          case hy23 => (intro w hSw; (try dsimp only at hSw); go_simp; all_goals with_reducible rfl)
          try simp only [Act.put, List.setIfInBounds_toArray, List.set_cons_zero, List.set_cons_succ]
          refine wpAnyH_take (i := 1) (oi := { dst := some 80, op := Op.move (Operand.tmp 3), type := 25, pos := "outright.go:23", after := #[], guard := none }) (v := ?vv24) rfl (by kernel_rfl) (by kernel_rfl) (by kernel_rfl) (fun _ _ _ h => h) (Or.inl ⟨by rfl, ?hy24⟩) (by assumption) ?_
          case hy24 => (intro w hSw; (try dsimp only at hSw); go_simp; all_goals with_reducible rfl)
          try simp only [Act.put, List.setIfInBounds_toArray, List.set_cons_zero, List.set_cons_succ]
          refine wpAnyH_take (i := 2) (oi := { dst := some 81, op := Op.move (Operand.tmp 13), type := 3, pos := "outright.go:23", after := #[], guard := none }) (v := ?vv25) rfl (by kernel_rfl) (by kernel_rfl) (by kernel_rfl) (fun _ _ _ h => h) (Or.inl ⟨by rfl, ?hy25⟩) (by assumption) ?_
          case hy25 => (intro w hSw; (try dsimp only at hSw); go_simp; all_goals with_reducible rfl)
          try simp only [Act.put, List.setIfInBounds_toArray, List.set_cons_zero, List.set_cons_succ]
          refine wpAnyH_take (i := 3) (oi := { dst := some 82, op := Op.indexAddr 25 (Operand.tmp 80) (Operand.tmp 81), type := 0, pos := "outright.go:23", after := #[{ on := 1, ground := Ground.data }, { on := 2, ground := Ground.data }], guard := none }) (v := ?vv26) rfl (by kernel_rfl) (by kernel_rfl) (by kernel_rfl) (fun _ _ _ h => h) (Or.inl ⟨by rfl, ?hy26⟩) (by assumption) ?_
          case hy26 => (intro w hSw; (try dsimp only at hSw); go_simp; all_goals with_reducible rfl)
          try simp only [Act.put, List.setIfInBounds_toArray, List.set_cons_zero, List.set_cons_succ]
          refine wpAnyH_take (i := 4) (oi := { dst := some 83, op := Op.load 9 (Operand.tmp 82), type := 9, pos := "outright.go:23", after := #[{ on := 3, ground := Ground.data }], guard := none }) (v := ?vv27) rfl (by kernel_rfl) (by kernel_rfl) (by kernel_rfl) (fun _ _ _ h => h) (Or.inl ⟨by rfl, ?hy27⟩) (by assumption) ?_
          case hy27 => (intro w hSw; (try dsimp only at hSw); go_simp; all_goals with_reducible rfl)
          try simp only [Act.put, List.setIfInBounds_toArray, List.set_cons_zero, List.set_cons_succ]
          refine wpAnyH_take (i := 5) (oi := { dst := some 84, op := Op.move (Operand.tmp 3), type := 25, pos := "outright.go:23", after := #[], guard := none }) (v := ?vv28) rfl (by kernel_rfl) (by kernel_rfl) (by kernel_rfl) (fun _ _ _ h => h) (Or.inl ⟨by rfl, ?hy28⟩) (by assumption) ?_
          case hy28 => (intro w hSw; (try dsimp only at hSw); go_simp; all_goals with_reducible rfl)
          try simp only [Act.put, List.setIfInBounds_toArray, List.set_cons_zero, List.set_cons_succ]
          refine wpAnyH_take (i := 6) (oi := { dst := some 85, op := Op.move (Operand.tmp 13), type := 3, pos := "outright.go:23", after := #[], guard := none }) (v := ?vv29) rfl (by kernel_rfl) (by kernel_rfl) (by kernel_rfl) (fun _ _ _ h => h) (Or.inl ⟨by rfl, ?hy29⟩) (by assumption) ?_
          case hy29 => (intro w hSw; (try dsimp only at hSw); go_simp; all_goals with_reducible rfl)
          try simp only [Act.put, List.setIfInBounds_toArray, List.set_cons_zero, List.set_cons_succ]
          refine wpAnyH_take (i := 7) (oi := { dst := some 86, op := Op.indexAddr 25 (Operand.tmp 84) (Operand.tmp 85), type := 0, pos := "outright.go:23", after := #[{ on := 5, ground := Ground.data }, { on := 6, ground := Ground.data }], guard := none }) (v := ?vv30) rfl (by kernel_rfl) (by kernel_rfl) (by kernel_rfl) (fun _ _ _ h => h) (Or.inl ⟨by rfl, ?hy30⟩) (by assumption) ?_
          case hy30 => (intro w hSw; (try dsimp only at hSw); go_simp; all_goals with_reducible rfl)
          try simp only [Act.put, List.setIfInBounds_toArray, List.set_cons_zero, List.set_cons_succ]
          refine wpAnyH_take (i := 8) (oi := { dst := some 87, op := Op.load 9 (Operand.tmp 86), type := 9, pos := "outright.go:23", after := #[{ on := 7, ground := Ground.data }], guard := none }) (v := ?vv31) rfl (by kernel_rfl) (by kernel_rfl) (by kernel_rfl) (fun _ _ _ h => h) (Or.inl ⟨by rfl, ?hy31⟩) (by assumption) ?_
          case hy31 => (intro w hSw; (try dsimp only at hSw); go_simp; all_goals with_reducible rfl)
          try simp only [Act.put, List.setIfInBounds_toArray, List.set_cons_zero, List.set_cons_succ]
          refine wpAnyH_ready (rs := [9]) (by kernel_rfl) (by simp) ?_
          refine AllReadyH.cons (o := { dst := some 88, op := Op.buildSlice 25 2 #[(0, Operand.tmp 83), (1, Operand.tmp 87)], type := 25, pos := "outright.go:23", after := #[{ on := 4, ground := Ground.data }, { on := 8, ground := Ground.data }], guard := none }) rfl (fun K hK => ?_) AllReadyH.nil
          go_simp
          go_wp2_with fail
          refine hK.out _ _ (hcA.out) (fun hHeld => ?_)
          clear hK K
          try simp only [Act.put, List.setIfInBounds_toArray, List.set_cons_zero, List.set_cons_succ]
          refine wpAnyH_ready (rs := [10]) (by kernel_rfl) (by simp) ?_
          refine AllReadyH.cons (o := { dst := some 89, op := Op.call { callee := Callee.builtin Builtin.append, args := #[Operand.tmp 79, Operand.tmp 88], argTypes := #[25, 25] }, type := 25, pos := "outright.go:23", after := #[{ on := 0, ground := Ground.data }, { on := 9, ground := Ground.data }], guard := none }) rfl (fun K hK => ?_) AllReadyH.nil
          refine step_append_run rfl (.tmp 79) (.tmp 88) 25 25 rfl a1.out (by first | rfl | simp [Act.eval, Act.put]) (by first | rfl | simp [Act.eval, Act.put]) ?_
          refine hK.out _ _ hcW.out (fun hHeld => ?_)
          clear hK K
          try simp only [Act.put, List.setIfInBounds_toArray, List.set_cons_zero, List.set_cons_succ]
          refine wpAnyH_take (i := 11) (oi := { dst := some 12, op := Op.assign (Operand.tmp 89), type := 25, pos := "outright.go:23", after := #[{ on := 10, ground := Ground.data }, { on := 10, ground := Ground.chain }, { on := 0, ground := Ground.phase }, { on := 1, ground := Ground.phase }, { on := 2, ground := Ground.phase }, { on := 3, ground := Ground.phase }, { on := 4, ground := Ground.phase }, { on := 5, ground := Ground.phase }, { on := 6, ground := Ground.phase }, { on := 7, ground := Ground.phase }, { on := 8, ground := Ground.phase }, { on := 9, ground := Ground.phase }, { on := 10, ground := Ground.phase }], guard := none }) (v := ?vv32) rfl (by kernel_rfl) (by kernel_rfl) (by kernel_rfl) (fun _ _ _ h => h) (Or.inl ⟨by rfl, ?hy32⟩) (by assumption) ?_
          case hy32 => (intro w hSw; (try dsimp only at hSw); go_simp; all_goals with_reducible rfl)
          try simp only [Act.put, List.setIfInBounds_toArray, List.set_cons_zero, List.set_cons_succ]
          refine wpAnyH_done (by kernel_rfl) ?_ _
          go_wp2_with fail
          go_roundw
          case rel => exact ⟨j, b', cl + 2, c', by first | rfl | (simp; omega), by omega, rfl, hN'.out, hD'.out⟩
          case measure => simp [intOf] <;> omega

end Go.Proofs.YtckdldbheejmhaaDoor
