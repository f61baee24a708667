/- A header block in pieces. -/
import Derived.Test.YtfmljlflnpmceaaGreatDoorUa
import Derived.Test.YtfmljlflnpmceaaGreatDoorVzp
namespace Go.Proofs.YtfmljlflnpmceaaGreatDoor
open Go.RowKit
set_option linter.unusedVariables false
set_option linter.unusedSimpArgs false
open Classical in noncomputable def mkE (s : Bool) (f : Fm.Fr) : Et := ⟨s, f, [], P1.nOf f []⟩
open Classical in noncomputable def coL (s : Bool) (st : Int) (n i : Nat) : List Et := (List.range i).map fun j => mkE s (frT 9 (if j + 1 = n then 4 else 0) st ⟨#[99]⟩ 0 0)
theorem coL_succ (s : Bool) (st : Int) (n i : Nat) : coL s st n (i + 1) = coL s st n i ++ [mkE s (frT 9 (if i + 1 = n then 4 else 0) st ⟨#[99]⟩ 0 0)] := by
  unfold coL
  rw [List.range_succ, List.map_append]
  rfl
open Classical in noncomputable def hdL (s : Bool) (f : Fm.Fr) (n : Nat) : List Et := mkE s { f with fl := if n = 0 then bits .or .i64 f.fl 4 else f.fl, data := ⟨#[104]⟩ } :: coL s f.st n n
set_option maxRecDepth 100000 in
set_option maxHeartbeats 8000000 in
theorem head_any (s : Bool) (f : Fm.Fr) (pc : Int) (n : Nat) (hn : bits .and .i64 pc 3 = (n : Int)) (hn3 : n ≤ 3) (w0 w : World) (b : Nat) (v : Value) (l : List Et) (nx pu : Int) (h : Tk w0 w b v l nx pu) (hl : l.length ≤ 200000000) :
    Calls Tryz.prog 16 #[.pointer (some ⟨b, 0, none⟩), .bool s, .agg (Fm.fv f (.slice none 0 0)), .int .i64 pc] w fun r w' => r = .returned (.tuple #[]) ∧ ∃ u, Tk w0 w' b u (l ++ hdL s f n) nx pu := by
  obtain ⟨ey, el, et, ed, ep, ee, eX, ew, ec, eL⟩ := f
  obtain ⟨l2, hl2⟩ : ∃ z, bits .or .i64 el 4 = z := ⟨_, rfl⟩
  have HL := hid hl
  obtain ⟨FL, hFL⟩ : ∃ z, (if n = 0 then l2 else el) = z := ⟨_, rfl⟩
  have HG : Hid (l ++ hdL s ⟨ey, el, et, ed, ep, ee, eX, ew, ec, eL⟩ n = l ++ mkE s ⟨ey, FL, et, ⟨#[104]⟩, ep, ee, eX, ew, ec, eL⟩ :: coL s et n n) := by
    show _ = _
    rw [← hFL, ← hl2]
    rfl
  obtain ⟨LL, hLL⟩ : ∃ z, l ++ hdL s ⟨ey, el, et, ed, ep, ee, eX, ew, ec, eL⟩ n = z := ⟨_, rfl⟩
  have HLL := hid hLL
  rw [hLL]
  obtain ⟨W1, hW1⟩ : ∃ V, w.alloc (.cells #[.int .i64 ey, .int .i64 el, .int .i64 et, .string ed, .int .i64 ep, .int .i64 ee, .bool eX, .int .i64 ew, .int .i64 ec, .int .i64 eL, .slice none 0 0] 31) = V := ⟨_, rfl⟩
  obtain ⟨q, hq⟩ : ∃ q, w.heap.size = q := ⟨_, rfl⟩
  have b1 : Below w.heap.size w W1 := by rw [← hW1]; exact bel1 _ _
  have g1 : W1.heap[q]? = some (.cells #[.int .i64 ey, .int .i64 el, .int .i64 et, .string ed, .int .i64 ep, .int .i64 ee, .bool eX, .int .i64 ew, .int .i64 ec, .int .i64 eL, .slice none 0 0] 31 (0, 0)) := by rw [← hW1, ← hq, heap_al, if_pos rfl]
  have t1 := h.below b1
  have HQ : Hid (w0.heap.size ≤ q) := by show _ ≤ _; rw [← hq]; exact h.bel.size
  have hqb : q ≠ b := t1.ne g1 (by decide)
  have HJ : Hid (Tk w0 W1 b v l nx pu ∧ W1.heap[q]? = some (.cells #[.int .i64 ey, .int .i64 el, .int .i64 et, .string ed, .int .i64 ep, .int .i64 ee, .bool eX, .int .i64 ew, .int .i64 ec, .int .i64 eL, .slice none 0 0] 31 (0, 0))) := ⟨t1, g1⟩
  simp only [Fm.fv]
  have hFLk := hid hFL
  clear hLL hFL h hl b1 g1 t1
  by_cases hn0 : n = 0
  · subst hn0
    have hFL0 : FL = l2 := by rw [← hFLk.out, if_pos rfl]
    obtain ⟨V2, hV2⟩ : ∃ V, ((W1.setCell ⟨q, 1, none⟩ (.int .i64 l2)).setCell ⟨q, 3, none⟩ (.string ⟨#[104]⟩)) = V := ⟨_, rfl⟩
    have g2 : V2.heap[q]? = some (.cells #[.int .i64 ey, .int .i64 l2, .int .i64 et, .string ⟨#[104]⟩, .int .i64 ep, .int .i64 ee, .bool eX, .int .i64 ew, .int .i64 ec, .int .i64 eL, .slice none 0 0] 31 (0, 0)) := by
      rw [← hV2]
      rw [setCell_block _ _ _ _ _ _ _ (setCell_block _ _ _ _ _ _ _ HJ.out.2)]
      rfl
    have o2 : ∀ j, j ≠ q → V2.heap[j]? = W1.heap[j]? := fun j hj => by
      rw [← hV2]
      rw [setCell_other _ _ _ _ _ hj, setCell_other _ _ _ _ _ hj]
    have t2 : Tk w0 V2 b v l nx pu := by
      refine ⟨(o2 b (Ne.symm hqb)).trans HJ.out.1.blk, HJ.out.1.row.stays fun k hk _ => o2 k fun e => ?_, HJ.out.1.own, HJ.out.1.lo, HJ.out.1.bel.trans ?_⟩
      · obtain ⟨cc, hc⟩ := HJ.out.1.row.ty k hk
        exact ty_ne hc HJ.out.2 (by decide) e
      · rw [← hV2]
        exact (((Ks.refl (fun i => i = q) W1).set q 1 _ rfl).set q 3 _ rfl).below HJ.out.1.bel.size fun i hi e => by have := HQ.out; omega
    have HJ2 : Hid (Tk w0 V2 b v l nx pu ∧ V2.heap[q]? = some (.cells #[.int .i64 ey, .int .i64 l2, .int .i64 et, .string ⟨#[104]⟩, .int .i64 ep, .int .i64 ee, .bool eX, .int .i64 ew, .int .i64 ec, .int .i64 eL, .slice none 0 0] 31 (0, 0))) := ⟨t2, g2⟩
    have k1 := cell_blk HJ.out.2 1
    have k3 := cell_blk HJ.out.2 3
    have f1 := frozen_blk HJ.out.2 1
    have f3 := frozen_blk HJ.out.2 3
    have c0 := cell_blk g2 0
    have c1 := cell_blk g2 1
    have c2 := cell_blk g2 2
    have c3 := cell_blk g2 3
    have c4 := cell_blk g2 4
    have c5 := cell_blk g2 5
    have c6 := cell_blk g2 6
    have c7 := cell_blk g2 7
    have c8 := cell_blk g2 8
    have c9 := cell_blk g2 9
    have c10 := cell_blk g2 10
    simp only [List.getElem?_toArray, List.getElem?_cons_succ, List.getElem?_cons_zero] at k1 k3 c0 c1 c2 c3 c4 c5 c6 c7 c8 c9 c10
    have HP := hid (put_any (mkE s ⟨ey, l2, et, ⟨#[104]⟩, ep, ee, eX, ew, ec, eL⟩) w0 V2 b v l nx pu t2 rfl (by have := HL.out; omega))
    obtain rfl := hFL0
    clear g2 o2 t2 HJ
    go_enter Tryz.func16, Tryz.ntmps16
    go_upto_region 5 with fail
    go_wp2_with fail
    try rw [hV2]
    clear hV2
    go_at_call 17
    refine HP.out.mono ?_
    rintro e V3 ⟨rfl, u3, h3, _⟩
    have HE : Hid (∃ u, Tk w0 V3 b u LL nx pu) := ⟨u3, by rw [← HLL.out, HG.out]; exact h3⟩
    clear h3 HP
    go_wp2_with fail
    go_loopw [9] (fun i wr => i = .int .i64 1 ∧ wr = V3) (fun _ _ => 0)
    case atStart => exact ⟨rfl, rfl⟩
    case round =>
      obtain ⟨rfl, rfl⟩ := hrel
      go_wp2_with fail
      first | go_end0 | (refine bodyPost_ret (results_none rfl _ _ _) rfl ?_)
      exact ⟨rfl, HE.out⟩
  · have hFL0 : FL = el := by rw [← hFLk.out, if_neg hn0]
    obtain ⟨V2, hV2⟩ : ∃ V, (W1.setCell ⟨q, 3, none⟩ (.string ⟨#[104]⟩)) = V := ⟨_, rfl⟩
    have g2 : V2.heap[q]? = some (.cells #[.int .i64 ey, .int .i64 el, .int .i64 et, .string ⟨#[104]⟩, .int .i64 ep, .int .i64 ee, .bool eX, .int .i64 ew, .int .i64 ec, .int .i64 eL, .slice none 0 0] 31 (0, 0)) := by
      rw [← hV2]
      rw [setCell_block _ _ _ _ _ _ _ HJ.out.2]
      rfl
    have o2 : ∀ j, j ≠ q → V2.heap[j]? = W1.heap[j]? := fun j hj => by
      rw [← hV2]
      rw [setCell_other _ _ _ _ _ hj]
    have t2 : Tk w0 V2 b v l nx pu := by
      refine ⟨(o2 b (Ne.symm hqb)).trans HJ.out.1.blk, HJ.out.1.row.stays fun k hk _ => o2 k fun e => ?_, HJ.out.1.own, HJ.out.1.lo, HJ.out.1.bel.trans ?_⟩
      · obtain ⟨cc, hc⟩ := HJ.out.1.row.ty k hk
        exact ty_ne hc HJ.out.2 (by decide) e
      · rw [← hV2]
        exact ((Ks.refl (fun i => i = q) W1).set q 3 _ rfl).below HJ.out.1.bel.size fun i hi e => by have := HQ.out; omega
    have HJ2 : Hid (Tk w0 V2 b v l nx pu ∧ V2.heap[q]? = some (.cells #[.int .i64 ey, .int .i64 el, .int .i64 et, .string ⟨#[104]⟩, .int .i64 ep, .int .i64 ee, .bool eX, .int .i64 ew, .int .i64 ec, .int .i64 eL, .slice none 0 0] 31 (0, 0))) := ⟨t2, g2⟩
    have k1 := cell_blk HJ.out.2 1
    have k3 := cell_blk HJ.out.2 3
    have f1 := frozen_blk HJ.out.2 1
    have f3 := frozen_blk HJ.out.2 3
    have c0 := cell_blk g2 0
    have c1 := cell_blk g2 1
    have c2 := cell_blk g2 2
    have c3 := cell_blk g2 3
    have c4 := cell_blk g2 4
    have c5 := cell_blk g2 5
    have c6 := cell_blk g2 6
    have c7 := cell_blk g2 7
    have c8 := cell_blk g2 8
    have c9 := cell_blk g2 9
    have c10 := cell_blk g2 10
    simp only [List.getElem?_toArray, List.getElem?_cons_succ, List.getElem?_cons_zero] at k1 k3 c0 c1 c2 c3 c4 c5 c6 c7 c8 c9 c10
    have HP := hid (put_any (mkE s ⟨ey, el, et, ⟨#[104]⟩, ep, ee, eX, ew, ec, eL⟩) w0 V2 b v l nx pu t2 rfl (by have := HL.out; omega))
    obtain rfl : el = FL := hFL0.symm
    clear g2 o2 t2 HJ
    have hnb : ((n : Int) == 0) = false := by simp; omega
    have hn1 : ¬ (n : Int) = 0 := by omega
    go_enter Tryz.func16, Tryz.ntmps16
    go_upto_region 5 with fail
    go_wp2_with fail
    try rw [hV2]
    clear hV2 k1 k3 f1 f3 c0 c1 c2 c3 c4 c5 c6 c7 c8 c9 c10
    go_at_call 17
    refine HP.out.mono ?_
    rintro e V3 ⟨rfl, u3, h3, m3⟩
    have H0 : Hid (∃ u, Tk w0 V3 b u (l ++ mkE s ⟨ey, el, et, ⟨#[104]⟩, ep, ee, eX, ew, ec, eL⟩ :: coL s et n 0) nx pu ∧ V3.heap[q]? = some (.cells #[.int .i64 ey, .int .i64 el, .int .i64 et, .string ⟨#[104]⟩, .int .i64 ep, .int .i64 ee, .bool eX, .int .i64 ew, .int .i64 ec, .int .i64 eL, .slice none 0 0] 31 (0, 0))) := ⟨u3, h3, m3 _ _ _ HJ2.out.2⟩
    clear h3 HP m3 HJ2
    go_wp2_with fail
    go_loopw [9] (fun i wr => ∃ j : Nat, j ≤ n ∧ i = .int .i64 ((j + 1 : Nat) : Int) ∧ Hid (∃ u, Tk w0 wr b u (l ++ mkE s ⟨ey, el, et, ⟨#[104]⟩, ep, ee, eX, ew, ec, eL⟩ :: coL s et n j) nx pu ∧ wr.heap[q]? = some (.cells #[.int .i64 ey, .int .i64 el, .int .i64 et, .string ⟨#[104]⟩, .int .i64 ep, .int .i64 ee, .bool eX, .int .i64 ew, .int .i64 ec, .int .i64 eL, .slice none 0 0] 31 (0, 0)))) (fun i _ => n + 1 - (intOf i).toNat)
    case atStart => exact ⟨0, Nat.zero_le _, rfl, H0.out⟩
    case round =>
      obtain ⟨j, hj, rfl, HI⟩ := hrel
      clear H0
      by_cases hlt : j < n
      · obtain ⟨u, hT, hQ⟩ := HI.out
        obtain ⟨iv, hiv⟩ : ∃ z : Int, ((j + 1 : Nat) : Int) = z := ⟨_, rfl⟩
        have HIV := hid hiv
        rw [hiv]
        have hle : iv ≤ (n : Int) := by omega
        obtain ⟨q2, hq2⟩ : ∃ q, wr.heap.size = q := ⟨_, rfl⟩
        obtain ⟨V4, hV4⟩ : ∃ V, wr.alloc (.cells #[.int .i64 9, .int .i64 0, .int .i64 et, .string ⟨#[99]⟩, .int .i64 0, .int .i64 0, .bool false, .int .i64 0, .int .i64 0, .int .i64 0, .slice none 0 0] 31) = V := ⟨_, rfl⟩
        have HV4 := hid hV4
        have HQ2 := hid hq2
        have b4 : Below wr.heap.size wr V4 := by rw [← hV4]; exact bel1 _ _
        have g4 : V4.heap[q2]? = some (.cells #[.int .i64 9, .int .i64 0, .int .i64 et, .string ⟨#[99]⟩, .int .i64 0, .int .i64 0, .bool false, .int .i64 0, .int .i64 0, .int .i64 0, .slice none 0 0] 31 (0, 0)) := by rw [← hV4, ← hq2, heap_al, if_pos rfl]
        have t4 := hT.below b4
        have Q4 := (b4.block _ (heap_lt hQ)).trans hQ
        have kq2 := cell_blk hQ 2
        simp only [List.getElem?_toArray, List.getElem?_cons_succ, List.getElem?_cons_zero] at kq2
        have hjw : wrap64 (iv + 1) = ((j + 1 + 1 : Nat) : Int) := by rw [← hiv]; unfold wrap64; omega
        have hll : (l ++ mkE s ⟨ey, el, et, ⟨#[104]⟩, ep, ee, eX, ew, ec, eL⟩ :: coL s et n j).length ≤ 268435456 := by
          have := HL.out
          simp only [List.length_append, List.length_cons, coL, List.length_map, List.length_range]
          omega
        by_cases hlast : j + 1 = n
        · have hivn : (iv == (n : Int)) = true := by simp; omega
          obtain ⟨V5, hV5⟩ : ∃ V, V4.setCell ⟨q2, 1, none⟩ (.int .i64 4) = V := ⟨_, rfl⟩
          have g5 : V5.heap[q2]? = some (.cells #[.int .i64 9, .int .i64 4, .int .i64 et, .string ⟨#[99]⟩, .int .i64 0, .int .i64 0, .bool false, .int .i64 0, .int .i64 0, .int .i64 0, .slice none 0 0] 31 (0, 0)) := by
            rw [← hV5, setCell_block _ _ _ _ _ _ _ g4]
            rfl
          have o5 : ∀ k, k ≠ q2 → V5.heap[k]? = V4.heap[k]? := fun k hk => by rw [← hV5, setCell_other _ _ _ _ _ hk]
          have hq2b : q2 ≠ b := t4.ne g4 (by decide)
          have hqq : q ≠ q2 := fun e => by have := heap_lt hQ; omega
          have t5 : Tk w0 V5 b u (l ++ mkE s ⟨ey, el, et, ⟨#[104]⟩, ep, ee, eX, ew, ec, eL⟩ :: coL s et n j) nx pu := by
            refine ⟨(o5 b (Ne.symm hq2b)).trans t4.blk, t4.row.stays fun k hk _ => o5 k fun e => ?_, t4.own, t4.lo, t4.bel.trans ?_⟩
            · obtain ⟨cc, hc⟩ := t4.row.ty k hk
              exact ty_ne hc g4 (by decide) e
            · rw [← hV5]
              exact ((Ks.refl (fun i => i = q2) V4).set q2 1 _ rfl).below t4.bel.size fun i hi e => by have := hT.bel.size; omega
          have Q5 := (o5 q hqq).trans Q4
          have HP2 := hid (put_any (mkE s (frT 9 4 et ⟨#[99]⟩ 0 0)) w0 V5 b u _ nx pu t5 rfl hll)
          have HQ5 := hid Q5
          have fz := frozen_blk g4 1
          have k41 := cell_blk g4 1
          have z0 := cell_blk g5 0
          have z1 := cell_blk g5 1
          have z2 := cell_blk g5 2
          have z3 := cell_blk g5 3
          have z4 := cell_blk g5 4
          have z5 := cell_blk g5 5
          have z6 := cell_blk g5 6
          have z7 := cell_blk g5 7
          have z8 := cell_blk g5 8
          have z9 := cell_blk g5 9
          have z10 := cell_blk g5 10
          simp only [List.getElem?_toArray, List.getElem?_cons_succ, List.getElem?_cons_zero] at k41 z0 z1 z2 z3 z4 z5 z6 z7 z8 z9 z10
          have HC : Hid (coL s et n (j + 1) = coL s et n j ++ [mkE s (frT 9 4 et ⟨#[99]⟩ 0 0)]) := by show _ = _; rw [coL_succ, if_pos hlast]
          clear b4 g4 t4 Q4 g5 o5 t5 Q5 hT hQ HI hiv hll hlast hV4 hq2
          go_upto_region 10 with fail
          try rw [HV4.out]
          try rw [HQ2.out]
          go_upto_region 12 with fail
          go_wp2_with fail
          try rw [hV5]
          clear hV5 fz k41 kq2
          go_at_call 17
          refine HP2.out.mono ?_
          rintro e V6 ⟨rfl, u6, h6, m6⟩
          have HE : Hid (∃ u, Tk w0 V6 b u (l ++ mkE s ⟨ey, el, et, ⟨#[104]⟩, ep, ee, eX, ew, ec, eL⟩ :: coL s et n (j + 1)) nx pu ∧ V6.heap[q]? = some (.cells #[.int .i64 ey, .int .i64 el, .int .i64 et, .string ⟨#[104]⟩, .int .i64 ep, .int .i64 ee, .bool eX, .int .i64 ew, .int .i64 ec, .int .i64 eL, .slice none 0 0] 31 (0, 0))) := ⟨u6, by rw [HC.out]; simpa using h6, m6 _ _ _ HQ5.out⟩
          clear h6 m6 HP2
          go_wp2_with fail
          go_roundw
          case rel => exact ⟨j + 1, by omega, by first | rfl | (rw [hjw]) | simp, HE.out⟩
          case measure => (try rw [hjw]); rw [← HIV.out]; simp [intOf]; omega
        · have hivn : (iv == (n : Int)) = false := by simp; omega
          have HP2 := hid (put_any (mkE s (frT 9 0 et ⟨#[99]⟩ 0 0)) w0 V4 b u _ nx pu t4 rfl hll)
          have HQ5 := hid Q4
          have z0 := cell_blk g4 0
          have z1 := cell_blk g4 1
          have z2 := cell_blk g4 2
          have z3 := cell_blk g4 3
          have z4 := cell_blk g4 4
          have z5 := cell_blk g4 5
          have z6 := cell_blk g4 6
          have z7 := cell_blk g4 7
          have z8 := cell_blk g4 8
          have z9 := cell_blk g4 9
          have z10 := cell_blk g4 10
          simp only [List.getElem?_toArray, List.getElem?_cons_succ, List.getElem?_cons_zero] at z0 z1 z2 z3 z4 z5 z6 z7 z8 z9 z10
          have HC : Hid (coL s et n (j + 1) = coL s et n j ++ [mkE s (frT 9 0 et ⟨#[99]⟩ 0 0)]) := by show _ = _; rw [coL_succ, if_neg hlast]
          clear b4 g4 t4 Q4 hT hQ HI hiv hll hlast hV4 hq2
          go_upto_region 10 with fail
          try rw [HV4.out]
          try rw [HQ2.out]
          go_upto_region 12 with fail
          go_wp2_with fail
          clear kq2
          go_at_call 17
          refine HP2.out.mono ?_
          rintro e V6 ⟨rfl, u6, h6, m6⟩
          have HE : Hid (∃ u, Tk w0 V6 b u (l ++ mkE s ⟨ey, el, et, ⟨#[104]⟩, ep, ee, eX, ew, ec, eL⟩ :: coL s et n (j + 1)) nx pu ∧ V6.heap[q]? = some (.cells #[.int .i64 ey, .int .i64 el, .int .i64 et, .string ⟨#[104]⟩, .int .i64 ep, .int .i64 ee, .bool eX, .int .i64 ew, .int .i64 ec, .int .i64 eL, .slice none 0 0] 31 (0, 0))) := ⟨u6, by rw [HC.out]; simpa using h6, m6 _ _ _ HQ5.out⟩
          clear h6 m6 HP2
          go_wp2_with fail
          go_roundw
          case rel => exact ⟨j + 1, by omega, by first | rfl | (rw [hjw]) | simp, HE.out⟩
          case measure => (try rw [hjw]); rw [← HIV.out]; simp [intOf]; omega
      · have hnle : ¬ ((j + 1 : Nat) : Int) ≤ (n : Int) := by omega
        obtain rfl : j = n := by omega
        have HE : Hid (∃ u, Tk w0 wr b u LL nx pu) := by
          obtain ⟨u, h1, _⟩ := HI.out
          exact ⟨u, by rw [← HLL.out, HG.out]; exact h1⟩
        go_wp2_with fail
        first | go_end0 | (refine bodyPost_ret (results_none rfl _ _ _) rfl ?_)
        exact ⟨rfl, HE.out⟩
end Go.Proofs.YtfmljlflnpmceaaGreatDoor
