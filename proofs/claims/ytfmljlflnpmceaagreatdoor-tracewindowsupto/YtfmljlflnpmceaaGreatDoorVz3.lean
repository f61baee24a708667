import Derived.Test.YtfmljlflnpmceaaGreatDoorVz2
import Derived.Test.YtfmljlflnpmceaaGreatDoorVa
import Derived.Test.YtfmljlflnpmceaaGreatDoorVt5
/- A field of a direction written; a block begins, goes on. -/
namespace Go.Proofs.YtfmljlflnpmceaaGreatDoor
open Go.RowKit
set_option linter.unusedVariables false
set_option linter.unusedSimpArgs false
variable {w0 w w' : World} {A : LA} {k : Lk} {m : Nat}
theorem upd_self (A : LA) (s : Bool) : A.upd s (A.w s) = A := by
  obtain ⟨g, p, mb, f⟩ := A
  unfold LA.upd
  congr 1
  funext t
  by_cases e : t = s <;> simp [e]
theorem Lk.upd_upd (k : Lk) (s : Bool) (f g : Wy → Wy) : (k.upd s f).upd s g = k.upd s fun y => g (f y) := by
  unfold Lk.upd
  congr 1
  funext t
  by_cases e : t = s <;> simp [e]
theorem Lk.upd_const (k : Lk) (s : Bool) (f : Wy → Wy) : k.upd s f = k.upd s fun _ => f (k.wy s) := by
  unfold Lk.upd
  congr 1
  funext t
  by_cases e : t = s <;> simp [e]
/-- a field of a direction is written -/
theorem LJ.set (h : LJ w0 w A k m) (s : Bool) (i : Nat) (v : Value) (f : Wy → Wy) (hc : (wayc (A.w s) (k.wy s)).setIfInBounds i v = wayc (A.w s) (f (k.wy s))) (h1 : (f (k.wy s)).pg = (k.wy s).pg) (h2 : (f (k.wy s)).rs = (k.wy s).rs) (h3 : (f (k.wy s)).cl = (k.wy s).cl) (h4 : (f (k.wy s)).ac = (k.wy s).ac) (h5 : (f (k.wy s)).wt = (k.wy s).wt) (h6 : (f (k.wy s)).rm = (k.wy s).rm) (h7 : (f (k.wy s)).rw = (k.wy s).rw) : LJ w0 (w.setCell ⟨(A.w s).g, i, none⟩ v) A (k.upd s f) m := by
  have := h.way (s := s) ((h.wi s).set i v hc h1 h2 h3 h4 h5 h6 h7) rfl (Ks.setCell _ w _ _ _ (.inl rfl)) (fun j hj => .inl hj)
  rw [upd_self] at this
  rw [Lk.upd_const]
  exact this
theorem LJ.bk (h : LJ w0 w A k m) (s : Bool) (n : Int) : LJ w0 (w.setCell ⟨(A.w s).g, 2, none⟩ (.int .i64 n)) A (k.upd s fun y => { y with bk := n }) m := h.set s 2 _ _ rfl rfl rfl rfl rfl rfl rfl rfl
theorem LJ.ln (h : LJ w0 w A k m) (s : Bool) (n : Int) : LJ w0 (w.setCell ⟨(A.w s).g, 3, none⟩ (.int .i64 n)) A (k.upd s fun y => { y with ln := n }) m := h.set s 3 _ _ rfl rfl rfl rfl rfl rfl rfl rfl
theorem LJ.bg (h : LJ w0 w A k m) (s : Bool) : LJ w0 (w.setCell ⟨(A.w s).g, 0, none⟩ (.bool true)) A (k.upd s fun y => { y with bg := true }) m := h.set s 0 _ _ rfl rfl rfl rfl rfl rfl rfl rfl
theorem LJ.ga (h : LJ w0 w A k m) (s : Bool) : LJ w0 (w.setCell ⟨(A.w s).g, 1, none⟩ (.bool true)) A (k.upd s fun y => { y with ga := true }) m := h.set s 1 _ _ rfl rfl rfl rfl rfl rfl rfl rfl
theorem LJ.dr (h : LJ w0 w A k m) : LJ w0 w.drew A k m := h.below (Below.refl _ _).drew
set_option maxRecDepth 100000 in
set_option maxHeartbeats 8000000 in
theorem beginBlock_any (t : Tn) (e : Et) (w0 w : World) (A : LA) (k : Lk) (m : Nat) (h : LJ w0 w A k m) (hf : t.f = e.f) (hs : t.s = e.s) (hw : t.wa = (A.w t.s).g) :
    Calls Tryz.prog 56 #[.agg (tnv t)] w fun r w' => r = .returned (.tuple #[]) ∧ LJ w0 w' A (k.block e) m := by
  have HH : Hid (∀ V, Calls Tryz.prog 38 #[.agg (tnv t), .int .i64 4] V fun e w' => e = .returned (.bool (Fm.hasF t.f.fl 4)) ∧ Below V.heap.size V w') := fun V => has_any t 4 V
  obtain ⟨es, ef, eps, en⟩ := e
  simp only at hf hs
  subst hf hs
  obtain ⟨K', hK'⟩ : ∃ K', k.block ⟨t.s, t.f, eps, en⟩ = K' := ⟨_, rfl⟩
  have HK : Hid (K' = if Fm.hasF t.f.fl 4 = true then k else (k.upd t.s fun y => { y with bk := t.f.st }).upd t.s fun y => { y with ln := (t.f.data.size : Int) }) := by
    show _ = _
    rw [← hK', Lk.upd_upd]
    rfl
  have HK2 : Hid (K' = if Fm.hasF t.f.fl 4 = true then k else (k.upd t.s fun y => { y with ln := (t.f.data.size : Int) }).upd t.s fun y => { y with bk := t.f.st }) := by
    show _ = _
    rw [← hK', Lk.upd_upd]
    rfl
  rw [hK']
  clear hK'
  obtain ⟨W1, hW1⟩ : ∃ V, w.alloc (.cells (tnv t) 78) = V := ⟨_, rfl⟩
  obtain ⟨b0, hb⟩ : ∃ q, w.heap.size = q := ⟨_, rfl⟩
  have b1 : Below w.heap.size w W1 := by rw [← hW1]; exact bel1 _ _
  have hb0 : W1.heap[b0]? = some (.cells (tnv t) 78 (0, 0)) := by rw [← hW1, ← hb, heap_al, if_pos rfl]
  have HL1 : Hid (LJ w0 W1 A k m ∧ W1.heap[b0]? = some (.cells (tnv t) 78 (0, 0))) := ⟨h.below b1, hb0⟩
  clear h b1
  obtain ⟨k1, k2, k3, k4, k5, k6, k7, k8, k9, k10, k11⟩ := tncells hb0
  have k0 := cell_blk hb0 0
  have k12 := cell_blk hb0 12
  have k13 := cell_blk hb0 13
  have k14 := cell_blk hb0 14
  clear hb0
  obtain ⟨lk, ⟨ty, fl, st, da, pa, de, ex, wt, co, la⟩, p, s, wa, bk⟩ := t
  simp only at hw HK HK2 k1 k2 k3 k4 k5 k6 k7 k8 k9 k10 k11
  subst hw
  simp only [tnv] at hW1 HH HL1 k0 k12 k13 k14 ⊢
  simp only [List.getElem?_toArray, List.getElem?_cons_succ, List.getElem?_cons_zero] at k0 k12 k13 k14
  obtain ⟨q, hq⟩ : ∃ h, Fm.hasF fl 4 = h := ⟨_, rfl⟩
  rw [hq] at HH HK HK2
  clear hq
  go_enter Tryz.func56, Tryz.ntmps56
  go_wp2_with fail
  try rw [hW1]
  try rw [hb]
  clear hW1 hb
  go_at_call 38
  refine (HH.out _).mono ?_
  rintro e V ⟨rfl, bV⟩
  have HL2 : Hid (LJ w0 V A k m ∧ V.heap[b0]? = some (.cells (tnv ⟨lk, ⟨ty, fl, st, da, pa, de, ex, wt, co, la⟩, p, s, (A.w s).g, bk⟩) 78 (0, 0))) := ⟨HL1.out.1.below bV, (bV.block _ (heap_lt HL1.out.2)).trans HL1.out.2⟩
  clear bV HL1 HH k0 k1 k2 k3 k4 k5 k6 k7 k8 k9 k10 k11 k12 k13 k14
  cases q
  · obtain ⟨k1, k2, k3, k4, _⟩ := tncells HL2.out.2
    have k13 := cell_blk HL2.out.2 13
    simp only [tnv, List.getElem?_toArray, List.getElem?_cons_succ, List.getElem?_cons_zero] at k13
    obtain ⟨c0, c1, c2, c3, _, _, _, _, _, _, lt⟩ := (HL2.out.1.wi s).cells
    have f2 := frozen_blk (HL2.out.1.wi s).blk 2
    have f3 := frozen_blk (HL2.out.1.wi s).blk 3
    have hne : b0 ≠ (A.w s).g := ty_ne HL2.out.2 (HL2.out.1.wi s).blk (by decide)
    go_wp2_with fail
    go_region
    all_goals
      go_wp2_with fail
      first | go_end0 | (refine bodyPost_ret (results_none rfl _ _ _) rfl ?_)
      refine ⟨rfl, ?_⟩
      first
        | (rw [HK.out]; exact ((HL2.out.1.dr).bk s st).ln s _)
        | (rw [HK.out]; exact (((HL2.out.1).bk s st).ln s _).dr)
        | (rw [HK2.out]; exact ((HL2.out.1.dr).ln s _).bk s st)
        | (rw [HK2.out]; exact (((HL2.out.1).ln s _).bk s st).dr)
  · go_wp2_with fail
    first | go_end0 | (refine bodyPost_ret (results_none rfl _ _ _) rfl ?_)
    exact ⟨rfl, by rw [HK.out]; exact HL2.out.1⟩
end Go.Proofs.YtfmljlflnpmceaaGreatDoor
/- A CONTINUATION. -/
namespace Go.Proofs.YtfmljlflnpmceaaGreatDoor
open Go.RowKit
set_option linter.unusedVariables false
set_option linter.unusedSimpArgs false
theorem wraps_i64_63 (n : Int) (h₀ : 0 ≤ n) (h₁ : n < 2 ^ 63) : IntKind.i64.wrap n = n := by rw [IntKind.wrap_i64]; omega
set_option maxRecDepth 100000 in
set_option maxHeartbeats 8000000 in
theorem continuation_any (t : Tn) (e : Et) (w0 w : World) (A : LA) (k : Lk) (m : Nat) (h : LJ w0 w A k m) (hf : t.f = e.f) (hs : t.s = e.s) (hw : t.wa = (A.w t.s).g) (hl : 0 ≤ (k.wy t.s).ln ∧ (k.wy t.s).ln ≤ 1099511627776) (hd : t.f.data.size ≤ 140737488355328) :
    Calls Tryz.prog 41 #[.agg (tnv t)] w fun r w' => r = .returned (.int .i64 (k.continuation e).2) ∧ LJ w0 w' A (k.continuation e).1 m := by
  have HH : Hid (∀ V, Calls Tryz.prog 38 #[.agg (tnv t), .int .i64 4] V fun e w' => e = .returned (.bool (Fm.hasF t.f.fl 4)) ∧ Below V.heap.size V w') := fun V => has_any t 4 V
  obtain ⟨es, ef, eps, en⟩ := e
  simp only at hf hs
  subst hf hs
  obtain ⟨M, hM⟩ : ∃ M, (k.wy t.s).ln + (t.f.data.size : Int) = M := ⟨_, rfl⟩
  obtain ⟨R, hR⟩ : ∃ R, k.continuation ⟨t.s, t.f, eps, en⟩ = R := ⟨_, rfl⟩
  have HR : Hid (R = if 131072 < M then (k.upd t.s fun y => { y with ln := M }, 11) else ((if Fm.hasF t.f.fl 4 = true then (k.upd t.s fun y => { y with ln := M }).upd t.s fun y => { y with bk := 0 } else k.upd t.s fun y => { y with ln := M }), 0)) := by
    show _ = _
    rw [← hR, ← hM]
    rfl
  have hw1 : IntKind.i64.wrap ((k.wy t.s).ln + (t.f.data.size : Int)) = M := by rw [hM]; exact wraps_i64_63 M (by omega) (by omega)
  have hw2 : wrap64 ((k.wy t.s).ln + (t.f.data.size : Int)) = M := by rw [hM]; unfold wrap64; omega
  rw [hR]
  clear hR hM hl
  obtain ⟨W1, hW1⟩ : ∃ V, w.alloc (.cells (tnv t) 78) = V := ⟨_, rfl⟩
  obtain ⟨b0, hb⟩ : ∃ q, w.heap.size = q := ⟨_, rfl⟩
  have b1 : Below w.heap.size w W1 := by rw [← hW1]; exact bel1 _ _
  have hb0 : W1.heap[b0]? = some (.cells (tnv t) 78 (0, 0)) := by rw [← hW1, ← hb, heap_al, if_pos rfl]
  have HL1 : Hid (LJ w0 W1 A k m ∧ W1.heap[b0]? = some (.cells (tnv t) 78 (0, 0))) := ⟨h.below b1, hb0⟩
  have hne : b0 ≠ (A.w t.s).g := ty_ne hb0 ((h.below b1).wi t.s).blk (by decide)
  obtain ⟨c0, c1, c2, c3, _, _, _, _, _, _, lt⟩ := ((h.below b1).wi t.s).cells
  have f3 := frozen_blk ((h.below b1).wi t.s).blk 3
  obtain ⟨W2, hW2⟩ : ∃ V, (W1.setCell ⟨(A.w t.s).g, 3, none⟩ (.int .i64 M)).drew = V := ⟨_, rfl⟩
  have HL2 : Hid (LJ w0 W2 A (k.upd t.s fun y => { y with ln := M }) m ∧ W2.heap[b0]? = some (.cells (tnv t) 78 (0, 0))) := by
    rw [← hW2]
    exact ⟨((h.below b1).ln t.s M).dr, (setCell_other _ _ _ _ _ hne).trans hb0⟩
  clear h b1
  obtain ⟨k1, k2, k3, k4, k5, k6, k7, k8, k9, k10, k11⟩ := tncells hb0
  have k13 := cell_blk hb0 13
  clear hb0
  obtain ⟨lk, ⟨ty, fl, st, da, pa, de, ex, wt, co, la⟩, p, s, wa, bk⟩ := t
  simp only at hw HR HL2 k1 k2 k3 k4 k5 k6 k7 k8 k9 k10 k11 hw1 hw2 hW2 hne c0 c1 c2 c3 f3 lt hd
  subst hw
  simp only [tnv] at hW1 HH HL1 HL2 k13 ⊢
  simp only [List.getElem?_toArray, List.getElem?_cons_succ, List.getElem?_cons_zero] at k13
  obtain ⟨q, hq⟩ : ∃ h, Fm.hasF fl 4 = h := ⟨_, rfl⟩
  rw [hq] at HH HR
  clear hq
  obtain ⟨dz, hdz⟩ : ∃ n : Nat, da.size = n := ⟨_, rfl⟩
  obtain ⟨ll, hll⟩ : ∃ n, (k.wy s).ln = n := ⟨_, rfl⟩
  rw [hll] at hw1 hw2 c3
  rw [hdz] at hw1 hw2
  clear hll
  go_enter Tryz.func41, Tryz.ntmps41
  go_upto_region 1 with fail
  try rw [hW1]
  try rw [hb]
  clear hW1 hb
  go_region
  all_goals
    go_upto_region 2 with fail
    try rw [hW2]
    clear hW2 c0 c1 c2 c3 f3 k1 k2 k3 k4 k5 k6 k7 k8 k9 k10 k11 k13
    obtain ⟨c0, c1, c2, c3, _, _, _, _, _, _, lt2⟩ := (HL2.out.1.wi s).cells
    have k13 := cell_blk HL2.out.2 13
    simp only [List.getElem?_toArray, List.getElem?_cons_succ, List.getElem?_cons_zero] at k13
    have el : ((k.upd s fun y => { y with ln := M }).wy s).ln = M := by simp [Lk.upd]
    rw [el] at c3
    clear el
    by_cases hc : 131072 < M
    · have HZ : Hid (R = (k.upd s fun y => { y with ln := M }, 11)) := by show _ = _; rw [HR.out, if_pos hc]
      go_wp2_with fail
      go_ret
      exact ⟨by rw [HZ.out]; rfl, by rw [HZ.out]; exact HL2.out.1⟩
    · clear k13
      have j0 := cell_blk HL2.out.2 0
      have j1 := cell_blk HL2.out.2 1
      have j2 := cell_blk HL2.out.2 2
      have j3 := cell_blk HL2.out.2 3
      have j4 := cell_blk HL2.out.2 4
      have j5 := cell_blk HL2.out.2 5
      have j6 := cell_blk HL2.out.2 6
      have j7 := cell_blk HL2.out.2 7
      have j8 := cell_blk HL2.out.2 8
      have j9 := cell_blk HL2.out.2 9
      have j10 := cell_blk HL2.out.2 10
      have j11 := cell_blk HL2.out.2 11
      have j12 := cell_blk HL2.out.2 12
      have j13 := cell_blk HL2.out.2 13
      have j14 := cell_blk HL2.out.2 14
      simp only [List.getElem?_toArray, List.getElem?_cons_succ, List.getElem?_cons_zero] at j0 j1 j2 j3 j4 j5 j6 j7 j8 j9 j10 j11 j12 j13 j14
      go_wp2_with fail
      go_at_call 38
      refine (HH.out _).mono ?_
      rintro e V ⟨rfl, bV⟩
      have HL3 : Hid (LJ w0 V A (k.upd s fun y => { y with ln := M }) m ∧ V.heap[b0]? = some (.cells #[.pointer (some ⟨lk, 0, none⟩), .int .i64 ty, .int .i64 fl, .int .i64 st, .string da, .int .i64 pa, .int .i64 de, .bool ex, .int .i64 wt, .int .i64 co, .int .i64 la, p, .bool s, .pointer (some ⟨(A.w s).g, 0, none⟩), .pointer (some ⟨bk, 0, none⟩)] 78 (0, 0))) := ⟨HL2.out.1.below bV, (bV.block _ (heap_lt HL2.out.2)).trans HL2.out.2⟩
      clear bV HL2 c0 c1 c2 c3 j0 j1 j2 j3 j4 j5 j6 j7 j8 j9 j10 j11 j12 j13 j14
      cases q
      · have HZ : Hid (R = (k.upd s fun y => { y with ln := M }, 0)) := by show _ = _; rw [HR.out, if_neg (by omega)]; rfl
        go_wp2_with fail
        go_ret
        exact ⟨by rw [HZ.out]; rfl, by rw [HZ.out]; exact HL3.out.1⟩
      · have HZ : Hid (R = ((k.upd s fun y => { y with ln := M }).upd s fun y => { y with bk := 0 }, 0)) := by show _ = _; rw [HR.out, if_neg (by omega)]; rfl
        have k13 := cell_blk HL3.out.2 13
        simp only [List.getElem?_toArray, List.getElem?_cons_succ, List.getElem?_cons_zero] at k13
        obtain ⟨c0, c1, c2, c3, _, _, _, _, _, _, lt3⟩ := (HL3.out.1.wi s).cells
        have f2 := frozen_blk (HL3.out.1.wi s).blk 2
        go_wp2_with fail
        go_ret
        exact ⟨by rw [HZ.out]; rfl, by rw [HZ.out]; exact HL3.out.1.bk s 0⟩
end Go.Proofs.YtfmljlflnpmceaaGreatDoor
/- Whether more streams count than may. -/
namespace Go.Proofs.YtfmljlflnpmceaaGreatDoor
open Go.RowKit
set_option linter.unusedVariables false
set_option linter.unusedSimpArgs false
theorem ite_take {c : Prop} [Decidable c] {A B : Prop} (h : c) (a : A) : if c then A else B := by rw [if_pos h]; exact a
theorem field92c (a b c d e f : Value) (W : World) : (Instr.field 92 (.agg #[a, b, c, d, e, f]) 2).run Tryz.prog W = .ok c W := by
  simp [Instr.field, run_underlying Tryz.underlying92, part, Tryz.isAgg2, asAgg]
set_option maxRecDepth 100000 in
set_option maxHeartbeats 8000000 in
theorem isCrowded_any (t : Tn) (w0 w : World) (A : LA) (k : Lk) (m : Nat) (h : LJ w0 w A k m) (hg : t.lk = A.g) (hw : t.wa = (A.w t.s).g) :
    Calls Tryz.prog 55 #[.agg (tnv t)] w fun e w' => e = .returned (.bool (k.crowded t.s)) ∧ Below w.heap.size w w' := by
  have HAc : Hid (∀ V, Below w.heap.size w V → Calls Tryz.prog 37 #[.pointer (some ⟨(A.w t.s).b, 0, none⟩)] V fun e w' => e = .returned (.agg (k.wy t.s).ac.a) ∧ Below V.heap.size V w') := fun V hV => acked_any V _ _ _ _ _ ((h.below hV).wi t.s).bk
  have hlb := h.ti.ok.bound t.s
  obtain ⟨la', hla⟩ : ∃ n, k.T.last t.s = n := ⟨_, rfl⟩
  obtain ⟨ctn, hct⟩ : ∃ n, k.T.count t.s = n := ⟨_, rfl⟩
  have HLa : Hid (∀ V, Below w.heap.size w V → Calls Tryz.prog 73 #[.pointer (some ⟨A.p, 0, none⟩), .bool t.s] V fun e w' => e = .returned (.int .i64 la') ∧ w' = V) := fun V hV => by
    have := last_any V A.p A.mb k.T t.s (h.below hV).ti
    rw [hla] at this
    exact this
  have HCt : Hid (∀ V, Below w.heap.size w V → Calls Tryz.prog 75 #[.pointer (some ⟨A.p, 0, none⟩), .bool t.s] V fun e w' => e = .returned (.int .i64 (ctn : Int)) ∧ Below V.heap.size V w') := fun V hV => by
    have := count_any V A.p A.mb k.T t.s (h.below hV).ti
    rw [hct] at this
    exact this
  obtain ⟨⟨q1, q2, mo, q4, q5, q6⟩, hac⟩ : ∃ q : St, (k.wy t.s).ac = q := ⟨_, rfl⟩
  rw [hac] at HAc
  obtain ⟨Q, hQ⟩ : ∃ n, (la' + 1).tdiv 2 = n := ⟨_, rfl⟩
  obtain ⟨RR, hRR⟩ : ∃ r, k.crowded t.s = r := ⟨_, rfl⟩
  have HR : Hid (RR = (decide (mo < Q) && decide (mo < (ctn : Int)))) := by
    show _ = _
    rw [← hRR, ← hQ, ← hla, ← hct]
    unfold Lk.crowded
    rw [hac]
  rw [hRR]
  rw [hla] at hlb
  obtain ⟨L1, hL1⟩ : ∃ n, la' + 1 = n := ⟨_, rfl⟩
  have w1 : IntKind.i64.wrap (la' + 1) = L1 := by rw [hL1]; exact wraps_i64_63 L1 (by omega) (by omega)
  rw [hL1] at hQ
  have hQ0 : 0 ≤ Q ∧ Q ≤ 9223372036854775807 := by rw [← hQ, Int.tdiv_eq_ediv_of_nonneg (by omega)]; omega
  have w2 : IntKind.i64.wrap Q = Q := wraps_i64_63 Q hQ0.1 (by omega)
  have HC7 : Hid (∀ V, Below w.heap.size w V → V.cell? ⟨(A.w t.s).g, 7, none⟩ = some (.pointer (some ⟨(A.w t.s).b, 0, none⟩))) := fun V hV => ((h.below hV).wi t.s).cells.2.2.2.2.2.2.2.1
  have HC0 : Hid (∀ V, Below w.heap.size w V → V.cell? ⟨A.g, 0, none⟩ = some (.pointer (some ⟨A.p, 0, none⟩))) := fun V hV => (h.below hV).cell0
  obtain ⟨W1, hW1⟩ : ∃ V, w.alloc (.cells (tnv t) 78) = V := ⟨_, rfl⟩
  obtain ⟨b0, hb⟩ : ∃ q, w.heap.size = q := ⟨_, rfl⟩
  have b1 : Below w.heap.size w W1 := by rw [← hW1]; exact bel1 _ _
  have hb0 : W1.heap[b0]? = some (.cells (tnv t) 78 (0, 0)) := by rw [← hW1, ← hb, heap_al, if_pos rfl]
  have HB0 : Hid (Below w.heap.size w W1 ∧ W1.heap[b0]? = some (.cells (tnv t) 78 (0, 0))) := ⟨b1, hb0⟩
  have k13 := cell_blk hb0 13
  have c7 := HC7.out W1 b1
  clear h hla hct hac hRR hL1 hlb b1 hb0
  obtain ⟨lk, ⟨ty, fl, st, da, pa, de, ex, wt, co, la⟩, p, s, wa, bk⟩ := t
  simp only at hg hw HAc HLa HCt HC7 c7
  subst hg hw
  simp only [tnv] at hW1 HB0 k13 ⊢
  simp only [List.getElem?_toArray, List.getElem?_cons_succ, List.getElem?_cons_zero] at k13
  have hfc := fun W => field92c (.int .i64 q1) (.int .i64 q2) (.int .i64 mo) (.int .i64 q4) (.int .i64 q5) (.int .i64 q6) W
  go_enter Tryz.func55, Tryz.ntmps55
  go_wp2_with fail
  try rw [hW1]
  try rw [hb]
  clear hW1 hb
  go_at_call 37
  refine (HAc.out _ HB0.out.1).mono ?_
  rintro e V1 ⟨rfl, bV⟩
  have HB1 : Hid (Below w.heap.size w V1) := HB0.out.1.trans (bV.mono HB0.out.1.size)
  have hb1 := (bV.block _ (heap_lt HB0.out.2)).trans HB0.out.2
  have hSc : Hid (∀ V, Below V1.heap.size V1 V → V.cell? ⟨b0, 0, none⟩ = some (.pointer (some ⟨A.g, 0, none⟩)) ∧ V.cell? ⟨b0, 12, none⟩ = some (.bool s) ∧ V.cell? ⟨A.g, 0, none⟩ = some (.pointer (some ⟨A.p, 0, none⟩))) := fun V hV => ⟨cell_blk ((hV.block _ (heap_lt hb1)).trans hb1) 0, cell_blk ((hV.block _ (heap_lt hb1)).trans hb1) 12, HC0.out V (HB1.out.trans (hV.mono HB1.out.size))⟩
  clear bV HB0 hb1 k13 c7 HAc
  simp only [St.a]
  go_upto_region 2 with fail
  have HLa1 : Hid (∀ V, Below V1.heap.size V1 V → Calls Tryz.prog 73 #[.pointer (some ⟨A.p, 0, none⟩), .bool s] V fun e w' => e = .returned (.int .i64 la') ∧ w' = V) := fun V hV => HLa.out V (HB1.out.trans (hV.mono HB1.out.size))
  have HCt1 : Hid (∀ V, Below V1.heap.size V1 V → Calls Tryz.prog 75 #[.pointer (some ⟨A.p, 0, none⟩), .bool s] V fun e w' => e = .returned (.int .i64 (ctn : Int)) ∧ Below V.heap.size V w') := fun V hV => HCt.out V (HB1.out.trans (hV.mono HB1.out.size))
  by_cases hc : mo < Q
  · have hq1 : decide (mo < Q) = true := decide_eq_true hc
    obtain ⟨hq2b, hq2⟩ : ∃ b, decide (mo < (ctn : Int)) = b := ⟨_, rfl⟩
    have hIW : Below V1.heap.size V1 V1.drew := (Below.refl _ _).drew
    refine wp_region_held_drew (S := (fun V => V.cell? ⟨b0, 0, none⟩ = some (.pointer (some ⟨A.g, 0, none⟩)) ∧ V.cell? ⟨b0, 12, none⟩ = some (.bool s) ∧ V.cell? ⟨A.g, 0, none⟩ = some (.pointer (some ⟨A.p, 0, none⟩)))) (by kernel_rfl) (hSc.out _ hIW) (fun hHeld => ?_)
    generalize hWg : World.drew _ = W2 at hIW hHeld ⊢
    clear hWg
    refine tkA (i := 0) (oi := ⟨some 11, .fieldAddr 78 (.tmp 1) 0, 0, "types.go:65", #[], none⟩) ?_
    try simp only [Act.put, lA, l0, lS]
    refine tkA (i := 1) (oi := ⟨some 12, .load 58 (.tmp 11), 58, "types.go:65", #[⟨0, .data⟩], none⟩) ?_
    try simp only [Act.put, lA, l0, lS]
    refine tkA (i := 2) (oi := ⟨some 13, .nilCheck (.tmp 12), 0, "types.go:65", #[⟨1, .data⟩], none⟩) ?_
    try simp only [Act.put, lA, l0, lS]
    refine tkA (i := 3) (oi := ⟨some 14, .fieldAddr 69 (.tmp 13) 0, 0, "types.go:65", #[⟨2, .data⟩], none⟩) ?_
    try simp only [Act.put, lA, l0, lS]
    refine tkA (i := 4) (oi := ⟨some 15, .load 64 (.tmp 14), 64, "types.go:65", #[⟨3, .data⟩], none⟩) ?_
    try simp only [Act.put, lA, l0, lS]
    refine tkA (i := 5) (oi := ⟨some 16, .fieldAddr 78 (.tmp 1) 2, 0, "types.go:65", #[], none⟩) ?_
    try simp only [Act.put, lA, l0, lS]
    refine tkA (i := 6) (oi := ⟨some 17, .load 4 (.tmp 16), 4, "types.go:65", #[⟨5, .data⟩], none⟩) ?_
    try simp only [Act.put, lA, l0, lS]
    refine tkA (i := 10) (oi := ⟨some 21, .move (.tmp 3), 2, "types.go:65", #[], none⟩) ?_
    try simp only [Act.put, lA, l0, lS]
    refine wpAnyH_ready (rs := [7]) (by kernel_rfl) (by simp) ?_
    refine AllReadyH.cons (o := ⟨some 18, .call { callee := Callee.value (.func 73), args := #[.tmp 15, .tmp 17], argTypes := #[64, 4] }, 2, "types.go:65", #[⟨4, .data⟩, ⟨6, .data⟩], none⟩) rfl (fun K hK => ?_) AllReadyH.nil
    go_simp
    refine (HLa1.out _ hIW).mono ?_
    rintro e' W2x ⟨rfl, rfl⟩
    have hW2x := hIW
    go_wp2_with fail
    refine hK.out _ _ (hSc.out _ hW2x) (fun hHeld => ?_)
    clear hK K
    try simp only [Act.put, lA, l0, lS]
    refine tkA (i := 8) (oi := ⟨some 19, .binOp .add 2 (.tmp 18) (.const (.int IntKind.i64 1)) 2, 2, "types.go:65", #[⟨7, .data⟩], none⟩) ?_
    try simp only [Act.put, lA, l0, lS]
    refine tkA (i := 9) (oi := ⟨some 20, .binOp .quo 2 (.tmp 19) (.const (.int IntKind.i64 2)) 2, 2, "types.go:65", #[⟨8, .data⟩], none⟩) ?_
    try simp only [Act.put, lA, l0, lS]
    refine tkA (i := 11) (oi := ⟨some 22, .binOp .gtr 2 (.tmp 20) (.tmp 21) 2, 4, "types.go:65", #[⟨9, .data⟩, ⟨10, .data⟩], none⟩) ?_
    try simp only [Act.put, lA, l0, lS]
    refine tkA (i := 12) (oi := ⟨some 23, .move (.tmp 22), 4, "types.go:65", #[⟨11, .data⟩, ⟨7, .chain⟩], none⟩) ?_
    try simp only [Act.put, lA, l0, lS]
    refine tkA (i := 13) (oi := ⟨some 24, .fieldAddr 78 (.tmp 1) 0, 0, "types.go:65", #[⟨12, .guard⟩], some (12, true)⟩) ?_
    try simp only [Act.put, lA, l0, lS]
    refine tkA (i := 14) (oi := ⟨some 25, .load 58 (.tmp 24), 58, "types.go:65", #[⟨13, .data⟩, ⟨12, .guard⟩], some (12, true)⟩) ?_
    try simp only [Act.put, lA, l0, lS]
    refine tkA (i := 15) (oi := ⟨some 26, .nilCheck (.tmp 25), 0, "types.go:65", #[⟨14, .data⟩, ⟨12, .guard⟩], some (12, true)⟩) ?_
    try simp only [Act.put, lA, l0, lS]
    refine tkA (i := 16) (oi := ⟨some 27, .fieldAddr 69 (.tmp 26) 0, 0, "types.go:65", #[⟨15, .data⟩, ⟨12, .guard⟩], some (12, true)⟩) ?_
    try simp only [Act.put, lA, l0, lS]
    refine tkA (i := 17) (oi := ⟨some 28, .load 64 (.tmp 27), 64, "types.go:65", #[⟨16, .data⟩, ⟨12, .guard⟩], some (12, true)⟩) ?_
    try simp only [Act.put, lA, l0, lS]
    refine tkA (i := 18) (oi := ⟨some 29, .fieldAddr 78 (.tmp 1) 2, 0, "types.go:65", #[⟨12, .guard⟩], some (12, true)⟩) ?_
    try simp only [Act.put, lA, l0, lS]
    refine tkA (i := 19) (oi := ⟨some 30, .load 4 (.tmp 29), 4, "types.go:65", #[⟨18, .data⟩, ⟨12, .guard⟩], some (12, true)⟩) ?_
    try simp only [Act.put, lA, l0, lS]
    refine tkA (i := 21) (oi := ⟨some 32, .move (.tmp 3), 2, "types.go:65", #[⟨12, .guard⟩], some (12, true)⟩) ?_
    try simp only [Act.put, lA, l0, lS]
    refine wpAnyH_ready (rs := [20]) (by kernel_rfl) (by simp) ?_
    refine AllReadyH.cons (o := ⟨some 31, .call { callee := Callee.value (.func 75), args := #[.tmp 28, .tmp 30], argTypes := #[64, 4] }, 3, "types.go:65", #[⟨17, .data⟩, ⟨19, .data⟩, ⟨12, .chain⟩, ⟨12, .guard⟩], some (12, true)⟩) rfl (fun K hK => ?_) AllReadyH.nil
    refine ite_take (by rfl) ?_
    go_simp
    refine (HCt1.out _ hW2x).mono ?_
    rintro e' W2xx ⟨rfl, bX⟩
    have hW2xx : Below V1.heap.size V1 W2xx := hW2x.trans (bX.mono hW2x.size)
    clear bX
    go_wp2_with fail
    refine hK.out _ _ (hSc.out _ hW2xx) (fun hHeld => ?_)
    clear hK K
    try simp only [Act.put, lA, l0, lS]
    refine tkA (i := 22) (oi := ⟨some 33, .binOp .gtr 2 (.tmp 31) (.tmp 32) 2, 4, "types.go:65", #[⟨20, .data⟩, ⟨21, .data⟩, ⟨12, .guard⟩], some (12, true)⟩) ?_
    try simp only [Act.put, lA, l0, lS]
    refine tkA (i := 23) (oi := ⟨some 34, .pick (.tmp 23) (.tmp 33) (.const (.bool false)), 4, "types.go:65", #[⟨12, .data⟩, ⟨22, .data⟩], none⟩) ?_
    try simp only [Act.put, lA, l0, lS]
    refine tkA (i := 24) (oi := ⟨some 2, .assign (.tmp 34), 4, "types.go:65", #[⟨23, .data⟩, ⟨20, .chain⟩, ⟨0, .phase⟩, ⟨1, .phase⟩, ⟨2, .phase⟩, ⟨3, .phase⟩, ⟨4, .phase⟩, ⟨5, .phase⟩, ⟨6, .phase⟩, ⟨7, .phase⟩, ⟨8, .phase⟩, ⟨9, .phase⟩, ⟨10, .phase⟩, ⟨11, .phase⟩, ⟨12, .phase⟩, ⟨13, .phase⟩, ⟨14, .phase⟩, ⟨15, .phase⟩, ⟨16, .phase⟩, ⟨17, .phase⟩, ⟨18, .phase⟩, ⟨19, .phase⟩, ⟨20, .phase⟩, ⟨21, .phase⟩, ⟨22, .phase⟩, ⟨23, .phase⟩], none⟩) ?_
    try simp only [Act.put, lA, l0, lS]
    refine wpAnyH_done (by kernel_rfl) ?_ _
    have HE : Hid (Below V1.heap.size V1 _) := hW2xx
    clear hHeld
    go_wp2_with fail
    go_ret
    exact ⟨by rw [HR.out]; first | rfl | (simp [hq1]; done) | (simp [hq1]; exact hq2.symm) | simp [hq1, hq2], HB1.out.trans (HE.out.mono HB1.out.size)⟩
  · have hq1 : decide (mo < Q) = false := decide_eq_false hc
    have hq2 : True := trivial
    have hIW : Below V1.heap.size V1 V1.drew := (Below.refl _ _).drew
    refine wp_region_held_drew (S := (fun V => V.cell? ⟨b0, 0, none⟩ = some (.pointer (some ⟨A.g, 0, none⟩)) ∧ V.cell? ⟨b0, 12, none⟩ = some (.bool s) ∧ V.cell? ⟨A.g, 0, none⟩ = some (.pointer (some ⟨A.p, 0, none⟩)))) (by kernel_rfl) (hSc.out _ hIW) (fun hHeld => ?_)
    generalize hWg : World.drew _ = W2 at hIW hHeld ⊢
    clear hWg
    refine tkA (i := 0) (oi := ⟨some 11, .fieldAddr 78 (.tmp 1) 0, 0, "types.go:65", #[], none⟩) ?_
    try simp only [Act.put, lA, l0, lS]
    refine tkA (i := 1) (oi := ⟨some 12, .load 58 (.tmp 11), 58, "types.go:65", #[⟨0, .data⟩], none⟩) ?_
    try simp only [Act.put, lA, l0, lS]
    refine tkA (i := 2) (oi := ⟨some 13, .nilCheck (.tmp 12), 0, "types.go:65", #[⟨1, .data⟩], none⟩) ?_
    try simp only [Act.put, lA, l0, lS]
    refine tkA (i := 3) (oi := ⟨some 14, .fieldAddr 69 (.tmp 13) 0, 0, "types.go:65", #[⟨2, .data⟩], none⟩) ?_
    try simp only [Act.put, lA, l0, lS]
    refine tkA (i := 4) (oi := ⟨some 15, .load 64 (.tmp 14), 64, "types.go:65", #[⟨3, .data⟩], none⟩) ?_
    try simp only [Act.put, lA, l0, lS]
    refine tkA (i := 5) (oi := ⟨some 16, .fieldAddr 78 (.tmp 1) 2, 0, "types.go:65", #[], none⟩) ?_
    try simp only [Act.put, lA, l0, lS]
    refine tkA (i := 6) (oi := ⟨some 17, .load 4 (.tmp 16), 4, "types.go:65", #[⟨5, .data⟩], none⟩) ?_
    try simp only [Act.put, lA, l0, lS]
    refine tkA (i := 10) (oi := ⟨some 21, .move (.tmp 3), 2, "types.go:65", #[], none⟩) ?_
    try simp only [Act.put, lA, l0, lS]
    refine wpAnyH_ready (rs := [7]) (by kernel_rfl) (by simp) ?_
    refine AllReadyH.cons (o := ⟨some 18, .call { callee := Callee.value (.func 73), args := #[.tmp 15, .tmp 17], argTypes := #[64, 4] }, 2, "types.go:65", #[⟨4, .data⟩, ⟨6, .data⟩], none⟩) rfl (fun K hK => ?_) AllReadyH.nil
    go_simp
    refine (HLa1.out _ hIW).mono ?_
    rintro e' W2x ⟨rfl, rfl⟩
    have hW2x := hIW
    go_wp2_with fail
    refine hK.out _ _ (hSc.out _ hW2x) (fun hHeld => ?_)
    clear hK K
    try simp only [Act.put, lA, l0, lS]
    refine tkA (i := 8) (oi := ⟨some 19, .binOp .add 2 (.tmp 18) (.const (.int IntKind.i64 1)) 2, 2, "types.go:65", #[⟨7, .data⟩], none⟩) ?_
    try simp only [Act.put, lA, l0, lS]
    refine tkA (i := 9) (oi := ⟨some 20, .binOp .quo 2 (.tmp 19) (.const (.int IntKind.i64 2)) 2, 2, "types.go:65", #[⟨8, .data⟩], none⟩) ?_
    try simp only [Act.put, lA, l0, lS]
    refine tkA (i := 11) (oi := ⟨some 22, .binOp .gtr 2 (.tmp 20) (.tmp 21) 2, 4, "types.go:65", #[⟨9, .data⟩, ⟨10, .data⟩], none⟩) ?_
    try simp only [Act.put, lA, l0, lS]
    refine tkA (i := 12) (oi := ⟨some 23, .move (.tmp 22), 4, "types.go:65", #[⟨11, .data⟩, ⟨7, .chain⟩], none⟩) ?_
    try simp only [Act.put, lA, l0, lS]
    refine wpAnyH_take (i := 13) (oi := ⟨some 24, .fieldAddr 78 (.tmp 1) 0, 0, "types.go:65", #[⟨12, .guard⟩], some (12, true)⟩) (v := undef) rfl (by kernel_rfl) (by kernel_rfl) (by kernel_rfl) (fun _ _ _ h => h) (Or.inr ⟨by rfl, rfl⟩) (by assumption) ?_
    try simp only [Act.put, lA, l0, lS]
    refine wpAnyH_take (i := 14) (oi := ⟨some 25, .load 58 (.tmp 24), 58, "types.go:65", #[⟨13, .data⟩, ⟨12, .guard⟩], some (12, true)⟩) (v := undef) rfl (by kernel_rfl) (by kernel_rfl) (by kernel_rfl) (fun _ _ _ h => h) (Or.inr ⟨by rfl, rfl⟩) (by assumption) ?_
    try simp only [Act.put, lA, l0, lS]
    refine wpAnyH_take (i := 15) (oi := ⟨some 26, .nilCheck (.tmp 25), 0, "types.go:65", #[⟨14, .data⟩, ⟨12, .guard⟩], some (12, true)⟩) (v := undef) rfl (by kernel_rfl) (by kernel_rfl) (by kernel_rfl) (fun _ _ _ h => h) (Or.inr ⟨by rfl, rfl⟩) (by assumption) ?_
    try simp only [Act.put, lA, l0, lS]
    refine wpAnyH_take (i := 16) (oi := ⟨some 27, .fieldAddr 69 (.tmp 26) 0, 0, "types.go:65", #[⟨15, .data⟩, ⟨12, .guard⟩], some (12, true)⟩) (v := undef) rfl (by kernel_rfl) (by kernel_rfl) (by kernel_rfl) (fun _ _ _ h => h) (Or.inr ⟨by rfl, rfl⟩) (by assumption) ?_
    try simp only [Act.put, lA, l0, lS]
    refine wpAnyH_take (i := 17) (oi := ⟨some 28, .load 64 (.tmp 27), 64, "types.go:65", #[⟨16, .data⟩, ⟨12, .guard⟩], some (12, true)⟩) (v := undef) rfl (by kernel_rfl) (by kernel_rfl) (by kernel_rfl) (fun _ _ _ h => h) (Or.inr ⟨by rfl, rfl⟩) (by assumption) ?_
    try simp only [Act.put, lA, l0, lS]
    refine wpAnyH_take (i := 18) (oi := ⟨some 29, .fieldAddr 78 (.tmp 1) 2, 0, "types.go:65", #[⟨12, .guard⟩], some (12, true)⟩) (v := undef) rfl (by kernel_rfl) (by kernel_rfl) (by kernel_rfl) (fun _ _ _ h => h) (Or.inr ⟨by rfl, rfl⟩) (by assumption) ?_
    try simp only [Act.put, lA, l0, lS]
    refine wpAnyH_take (i := 19) (oi := ⟨some 30, .load 4 (.tmp 29), 4, "types.go:65", #[⟨18, .data⟩, ⟨12, .guard⟩], some (12, true)⟩) (v := undef) rfl (by kernel_rfl) (by kernel_rfl) (by kernel_rfl) (fun _ _ _ h => h) (Or.inr ⟨by rfl, rfl⟩) (by assumption) ?_
    try simp only [Act.put, lA, l0, lS]
    refine wpAnyH_take (i := 20) (oi := ⟨some 31, .call { callee := Callee.value (.func 75), args := #[.tmp 28, .tmp 30], argTypes := #[64, 4] }, 3, "types.go:65", #[⟨17, .data⟩, ⟨19, .data⟩, ⟨12, .chain⟩, ⟨12, .guard⟩], some (12, true)⟩) (v := undef) rfl (by kernel_rfl) (by kernel_rfl) (by kernel_rfl) (fun _ _ _ h => h) (Or.inr ⟨by rfl, rfl⟩) (by assumption) ?_
    try simp only [Act.put, lA, l0, lS]
    refine wpAnyH_take (i := 21) (oi := ⟨some 32, .move (.tmp 3), 2, "types.go:65", #[⟨12, .guard⟩], some (12, true)⟩) (v := undef) rfl (by kernel_rfl) (by kernel_rfl) (by kernel_rfl) (fun _ _ _ h => h) (Or.inr ⟨by rfl, rfl⟩) (by assumption) ?_
    try simp only [Act.put, lA, l0, lS]
    refine wpAnyH_take (i := 22) (oi := ⟨some 33, .binOp .gtr 2 (.tmp 31) (.tmp 32) 2, 4, "types.go:65", #[⟨20, .data⟩, ⟨21, .data⟩, ⟨12, .guard⟩], some (12, true)⟩) (v := undef) rfl (by kernel_rfl) (by kernel_rfl) (by kernel_rfl) (fun _ _ _ h => h) (Or.inr ⟨by rfl, rfl⟩) (by assumption) ?_
    try simp only [Act.put, lA, l0, lS]
    refine tkA (i := 23) (oi := ⟨some 34, .pick (.tmp 23) (.tmp 33) (.const (.bool false)), 4, "types.go:65", #[⟨12, .data⟩, ⟨22, .data⟩], none⟩) ?_
    try simp only [Act.put, lA, l0, lS]
    refine tkA (i := 24) (oi := ⟨some 2, .assign (.tmp 34), 4, "types.go:65", #[⟨23, .data⟩, ⟨20, .chain⟩, ⟨0, .phase⟩, ⟨1, .phase⟩, ⟨2, .phase⟩, ⟨3, .phase⟩, ⟨4, .phase⟩, ⟨5, .phase⟩, ⟨6, .phase⟩, ⟨7, .phase⟩, ⟨8, .phase⟩, ⟨9, .phase⟩, ⟨10, .phase⟩, ⟨11, .phase⟩, ⟨12, .phase⟩, ⟨13, .phase⟩, ⟨14, .phase⟩, ⟨15, .phase⟩, ⟨16, .phase⟩, ⟨17, .phase⟩, ⟨18, .phase⟩, ⟨19, .phase⟩, ⟨20, .phase⟩, ⟨21, .phase⟩, ⟨22, .phase⟩, ⟨23, .phase⟩], none⟩) ?_
    try simp only [Act.put, lA, l0, lS]
    refine wpAnyH_done (by kernel_rfl) ?_ _
    have HE : Hid (Below V1.heap.size V1 _) := hW2x
    clear hHeld
    go_wp2_with fail
    go_ret
    exact ⟨by rw [HR.out]; first | rfl | (simp [hq1]; done) | (simp [hq1]; exact hq2.symm) | simp [hq1, hq2], HB1.out.trans (HE.out.mono HB1.out.size)⟩
end Go.Proofs.YtfmljlflnpmceaaGreatDoor
/- Whether a promise may stand on the frame's stream. -/
namespace Go.Proofs.YtfmljlflnpmceaaGreatDoor
open Go.RowKit
set_option linter.unusedVariables false
set_option linter.unusedSimpArgs false
set_option maxRecDepth 100000 in
set_option maxHeartbeats 8000000 in
theorem carries_any (t : Tn) (e : Et) (w0 w : World) (A : LA) (k : Lk) (m : Nat) (h : LJ w0 w A k m) (hf : t.f = e.f) (hs : t.s = e.s) (hg : t.lk = A.g) (hw : t.bk = (A.w (!t.s)).g) (hi : I64 t.f.st) :
    Calls Tryz.prog 57 #[.agg (tnv t)] w fun r w' => r = .returned (.bool (k.carries e)) ∧ Below w.heap.size w w' := by
  obtain ⟨es, ef, eps, en⟩ := e
  simp only at hf hs
  subst hf hs
  obtain ⟨RR, hRR⟩ : ∃ r, k.carries ⟨t.s, t.f, eps, en⟩ = r := ⟨_, rfl⟩
  obtain ⟨s0, hs0⟩ : ∃ v, k.T.st t.f.st = v := ⟨_, rfl⟩
  obtain ⟨rc, hrc⟩ : ∃ v, (k.wy (!t.s)).rs.contains t.f.st = v := ⟨_, rfl⟩
  have HRR : Hid (RR = if t.f.st.tmod 2 = 0 then false else if t.s = true then s0 == 3 || s0 == 5 else s0 == 3 || (s0 == 4 || rc)) := by
    show _ = _
    rw [← hRR, ← hs0, ← hrc]
    rfl
  rw [hRR]
  have HR : Hid (∀ V, Below w.heap.size w V → (Instr.lookup 71 (.map (some (A.w (!t.s)).rb)) (.int .i64 t.f.st) true).run Tryz.prog V = .ok (.tuple #[.agg #[], .bool rc]) V) := fun V hV => by
    have := (((h.below hV).wi (!t.s)).rs).look2 (fun id y hy => by unfold rsG at hy; split at hy; injection hy with e; exact e.symm; cases hy) hi
    rw [this, ← hrc]
    unfold rsG
    cases (k.wy (!t.s)).rs.contains t.f.st <;> rfl
  have HC5 : Hid (∀ V, Below w.heap.size w V → V.cell? ⟨(A.w (!t.s)).g, 5, none⟩ = some (.map (some (A.w (!t.s)).rb))) := fun V hV => ((h.below hV).wi (!t.s)).cells.2.2.2.2.2.1
  have HLg : Hid (∀ V, Below w.heap.size w V → (A.w (!t.s)).g < V.heap.size) := fun V hV => heap_lt ((h.below hV).wi (!t.s)).blk
  obtain ⟨W1, hW1⟩ : ∃ V, w.alloc (.cells (tnv t) 78) = V := ⟨_, rfl⟩
  obtain ⟨b0, hb⟩ : ∃ q, w.heap.size = q := ⟨_, rfl⟩
  have b1 : Below w.heap.size w W1 := by rw [← hW1]; exact bel1 _ _
  have hb0 : W1.heap[b0]? = some (.cells (tnv t) 78 (0, 0)) := by rw [← hW1, ← hb, heap_al, if_pos rfl]
  have HB0 : Hid (Below w.heap.size w W1 ∧ W1.heap[b0]? = some (.cells (tnv t) 78 (0, 0))) := ⟨b1, hb0⟩
  have HSt : Hid (∀ V, Below W1.heap.size W1 V → Calls Tryz.prog 52 #[.pointer (some ⟨A.p, 0, none⟩), .int .i64 t.f.st] V fun e w' => e = .returned (.int .i64 s0) ∧ Below V.heap.size V w') := fun V hV => by
    have := state_any V A.p A.mb k.T t.f.st (h.below (b1.trans (hV.mono b1.size))).ti hi
    rw [hs0] at this
    exact this
  have hSc : Hid (∀ V, Below W1.heap.size W1 V → V.cell? ⟨b0, 0, none⟩ = some (.pointer (some ⟨t.lk, 0, none⟩)) ∧ V.cell? ⟨b0, 3, none⟩ = some (.int .i64 t.f.st) ∧ V.cell? ⟨A.g, 0, none⟩ = some (.pointer (some ⟨A.p, 0, none⟩))) := fun V hV => ⟨cell_blk ((hV.block _ (heap_lt hb0)).trans hb0) 0, cell_blk ((hV.block _ (heap_lt hb0)).trans hb0) 3, (h.below (b1.trans (hV.mono b1.size))).cell0⟩
  have k3 := cell_blk hb0 3
  clear h hs0 hrc hRR b1 hb0
  obtain ⟨lk, ⟨ty, fl, st, da, pa, de, ex, wt, co, la⟩, p, s, wa, bk⟩ := t
  simp only at hg hw HRR HR HC5 HSt hSc hi HLg
  subst hg hw
  simp only [tnv] at hW1 HB0 k3 ⊢
  simp only [List.getElem?_toArray, List.getElem?_cons_succ, List.getElem?_cons_zero] at k3
  by_cases h2 : st.tmod 2 = 0
  · have HQ : Hid (RR = false) := by show _ = _; rw [HRR.out, if_pos h2]
    go_enter Tryz.func57, Tryz.ntmps57
    go_wp2_with fail
    go_ret
    exact ⟨by rw [HQ.out]; rfl, by first | exact HB0.out.1 | (rw [hW1]; exact HB0.out.1)⟩
  · have h2b : (st.tmod 2 == 0) = false := beq_eq_false_iff_ne.2 h2
    go_enter Tryz.func57, Tryz.ntmps57
    go_upto_region 3 with fail
    try rw [hW1]
    try rw [hb]
    clear hW1 hb k3
    have hIW : Below W1.heap.size W1 W1.drew := (Below.refl _ _).drew
    refine wp_region_held_drew (S := (fun V => V.cell? ⟨b0, 0, none⟩ = some (.pointer (some ⟨A.g, 0, none⟩)) ∧ V.cell? ⟨b0, 3, none⟩ = some (.int .i64 st) ∧ V.cell? ⟨A.g, 0, none⟩ = some (.pointer (some ⟨A.p, 0, none⟩)))) (by kernel_rfl) (hSc.out _ hIW) (fun hHeld => ?_)
    generalize hWg : World.drew _ = W2 at hIW hHeld ⊢
    clear hWg
    refine tkA (i := 0) (oi := ⟨some 11, .fieldAddr 78 (.tmp 1) 0, 0, "types.go:94", #[], none⟩) ?_
    try simp only [Act.put, lA, l0, lS]
    refine tkA (i := 1) (oi := ⟨some 12, .load 58 (.tmp 11), 58, "types.go:94", #[⟨0, .data⟩], none⟩) ?_
    try simp only [Act.put, lA, l0, lS]
    refine tkA (i := 2) (oi := ⟨some 13, .nilCheck (.tmp 12), 0, "types.go:94", #[⟨1, .data⟩], none⟩) ?_
    try simp only [Act.put, lA, l0, lS]
    refine tkA (i := 3) (oi := ⟨some 14, .fieldAddr 69 (.tmp 13) 0, 0, "types.go:94", #[⟨2, .data⟩], none⟩) ?_
    try simp only [Act.put, lA, l0, lS]
    refine tkA (i := 4) (oi := ⟨some 15, .load 64 (.tmp 14), 64, "types.go:94", #[⟨3, .data⟩], none⟩) ?_
    try simp only [Act.put, lA, l0, lS]
    refine tkA (i := 5) (oi := ⟨some 16, .fieldAddr 78 (.tmp 1) 1, 0, "types.go:94", #[], none⟩) ?_
    try simp only [Act.put, lA, l0, lS]
    refine tkA (i := 6) (oi := ⟨some 17, .fieldAddr 31 (.tmp 16) 2, 0, "types.go:94", #[⟨5, .data⟩], none⟩) ?_
    try simp only [Act.put, lA, l0, lS]
    refine tkA (i := 7) (oi := ⟨some 18, .load 2 (.tmp 17), 2, "types.go:94", #[⟨6, .data⟩], none⟩) ?_
    try simp only [Act.put, lA, l0, lS]
    refine wpAnyH_ready (rs := [8]) (by kernel_rfl) (by simp) ?_
    refine AllReadyH.cons (o := ⟨some 19, .call { callee := Callee.value (.func 52), args := #[.tmp 15, .tmp 18], argTypes := #[64, 2] }, 3, "types.go:94", #[⟨4, .data⟩, ⟨7, .data⟩], none⟩) rfl (fun K hK => ?_) AllReadyH.nil
    go_simp
    refine (HSt.out _ hIW).mono ?_
    rintro e' W2x ⟨rfl, bX⟩
    have hW2x : Below W1.heap.size W1 W2x := hIW.trans (bX.mono hIW.size)
    clear bX
    go_wp2_with fail
    refine hK.out _ _ (hSc.out _ hW2x) (fun hHeld => ?_)
    clear hK K
    try simp only [Act.put, lA, l0, lS]
    refine tkA (i := 9) (oi := ⟨some 3, .assign (.tmp 19), 3, "types.go:94", #[⟨8, .data⟩, ⟨8, .chain⟩, ⟨0, .phase⟩, ⟨1, .phase⟩, ⟨2, .phase⟩, ⟨3, .phase⟩, ⟨4, .phase⟩, ⟨5, .phase⟩, ⟨6, .phase⟩, ⟨7, .phase⟩, ⟨8, .phase⟩], none⟩) ?_
    try simp only [Act.put, lA, l0, lS]
    refine wpAnyH_done (by kernel_rfl) ?_ _
    have HB2 : Hid (Below W1.heap.size W1 W2x) := hW2x
    clear hHeld hW2x
    generalize W2x = V2 at HB2 ⊢
    obtain ⟨d0, d3, _⟩ := hSc.out V2 HB2.out
    have hb2 := (HB2.out.block _ (heap_lt HB0.out.2)).trans HB0.out.2
    have d12 := cell_blk hb2 12
    have d14 := cell_blk hb2 14
    simp only [List.getElem?_toArray, List.getElem?_cons_succ, List.getElem?_cons_zero] at d12 d14
    have c5 := HC5.out V2 (HB0.out.1.trans (HB2.out.mono HB0.out.1.size))
    have HF : Hid (Below w.heap.size w V2) := HB0.out.1.trans (HB2.out.mono HB0.out.1.size)
    have lb := heap_lt hb2
    have lg := HLg.out V2 HF.out
    clear hb2
    cases s
    · have r1 := HR.out V2.drew HF.out.drew
      have r2 := HR.out (V2.alloc (.cells #[] 95)).drew ((HF.out.alloc HF.out.size _).drew)
      simp only [Bool.not_false] at r1 r2 c5 lg d14
      have HQ : Hid (RR = (s0 == 3 || (s0 == 4 || rc))) := by show _ = _; rw [HRR.out, if_neg h2]; rfl
      go_wp2_with fail
      go_region
      all_goals
        clear r1 r2
        by_cases e3 : s0 = 3
        · subst e3
          go_wp2_with fail
          go_ret
          exact ⟨by rw [HQ.out]; first | rfl | simp, by first | exact (HF.out.alloc HF.out.size _).drew | exact (HF.out.drew).alloc HF.out.size _⟩
        · have e3b : (s0 == 3) = false := beq_eq_false_iff_ne.2 e3
          by_cases e4 : s0 = 4
          · subst e4
            go_wp2_with fail
            go_ret
            exact ⟨by rw [HQ.out]; first | rfl | simp, by first | exact (HF.out.alloc HF.out.size _).drew | exact (HF.out.drew).alloc HF.out.size _⟩
          · have e4b : (s0 == 4) = false := beq_eq_false_iff_ne.2 e4
            go_wp2_with fail
            go_ret
            exact ⟨by rw [HQ.out]; first | rfl | simp [e3b, e4b], by first | exact (HF.out.alloc HF.out.size _).drew | exact (HF.out.drew).alloc HF.out.size _⟩
    · have HQ : Hid (RR = (s0 == 3 || s0 == 5)) := by show _ = _; rw [HRR.out, if_neg h2]; rfl
      by_cases e3 : s0 = 3
      · subst e3
        go_wp2_with fail
        go_ret
        exact ⟨by rw [HQ.out]; first | rfl | simp, HF.out⟩
      · have e3b : (s0 == 3) = false := beq_eq_false_iff_ne.2 e3
        go_wp2_with fail
        go_ret
        exact ⟨by rw [HQ.out]; first | rfl | simp [e3b], HF.out⟩
end Go.Proofs.YtfmljlflnpmceaaGreatDoor
/- RST_STREAM. -/
namespace Go.Proofs.YtfmljlflnpmceaaGreatDoor
open Go.RowKit
set_option linter.unusedVariables false
set_option linter.unusedSimpArgs false
theorem rsG_cons (l : List Int) (id : Int) : rsG (id :: l) = fun j => if j = id then some (.agg #[]) else rsG l j := by
  funext j
  unfold rsG
  by_cases e : j = id
  · simp [e]
  · simp [e]
/-- a stream is reset -/
theorem LJ.shut {w0 w : World} {A : LA} {k : Lk} {m : Nat} (h : LJ w0 w A k m) (s : Bool) {id : Int} (hid : I64 id) (hm : m < maxLen) : ∃ w', (Instr.mapUpdate 71 (.map (some (A.w s).rb)) (.int .i64 id) (.agg #[])).run Tryz.prog w = .ok () w' ∧ LJ w0 w' A (k.upd s fun y => { y with rs := id :: y.rs }) (m + 1) ∧ KpO w w' := by
  have hw := h.wi s
  obtain ⟨w', hrun, hmv, hks⟩ := hw.rs.put hm (t := 71) (e := 95) Tryz.underlying71 hid (.agg #[])
  have c : ∀ {k : Nat} {cc : Array Value} {t : TypeId} {fz : Nat × Nat}, w.heap[k]? = some (.cells cc t fz) → w'.heap[k]? = w.heap[k]? := fun hb => hks.block _ (heap_lt hb) (hw.rs.ne hb)
  have hx : WI w' (A.w s) { k.wy s with rs := id :: (k.wy s).rs } (m + 1) := {
    blk := (c hw.blk).trans hw.blk
    pg := hw.pg.same fun j hj => by
      obtain ⟨_, cc, hc⟩ := hw.pg.lt j hj
      exact c hc
    rs := by
      show MV w' _ _ (rsG (id :: (k.wy s).rs))
      rw [rsG_cons]
      exact hmv
    bk := ⟨(c hw.bk.blk).trans hw.bk.blk, hw.bk.row.stays fun j hj _ => by
      obtain ⟨cc, hc⟩ := bk_row_ty hw.bk hj
      exact c hc, hw.bk.len⟩
    rm := (c hw.rm).trans hw.rm
    rmB := hw.rmB
    rw := (hw.rw.stays (hks.block _ hw.rw.lt fun e => hw.ne e.symm)).more (by omega)
    rq := hw.rq
    rd := fun j q hq => by
      obtain ⟨n, h1, h2, h3⟩ := hw.rd j q hq
      exact ⟨n, h1, (c h2).trans h2, h3⟩
    inj := hw.inj
    nr := hw.nr
    srt := hw.srt
    ne := hw.ne }
  have h4 := (h.more (Nat.le_succ m)).way (s := s) hx rfl (hks.mono fun i _ e => .inr (.inl e)) (fun j hj => .inl hj)
  rw [upd_self] at h4
  refine ⟨w', hrun, ?_, fun j cc t fz hj ht => (c hj).trans hj⟩
  rw [Lk.upd_const]
  exact h4
set_option maxRecDepth 100000 in
set_option maxHeartbeats 20000000 in
theorem resets_any (t : Tn) (e : Et) (w0 w : World) (A : LA) (k : Lk) (m : Nat) (h : LJ w0 w A k m) (hv : Lv k) (hf : t.f = e.f) (hs : t.s = e.s) (hg : t.lk = A.g) (hw : t.wa = (A.w t.s).g) (hb : t.bk = (A.w (!t.s)).g) (hi : I64 t.f.st) (hm : m + 2 < maxLen) :
    Calls Tryz.prog 43 #[.agg (tnv t)] w fun r w' => r = .returned (.int .i64 (k.resets e).2) ∧ ∃ A', A'.g = A.g ∧ (∀ u, (A'.w u).g = (A.w u).g) ∧ LJ w0 w' A' (k.resets e).1 (m + 3) ∧ KpO w w' := by
  obtain ⟨es, ef, eps, en⟩ := e
  simp only at hf hs
  subst hf hs
  obtain ⟨R, hR⟩ : ∃ R, k.resets ⟨t.s, t.f, eps, en⟩ = R := ⟨_, rfl⟩
  obtain ⟨⟨k1, c1, i1⟩, hH⟩ : ∃ H, k.happen t.s t.f.st 6 = H := ⟨_, rfl⟩
  obtain ⟨s1, hs1⟩ : ∃ v, k1.T.st t.f.st = v := ⟨_, rfl⟩
  have HR : Hid (R = if (!(c1 == 0) && !(t.s && s1 == 6)) = true then (k1, c1) else (k1.upd t.s fun y => { y with rs := t.f.st :: y.rs }, 0)) := by
    show _ = _
    rw [← hR]
    unfold Lk.resets
    simp only
    rw [hH]
    simp only
    rw [hs1]
  rw [hR]
  obtain ⟨W1, hW1⟩ : ∃ V, w.alloc (.cells (tnv t) 78) = V := ⟨_, rfl⟩
  obtain ⟨b0, hb'⟩ : ∃ q, w.heap.size = q := ⟨_, rfl⟩
  have b1 : Below w.heap.size w W1 := by rw [← hW1]; exact bel1 _ _
  have hb0 : W1.heap[b0]? = some (.cells (tnv t) 78 (0, 0)) := by rw [← hW1, ← hb', heap_al, if_pos rfl]
  have HB0 : Hid (W1.heap[b0]? = some (.cells (tnv t) 78 (0, 0)) ∧ KpO w W1) := ⟨hb0, KpO.of_below b1⟩
  have HHp : Hid (Calls Tryz.prog 47 #[.agg (tnv t), .int .i64 t.f.st, .int .i64 6] W1 fun e w' => e = .returned (.tuple #[.int .i64 c1, .bool i1]) ∧ ∃ A', A'.g = A.g ∧ (∀ u, (A'.w u).g = (A.w u).g) ∧ LJ w0 w' A' k1 (m + 2) ∧ KpO W1 w') := by
    have := happen_any t t.f.st 6 w0 W1 A k m (h.below b1) hv hg hw hb hi (by omega)
    rw [hH] at this
    exact this
  have HM : Hid (m + 2 < maxLen) := hm
  have HI : Hid (I64 t.f.st) := hi
  have HS1 : Hid (k1.T.st t.f.st = s1) := hs1
  have HW : Hid (t.wa = (A.w t.s).g) := hw
  have j0 := cell_blk hb0 0
  have j1 := cell_blk hb0 1
  have j2 := cell_blk hb0 2
  have j3 := cell_blk hb0 3
  have j4 := cell_blk hb0 4
  have j5 := cell_blk hb0 5
  have j6 := cell_blk hb0 6
  have j7 := cell_blk hb0 7
  have j8 := cell_blk hb0 8
  have j9 := cell_blk hb0 9
  have j10 := cell_blk hb0 10
  have j11 := cell_blk hb0 11
  have j12 := cell_blk hb0 12
  have j13 := cell_blk hb0 13
  have j14 := cell_blk hb0 14
  clear h hv hw hb hi hm hH hs1 hR b1 hb0
  obtain ⟨lk, ⟨ty, fl, st, da, pa, de, ex, wt, co, la⟩, p, s, wa, bk⟩ := t
  simp only at hg HR HI HS1 HW HHp
  subst hg
  simp only [tnv] at hW1 HB0 HHp j0 j1 j2 j3 j4 j5 j6 j7 j8 j9 j10 j11 j12 j13 j14 ⊢
  simp only [List.getElem?_toArray, List.getElem?_cons_succ, List.getElem?_cons_zero] at j0 j1 j2 j3 j4 j5 j6 j7 j8 j9 j10 j11 j12 j13 j14
  go_enter Tryz.func43, Tryz.ntmps43
  go_wp2_with fail
  try rw [hW1]
  try rw [hb']
  clear hW1 hb' j0 j1 j2 j3 j4 j5 j6 j7 j8 j9 j10 j11 j12 j13 j14
  go_at_call 47
  refine HHp.out.mono ?_
  rintro e V1 ⟨rfl, A1, a1, a2, a3, a4⟩
  have HL : Hid (LJ w0 V1 A1 k1 (m + 2) ∧ V1.heap[b0]? = some (.cells #[.pointer (some ⟨A.g, 0, none⟩), .int .i64 ty, .int .i64 fl, .int .i64 st, .string da, .int .i64 pa, .int .i64 de, .bool ex, .int .i64 wt, .int .i64 co, .int .i64 la, p, .bool s, .pointer (some ⟨wa, 0, none⟩), .pointer (some ⟨bk, 0, none⟩)] 78 (0, 0)) ∧ KpO w V1) := ⟨a3, a4 _ _ _ _ HB0.out.1 ot78, HB0.out.2.trans a4⟩
  have HA : Hid (A1.g = A.g ∧ ∀ u, (A1.w u).g = (A.w u).g) := ⟨a1, a2⟩
  have HSt : Hid (∀ V, Below V1.heap.size V1 V → Calls Tryz.prog 52 #[.pointer (some ⟨A1.p, 0, none⟩), .int .i64 st] V fun e w' => e = .returned (.int .i64 s1) ∧ Below V.heap.size V w') := fun V hV => by
    have := state_any V A1.p A1.mb k1.T st (HL.out.1.below hV).ti HI.out
    rw [HS1.out] at this
    exact this
  have hSc : Hid (∀ V, Below V1.heap.size V1 V → V.cell? ⟨b0, 0, none⟩ = some (.pointer (some ⟨A.g, 0, none⟩)) ∧ V.cell? ⟨b0, 3, none⟩ = some (.int .i64 st) ∧ V.cell? ⟨b0, 12, none⟩ = some (.bool s) ∧ V.cell? ⟨A.g, 0, none⟩ = some (.pointer (some ⟨A1.p, 0, none⟩))) := fun V hV => by
    have h1 := (hV.block _ (heap_lt HL.out.2.1)).trans HL.out.2.1
    refine ⟨cell_blk h1 0, cell_blk h1 3, cell_blk h1 12, ?_⟩
    rw [← HA.out.1]
    exact (HL.out.1.below hV).cell0
  clear a1 a2 a3 a4 HHp HB0
  go_upto_region 2 with fail
  go_cut [5] from 6 (fun v wx => v = .bool (s && s1 == 6) ∧ Below V1.heap.size V1 wx)
  case first =>
    cases s
    · have hIW : Below V1.heap.size V1 V1.drew := (Below.refl _ _).drew
      refine wp_region_held_drew (S := (fun V => V.cell? ⟨b0, 0, none⟩ = some (.pointer (some ⟨A.g, 0, none⟩)) ∧ V.cell? ⟨b0, 3, none⟩ = some (.int .i64 st) ∧ V.cell? ⟨b0, 12, none⟩ = some (.bool false) ∧ V.cell? ⟨A.g, 0, none⟩ = some (.pointer (some ⟨A1.p, 0, none⟩)))) (by kernel_rfl) (hSc.out _ hIW) (fun hHeld => ?_)
      generalize hWg : World.drew _ = W2 at hIW hHeld ⊢
      clear hWg
      refine tkA (i := 0) (oi := ⟨some 14, .fieldAddr 78 (.tmp 1) 2, 0, "types.go:155", #[], none⟩) ?_
      try simp only [Act.put, lA, l0, lS]
      refine tkA (i := 1) (oi := ⟨some 15, .load 4 (.tmp 14), 4, "types.go:155", #[⟨0, .data⟩], none⟩) ?_
      try simp only [Act.put, lA, l0, lS]
      refine tkA (i := 2) (oi := ⟨some 16, .move (.tmp 15), 4, "types.go:155", #[⟨1, .data⟩], none⟩) ?_
      try simp only [Act.put, lA, l0, lS]
      refine wpAnyH_take (i := 3) (oi := ⟨some 17, .fieldAddr 78 (.tmp 1) 0, 0, "types.go:155", #[⟨2, .guard⟩], some (2, true)⟩) (v := undef) rfl (by kernel_rfl) (by kernel_rfl) (by kernel_rfl) (fun _ _ _ h => h) (Or.inr ⟨by rfl, rfl⟩) (by assumption) ?_
      try simp only [Act.put, lA, l0, lS]
      refine wpAnyH_take (i := 4) (oi := ⟨some 18, .load 58 (.tmp 17), 58, "types.go:155", #[⟨3, .data⟩, ⟨2, .guard⟩], some (2, true)⟩) (v := undef) rfl (by kernel_rfl) (by kernel_rfl) (by kernel_rfl) (fun _ _ _ h => h) (Or.inr ⟨by rfl, rfl⟩) (by assumption) ?_
      try simp only [Act.put, lA, l0, lS]
      refine wpAnyH_take (i := 5) (oi := ⟨some 19, .nilCheck (.tmp 18), 0, "types.go:155", #[⟨4, .data⟩, ⟨2, .guard⟩], some (2, true)⟩) (v := undef) rfl (by kernel_rfl) (by kernel_rfl) (by kernel_rfl) (fun _ _ _ h => h) (Or.inr ⟨by rfl, rfl⟩) (by assumption) ?_
      try simp only [Act.put, lA, l0, lS]
      refine wpAnyH_take (i := 6) (oi := ⟨some 20, .fieldAddr 69 (.tmp 19) 0, 0, "types.go:155", #[⟨5, .data⟩, ⟨2, .guard⟩], some (2, true)⟩) (v := undef) rfl (by kernel_rfl) (by kernel_rfl) (by kernel_rfl) (fun _ _ _ h => h) (Or.inr ⟨by rfl, rfl⟩) (by assumption) ?_
      try simp only [Act.put, lA, l0, lS]
      refine wpAnyH_take (i := 7) (oi := ⟨some 21, .load 64 (.tmp 20), 64, "types.go:155", #[⟨6, .data⟩, ⟨2, .guard⟩], some (2, true)⟩) (v := undef) rfl (by kernel_rfl) (by kernel_rfl) (by kernel_rfl) (fun _ _ _ h => h) (Or.inr ⟨by rfl, rfl⟩) (by assumption) ?_
      try simp only [Act.put, lA, l0, lS]
      refine wpAnyH_take (i := 8) (oi := ⟨some 22, .fieldAddr 78 (.tmp 1) 1, 0, "types.go:155", #[⟨2, .guard⟩], some (2, true)⟩) (v := undef) rfl (by kernel_rfl) (by kernel_rfl) (by kernel_rfl) (fun _ _ _ h => h) (Or.inr ⟨by rfl, rfl⟩) (by assumption) ?_
      try simp only [Act.put, lA, l0, lS]
      refine wpAnyH_take (i := 9) (oi := ⟨some 23, .fieldAddr 31 (.tmp 22) 2, 0, "types.go:155", #[⟨8, .data⟩, ⟨2, .guard⟩], some (2, true)⟩) (v := undef) rfl (by kernel_rfl) (by kernel_rfl) (by kernel_rfl) (fun _ _ _ h => h) (Or.inr ⟨by rfl, rfl⟩) (by assumption) ?_
      try simp only [Act.put, lA, l0, lS]
      refine wpAnyH_take (i := 10) (oi := ⟨some 24, .load 2 (.tmp 23), 2, "types.go:155", #[⟨9, .data⟩, ⟨2, .guard⟩], some (2, true)⟩) (v := undef) rfl (by kernel_rfl) (by kernel_rfl) (by kernel_rfl) (fun _ _ _ h => h) (Or.inr ⟨by rfl, rfl⟩) (by assumption) ?_
      try simp only [Act.put, lA, l0, lS]
      refine wpAnyH_take (i := 11) (oi := ⟨some 25, .call { callee := Callee.value (.func 52), args := #[.tmp 21, .tmp 24], argTypes := #[64, 2] }, 3, "types.go:155", #[⟨7, .data⟩, ⟨10, .data⟩, ⟨2, .chain⟩, ⟨2, .guard⟩], some (2, true)⟩) (v := undef) rfl (by kernel_rfl) (by kernel_rfl) (by kernel_rfl) (fun _ _ _ h => h) (Or.inr ⟨by rfl, rfl⟩) (by assumption) ?_
      try simp only [Act.put, lA, l0, lS]
      refine wpAnyH_take (i := 12) (oi := ⟨some 26, .binOp .eql 3 (.tmp 25) (.const (.int IntKind.i64 6)) 3, 4, "types.go:155", #[⟨11, .data⟩, ⟨2, .guard⟩], some (2, true)⟩) (v := undef) rfl (by kernel_rfl) (by kernel_rfl) (by kernel_rfl) (fun _ _ _ h => h) (Or.inr ⟨by rfl, rfl⟩) (by assumption) ?_
      try simp only [Act.put, lA, l0, lS]
      refine tkA (i := 13) (oi := ⟨some 27, .pick (.tmp 16) (.tmp 26) (.const (.bool false)), 4, "types.go:155", #[⟨2, .data⟩, ⟨12, .data⟩], none⟩) ?_
      try simp only [Act.put, lA, l0, lS]
      refine tkA (i := 14) (oi := ⟨some 5, .assign (.tmp 27), 4, "types.go:155", #[⟨13, .data⟩, ⟨11, .chain⟩, ⟨0, .phase⟩, ⟨1, .phase⟩, ⟨2, .phase⟩, ⟨3, .phase⟩, ⟨4, .phase⟩, ⟨5, .phase⟩, ⟨6, .phase⟩, ⟨7, .phase⟩, ⟨8, .phase⟩, ⟨9, .phase⟩, ⟨10, .phase⟩, ⟨11, .phase⟩, ⟨12, .phase⟩, ⟨13, .phase⟩], none⟩) ?_
      try simp only [Act.put, lA, l0, lS]
      refine wpAnyH_done (by kernel_rfl) ?_ _
      have HB2 : Hid (Below V1.heap.size V1 W2) := hIW
      clear hHeld hIW
      go_wp2_with fail
      go_meet
      case rel => exact ⟨by first | rfl | simp, HB2.out⟩
    · have hIW : Below V1.heap.size V1 V1.drew := (Below.refl _ _).drew
      refine wp_region_held_drew (S := (fun V => V.cell? ⟨b0, 0, none⟩ = some (.pointer (some ⟨A.g, 0, none⟩)) ∧ V.cell? ⟨b0, 3, none⟩ = some (.int .i64 st) ∧ V.cell? ⟨b0, 12, none⟩ = some (.bool true) ∧ V.cell? ⟨A.g, 0, none⟩ = some (.pointer (some ⟨A1.p, 0, none⟩)))) (by kernel_rfl) (hSc.out _ hIW) (fun hHeld => ?_)
      generalize hWg : World.drew _ = W2 at hIW hHeld ⊢
      clear hWg
      refine tkA (i := 0) (oi := ⟨some 14, .fieldAddr 78 (.tmp 1) 2, 0, "types.go:155", #[], none⟩) ?_
      try simp only [Act.put, lA, l0, lS]
      refine tkA (i := 1) (oi := ⟨some 15, .load 4 (.tmp 14), 4, "types.go:155", #[⟨0, .data⟩], none⟩) ?_
      try simp only [Act.put, lA, l0, lS]
      refine tkA (i := 2) (oi := ⟨some 16, .move (.tmp 15), 4, "types.go:155", #[⟨1, .data⟩], none⟩) ?_
      try simp only [Act.put, lA, l0, lS]
      refine tkA (i := 3) (oi := ⟨some 17, .fieldAddr 78 (.tmp 1) 0, 0, "types.go:155", #[⟨2, .guard⟩], some (2, true)⟩) ?_
      try simp only [Act.put, lA, l0, lS]
      refine tkA (i := 4) (oi := ⟨some 18, .load 58 (.tmp 17), 58, "types.go:155", #[⟨3, .data⟩, ⟨2, .guard⟩], some (2, true)⟩) ?_
      try simp only [Act.put, lA, l0, lS]
      refine tkA (i := 5) (oi := ⟨some 19, .nilCheck (.tmp 18), 0, "types.go:155", #[⟨4, .data⟩, ⟨2, .guard⟩], some (2, true)⟩) ?_
      try simp only [Act.put, lA, l0, lS]
      refine tkA (i := 6) (oi := ⟨some 20, .fieldAddr 69 (.tmp 19) 0, 0, "types.go:155", #[⟨5, .data⟩, ⟨2, .guard⟩], some (2, true)⟩) ?_
      try simp only [Act.put, lA, l0, lS]
      refine tkA (i := 7) (oi := ⟨some 21, .load 64 (.tmp 20), 64, "types.go:155", #[⟨6, .data⟩, ⟨2, .guard⟩], some (2, true)⟩) ?_
      try simp only [Act.put, lA, l0, lS]
      refine tkA (i := 8) (oi := ⟨some 22, .fieldAddr 78 (.tmp 1) 1, 0, "types.go:155", #[⟨2, .guard⟩], some (2, true)⟩) ?_
      try simp only [Act.put, lA, l0, lS]
      refine tkA (i := 9) (oi := ⟨some 23, .fieldAddr 31 (.tmp 22) 2, 0, "types.go:155", #[⟨8, .data⟩, ⟨2, .guard⟩], some (2, true)⟩) ?_
      try simp only [Act.put, lA, l0, lS]
      refine tkA (i := 10) (oi := ⟨some 24, .load 2 (.tmp 23), 2, "types.go:155", #[⟨9, .data⟩, ⟨2, .guard⟩], some (2, true)⟩) ?_
      try simp only [Act.put, lA, l0, lS]
      refine wpAnyH_ready (rs := [11]) (by kernel_rfl) (by simp) ?_
      refine AllReadyH.cons (o := ⟨some 25, .call { callee := Callee.value (.func 52), args := #[.tmp 21, .tmp 24], argTypes := #[64, 2] }, 3, "types.go:155", #[⟨7, .data⟩, ⟨10, .data⟩, ⟨2, .chain⟩, ⟨2, .guard⟩], some (2, true)⟩) rfl (fun K hK => ?_) AllReadyH.nil
      refine ite_take (by rfl) ?_
      go_simp
      refine (HSt.out _ hIW).mono ?_
      rintro e' W2x ⟨rfl, bX⟩
      have hW2x : Below V1.heap.size V1 W2x := hIW.trans (bX.mono hIW.size)
      clear bX
      go_wp2_with fail
      refine hK.out _ _ (hSc.out _ hW2x) (fun hHeld => ?_)
      clear hK K
      try simp only [Act.put, lA, l0, lS]
      refine tkA (i := 12) (oi := ⟨some 26, .binOp .eql 3 (.tmp 25) (.const (.int IntKind.i64 6)) 3, 4, "types.go:155", #[⟨11, .data⟩, ⟨2, .guard⟩], some (2, true)⟩) ?_
      try simp only [Act.put, lA, l0, lS]
      refine tkA (i := 13) (oi := ⟨some 27, .pick (.tmp 16) (.tmp 26) (.const (.bool false)), 4, "types.go:155", #[⟨2, .data⟩, ⟨12, .data⟩], none⟩) ?_
      try simp only [Act.put, lA, l0, lS]
      refine tkA (i := 14) (oi := ⟨some 5, .assign (.tmp 27), 4, "types.go:155", #[⟨13, .data⟩, ⟨11, .chain⟩, ⟨0, .phase⟩, ⟨1, .phase⟩, ⟨2, .phase⟩, ⟨3, .phase⟩, ⟨4, .phase⟩, ⟨5, .phase⟩, ⟨6, .phase⟩, ⟨7, .phase⟩, ⟨8, .phase⟩, ⟨9, .phase⟩, ⟨10, .phase⟩, ⟨11, .phase⟩, ⟨12, .phase⟩, ⟨13, .phase⟩], none⟩) ?_
      try simp only [Act.put, lA, l0, lS]
      refine wpAnyH_done (by kernel_rfl) ?_ _
      have HB2 : Hid (Below V1.heap.size V1 W2x) := hW2x
      clear hHeld hW2x
      go_wp2_with fail
      go_meet
      case rel => exact ⟨by first | rfl | simp, HB2.out⟩
  case rest =>
    obtain ⟨rfl, hbw⟩ := hcut
    have HLc : Hid (LJ w0 wc A1 k1 (m + 2) ∧ wc.heap[b0]? = some (.cells #[.pointer (some ⟨A.g, 0, none⟩), .int .i64 ty, .int .i64 fl, .int .i64 st, .string da, .int .i64 pa, .int .i64 de, .bool ex, .int .i64 wt, .int .i64 co, .int .i64 la, p, .bool s, .pointer (some ⟨wa, 0, none⟩), .pointer (some ⟨bk, 0, none⟩)] 78 (0, 0)) ∧ KpO w wc) := ⟨HL.out.1.below hbw, (hbw.block _ (heap_lt HL.out.2.1)).trans HL.out.2.1, HL.out.2.2.bel hbw⟩
    clear hbw HL HSt hSc
    obtain ⟨x, hx⟩ : ∃ x, (s && s1 == 6) = x := ⟨_, rfl⟩
    rw [hx] at HR ⊢
    clear hx
    by_cases hc : c1 = 0
    · subst hc
      have HQ : Hid (R = (k1.upd s fun y => { y with rs := st :: y.rs }, 0)) := by show _ = _; rw [HR.out, if_neg (by simp)]
      obtain ⟨wz, hput, hz, hkz⟩ := (HLc.out.1.dr).shut s HI.out HM.out
      have HZ : Hid (LJ w0 wz A1 (k1.upd s fun y => { y with rs := st :: y.rs }) (m + 3) ∧ KpO w wz) := ⟨hz, HLc.out.2.2.trans hkz⟩
      have d3 := cell_blk HLc.out.2.1 3
      have d13 := cell_blk HLc.out.2.1 13
      simp only [List.getElem?_toArray, List.getElem?_cons_succ, List.getElem?_cons_zero] at d3 d13
      have c5 : wc.cell? ⟨wa, 5, none⟩ = some (.map (some (A1.w s).rb)) := by rw [HW.out, ← HA.out.2]; exact (HLc.out.1.wi s).cells.2.2.2.2.2.1
      clear hz hkz
      go_wp2_with fail
      go_region
      all_goals
        go_wp2_with fail
        go_ret
        exact ⟨by rw [HQ.out]; rfl, A1, HA.out.1, HA.out.2, by rw [HQ.out]; exact HZ.out.1, HZ.out.2⟩
    · have hcb : (c1 == 0) = false := beq_eq_false_iff_ne.2 hc
      cases x
      · have HQ : Hid (R = (k1, c1)) := by show _ = _; rw [HR.out, if_pos (by simp [hcb])]
        go_wp2_with fail
        go_ret
        exact ⟨by rw [HQ.out]; rfl, A1, HA.out.1, HA.out.2, by rw [HQ.out]; exact HLc.out.1.more (by omega), HLc.out.2.2⟩
      · have HQ : Hid (R = (k1.upd s fun y => { y with rs := st :: y.rs }, 0)) := by show _ = _; rw [HR.out, if_neg (by simp)]
        obtain ⟨wz, hput, hz, hkz⟩ := (HLc.out.1.dr).shut s HI.out HM.out
        have HZ : Hid (LJ w0 wz A1 (k1.upd s fun y => { y with rs := st :: y.rs }) (m + 3) ∧ KpO w wz) := ⟨hz, HLc.out.2.2.trans hkz⟩
        have d3 := cell_blk HLc.out.2.1 3
        have d13 := cell_blk HLc.out.2.1 13
        simp only [List.getElem?_toArray, List.getElem?_cons_succ, List.getElem?_cons_zero] at d3 d13
        have c5 : wc.cell? ⟨wa, 5, none⟩ = some (.map (some (A1.w s).rb)) := by rw [HW.out, ← HA.out.2]; exact (HLc.out.1.wi s).cells.2.2.2.2.2.1
        clear hz hkz
        go_wp2_with fail
        go_region
        all_goals
          go_wp2_with fail
          go_ret
          exact ⟨by rw [HQ.out]; rfl, A1, HA.out.1, HA.out.2, by rw [HQ.out]; exact HZ.out.1, HZ.out.2⟩
end Go.Proofs.YtfmljlflnpmceaaGreatDoor
