/- The law's size and answers. -/
import Derived.Test.YtfponcdhaefkdaaDoorG1
namespace Go.Proofs.YtfponcdhaefkdaaDoor
open Go.RowKit
set_option linter.unusedVariables false
set_option linter.unusedSimpArgs false
set_option maxHeartbeats 8000000 in
set_option maxRecDepth 100000 in
theorem size44_any (n : Int) (y : SV) (b : ByteArray) (l : List Fd) (w : World) (hI : In EFd w (sv y) l) (hz : b.size + szL l ≤ 4611686018427387904) :
    Calls Tryd.prog 44 #[.agg (rsv n (sv y) b)] w fun e w' => e = .returned (.int .i64 ((b.size + szL l : Nat) : Int)) ∧ Below w.heap.size w w' := by
  obtain ⟨W, hW⟩ : ∃ W, w.alloc (.cells (rsv n (sv y) b) 26) = W := ⟨_, rfl⟩
  obtain ⟨r0, hr0⟩ : ∃ k, w.heap.size = k := ⟨_, rfl⟩
  have hbW : Below w.heap.size w W := by rw [← hW]; exact bel1 _ _
  have hb0 : W.heap[r0]? = some (.cells (rsv n (sv y) b) 26 (0, 0)) := by rw [← hW, ← hr0, heap_al, if_pos rfl]
  have HBW : Hid (Below w.heap.size w W) := hbW
  have HC : Hid (∀ V, Below W.heap.size W V → V.cell? ⟨r0, 0, none⟩ = some (.int .i64 n) ∧ V.cell? ⟨r0, 1, none⟩ = some (sv y) ∧ V.cell? ⟨r0, 2, none⟩ = some (.string b)) := fun V hV => by
    have h := (hV.block r0 (heap_lt hb0)).trans hb0
    exact ⟨cell_blk h 0, cell_blk h 1, cell_blk h 2⟩
  have HI : Hid (In EFd W (sv y) l) := hI.below hbW
  have HZ : Hid (b.size + szL l ≤ 4611686018427387904) := hz
  obtain ⟨bb, c, e, m1, m2⟩ := hI.slice
  obtain ⟨sb, sl, sc⟩ := y
  unfold rsv at hW ⊢
  simp only [sv] at e HI HC hW ⊢
  injection e with e1 e2 e3
  subst e1 e2 e3
  obtain ⟨N, hN⟩ : ∃ N, l.length = N := ⟨_, rfl⟩
  rw [hN] at HI m1 HC hW ⊢
  have HN : Hid (l.length = N) := hN
  have hbz : b.size ≤ 4611686018427387904 := by omega
  obtain ⟨p0, p1, p2⟩ := HC.out W (Below.refl _ _)
  obtain ⟨T, hT⟩ : ∃ T, b.size + szL l = T := ⟨_, rfl⟩
  rw [hT]
  have HT : Hid (b.size + szL l = T) := hT
  clear hI hz hN hbW hb0 hT
  go_enter Tryd.func44, Tryd.ntmps44
  go_wp2_with fail
  try rw [hW]
  try rw [hr0]
  clear hW p0 p1 p2 hr0
  go_loopw [3, 4] (fun tv kv wr => ∃ k t : Nat, kv = .int .i64 (k : Int) ∧ k ≤ N ∧ tv = .int .i64 (t : Int) ∧ Hid (t = b.size + szL (l.take k)) ∧ Hid (Below W.heap.size W wr)) (fun _ kv _ => N - (intOf kv).toNat)
  case atStart => exact ⟨0, b.size, rfl, by omega, rfl, by show _ = _; simp [szL], Below.refl _ _⟩
  case round =>
    obtain ⟨k, t, rfl, hk, rfl, ht, hb⟩ := hrel
    obtain ⟨p0, p1, p2⟩ := HC.out wr hb.out
    by_cases hlt : k < N
    · obtain ⟨Bk, off, cap, e, hc⟩ := HI.out.fd k (by rw [HN.out]; exact hlt)
      injection e with e1 e2 e3
      clear e2 e3
      subst e1
      obtain ⟨c0, c1, c2⟩ := hc wr hb.out
      obtain ⟨y, hy⟩ : ∃ y, l[k]'(by rw [HN.out]; exact hlt) = y := ⟨_, rfl⟩
      rw [hy] at c0 c1 c2
      have l1 : (k : Int) < (N : Int) := by omega
      have HT : Hid (t + 32 + y.n.size + y.v.size = b.size + szL (l.take (k + 1)) ∧ t + 32 + y.n.size + y.v.size ≤ 4611686018427387904) := by
        have h1 := szL_take (l := l) (k := k) (by rw [HN.out]; exact hlt)
        rw [hy] at h1
        have h2 := ht.out
        have h3 := szL_le l (k + 1)
        have h4 := HZ.out
        exact ⟨by omega, by omega⟩
      obtain ⟨yn, yv, ynv⟩ := y
      simp only at c0 c1 c2 HT
      obtain ⟨z1, hz1⟩ : ∃ z : Nat, t + 32 = z := ⟨_, rfl⟩
      have q0 : (t : Int) + 32 = (z1 : Int) := by omega
      have q1 : z1 ≤ 4611686018427387904 := by have := HT.out.2; omega
      obtain ⟨z2, hz2⟩ : ∃ z : Nat, z1 + yn.size = z := ⟨_, rfl⟩
      have q2 : (z1 : Int) + (yn.size : Int) = (z2 : Int) := by omega
      have q3 : z2 ≤ 4611686018427387904 := by have := HT.out.2; omega
      obtain ⟨z3, hz3⟩ : ∃ z : Nat, z2 + yv.size = z := ⟨_, rfl⟩
      have q4 : (z2 : Int) + (yv.size : Int) = (z3 : Int) := by omega
      have q5 : z3 ≤ 4611686018427387904 := by have := HT.out.2; omega
      have HZ3 : Hid (z3 = b.size + szL (l.take (k + 1))) := by show _ = _; rw [← HT.out.1]; omega
      clear hc hy HT hz1 hz2 hz3 p0 p2
      go_wp2_with fail
      go_quiet (fail)
      go_wp2_with fail
      go_roundw
      case rel => exact ⟨k + 1, z3, by simp, by omega, by first | rfl | simp, HZ3.out, below_drewN hb.out _⟩
      case measure => simp [intOf]; omega
    · obtain rfl : k = N := by omega
      have l1 : ¬ (k : Int) < (k : Int) := by omega
      have HE : Hid (t = T ∧ Below w.heap.size w wr) := ⟨by rw [ht.out, List.take_of_length_le (by rw [HN.out]; omega), HT.out], HBW.out.trans (hb.out.mono HBW.out.size)⟩
      clear ht hb
      go_wp2_with fail
      go_ret
      refine ⟨?_, HE.out.2⟩
      rw [← HE.out.1]
      rfl
/-- what an entry of the law's list answers -/
def anK (now life : Int) (q : Rq) (Q : List Fd) (k : Kn) : Bool := decide (q.b = ⟨#[]⟩) && (decide (now - k.ar ≤ life) && mtB k.q q k.fq Q (nmF k.fr))
/-- sizes of an entry that is known -/
structure Kz (k : Kn) : Prop where
  zq : k.fq.length ≤ 1099511627776
  zr : k.fr.length ≤ 1099511627776
  zv : ∀ v ∈ vsL k.fr varyS, v.size ≤ 140737488355328
  zn : (allP (vsL k.fr varyS)).length ≤ 4398046511104
  st : starB k.fr = false
set_option maxHeartbeats 8000000 in
set_option maxRecDepth 100000 in
theorem answers_any (k : Kn) (q : Rq) (Q : List Fd) (now life : Int) (w : World) (hq : In EFd w (sv k.q.y) k.fq) (hr : In EFd w (sv k.ry) k.fr) (hQ : In EFd w (sv q.y) Q) (hz : Kz k) (zQ : Q.length ≤ 1099511627776) (ha : 0 ≤ k.ar ∧ k.ar ≤ now ∧ now ≤ 9223372036854775807) :
    Calls Tryd.prog 45 #[.agg (knv k), .agg (rqv q), .int .i64 now, .int .i64 life] w fun e w' => e = .returned (.bool (anK now life q Q k)) ∧ Below w.heap.size w w' := by
  obtain ⟨W, hW⟩ : ∃ W, (w.alloc (.cells (knv k) 95)).alloc (.cells (rqv q) 24) = W := ⟨_, rfl⟩
  obtain ⟨k0, hk0⟩ : ∃ k, w.heap.size = k := ⟨_, rfl⟩
  obtain ⟨q0, hq0⟩ : ∃ k, k0 + 1 = k := ⟨_, rfl⟩
  have hbW : Below w.heap.size w W := by rw [← hW]; exact bel2 _ _ _
  have hbk : W.heap[k0]? = some (.cells (knv k) 95 (0, 0)) := by rw [← hW, ← hk0, heap_al, if_neg (by simp), heap_al, if_pos rfl]
  have hbq : W.heap[q0]? = some (.cells (rqv q) 24 (0, 0)) := by rw [← hW, ← hq0, ← hk0]; exact fresh2 _ _ _
  have HBW : Hid (Below w.heap.size w W) := hbW
  have HC : Hid (∀ V, Below W.heap.size W V → Cells11 V k0 0 k ∧ RqB V q0 q) := fun V hV => by
    have h := (hV.block k0 (heap_lt hbk)).trans hbk
    exact ⟨⟨cell_blk h 0, cell_blk h 1, cell_blk h 2, cell_blk h 3, cell_blk h 4, cell_blk h 5, cell_blk h 6, cell_blk h 7, cell_blk h 8, cell_blk h 9, cell_blk h 10⟩, (hV.block q0 (heap_lt hbq)).trans hbq⟩
  have HN : Hid (Calls Tryd.prog 7 #[.agg (rsv k.rn (sv k.ry) k.rb)] W fun e w' => NmPost (vsL k.fr varyS) W e w') := names_any k.rn k.ry k.rb k.fr W (hr.below hbW) (by have := hz.zr; omega) hz.zv hz.zn
  have HM : Hid (∀ V, Below W.heap.size W V → ∀ t : SV, In ES V (sv t) (nmF k.fr) → Calls Tryd.prog 70 #[.agg (rqv k.q), .agg (rqv q), sv t] V fun e w' => e = .returned (.bool (mtB k.q q k.fq Q (nmF k.fr))) ∧ Below V.heap.size V w') := fun V hV t ht => match_any k.q q t k.fq Q (nmF k.fr) V ((hq.below hbW).below hV) ((hQ.below hbW).below hV) ht (by have := hz.zq; omega) (by omega)
  obtain ⟨d, hd⟩ : ∃ d : Int, now - k.ar = d := ⟨_, rfl⟩
  have hd1 : -9223372036854775808 ≤ d := by omega
  have hd2 : d ≤ 9223372036854775807 := by omega
  have hst : decide (0 < cnt (allP (vsL k.fr varyS)) starS) = false := hz.st
  have HST : Hid (decide (0 < cnt (allP (vsL k.fr varyS)) starS) = false) := hst
  have HA : Hid (anK now life q Q k = (decide (q.b = ⟨#[]⟩) && (decide (d ≤ life) && mtB k.q q k.fq Q (nmF k.fr)))) := by show _ = _; unfold anK; rw [hd]
  obtain ⟨A, hA⟩ : ∃ A, anK now life q Q k = A := ⟨_, rfl⟩
  rw [hA] at HA ⊢
  obtain ⟨nm, hnm⟩ : ∃ nm, nmF k.fr = nm := ⟨_, rfl⟩
  have HNm : Hid (nmL (allP (vsL k.fr varyS)) = nm) := hnm
  obtain ⟨M, hM⟩ : ∃ M, mtB k.q q k.fq Q nm = M := ⟨_, rfl⟩
  rw [hnm] at HM HA
  rw [hM] at HA
  have HM2 : Hid (∀ V, Below W.heap.size W V → ∀ t : SV, In ES V (sv t) nm → Calls Tryd.prog 70 #[.agg (rqv k.q), .agg (rqv q), sv t] V fun e w' => e = .returned (.bool M) ∧ Below V.heap.size V w') := by rw [← hM]; exact HM.out
  obtain ⟨⟨d0, d1, d2, d3, d4, d5, d6, d7, d8, d9, d10⟩, hrq⟩ := HC.out W (Below.refl _ _)
  clear hq hr hQ hz zQ ha hbW hbk hbq hst HM hA hnm hM hrq
  obtain ⟨kst, kar, ⟨km, ks, ka, kp, ⟨ky1, ky2, ky3⟩, kb⟩, krn, ⟨kr1, kr2, kr3⟩, krb, kfq, kfr⟩ := k
  obtain ⟨m, s, a, p, ⟨y1, y2, y3⟩, qb⟩ := q
  simp only [sv, knv, rqv, rsv] at hW HC HN HM2 HA HST HNm hd d0 d1 d2 d3 d4 d5 d6 d7 d8 d9 d10 ⊢
  go_enter Tryd.func45, Tryd.ntmps45
  go_wp2_with fail
  try rw [hW]
  try rw [hk0]
  try rw [hq0]
  clear hW hk0 hq0
  go_at_call 7
  refine HN.out.mono ?_
  rintro e V ⟨⟨t1, t2, t3⟩, rfl, bV, hNr, _⟩
  rw [HST.out]
  rw [HNm.out] at hNr
  obtain ⟨⟨e0, e1, e2, e3, e4, e5, e6, e7, e8, e9, e10⟩, hrq⟩ := HC.out V bV
  obtain ⟨f0, f1, f2, f3, f4, f5, f6⟩ := hrq.cells
  have HMV : Hid (Calls Tryd.prog 70 #[.agg #[.string km, .string ks, .string ka, .string kp, .slice ky1 ky2 ky3, .string kb], .agg #[.string m, .string s, .string a, .string p, .slice y1 y2 y3, .string qb], .slice t1 t2 t3] V fun e w' => e = .returned (.bool M) ∧ Below V.heap.size V w') := HM2.out V bV (t1, t2, t3) hNr.isIn
  have HBV : Hid (Below w.heap.size w V) := HBW.out.trans (bV.mono HBW.out.size)
  simp only [sv] at e0 e1 e2 e3 e4 e5 e6 e7 e8 e9 e10 f0 f1 f2 f3 f4 f5 ⊢
  clear HN HC HM2 bV hNr hrq d0 d1 d2 d3 d4 d5 d6 d7 d8 d9 d10 HST HNm e8 e9 e10 e0
  by_cases hqb : qb = ⟨#[]⟩
  · subst hqb
    rw [decide_eq_true rfl, Bool.true_and] at HA
    by_cases hdl : d ≤ life
    · rw [decide_eq_true hdl, Bool.true_and] at HA
      have HRM : Hid (A = M) := HA.out
      clear HA
      go_wp2_with fail
      go_at_call 70
      refine HMV.out.mono ?_
      rintro e V2 ⟨rfl, b2⟩
      have HB2 : Hid (Below w.heap.size w V2) := HBV.out.trans (b2.mono HBV.out.size)
      clear b2 HMV
      go_wp2_with fail
      go_ret
      refine ⟨?_, HB2.out⟩
      rw [HRM.out]
      rfl
    · rw [decide_eq_false hdl, Bool.false_and] at HA
      have HRM : Hid (A = false) := HA.out
      clear HA HMV
      go_wp2_with fail
      go_ret
      refine ⟨?_, HBV.out⟩
      rw [HRM.out]
      rfl
  · rw [decide_eq_false hqb, Bool.false_and] at HA
    have hqe := st_empty hqb
    have HRM : Hid (A = false) := HA.out
    clear HA HMV hqb
    go_wp2_with fail
    go_ret
    refine ⟨?_, HBV.out⟩
    rw [HRM.out]
    rfl
end Go.Proofs.YtfponcdhaefkdaaDoor
