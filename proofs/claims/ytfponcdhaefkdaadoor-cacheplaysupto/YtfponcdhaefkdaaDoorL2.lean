/- CachePlays. -/
import Derived.Test.YtfponcdhaefkdaaDoorL1
import Derived.Test.YtfponcdhaefkdaaDoorVi
namespace Go.Proofs.YtfponcdhaefkdaaDoor
open Go.RowKit
set_option linter.unusedVariables false
set_option linter.unusedSimpArgs false
set_option maxHeartbeats 40000000 in
set_option maxRecDepth 100000 in
theorem cachePlays_any (a0 a1 a2 a3 b0 b1 b2 b3 : Int) (sx : SV) (os : List Os) (w : World) (hI : In EO w (sv sx) os) (ho : ∀ o ∈ os, Oz w o) (mk : Fd) (mt : TypeId) (hM : w.heap[0]? = some (.cells (fdv mk) mt (0, 0))) :
    Calls Tryd.prog 6 #[.agg #[.int .i64 a0, .int .i64 a1, .int .i64 a2, .int .i64 a3], .agg #[.int .i64 b0, .int .i64 b1, .int .i64 b2, .int .i64 b3], sv sx] w fun e w' => e = .returned (.bool true) ∧ Below w.heap.size w w' := by
  obtain ⟨s1, s2, s3⟩ := sx
  obtain ⟨e1, e2, e3⟩ := slice_len hI
  have HI : Hid (In EO w (.slice s1 s2 s3) os) := hI
  have HN : Hid (os.length = s2) := e1.symm
  rw [← e1] at e2
  have HO : Hid (∀ o ∈ os, Oz w o) := ho
  have HM : Hid (w.heap[0]? = some (.cells (fdv mk) mt (0, 0))) := hM
  obtain ⟨x1, hx1⟩ : ∃ x, cfB a0 a1 a2 a3 = x := ⟨_, rfl⟩
  obtain ⟨x2, hx2⟩ : ∃ x, cfB b0 b1 b2 b3 = x := ⟨_, rfl⟩
  have HX : Hid (cfB a0 a1 a2 a3 = x1 ∧ cfB b0 b1 b2 b3 = x2) := ⟨hx1, hx2⟩
  obtain ⟨n1, hn1⟩ : ∃ x, errN x1 = x := ⟨_, rfl⟩
  obtain ⟨n2, hn2⟩ : ∃ x, errN x2 = x := ⟨_, rfl⟩
  obtain ⟨k1, hk1⟩ : ∃ x, (!x1) = x := ⟨_, rfl⟩
  obtain ⟨k2, hk2⟩ : ∃ x, (!x2) = x := ⟨_, rfl⟩
  obtain ⟨W0, hW0⟩ : ∃ V, w.alloc (.cells #[.int .i64 a0, .int .i64 a1, .int .i64 a2, .int .i64 a3] 36) = V := ⟨_, rfl⟩
  obtain ⟨c0, hc0⟩ : ∃ k, w.heap.size = k := ⟨_, rfl⟩
  obtain ⟨W1, hW1⟩ : ∃ V, W0.alloc (.cells #[.int .i64 b0, .int .i64 b1, .int .i64 b2, .int .i64 b3] 36) = V := ⟨_, rfl⟩
  obtain ⟨c1, hc1⟩ : ∃ k, W0.heap.size = k := ⟨_, rfl⟩
  have g0 : Below w.heap.size w W0 := by rw [← hW0]; exact bel1 _ _
  have g1 : Below W0.heap.size W0 W1 := by rw [← hW1]; exact bel1 _ _
  have hC0 : W1.heap[c0]? = some (.cells #[.int .i64 a0, .int .i64 a1, .int .i64 a2, .int .i64 a3] 36 (0, 0)) := by
    have h : W0.heap[c0]? = some (.cells #[.int .i64 a0, .int .i64 a1, .int .i64 a2, .int .i64 a3] 36 (0, 0)) := by rw [← hW0, ← hc0, heap_al, if_pos rfl]
    exact (g1.block _ (heap_lt h)).trans h
  have hC1 : W1.heap[c1]? = some (.cells #[.int .i64 b0, .int .i64 b1, .int .i64 b2, .int .i64 b3] 36 (0, 0)) := by rw [← hW1, ← hc1, heap_al, if_pos rfl]
  have HB1 : Hid (Below w.heap.size w W1 ∧ W1.heap[c0]? = some (.cells #[.int .i64 a0, .int .i64 a1, .int .i64 a2, .int .i64 a3] 36 (0, 0)) ∧ W1.heap[c1]? = some (.cells #[.int .i64 b0, .int .i64 b1, .int .i64 b2, .int .i64 b3] 36 (0, 0))) := ⟨g0.trans (g1.mono g0.size), hC0, hC1⟩
  have HNa : Hid (∀ V, Calls Tryd.prog 8 #[.agg #[.int .i64 a0, .int .i64 a1, .int .i64 a2, .int .i64 a3]] V fun e w' => Below V.heap.size V w' ∧ ∃ u, e = .returned (.tuple #[.pointer u, .int .i64 n1]) ∧ NwC w' x1 83 #[.int .i64 a0, .int .i64 a1, .int .i64 a2, .int .i64 0, .slice none 0 0] u (fun k => V.heap.size ≤ k)) := fun V => by rw [← hn1]; exact new_two _ _ _ _ x1 hx1 V
  have HNb : Hid (∀ V, Calls Tryd.prog 8 #[.agg #[.int .i64 b0, .int .i64 b1, .int .i64 b2, .int .i64 b3]] V fun e w' => Below V.heap.size V w' ∧ ∃ u, e = .returned (.tuple #[.pointer u, .int .i64 n2]) ∧ NwC w' x2 83 #[.int .i64 b0, .int .i64 b1, .int .i64 b2, .int .i64 0, .slice none 0 0] u (fun k => V.heap.size ≤ k)) := fun V => by rw [← hn2]; exact new_two _ _ _ _ x2 hx2 V
  have HRa : Hid (∀ V, Calls Tryd.prog 24 #[.agg #[.int .i64 a0, .int .i64 a1, .int .i64 a2, .int .i64 a3]] V fun e w' => Below V.heap.size V w' ∧ ∃ u, e = .returned (.tuple #[.pointer u, .int .i64 n1]) ∧ NwC w' x1 100 #[.int .i64 a0, .int .i64 a1, .int .i64 a2, .int .i64 a3, .slice none 0 0, .int .i64 0] u (fun k => V.heap.size ≤ k)) := fun V => by rw [← hn1]; exact rnew_two _ _ _ _ x1 hx1 V
  have HRb : Hid (∀ V, Calls Tryd.prog 24 #[.agg #[.int .i64 b0, .int .i64 b1, .int .i64 b2, .int .i64 b3]] V fun e w' => Below V.heap.size V w' ∧ ∃ u, e = .returned (.tuple #[.pointer u, .int .i64 n2]) ∧ NwC w' x2 100 #[.int .i64 b0, .int .i64 b1, .int .i64 b2, .int .i64 b3, .slice none 0 0, .int .i64 0] u (fun k => V.heap.size ≤ k)) := fun V => by rw [← hn2]; exact rnew_two _ _ _ _ x2 hx2 V
  have HK : Hid ((!x1) = k1 ∧ (!x2) = k2) := ⟨hk1, hk2⟩
  simp only [sv]
  clear hI ho e1 hM hx1 hx2 hn1 hn2 hk1 hk2 g0 g1 hC0 hC1
  go_enter Tryd.func6, Tryd.ntmps6
  go_upto_region 1 with fail
  try rw [hW0]
  try rw [hc0]
  try rw [hW1]
  try rw [hc1]
  clear hW0 hc0 hW1 hc1
  have hp := HB1.out.2.1
  have p0 := cell_blk hp 0
  have p1 := cell_blk hp 1
  have p2 := cell_blk hp 2
  have p3 := cell_blk hp 3
  simp only [List.getElem?_toArray, List.getElem?_cons_succ, List.getElem?_cons_zero] at p0 p1 p2 p3
  clear hp
  go_wp2_with fail
  go_at_call 8
  refine (HNa.out W1).mono ?_
  rintro e W2 ⟨g1, u, rfl, hw1⟩
  have HB2 : Hid (Below w.heap.size w W2 ∧ W2.heap[c0]? = some (.cells #[.int .i64 a0, .int .i64 a1, .int .i64 a2, .int .i64 a3] 36 (0, 0)) ∧ W2.heap[c1]? = some (.cells #[.int .i64 b0, .int .i64 b1, .int .i64 b2, .int .i64 b3] 36 (0, 0))) := ⟨HB1.out.1.trans (g1.mono HB1.out.1.size), (g1.block _ (heap_lt HB1.out.2.1)).trans HB1.out.2.1, (g1.block _ (heap_lt HB1.out.2.2)).trans HB1.out.2.2⟩
  have HG1 : Hid (Below W1.heap.size W1 W2) := g1
  have HU1 : Hid (NwC W2 x1 83 #[.int .i64 a0, .int .i64 a1, .int .i64 a2, .int .i64 0, .slice none 0 0] u (fun k => W1.heap.size ≤ k)) := hw1
  clear g1 hw1 HNa p0 p1 p2 p3
  have hp := HB2.out.2.1
  have p0 := cell_blk hp 0
  have p1 := cell_blk hp 1
  have p2 := cell_blk hp 2
  have p3 := cell_blk hp 3
  simp only [List.getElem?_toArray, List.getElem?_cons_succ, List.getElem?_cons_zero] at p0 p1 p2 p3
  clear hp
  go_wp2_with fail
  go_at_call 24
  refine (HRa.out W2).mono ?_
  rintro e W3 ⟨g2, v, rfl, hw2⟩
  have HB3 : Hid (Below w.heap.size w W3 ∧ W3.heap[c0]? = some (.cells #[.int .i64 a0, .int .i64 a1, .int .i64 a2, .int .i64 a3] 36 (0, 0)) ∧ W3.heap[c1]? = some (.cells #[.int .i64 b0, .int .i64 b1, .int .i64 b2, .int .i64 b3] 36 (0, 0))) := ⟨HB2.out.1.trans (g2.mono HB2.out.1.size), (g2.block _ (heap_lt HB2.out.2.1)).trans HB2.out.2.1, (g2.block _ (heap_lt HB2.out.2.2)).trans HB2.out.2.2⟩
  have HG2 : Hid (Below W2.heap.size W2 W3) := g2
  have HU2 : Hid (NwC W3 x1 100 #[.int .i64 a0, .int .i64 a1, .int .i64 a2, .int .i64 a3, .slice none 0 0, .int .i64 0] v (fun k => W2.heap.size ≤ k)) := hw2
  clear g2 hw2 HRa p0 p1 p2 p3
  have hq := HB3.out.2.2
  have q0 := cell_blk hq 0
  have q1 := cell_blk hq 1
  have q2 := cell_blk hq 2
  have q3 := cell_blk hq 3
  simp only [List.getElem?_toArray, List.getElem?_cons_succ, List.getElem?_cons_zero] at q0 q1 q2 q3
  clear hq
  go_wp2_with fail
  go_at_call 8
  refine (HNb.out W3).mono ?_
  rintro e W4 ⟨g3, u', rfl, hw3⟩
  have HB4 : Hid (Below w.heap.size w W4 ∧ W4.heap[c0]? = some (.cells #[.int .i64 a0, .int .i64 a1, .int .i64 a2, .int .i64 a3] 36 (0, 0)) ∧ W4.heap[c1]? = some (.cells #[.int .i64 b0, .int .i64 b1, .int .i64 b2, .int .i64 b3] 36 (0, 0))) := ⟨HB3.out.1.trans (g3.mono HB3.out.1.size), (g3.block _ (heap_lt HB3.out.2.1)).trans HB3.out.2.1, (g3.block _ (heap_lt HB3.out.2.2)).trans HB3.out.2.2⟩
  have HG3 : Hid (Below W3.heap.size W3 W4) := g3
  have HU3 : Hid (NwC W4 x2 83 #[.int .i64 b0, .int .i64 b1, .int .i64 b2, .int .i64 0, .slice none 0 0] u' (fun k => W3.heap.size ≤ k)) := hw3
  clear g3 hw3 HNb q0 q1 q2 q3
  have hq := HB4.out.2.2
  have q0 := cell_blk hq 0
  have q1 := cell_blk hq 1
  have q2 := cell_blk hq 2
  have q3 := cell_blk hq 3
  simp only [List.getElem?_toArray, List.getElem?_cons_succ, List.getElem?_cons_zero] at q0 q1 q2 q3
  clear hq
  go_wp2_with fail
  go_at_call 24
  refine (HRb.out W4).mono ?_
  rintro e W5 ⟨g4, v', rfl, hw4⟩
  have HB5 : Hid (Below w.heap.size w W5 ∧ W5.heap[c0]? = some (.cells #[.int .i64 a0, .int .i64 a1, .int .i64 a2, .int .i64 a3] 36 (0, 0)) ∧ W5.heap[c1]? = some (.cells #[.int .i64 b0, .int .i64 b1, .int .i64 b2, .int .i64 b3] 36 (0, 0))) := ⟨HB4.out.1.trans (g4.mono HB4.out.1.size), (g4.block _ (heap_lt HB4.out.2.1)).trans HB4.out.2.1, (g4.block _ (heap_lt HB4.out.2.2)).trans HB4.out.2.2⟩
  have HG4 : Hid (Below W4.heap.size W4 W5) := g4
  have HU4 : Hid (NwC W5 x2 100 #[.int .i64 b0, .int .i64 b1, .int .i64 b2, .int .i64 b3, .slice none 0 0, .int .i64 0] v' (fun k => W4.heap.size ≤ k)) := hw4
  clear g4 hw4 HRb q0 q1 q2 q3
  have l1 : u.isNone = k1 := by rw [← HK.out.1]; exact HU1.out.nil
  have l2 : v.isNone = k1 := by rw [← HK.out.1]; exact HU2.out.nil
  have l3 : u'.isNone = k2 := by rw [← HK.out.2]; exact HU3.out.nil
  have l4 : v'.isNone = k2 := by rw [← HK.out.2]; exact HU4.out.nil
  have m1 : (k1 != k1) = false := by simp
  have m2 : (k2 != k2) = false := by simp
  have m3 : (n1 != n1) = false := by simp
  have m4 : (n2 != n2) = false := by simp
  have HT5 : Hid (Tw w W5 u v u' v') := by
    have z1 := HB1.out.1.size
    have z3 := HB3.out.1.size
    have s12 := HG1.out.size
    have s23 := HG2.out.size
    refine ⟨HB5.out.1, fun k => w.heap.size ≤ k ∧ k < W3.heap.size, fun k => W3.heap.size ≤ k, fun k h1 h2 => by omega, ?_, ?_⟩
    · have q1 : NwC W3 x1 83 #[.int .i64 a0, .int .i64 a1, .int .i64 a2, .int .i64 0, .slice none 0 0] u (fun k => w.heap.size ≤ k ∧ k < W3.heap.size) := (HU1.out.below HG2.out).mono fun k hk hs => ⟨by omega, hk⟩
      have q2 : NwC W3 x1 100 #[.int .i64 a0, .int .i64 a1, .int .i64 a2, .int .i64 a3, .slice none 0 0, .int .i64 0] v (fun k => w.heap.size ≤ k ∧ k < W3.heap.size) := HU2.out.mono fun k hk hs => ⟨by omega, hk⟩
      exact ((Pp.new HX.out.1 (fun k hk => hk.1) q1 q2).below HG3.out).below HG4.out
    · have q1 : NwC W5 x2 83 #[.int .i64 b0, .int .i64 b1, .int .i64 b2, .int .i64 0, .slice none 0 0] u' (fun k => W3.heap.size ≤ k) := HU3.out.below HG4.out
      have q2 : NwC W5 x2 100 #[.int .i64 b0, .int .i64 b1, .int .i64 b2, .int .i64 b3, .slice none 0 0, .int .i64 0] v' (fun k => W3.heap.size ≤ k) := HU4.out.mono fun k hk hs => by have := HG3.out.size; omega
      exact Pp.new HX.out.2 (fun k hk => by omega) q1 q2
  clear HU1 HU2 HU3 HU4 HG1 HG2 HG3 HG4 HB1 HB2 HB3 HB4 HB5 HX HK
  go_wp2_with fail
  go_at_call 9
  refine (first_any _).mono ?_
  rintro e W6 ⟨rfl, g6⟩
  have HTw : Hid (Tw w W6 u v u' v') := HT5.out.below g6
  clear g6 HT5
  go_upto_region 8 with fail
  clear l1 l2 l3 l4 m1 m2 m3 m4
  go_loopw [15, 16] (fun iv _ wr => ∃ i : Nat, iv = .int .i64 (i : Int) ∧ i ≤ s2 ∧ Hid (Tw w wr u v u' v')) (fun iv _ _ => s2 - (intOf iv).toNat)
  case atStart => exact ⟨0, rfl, by omega, HTw.out⟩
  case round =>
    clear HTw
    obtain ⟨i, rfl, hi, hJ⟩ := hrel
    by_cases hlt : i < s2
    · have l1 : (i : Int) < (s2 : Int) := by omega
      have hio : i < os.length := by rw [HN.out]; exact hlt
      obtain ⟨Bj, off, cap, e, hc⟩ := HI.out.op i hio
      injection e with e1 e2 e3
      clear e2
      subst e1 e3
      obtain ⟨o, hox⟩ : ∃ o, os[i] = o := ⟨_, rfl⟩
      rw [hox] at hc
      obtain ⟨d0, d1, d2, d3, d4, d5, d6, d7, d8, d9, d10, d11, d12⟩ := hc wr hJ.out.bel
      have HOz : Hid (Oz w o) := HO.out o (by rw [← hox]; exact List.getElem_mem _)
      clear hc hox hio
      obtain ⟨kd, tw, ⟨m, s, a, p, ⟨y1, y2, y3⟩, qb⟩, rn, ⟨r1, r2, r3⟩, rb, st, tk, Q, fr⟩ := o
      simp only [sv] at d0 d1 d2 d3 d4 d5 d6 d7 d8 d9 d10 d11 d12
      obtain ⟨o1, ho1⟩ : ∃ k, wr.heap.size = k := ⟨_, rfl⟩
      obtain ⟨W9, hW9⟩ : ∃ V, wr.alloc (.cells #[.int .i64 kd, .bool tw, .string m, .string s, .string a, .string p, .slice y1 y2 y3, .string qb, .int .i64 rn, .slice r1 r2 r3, .string rb, .int .i64 st, .int .i64 tk] 60) = V := ⟨_, rfl⟩
      have b9 : Below wr.heap.size wr W9 := by rw [← hW9]; exact bel1 _ _
      have HT9 : Hid (Tw w W9 u v u' v') := hJ.out.below b9
      have HO9 : Hid (W9.heap[o1]? = some (.cells (opv (⟨kd, tw, ⟨m, s, a, p, (y1, y2, y3), qb⟩, rn, (r1, r2, r3), rb, st, tk, Q, fr⟩ : Os)) 60 (0, 0))) := by show _ = _; rw [← hW9, ← ho1, heap_al, if_pos rfl]; rfl
      clear b9 hJ
      go_upto_region 10 with fail
      go_upto_region 11 with fail
      try rw [hW9]
      try rw [ho1]
      clear hW9 ho1 d0 d1 d2 d3 d4 d5 d6 d7 d8 d9 d10 d11 d12
      obtain ⟨d0, d1, d2, d3, d4, d5, d6, d7, d8, d9, d10, d11, d12⟩ := cells60 HO9.out
      simp only [sv] at d6 d9
      obtain ⟨T, hT⟩ : ∃ T, rb.size + szL fr = T := ⟨_, rfl⟩
      have HTz : Hid (rb.size + szL fr ≤ 4611686018427387904) := by have := HOz.out.1.az.zS; show _ ≤ _; exact Nat.le_trans this (by omega)
      have HSa : Hid (∀ V, Below W9.heap.size W9 V → Calls Tryd.prog 25 #[.agg #[.int .i64 rn, .slice r1 r2 r3, .string rb]] V fun e w' => e = .returned (.int .i64 (T : Int)) ∧ Below V.heap.size V w') := fun V hV => by
        have := size_any rn (r1, r2, r3) rb fr V (HOz.out.1.ir.below (HT9.out.bel.trans (hV.mono HT9.out.bel.size))) HTz.out
        rw [hT] at this
        exact this
      have HSb : Hid (∀ V, Below W9.heap.size W9 V → Calls Tryd.prog 26 #[.agg #[.int .i64 rn, .slice r1 r2 r3, .string rb]] V fun e w' => e = .returned (.int .i64 (T : Int)) ∧ Below V.heap.size V w') := fun V hV => by
        have := rsize_any rn (r1, r2, r3) rb fr V (HOz.out.1.ir.below (HT9.out.bel.trans (hV.mono HT9.out.bel.size))) HTz.out
        rw [hT] at this
        exact this
      have hS11 : Hid (∀ V, Below W9.heap.size W9 V → V.cell? ⟨o1, 8, none⟩ = some (.int .i64 rn) ∧ V.cell? ⟨o1, 9, none⟩ = some (.slice r1 r2 r3) ∧ V.cell? ⟨o1, 10, none⟩ = some (.string rb)) := fun V hV => by
        have h1 := (hV.block _ (heap_lt HO9.out)).trans HO9.out
        exact ⟨cell_blk h1 8, cell_blk h1 9, cell_blk h1 10⟩
      have hTT : ((T : Int) != (T : Int)) = false := by simp
      clear hT
      have hIW : Below W9.heap.size W9 W9.drew := (Below.refl _ _).drew
      refine wp_region_held_drew (S := (fun V => V.cell? ⟨o1, 8, none⟩ = some (.int .i64 rn) ∧ V.cell? ⟨o1, 9, none⟩ = some (.slice r1 r2 r3) ∧ V.cell? ⟨o1, 10, none⟩ = some (.string rb))) (by kernel_rfl) (hS11.out _ hIW) (fun hHeld => ?_)
      generalize hWg : World.drew _ = W11 at hIW hHeld ⊢
      clear hWg
      refine wpAnyH_take (i := 0) (oi := { dst := some 73, op := Op.fieldAddr 60 (Operand.tmp 16) 3, type := 0, pos := "law.go:153", after := #[], guard := none }) (v := ?vv1) rfl (by kernel_rfl) (by kernel_rfl) (by kernel_rfl) (fun _ _ _ h => h) (Or.inl ⟨by rfl, ?hy1⟩) (by assumption) ?_
      case hy1 => (intro w hSw; (try dsimp only at hSw); go_simp; all_goals with_reducible rfl)
      try simp only [Act.put, List.setIfInBounds_toArray, List.set_cons_zero, List.set_cons_succ]
      refine wpAnyH_take (i := 1) (oi := { dst := some 74, op := Op.load 26 (Operand.tmp 73), type := 26, pos := "law.go:153", after := #[{ on := 0, ground := Ground.data }], guard := none }) (v := ?vv2) rfl (by kernel_rfl) (by kernel_rfl) (by kernel_rfl) (fun _ _ _ h => h) (Or.inl ⟨by rfl, ?hy2⟩) (by assumption) ?_
      case hy2 => (intro w hSw; (try dsimp only at hSw); go_simp; all_goals with_reducible rfl)
      try simp only [Act.put, List.setIfInBounds_toArray, List.set_cons_zero, List.set_cons_succ]
      refine wpAnyH_take (i := 3) (oi := { dst := some 76, op := Op.fieldAddr 60 (Operand.tmp 16) 3, type := 0, pos := "law.go:153", after := #[], guard := none }) (v := ?vv3) rfl (by kernel_rfl) (by kernel_rfl) (by kernel_rfl) (fun _ _ _ h => h) (Or.inl ⟨by rfl, ?hy3⟩) (by assumption) ?_
      case hy3 => (intro w hSw; (try dsimp only at hSw); go_simp; all_goals with_reducible rfl)
      try simp only [Act.put, List.setIfInBounds_toArray, List.set_cons_zero, List.set_cons_succ]
      refine wpAnyH_take (i := 4) (oi := { dst := some 77, op := Op.load 26 (Operand.tmp 76), type := 26, pos := "law.go:153", after := #[{ on := 3, ground := Ground.data }], guard := none }) (v := ?vv4) rfl (by kernel_rfl) (by kernel_rfl) (by kernel_rfl) (fun _ _ _ h => h) (Or.inl ⟨by rfl, ?hy4⟩) (by assumption) ?_
      case hy4 => (intro w hSw; (try dsimp only at hSw); go_simp; all_goals with_reducible rfl)
      try simp only [Act.put, List.setIfInBounds_toArray, List.set_cons_zero, List.set_cons_succ]
      refine wpAnyH_ready (rs := [2]) (by kernel_rfl) (by simp) ?_
      refine AllReadyH.cons (o := { dst := some 75, op := Op.call { callee := Callee.value (Operand.func 25), args := #[Operand.tmp 74], argTypes := #[26] }, type := 2, pos := "law.go:153", after := #[{ on := 1, ground := Ground.data }], guard := none }) rfl (fun K hK => ?_) AllReadyH.nil
      go_simp
      refine (HSa.out _ hIW).mono ?_
      rintro e' W11x ⟨rfl, bX⟩
      have hW11x : Below W9.heap.size W9 W11x := hIW.trans (bX.mono hIW.size)
      clear bX
      go_wp2_with fail
      refine hK.out _ _ (hS11.out _ hW11x) (fun hHeld => ?_)
      clear hK K
      try simp only [Act.put, List.setIfInBounds_toArray, List.set_cons_zero, List.set_cons_succ]
      refine wpAnyH_ready (rs := [5]) (by kernel_rfl) (by simp) ?_
      refine AllReadyH.cons (o := { dst := some 78, op := Op.call { callee := Callee.value (Operand.func 26), args := #[Operand.tmp 77], argTypes := #[26] }, type := 2, pos := "law.go:153", after := #[{ on := 4, ground := Ground.data }, { on := 2, ground := Ground.chain }], guard := none }) rfl (fun K hK => ?_) AllReadyH.nil
      go_simp
      refine (HSb.out _ hW11x).mono ?_
      rintro e' W11xx ⟨rfl, bX⟩
      have hW11xx : Below W9.heap.size W9 W11xx := hW11x.trans (bX.mono hW11x.size)
      clear bX
      go_wp2_with fail
      refine hK.out _ _ (hS11.out _ hW11xx) (fun hHeld => ?_)
      clear hK K
      try simp only [Act.put, List.setIfInBounds_toArray, List.set_cons_zero, List.set_cons_succ]
      refine wpAnyH_take (i := 6) (oi := { dst := some 79, op := Op.binOp BinOp.neq 2 (Operand.tmp 75) (Operand.tmp 78) 2, type := 4, pos := "law.go:153", after := #[{ on := 2, ground := Ground.data }, { on := 5, ground := Ground.data }], guard := none }) (v := ?vv5) rfl (by kernel_rfl) (by kernel_rfl) (by kernel_rfl) (fun _ _ _ h => h) (Or.inl ⟨by rfl, ?hy5⟩) (by assumption) ?_
      case hy5 => (intro w hSw; (try dsimp only at hSw); go_simp; all_goals with_reducible rfl)
      try simp only [Act.put, List.setIfInBounds_toArray, List.set_cons_zero, List.set_cons_succ]
      refine wpAnyH_done (by kernel_rfl) ?_ _
      have HT8 : Hid (Tw w W11xx u v u' v' ∧ W11xx.heap[o1]? = some (.cells (opv (⟨kd, tw, ⟨m, s, a, p, (y1, y2, y3), qb⟩, rn, (r1, r2, r3), rb, st, tk, Q, fr⟩ : Os)) 60 (0, 0))) := ⟨HT9.out.below hW11xx, (hW11xx.block _ (heap_lt HO9.out)).trans HO9.out⟩
      clear hS11 hHeld HT9 HO9 HSa HSb d0 d1 d2 d3 d4 d5 d6 d7 d8 d9 d10 d11 d12 hW11xx
      generalize W11xx = W8 at HT8 ⊢
      obtain ⟨d0, d1, d2, d3, d4, d5, d6, d7, d8, d9, d10, d11, d12⟩ := cells60 HT8.out.2
      simp only [sv] at d6 d9
      have HT : Hid (Tw w W8 u v u' v') := HT8.out.1
      have HOb : Hid (W8.heap[o1]? = some (.cells (opv (⟨kd, tw, ⟨m, s, a, p, (y1, y2, y3), qb⟩, rn, (r1, r2, r3), rb, st, tk, Q, fr⟩ : Os)) 60 (0, 0))) := HT8.out.2
      clear HT8
      cases tw with
      | true =>
        rcases HT.out.swap.nils with ⟨rfl, rfl⟩ | ⟨g, b, rfl, rfl⟩
        · go_wp2_with fail
          go_roundw
          case rel => exact ⟨i + 1, by simp, by omega, HT.out⟩
          case measure => simp [intOf]; omega
        · have HPl : Hid (Calls Tryd.prog 27 #[.pointer (some ⟨g, 0, none⟩), .pointer (some ⟨b, 0, none⟩), .agg #[.int .i64 kd, .bool true, .string m, .string s, .string a, .string p, .slice y1 y2 y3, .string qb, .int .i64 rn, .slice r1 r2 r3, .string rb, .int .i64 st, .int .i64 tk]] W8 fun e W' => e = .returned (.bool true) ∧ Tw w W' (some ⟨g, 0, none⟩) (some ⟨b, 0, none⟩) u v ∧ ∀ (k : Nat) (cc : Array Value), W8.heap[k]? = some (.cells cc 60 (0, 0)) → W'.heap[k]? = some (.cells cc 60 (0, 0))) := HT.out.swap.plays (⟨kd, true, ⟨m, s, a, p, (y1, y2, y3), qb⟩, rn, (r1, r2, r3), rb, st, tk, Q, fr⟩ : Os) HOz.out.1 HOz.out.2 mk mt HM.out
          go_wp2_with fail
          go_at_call 27
          refine HPl.out.mono ?_
          rintro e V9 ⟨rfl, hT9, hk9⟩
          have HT9 : Hid (Tw w V9 u v (some ⟨g, 0, none⟩) (some ⟨b, 0, none⟩) ∧ V9.heap[o1]? = some (.cells (opv (⟨kd, true, ⟨m, s, a, p, (y1, y2, y3), qb⟩, rn, (r1, r2, r3), rb, st, tk, Q, fr⟩ : Os)) 60 (0, 0))) := ⟨hT9.swap, hk9 _ _ HOb.out⟩
          clear hT9 hk9 HPl HT d0 d1 d2 d3 d4 d5 d6 d7 d8 d9 d10 d11 d12
          obtain ⟨d0, d1, d2, d3, d4, d5, d6, d7, d8, d9, d10, d11, d12⟩ := cells60 HT9.out.2
          clear d0 d2 d3 d4 d5 d6 d7 d8 d9 d10 d11 d12
          go_wp2_with fail
          go_roundw
          case rel => exact ⟨i + 1, by simp, by omega, HT9.out.1⟩
          case measure => simp [intOf]; omega
      | false =>
        rcases HT.out.nils with ⟨rfl, rfl⟩ | ⟨g, b, rfl, rfl⟩
        · go_wp2_with fail
          go_roundw
          case rel => exact ⟨i + 1, by simp, by omega, HT.out⟩
          case measure => simp [intOf]; omega
        · have HPl : Hid (Calls Tryd.prog 27 #[.pointer (some ⟨g, 0, none⟩), .pointer (some ⟨b, 0, none⟩), .agg #[.int .i64 kd, .bool false, .string m, .string s, .string a, .string p, .slice y1 y2 y3, .string qb, .int .i64 rn, .slice r1 r2 r3, .string rb, .int .i64 st, .int .i64 tk]] W8 fun e W' => e = .returned (.bool true) ∧ Tw w W' (some ⟨g, 0, none⟩) (some ⟨b, 0, none⟩) u' v' ∧ ∀ (k : Nat) (cc : Array Value), W8.heap[k]? = some (.cells cc 60 (0, 0)) → W'.heap[k]? = some (.cells cc 60 (0, 0))) := HT.out.plays (⟨kd, false, ⟨m, s, a, p, (y1, y2, y3), qb⟩, rn, (r1, r2, r3), rb, st, tk, Q, fr⟩ : Os) HOz.out.1 HOz.out.2 mk mt HM.out
          go_wp2_with fail
          go_at_call 27
          refine HPl.out.mono ?_
          rintro e V9 ⟨rfl, hT9, hk9⟩
          have HT9 : Hid (Tw w V9 (some ⟨g, 0, none⟩) (some ⟨b, 0, none⟩) u' v') := hT9
          clear hT9 hk9 HPl HT d0 d1 d2 d3 d4 d5 d6 d7 d8 d9 d10 d11 d12
          go_wp2_with fail
          go_roundw
          case rel => exact ⟨i + 1, by simp, by omega, HT9.out⟩
          case measure => simp [intOf]; omega
    · have l1 : ¬ (i : Int) < (s2 : Int) := by omega
      have HE : Hid (Below w.heap.size w wr) := hJ.out.bel
      clear hJ
      go_wp2_with fail
      go_ret
      exact ⟨rfl, HE.out⟩
end Go.Proofs.YtfponcdhaefkdaaDoor
