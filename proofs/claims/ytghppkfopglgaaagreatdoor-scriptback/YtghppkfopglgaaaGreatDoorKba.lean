/- The printer: page, request, targets. The printer: world. Print of every list of commands. -/
import Derived.Test.YtghppkfopglgaaaGreatDoorKav
import Derived.Test.YtghppkfopglgaaaGreatDoorKas
import Derived.Deep.CutRange
import Derived.Test.YtghppkfopglgaaaGreatDoorKaw
namespace Go.Proofs.YtghppkfopglgaaaGreatDoor
open Go.RowKit
set_option linter.unusedVariables false
set_option linter.unusedSimpArgs false
theorem txtN {g : Nat} {l : List UInt8} (ss : List ByteArray) {W V : World} (h : Pb g l W) (hI : ∀ s ∈ ss, s.size ≤ 140737488355328) (hlen : ss.length ≤ 1000) (cs : Array Value) (hc : cs = (ss.map Value.string).toArray) (hV : W.alloc (.cells cs 9) = V) (n : Nat) (hn : n = ss.length) :
    Calls Tryz.prog 98 #[.pointer (some ⟨g, 0, none⟩), .slice (some ⟨W.heap.size, 0, none⟩) n n] V fun e w' => e = .returned (.tuple #[]) ∧ Pb g (textsL l ss) w' ∧ Fr g W w' := by
  subst hn
  have hg := h.lt
  have q2 : V.heap[W.heap.size]? = some (.cells cs 9 (0, 0)) := by rw [← hV, heap_al, if_pos rfl]
  have b2 : Below W.heap.size W V := by rw [← hV]; exact bel1 _ _
  have F2 := Fr.below b2 (Nat.le_of_lt hg)
  refine (texts_any g W.heap.size ss.length l ss _ V (h.below b2) q2 (by omega) (fun j x hj => by
    rw [hc, List.getElem?_toArray, List.getElem?_map, hj]; rfl) hI hlen).mono ?_
  rintro e w' ⟨rfl, h1, h2⟩
  exact ⟨rfl, h1, F2.trans h2⟩
theorem numN {g : Nat} {l : List UInt8} (ss : List Int) {W V : World} (hE : Env W) (g8 : 8 ≤ g) (h : Pb g l W) (hI : ∀ s ∈ ss, I64 s) (hlen : ss.length ≤ 1000) (cs : Array Value) (hc : cs = (ss.map (Value.int .i64)).toArray) (hV : W.alloc (.cells cs 2) = V) (n : Nat) (hn : n = ss.length) :
    Calls Tryz.prog 72 #[.pointer (some ⟨g, 0, none⟩), .slice (some ⟨W.heap.size, 0, none⟩) n n] V fun e w' => e = .returned (.tuple #[]) ∧ Pb g (numsL l ss) w' ∧ Fr g W w' := by
  subst hn
  have hg := h.lt
  have q2 : V.heap[W.heap.size]? = some (.cells cs 2 (0, 0)) := by rw [← hV, heap_al, if_pos rfl]
  have b2 : Below W.heap.size W V := by rw [← hV]; exact bel1 _ _
  have F2 := Fr.below b2 (Nat.le_of_lt hg)
  refine (numbers_any g W.heap.size ss.length l ss _ V (F2.env hE g8) g8 (h.below b2) q2 (by omega) (fun j x hj => by
    rw [hc, List.getElem?_toArray, List.getElem?_map, hj]; rfl) hI hlen).mono ?_
  rintro e w' ⟨rfl, h1, h2⟩
  exact ⟨rfl, h1, F2.trans h2⟩
/-- the builder, what is kept, and a box -/
structure PJ (g g1 : Nat) (c1 : Array Value) (ty : TypeId) (w : World) (l : List UInt8) (W : World) : Prop where
  pb : Pb g l W
  fr : Fr g w W
  blk : W.heap[g1]? = some (.cells c1 ty (0, 0))
section
variable {g g1 : Nat} {c1 : Array Value} {ty : TypeId} {w W W' : World} {l l' : List UInt8}
theorem PJ.step (h : PJ g g1 c1 ty w l W) (hn : g1 ≠ g) (ht : ty ≠ 5) (hp : Pb g l' W') (hf : Fr g W W') : PJ g g1 c1 ty w l' W' := ⟨hp, h.fr.trans hf, hf.kb _ _ _ hn h.blk ht⟩
theorem PJ.below (h : PJ g g1 c1 ty w l W) (hb : Below W.heap.size W W') : PJ g g1 c1 ty w l W' := ⟨h.pb.below hb, h.fr.trans (Fr.below hb (Nat.le_of_lt h.pb.lt)), (hb.block _ (heap_lt h.blk)).trans h.blk⟩
theorem In.atF {α : Type} {E : El α} {b : Option Addr} {n c : Nat} {xs : List α} (h : In E W (.slice b n c) xs) (ok : E.Ok) (k : Nat) (hk : k < xs.length) : ∃ B off, b = some ⟨B, off, none⟩ ∧ B < W.heap.size ∧ ∀ i u, (E.enc (xs[k]'hk))[i]? = some u → W.cell? ⟨B, off + k * E.sz + i, none⟩ = some u := h.at ok (Below.refl _ _) k hk
end
set_option maxRecDepth 100000 in
set_option maxHeartbeats 16000000 in
theorem ppage_any (g : Nat) (l : List UInt8) (p : Pg) (s : Sl) (w : World) (hE : Env w) (g8 : 8 ≤ g) (h : Pb g l w) (hp : PgOk p) (hs : p.a.size ≤ 140737488355328 ∧ p.p.size ≤ 140737488355328 ∧ p.vr.size ≤ 140737488355328 ∧ ∀ c ∈ p.ch, c.v.size ≤ 140737488355328 ∧ c.b.size ≤ 140737488355328) (hI : ∀ U, Fr g w U → In ECh U s.v p.ch) :
    Calls Tryz.prog 96 #[.pointer (some ⟨g, 0, none⟩), .agg (pgA p s)] w fun e w' => e = .returned (.tuple #[]) ∧ Pb g (pgL l p) w' ∧ Fr g w w' := by
  obtain ⟨pa, pp, pst, pv, ch⟩ := p
  obtain ⟨cb, cn, cc⟩ := s
  obtain ⟨z1, z2, z3, z4⟩ := hs
  simp only at z1 z2 z3 z4 hI
  have hcn : cn = ch.length := In.len (hI w (Fr.refl _ _))
  have HCN := hid hcn
  have hc9 : cn ≤ 9223372036854775807 := by
    obtain ⟨_, _, e, h5, h6⟩ := (hI w (Fr.refl _ _)).slice
    have := (Value.slice.inj e).2.1
    omega
  obtain ⟨L0, hL0⟩ : ∃ L, textsL (numsL (textsL l [pa, pp]) [pst]) [pv] = L := ⟨_, rfl⟩
  have HL : Hid (pgL l ⟨pa, pp, pst, pv, ch⟩ = ch.foldl (fun l c => textsL l [c.v, c.b]) L0) := hid (by rw [← hL0]; rfl)
  have HL0 := hid hL0
  rw [HL.out]
  clear hL0
  obtain ⟨c1, hc1⟩ : ∃ c, pgA ⟨pa, pp, pst, pv, ch⟩ ⟨cb, cn, cc⟩ = c := ⟨_, rfl⟩
  rw [hc1]
  obtain ⟨g1, hg1⟩ : ∃ g1, w.heap.size = g1 := ⟨_, rfl⟩
  obtain ⟨W1, hW1⟩ : ∃ V, w.alloc (.cells c1 34) = V := ⟨_, rfl⟩
  have hglt := h.lt
  have hn1 : g1 ≠ g := by omega
  have q1 : W1.heap[g1]? = some (.cells c1 34 (0, 0)) := by rw [← hW1, heap_al, if_pos hg1.symm]
  have b1 : Below w.heap.size w W1 := by rw [← hW1]; exact bel1 _ _
  have HJ1 : Hid (PJ g g1 c1 34 w l W1) := hid ⟨h.below b1, Fr.below b1 (Nat.le_of_lt hglt), q1⟩
  have y0 : c1[0]? = some (.string pa) := by rw [← hc1]; rfl
  have y1 : c1[1]? = some (.string pp) := by rw [← hc1]; rfl
  have y2 : c1[2]? = some (.int .i64 pst) := by rw [← hc1]; rfl
  have y3 : c1[3]? = some (.string pv) := by rw [← hc1]; rfl
  have y4 : c1[4]? = some (.slice cb cn cc) := by rw [← hc1]; rfl
  have HC : Hid (∀ l W, PJ g g1 c1 34 w l W → W.cell? ⟨g1, 0, none⟩ = some (.string pa) ∧ W.cell? ⟨g1, 1, none⟩ = some (.string pp) ∧ W.cell? ⟨g1, 2, none⟩ = some (.int .i64 pst) ∧ W.cell? ⟨g1, 3, none⟩ = some (.string pv) ∧ W.cell? ⟨g1, 4, none⟩ = some (.slice cb cn cc) ∧ g1 < W.heap.size) := hid (fun l W h => ⟨(cell_blk h.blk 0).trans y0, (cell_blk h.blk 1).trans y1, (cell_blk h.blk 2).trans y2, (cell_blk h.blk 3).trans y3, (cell_blk h.blk 4).trans y4, heap_lt h.blk⟩)
  have HE := hid hE
  have HW1 := hid hW1
  have HG1 := hid hg1
  have HI := hid hI
  have HZ1 := hid z1; have HZ2 := hid z2; have HZ3 := hid z3; have HZ4 := hid z4
  have HP := hid hp
  obtain ⟨d0, d1, d2, d3, d4, dl⟩ := HC.out _ _ HJ1.out
  clear hE h hI z1 z2 z3 z4 hp hc1 hg1 hW1 q1 b1 y0 y1 y2 y3 y4 hcn
  go_enter Tryz.func96, Tryz.ntmps96
  go_upto_region 1 with fail
  try rw [HG1.out]
  try (erw [HW1.out])
  go_wp2_with fail
  go_at_call 98
  refine (txtN [pa, pp] HJ1.out.pb (by intro s hs; simp at hs; rcases hs with rfl | rfl; exact HZ1.out; exact HZ2.out) (by simp) _ rfl rfl 2 rfl).mono ?_
  rintro e V1 ⟨rfl, k1, k2⟩
  have HJ2 := hid (HJ1.out.step hn1 (by decide) k1 k2)
  clear k1 k2 d0 d1 d2 d3 d4 dl HJ1
  obtain ⟨d0, d1, d2, d3, d4, dl⟩ := HC.out _ _ HJ2.out
  go_wp2_with fail
  go_at_call 72
  refine (numN [pst] (HJ2.out.fr.env HE.out g8) g8 HJ2.out.pb (by intro s hs; rw [List.mem_singleton] at hs; subst hs; exact HP.out) (by simp) _ rfl rfl 1 rfl).mono ?_
  rintro e V2 ⟨rfl, k1, k2⟩
  have HJ3 := hid (HJ2.out.step hn1 (by decide) k1 k2)
  clear k1 k2 d0 d1 d2 d3 d4 dl HJ2
  obtain ⟨d0, d1, d2, d3, d4, dl⟩ := HC.out _ _ HJ3.out
  go_wp2_with fail
  go_at_call 98
  refine (txtN [pv] HJ3.out.pb (by intro s hs; rw [List.mem_singleton] at hs; subst hs; exact HZ3.out) (by simp) _ rfl rfl 1 rfl).mono ?_
  rintro e V3 ⟨rfl, k1, k2⟩
  have HJ4 := hid (HJ3.out.step hn1 (by decide) k1 k2)
  clear k1 k2 d0 d1 d2 d3 d4 dl HJ3
  obtain ⟨d0, d1, d2, d3, d4, dl⟩ := HC.out _ _ HJ4.out
  rw [HL0.out] at HJ4
  go_wp2_with fail
  clear d0 d1 d2 d3 d4 dl
  go_loopw [5, 26] (fun _ iv wr => ∃ k : Nat, iv = .int .i64 (k : Int) ∧ k ≤ cn ∧ Hid (PJ g g1 c1 34 w ((ch.take k).foldl (fun l c => textsL l [c.v, c.b]) L0) wr)) (fun _ iv _ => cn - (intOf iv).toNat)
  case atStart => exact ⟨0, rfl, Nat.zero_le _, HJ4⟩
  case round =>
    obtain ⟨k, rfl, hk, HJ⟩ := hrel
    clear HJ4
    by_cases hlt : k < cn
    · have hltI : (k : Int) < (cn : Int) := by omega
      have hkl : k < ch.length := by have := HCN.out; omega
      obtain ⟨B, off, rfl, hB, hcl⟩ := (HI.out wr HJ.out.fr).atF okCh k hkl
      obtain ⟨x, hx⟩ : ∃ x, ch[k]'hkl = x := ⟨_, rfl⟩
      have HXM : Hid (x.v.size ≤ 140737488355328 ∧ x.b.size ≤ 140737488355328) := hid (HZ4.out x (by rw [← hx]; exact List.getElem_mem _))
      have HXL : Hid ((ch.take (k + 1)).foldl (fun l c => textsL l [c.v, c.b]) L0 = textsL ((ch.take k).foldl (fun l c => textsL l [c.v, c.b]) L0) [x.v, x.b]) := hid (by
        rw [List.take_add_one, List.getElem?_eq_getElem hkl, hx, List.foldl_append]; rfl)
      rw [hx] at hcl
      have u0 := hcl 0 (.string x.v) rfl
      have u1 := hcl 1 (.string x.b) rfl
      simp only [show ECh.sz = 2 from rfl, Nat.add_zero] at u0 u1
      obtain ⟨X0, hX0⟩ : ∃ X0, wr.alloc (.cells #[.string x.v, .string x.b] 59) = X0 := ⟨_, rfl⟩
      have bx : Below wr.heap.size wr X0 := by rw [← hX0]; exact bel1 _ _
      have qx : X0.heap[wr.heap.size]? = some (.cells #[.string x.v, .string x.b] 59 (0, 0)) := by rw [← hX0, heap_al, if_pos rfl]
      have t0 : X0.cell? ⟨wr.heap.size, 0, none⟩ = some (.string x.v) := by rw [cell_blk qx]; rfl
      have t1 : X0.cell? ⟨wr.heap.size, 1, none⟩ = some (.string x.b) := by rw [cell_blk qx]; rfl
      have tl := heap_lt qx
      have HX0 := hid hX0
      have HJx := hid (HJ.out.below bx)
      clear hcl hx hX0 bx qx hkl
      go_upto_region 7 with fail
      erw [HX0.out]
      clear u0 u1
      go_wp2_with fail
      go_at_call 98
      refine (txtN [x.v, x.b] HJx.out.pb (by intro s hs; simp at hs; rcases hs with rfl | rfl; exact HXM.out.1; exact HXM.out.2) (by simp) _ rfl rfl 2 rfl).mono ?_
      rintro e V ⟨rfl, k1, k2⟩
      rw [← HXL.out] at k1
      have HJn := hid (HJx.out.step hn1 (by decide) k1 k2)
      clear k1 k2 t0 t1 tl
      go_wp2_with fail
      go_roundw
      case rel => exact ⟨k + 1, rfl, by omega, HJn⟩
      case measure => show cn - ((k : Int) + 1).toNat < cn - ((k : Nat) : Int).toNat; omega
    · have hnl : ¬ (k : Int) < (cn : Int) := by omega
      have HFIN : Hid (Pb g (ch.foldl (fun l c => textsL l [c.v, c.b]) L0) wr ∧ Fr g w wr) := hid (by
        have := HJ.out.pb
        rw [List.take_of_length_le (by have := HCN.out; omega)] at this
        exact ⟨this, HJ.out.fr⟩)
      go_wp2_with fail
      go_end0
      exact ⟨rfl, HFIN.out.1, HFIN.out.2⟩
set_option maxRecDepth 100000 in
set_option maxHeartbeats 16000000 in
theorem prequest_any (g : Nat) (l : List UInt8) (q : Rq) (s : Sl) (w : World) (h : Pb g l w) (hs : q.m.size ≤ 140737488355328 ∧ q.s.size ≤ 140737488355328 ∧ q.a.size ≤ 140737488355328 ∧ q.p.size ≤ 140737488355328 ∧ q.b.size ≤ 140737488355328 ∧ ∀ f ∈ q.fs, f.n.size ≤ 140737488355328 ∧ f.v.size ≤ 140737488355328) (hI : ∀ U, Fr g w U → In EFd U s.v q.fs) :
    Calls Tryz.prog 95 #[.pointer (some ⟨g, 0, none⟩), .agg (rqA q s.v)] w fun e w' => e = .returned (.tuple #[]) ∧ Pb g (rqL l q) w' ∧ Fr g w w' := by
  obtain ⟨qm, qs, qa, qp, qb, fs⟩ := q
  obtain ⟨cb, cn, cc⟩ := s
  obtain ⟨z1, z2, z3, z4, z5, z6⟩ := hs
  simp only at z1 z2 z3 z4 z5 z6 hI
  have hcn : cn = fs.length := In.len (hI w (Fr.refl _ _))
  have HCN := hid hcn
  have hc9 : cn ≤ 9223372036854775807 := by
    obtain ⟨_, _, e, h5, h6⟩ := (hI w (Fr.refl _ _)).slice
    have := (Value.slice.inj e).2.1
    omega
  obtain ⟨L0, hL0⟩ : ∃ L, textsL l [qm, qs, qa, qp, qb] = L := ⟨_, rfl⟩
  have HL : Hid (rqL l ⟨qm, qs, qa, qp, qb, fs⟩ = fs.foldl fdL L0) := hid (by rw [← hL0]; rfl)
  have HL0 := hid hL0
  rw [HL.out]
  obtain ⟨c1, hc1⟩ : ∃ c, rqA ⟨qm, qs, qa, qp, qb, fs⟩ (Sl.v ⟨cb, cn, cc⟩) = c := ⟨_, rfl⟩
  rw [hc1]
  obtain ⟨g1, hg1⟩ : ∃ g1, w.heap.size = g1 := ⟨_, rfl⟩
  obtain ⟨W1, hW1⟩ : ∃ V, w.alloc (.cells c1 31) = V := ⟨_, rfl⟩
  have hglt := h.lt
  have hn1 : g1 ≠ g := by omega
  have q1 : W1.heap[g1]? = some (.cells c1 31 (0, 0)) := by rw [← hW1, heap_al, if_pos hg1.symm]
  have b1 : Below w.heap.size w W1 := by rw [← hW1]; exact bel1 _ _
  have HJ1 : Hid (PJ g g1 c1 31 w l W1) := hid ⟨h.below b1, Fr.below b1 (Nat.le_of_lt hglt), q1⟩
  have y0 : c1[0]? = some (.string qm) := by rw [← hc1]; rfl
  have y1 : c1[1]? = some (.string qs) := by rw [← hc1]; rfl
  have y2 : c1[2]? = some (.string qa) := by rw [← hc1]; rfl
  have y3 : c1[3]? = some (.string qp) := by rw [← hc1]; rfl
  have y4 : c1[4]? = some (.slice cb cn cc) := by rw [← hc1]; rfl
  have y5 : c1[5]? = some (.string qb) := by rw [← hc1]; rfl
  have HC : Hid (∀ l W, PJ g g1 c1 31 w l W → W.cell? ⟨g1, 0, none⟩ = some (.string qm) ∧ W.cell? ⟨g1, 1, none⟩ = some (.string qs) ∧ W.cell? ⟨g1, 2, none⟩ = some (.string qa) ∧ W.cell? ⟨g1, 3, none⟩ = some (.string qp) ∧ W.cell? ⟨g1, 4, none⟩ = some (.slice cb cn cc) ∧ W.cell? ⟨g1, 5, none⟩ = some (.string qb) ∧ g1 < W.heap.size) := hid (fun l W h => ⟨(cell_blk h.blk 0).trans y0, (cell_blk h.blk 1).trans y1, (cell_blk h.blk 2).trans y2, (cell_blk h.blk 3).trans y3, (cell_blk h.blk 4).trans y4, (cell_blk h.blk 5).trans y5, heap_lt h.blk⟩)
  have HW1 := hid hW1
  have HG1 := hid hg1
  have HI := hid hI
  have HZ := hid (And.intro z1 (And.intro z2 (And.intro z3 (And.intro z4 z5))))
  have HZ4 := hid z6
  have HWD := hid (word_any g)
  obtain ⟨d0, d1, d2, d3, d4, d5, dl⟩ := HC.out _ _ HJ1.out
  clear h hI z1 z2 z3 z4 z5 z6 hc1 hg1 hW1 q1 b1 y0 y1 y2 y3 y4 y5 hcn hL0
  go_enter Tryz.func95, Tryz.ntmps95
  go_upto_region 1 with fail
  try rw [HG1.out]
  try (erw [HW1.out])
  go_wp2_with fail
  go_at_call 98
  refine (txtN [qm, qs, qa, qp, qb] HJ1.out.pb (by
    intro s hs
    simp at hs
    have := HZ.out
    rcases hs with rfl | rfl | rfl | rfl | rfl
    · exact this.1
    · exact this.2.1
    · exact this.2.2.1
    · exact this.2.2.2.1
    · exact this.2.2.2.2) (by simp) _ rfl rfl 5 rfl).mono ?_
  rintro e V1 ⟨rfl, k1, k2⟩
  rw [HL0.out] at k1
  have HJ4 := hid (HJ1.out.step hn1 (by decide) k1 k2)
  clear k1 k2 d0 d1 d2 d3 d4 d5 dl HJ1
  obtain ⟨d0, d1, d2, d3, d4, d5, dl⟩ := HC.out _ _ HJ4.out
  clear d0 d1 d2 d3 d5
  go_wp2_with fail
  clear d4 dl
  go_loopw [5, 22] (fun _ iv wr => ∃ k : Nat, iv = .int .i64 (k : Int) ∧ k ≤ cn ∧ Hid (PJ g g1 c1 31 w ((fs.take k).foldl fdL L0) wr)) (fun _ iv _ => cn - (intOf iv).toNat)
  case atStart => exact ⟨0, rfl, Nat.zero_le _, HJ4⟩
  case round =>
    obtain ⟨k, rfl, hk, HJ⟩ := hrel
    clear HJ4
    by_cases hlt : k < cn
    · have hltI : (k : Int) < (cn : Int) := by omega
      have hkl : k < fs.length := by have := HCN.out; omega
      obtain ⟨B, off, rfl, hB, hcl⟩ := (HI.out wr HJ.out.fr).atF okFd k hkl
      obtain ⟨x, hx⟩ : ∃ x, fs[k]'hkl = x := ⟨_, rfl⟩
      have HXM : Hid (x.n.size ≤ 140737488355328 ∧ x.v.size ≤ 140737488355328) := hid (HZ4.out x (by rw [← hx]; exact List.getElem_mem _))
      have HXL : Hid ((fs.take (k + 1)).foldl fdL L0 = fdL ((fs.take k).foldl fdL L0) x) := hid (by
        rw [List.take_add_one, List.getElem?_eq_getElem hkl, hx, List.foldl_append]; rfl)
      rw [hx] at hcl
      obtain ⟨xn, xv, xb⟩ := x
      have u0 := hcl 0 (.string xn) rfl
      have u1 := hcl 1 (.string xv) rfl
      have u2 := hcl 2 (.bool xb) rfl
      simp only [show EFd.sz = 3 from rfl, Nat.add_zero] at u0 u1 u2
      obtain ⟨X0, hX0⟩ : ∃ X0, wr.alloc (.cells #[.string xn, .string xv, .bool xb] 66) = X0 := ⟨_, rfl⟩
      obtain ⟨g2, hg2⟩ : ∃ g2, wr.heap.size = g2 := ⟨_, rfl⟩
      have bx : Below wr.heap.size wr X0 := by rw [← hX0]; exact bel1 _ _
      have qx : X0.heap[g2]? = some (.cells #[.string xn, .string xv, .bool xb] 66 (0, 0)) := by rw [← hX0, heap_al, if_pos hg2.symm]
      have hg2n : g2 ≠ g := by have := HJ.out.pb.lt; omega
      have t2 : X0.cell? ⟨g2, 2, none⟩ = some (.bool xb) := by rw [cell_blk qx]; rfl
      have tl := heap_lt qx
      have HX0 := hid hX0
      have HG2 := hid hg2
      have HJx := hid (HJ.out.below bx)
      have HQX := hid qx
      clear hcl hx hX0 bx qx hkl hg2
      go_upto_if 27 with fail
      try rw [HG2.out]
      erw [HX0.out]
      clear u0 u1 u2
      go_cut [] from 28 (fun wx => Hid (PJ g g1 c1 31 w (if xb then wordL ((fs.take k).foldl fdL L0) nNever else (fs.take k).foldl fdL L0) wx ∧ wx.heap[g2]? = some (.cells #[.string xn, .string xv, .bool xb] 66 (0, 0))))
      case first =>
        cases xb with
        | false =>
          go_wp2_with fail
          go_meet
          case rel => exact hid ⟨HJx.out, HQX.out⟩
        | true =>
          go_wp2_with fail
          go_at_call 73
          refine (HWD.out _ nNever X0 HJx.out.pb (by decide) (by decide)).mono ?_
          rintro e V ⟨rfl, k1, k2⟩
          have HN := hid (And.intro (HJx.out.step hn1 (by decide) k1 k2) (k2.kb _ _ _ hg2n HQX.out (by decide)))
          clear k1 k2
          go_wp2_with fail
          go_meet
          case rel => exact HN
      case rest =>
        have HJy := hid hcut.out.1
        have qy := hcut.out.2
        have t0 := cell_blk qy 0
        have t1 := cell_blk qy 1
        rw [show (#[Value.string xn, Value.string xv, Value.bool xb])[0]? = some (.string xn) from rfl] at t0
        rw [show (#[Value.string xn, Value.string xv, Value.bool xb])[1]? = some (.string xv) from rfl] at t1
        have tl2 := heap_lt qy
        clear qy hcut
        go_wp2_with fail
        go_at_call 98
        refine (txtN [xn, xv] HJy.out.pb (by intro s hs; simp at hs; rcases hs with rfl | rfl; exact HXM.out.1; exact HXM.out.2) (by simp) _ rfl rfl 2 rfl).mono ?_
        rintro e V ⟨rfl, k1, k2⟩
        have HJn : Hid (PJ g g1 c1 31 w ((fs.take (k + 1)).foldl fdL L0) V) := hid (by rw [HXL.out]; exact HJy.out.step hn1 (by decide) k1 k2)
        clear k1 k2 t0 t1 tl2
        go_wp2_with fail
        go_roundw
        case rel => exact ⟨k + 1, rfl, by omega, HJn⟩
        case measure => show cn - ((k : Int) + 1).toNat < cn - ((k : Nat) : Int).toNat; omega
    · have hnl : ¬ (k : Int) < (cn : Int) := by omega
      have HFIN : Hid (Pb g (fs.foldl fdL L0) wr ∧ Fr g w wr) := hid (by
        have := HJ.out.pb
        rw [List.take_of_length_le (by have := HCN.out; omega)] at this
        exact ⟨this, HJ.out.fr⟩)
      go_wp2_with fail
      go_end0
      exact ⟨rfl, HFIN.out.1, HFIN.out.2⟩
set_option maxRecDepth 100000 in
set_option maxHeartbeats 16000000 in
theorem ptargets_any (g : Nat) (l : List UInt8) (ts : List Tg) (cb : Option Addr) (cn cc : Nat) (w : World) (h : Pb g l w) (hs : ∀ f ∈ ts, f.a.size ≤ 140737488355328 ∧ f.p.size ≤ 140737488355328) (hI : ∀ U, Fr g w U → In ETg U (.slice cb cn cc) ts) :
    Calls Tryz.prog 99 #[.pointer (some ⟨g, 0, none⟩), .slice cb cn cc] w fun e w' => e = .returned (.tuple #[]) ∧ Pb g (tgsL l ts) w' ∧ Fr g w w' := by
  have hcn : cn = ts.length := In.len (hI w (Fr.refl _ _))
  have HCN := hid hcn
  have hc9 : cn ≤ 9223372036854775807 := by
    obtain ⟨_, _, e, h5, h6⟩ := (hI w (Fr.refl _ _)).slice
    have := (Value.slice.inj e).2.1
    omega
  have HJ4 : Hid (Pb g (tgsL l (ts.take 0)) w ∧ Fr g w w) := hid ⟨h, Fr.refl _ _⟩
  have HI := hid hI
  have HZ4 := hid hs
  clear h hI hs hcn
  go_enter Tryz.func99, Tryz.ntmps99
  go_wp2_with fail
  go_loopw [5, 8] (fun _ iv wr => ∃ k : Nat, iv = .int .i64 (k : Int) ∧ k ≤ cn ∧ Hid (Pb g (tgsL l (ts.take k)) wr ∧ Fr g w wr)) (fun _ iv _ => cn - (intOf iv).toNat)
  case atStart => exact ⟨0, rfl, Nat.zero_le _, HJ4⟩
  case round =>
    obtain ⟨k, rfl, hk, HJ⟩ := hrel
    clear HJ4
    by_cases hlt : k < cn
    · have hltI : (k : Int) < (cn : Int) := by omega
      have hkl : k < ts.length := by have := HCN.out; omega
      obtain ⟨B, off, rfl, hB, hcl⟩ := (HI.out wr HJ.out.2).atF okTg k hkl
      obtain ⟨x, hx⟩ : ∃ x, ts[k]'hkl = x := ⟨_, rfl⟩
      have HXM : Hid (x.a.size ≤ 140737488355328 ∧ x.p.size ≤ 140737488355328) := hid (HZ4.out x (by rw [← hx]; exact List.getElem_mem _))
      have HXL : Hid (tgsL l (ts.take (k + 1)) = textsL (tgsL l (ts.take k)) [x.a, x.p]) := hid (by
        unfold tgsL
        rw [List.take_add_one, List.getElem?_eq_getElem hkl, hx, List.foldl_append]; rfl)
      rw [hx] at hcl
      have u0 := hcl 0 (.string x.a) rfl
      have u1 := hcl 1 (.string x.p) rfl
      simp only [show ETg.sz = 2 from rfl, Nat.add_zero] at u0 u1
      obtain ⟨X0, hX0⟩ : ∃ X0, wr.alloc (.cells #[.string x.a, .string x.p] 61) = X0 := ⟨_, rfl⟩
      have bx : Below wr.heap.size wr X0 := by rw [← hX0]; exact bel1 _ _
      have qx : X0.heap[wr.heap.size]? = some (.cells #[.string x.a, .string x.p] 61 (0, 0)) := by rw [← hX0, heap_al, if_pos rfl]
      have t0 : X0.cell? ⟨wr.heap.size, 0, none⟩ = some (.string x.a) := by rw [cell_blk qx]; rfl
      have t1 : X0.cell? ⟨wr.heap.size, 1, none⟩ = some (.string x.p) := by rw [cell_blk qx]; rfl
      have tl := heap_lt qx
      have HX0 := hid hX0
      have HJx : Hid (Pb g (tgsL l (ts.take k)) X0 ∧ Fr g w X0) := hid ⟨HJ.out.1.below bx, HJ.out.2.trans (Fr.below bx (Nat.le_of_lt HJ.out.1.lt))⟩
      clear hcl hx hX0 bx qx hkl
      go_upto_region 3 with fail
      erw [HX0.out]
      clear u0 u1
      go_wp2_with fail
      go_at_call 98
      refine (txtN [x.a, x.p] HJx.out.1 (by intro s hs; simp at hs; rcases hs with rfl | rfl; exact HXM.out.1; exact HXM.out.2) (by simp) _ rfl rfl 2 rfl).mono ?_
      rintro e V ⟨rfl, k1, k2⟩
      rw [← HXL.out] at k1
      have HJn : Hid (Pb g (tgsL l (ts.take (k + 1))) V ∧ Fr g w V) := hid ⟨k1, HJx.out.2.trans k2⟩
      clear k1 k2 t0 t1 tl
      go_wp2_with fail
      go_roundw
      case rel => exact ⟨k + 1, rfl, by omega, HJn⟩
      case measure => show cn - ((k : Int) + 1).toNat < cn - ((k : Nat) : Int).toNat; omega
    · have hnl : ¬ (k : Int) < (cn : Int) := by omega
      have HFIN : Hid (Pb g (tgsL l ts) wr ∧ Fr g w wr) := hid (by
        have := HJ.out.1
        rw [List.take_of_length_le (by have := HCN.out; omega)] at this
        exact ⟨this, HJ.out.2⟩)
      go_wp2_with fail
      go_end0
      exact ⟨rfl, HFIN.out.1, HFIN.out.2⟩
end Go.Proofs.YtghppkfopglgaaaGreatDoor
namespace Go.Proofs.YtghppkfopglgaaaGreatDoor
open Go.RowKit
set_option linter.unusedVariables false
set_option linter.unusedSimpArgs false
def TxPg (p : Pg) : Prop := p.a.size ≤ 140737488355328 ∧ p.p.size ≤ 140737488355328 ∧ p.vr.size ≤ 140737488355328 ∧ ∀ c ∈ p.ch, c.v.size ≤ 140737488355328 ∧ c.b.size ≤ 140737488355328
def TxTg (t : Tg) : Prop := t.a.size ≤ 140737488355328 ∧ t.p.size ≤ 140737488355328
def TxWo (x : Wo) : Prop := (∀ p ∈ x.pg, TxPg p) ∧ (∀ u ∈ x.ru, TxTg u.of ∧ ∀ t ∈ u.push, TxTg t) ∧ ∀ s ∈ x.og, s.size ≤ 140737488355328
set_option maxRecDepth 100000 in
set_option maxHeartbeats 32000000 in
theorem pworld_any (g : Nat) (l : List UInt8) (x : Wo) (sp su so : Sl) (w : World) (hE : Env w) (g8 : 8 ≤ g) (h : Pb g l w) (hx : WoOk x) (hs : TxWo x) (ps : List (Pg × Sl)) (us : List (Ru × Sl)) (hp : ps.map (·.1) = x.pg) (hu : us.map (·.1) = x.ru)
    (hI : ∀ U, Fr g w U → In EPg U sp.v ps ∧ (∀ q ∈ ps, In ECh U q.2.v q.1.ch) ∧ In ERu U su.v us ∧ (∀ q ∈ us, In ETg U q.2.v q.1.push) ∧ In EOg U so.v x.og) :
    Calls Tryz.prog 71 #[.pointer (some ⟨g, 0, none⟩), .agg (woA x sp su so)] w fun e w' => e = .returned (.tuple #[]) ∧ Pb g (woL l x) w' ∧ Fr g w w' := by
  obtain ⟨⟨a0, a1, a2, a3, a4, a5⟩, ⟨a6, a7, a8, a9, a10, a11⟩, a12, a13, a14, a15, wp, wu, wo⟩ := x
  obtain ⟨pb, pn, pc⟩ := sp
  obtain ⟨ub, un, uc⟩ := su
  obtain ⟨ob, on, oc⟩ := so
  obtain ⟨x1, x2, x3, x4, x5, x6, x7⟩ := hx
  obtain ⟨s1, s2, s3⟩ := hs
  simp only at x1 x2 x3 x4 x5 x6 x7 s1 s2 s3 hp hu hI
  have h0 := hI w (Fr.refl _ _)
  have HNN : Hid (pn = ps.length ∧ un = us.length ∧ on = wo.length) := hid ⟨In.len h0.1, In.len h0.2.2.1, In.len h0.2.2.2.2⟩
  have h63 : ∀ {α : Type} {E : El α} {b : Option Addr} {n c : Nat} {l : List α}, In E w (.slice b n c) l → n ≤ 9223372036854775807 := fun h => by
    obtain ⟨_, _, e, h5, h6⟩ := h.slice
    have := (Value.slice.inj e).2.1
    omega
  have hp9 := h63 h0.1
  have hu9 := h63 h0.2.2.1
  have ho9 := h63 h0.2.2.2.2
  have HPO : Hid (∀ q ∈ ps, PgOk q.1 ∧ TxPg q.1) := hid (fun q hq => by
    have : q.1 ∈ wp := by rw [← hp]; exact List.mem_map.2 ⟨q, hq, rfl⟩
    exact ⟨x7 _ this, s1 _ this⟩)
  have HUO : Hid (∀ q ∈ us, TxTg q.1.of ∧ ∀ t ∈ q.1.push, TxTg t) := hid (fun q hq => by
    have : q.1 ∈ wu := by rw [← hu]; exact List.mem_map.2 ⟨q, hq, rfl⟩
    exact s2 _ this)
  have HOO := hid s3
  obtain ⟨L0, hL0⟩ : ∃ L, lineL l nServer = L := ⟨_, rfl⟩
  obtain ⟨L1, hL1⟩ : ∃ L, numsL L0 (siN ⟨a0, a1, a2, a3, a4, a5⟩) = L := ⟨_, rfl⟩
  obtain ⟨L2, hL2⟩ : ∃ L, lineL L1 nClient = L := ⟨_, rfl⟩
  obtain ⟨L3, hL3⟩ : ∃ L, numsL L2 (siN ⟨a6, a7, a8, a9, a10, a11⟩) = L := ⟨_, rfl⟩
  obtain ⟨L4, hL4⟩ : ∃ L, lineL L3 nConf = L := ⟨_, rfl⟩
  obtain ⟨L5, hL5⟩ : ∃ L, numsL L4 [a12, a13, a14, a15] = L := ⟨_, rfl⟩
  obtain ⟨fp, hfp⟩ : ∃ f : List UInt8 → Pg × Sl → List UInt8, (fun l q => pgL (lineL l nPage) q.1) = f := ⟨_, rfl⟩
  obtain ⟨fu, hfu⟩ : ∃ f : List UInt8 → Ru × Sl → List UInt8, (fun l q => tgsL (tgsL (lineL l nRule) [q.1.of]) q.1.push) = f := ⟨_, rfl⟩
  obtain ⟨fo, hfo⟩ : ∃ f : List UInt8 → ByteArray → List UInt8, (fun l s => textsL (lineL l nOrigin) [s]) = f := ⟨_, rfl⟩
  have HL : Hid (woL l ⟨⟨a0, a1, a2, a3, a4, a5⟩, ⟨a6, a7, a8, a9, a10, a11⟩, a12, a13, a14, a15, wp, wu, wo⟩ = lineL (wo.foldl fo (us.foldl fu (ps.foldl fp L5))) nEnd) := hid (by
    unfold woL
    simp only
    rw [hL0, hL1, hL2, hL3, hL4, hL5, ← hp, ← hu, List.foldl_map, List.foldl_map, hfp, hfu, hfo])
  rw [HL.out]
  have HFP : Hid (∀ l q, fp l q = pgL (lineL l nPage) q.1) := hid (fun l q => by rw [← hfp])
  have HFU : Hid (∀ l q, fu l q = tgsL (tgsL (lineL l nRule) [q.1.of]) q.1.push) := hid (fun l q => by rw [← hfu])
  have HFO : Hid (∀ l s, fo l s = textsL (lineL l nOrigin) [s]) := hid (fun l q => by rw [← hfo])
  have HL0 := hid hL0; have HL1 := hid hL1; have HL2 := hid hL2; have HL3 := hid hL3; have HL4 := hid hL4; have HL5 := hid hL5
  obtain ⟨c1, hc1⟩ : ∃ c, woA ⟨⟨a0, a1, a2, a3, a4, a5⟩, ⟨a6, a7, a8, a9, a10, a11⟩, a12, a13, a14, a15, wp, wu, wo⟩ ⟨pb, pn, pc⟩ ⟨ub, un, uc⟩ ⟨ob, on, oc⟩ = c := ⟨_, rfl⟩
  rw [hc1]
  obtain ⟨g1, hg1⟩ : ∃ g1, w.heap.size = g1 := ⟨_, rfl⟩
  obtain ⟨W1, hW1⟩ : ∃ V, w.alloc (.cells c1 45) = V := ⟨_, rfl⟩
  have hglt := h.lt
  have hn1 : g1 ≠ g := by omega
  have q1 : W1.heap[g1]? = some (.cells c1 45 (0, 0)) := by rw [← hW1, heap_al, if_pos hg1.symm]
  have b1 : Below w.heap.size w W1 := by rw [← hW1]; exact bel1 _ _
  have HJ1 : Hid (PJ g g1 c1 45 w l W1) := hid ⟨h.below b1, Fr.below b1 (Nat.le_of_lt hglt), q1⟩
  have y0 : c1[0]? = some (.int .i64 a0) := by rw [← hc1]; rfl
  have y1 : c1[1]? = some (.int .i64 a1) := by rw [← hc1]; rfl
  have y2 : c1[2]? = some (.int .i64 a2) := by rw [← hc1]; rfl
  have y3 : c1[3]? = some (.int .i64 a3) := by rw [← hc1]; rfl
  have y4 : c1[4]? = some (.int .i64 a4) := by rw [← hc1]; rfl
  have y5 : c1[5]? = some (.int .i64 a5) := by rw [← hc1]; rfl
  have y6 : c1[6]? = some (.int .i64 a6) := by rw [← hc1]; rfl
  have y7 : c1[7]? = some (.int .i64 a7) := by rw [← hc1]; rfl
  have y8 : c1[8]? = some (.int .i64 a8) := by rw [← hc1]; rfl
  have y9 : c1[9]? = some (.int .i64 a9) := by rw [← hc1]; rfl
  have y10 : c1[10]? = some (.int .i64 a10) := by rw [← hc1]; rfl
  have y11 : c1[11]? = some (.int .i64 a11) := by rw [← hc1]; rfl
  have y12 : c1[12]? = some (.int .i64 a12) := by rw [← hc1]; rfl
  have y13 : c1[13]? = some (.int .i64 a13) := by rw [← hc1]; rfl
  have y14 : c1[14]? = some (.int .i64 a14) := by rw [← hc1]; rfl
  have y15 : c1[15]? = some (.int .i64 a15) := by rw [← hc1]; rfl
  have y16 : c1[16]? = some (.slice pb pn pc) := by rw [← hc1]; rfl
  have y17 : c1[17]? = some (.slice ub un uc) := by rw [← hc1]; rfl
  have y18 : c1[18]? = some (.slice ob on oc) := by rw [← hc1]; rfl
  have HC1 : Hid (∀ l W, PJ g g1 c1 45 w l W → W.cell? ⟨g1, 0, none⟩ = some (.int .i64 a0) ∧ W.cell? ⟨g1, 1, none⟩ = some (.int .i64 a1) ∧ W.cell? ⟨g1, 2, none⟩ = some (.int .i64 a2) ∧ W.cell? ⟨g1, 3, none⟩ = some (.int .i64 a3) ∧ W.cell? ⟨g1, 4, none⟩ = some (.int .i64 a4) ∧ W.cell? ⟨g1, 5, none⟩ = some (.int .i64 a5) ∧ g1 < W.heap.size) := hid (fun l W h => ⟨(cell_blk h.blk 0).trans y0, (cell_blk h.blk 1).trans y1, (cell_blk h.blk 2).trans y2, (cell_blk h.blk 3).trans y3, (cell_blk h.blk 4).trans y4, (cell_blk h.blk 5).trans y5, heap_lt h.blk⟩)
  have HC2 : Hid (∀ l W, PJ g g1 c1 45 w l W → W.cell? ⟨g1, 6, none⟩ = some (.int .i64 a6) ∧ W.cell? ⟨g1, 7, none⟩ = some (.int .i64 a7) ∧ W.cell? ⟨g1, 8, none⟩ = some (.int .i64 a8) ∧ W.cell? ⟨g1, 9, none⟩ = some (.int .i64 a9) ∧ W.cell? ⟨g1, 10, none⟩ = some (.int .i64 a10) ∧ W.cell? ⟨g1, 11, none⟩ = some (.int .i64 a11) ∧ g1 < W.heap.size) := hid (fun l W h => ⟨(cell_blk h.blk 6).trans y6, (cell_blk h.blk 7).trans y7, (cell_blk h.blk 8).trans y8, (cell_blk h.blk 9).trans y9, (cell_blk h.blk 10).trans y10, (cell_blk h.blk 11).trans y11, heap_lt h.blk⟩)
  have HC3 : Hid (∀ l W, PJ g g1 c1 45 w l W → W.cell? ⟨g1, 12, none⟩ = some (.int .i64 a12) ∧ W.cell? ⟨g1, 13, none⟩ = some (.int .i64 a13) ∧ W.cell? ⟨g1, 14, none⟩ = some (.int .i64 a14) ∧ W.cell? ⟨g1, 15, none⟩ = some (.int .i64 a15) ∧ g1 < W.heap.size) := hid (fun l W h => ⟨(cell_blk h.blk 12).trans y12, (cell_blk h.blk 13).trans y13, (cell_blk h.blk 14).trans y14, (cell_blk h.blk 15).trans y15, heap_lt h.blk⟩)
  have HC4 : Hid (∀ l W, PJ g g1 c1 45 w l W → W.cell? ⟨g1, 16, none⟩ = some (.slice pb pn pc) ∧ g1 < W.heap.size) := hid (fun l W h => ⟨(cell_blk h.blk 16).trans y16, heap_lt h.blk⟩)
  have HC5 : Hid (∀ l W, PJ g g1 c1 45 w l W → W.cell? ⟨g1, 17, none⟩ = some (.slice ub un uc) ∧ g1 < W.heap.size) := hid (fun l W h => ⟨(cell_blk h.blk 17).trans y17, heap_lt h.blk⟩)
  have HC6 : Hid (∀ l W, PJ g g1 c1 45 w l W → W.cell? ⟨g1, 18, none⟩ = some (.slice ob on oc) ∧ g1 < W.heap.size) := hid (fun l W h => ⟨(cell_blk h.blk 18).trans y18, heap_lt h.blk⟩)
  have HE := hid hE
  have HW1 := hid hW1
  have HG1 := hid hg1
  have HI := hid hI
  have HLN := hid (line_any g)
  have HX1 := hid x1; have HX2 := hid x2
  have HX3 := hid (And.intro x3 (And.intro x4 (And.intro x5 x6)))
  clear hE h hI x1 x2 x3 x4 x5 x6 x7 s1 s2 s3 hc1 hg1 hW1 q1 b1 y0 y1 y2 y3 y4 y5 y6 y7 y8 y9 y10 y11 y12 y13 y14 y15 y16 y17 y18 h0 h63 hp hu hfp hfu hfo hL0 hL1 hL2 hL3 hL4 hL5
  go_enter Tryz.func71, Tryz.ntmps71
  go_upto_region 1 with fail
  try rw [HG1.out]
  try (erw [HW1.out])
  go_wp2_with fail
  go_at_call 70
  refine (HLN.out _ nServer _ HJ1.out.pb (by decide) (by decide)).mono ?_
  rintro e V1 ⟨rfl, k1, k2⟩
  rw [HL0.out] at k1
  have HJ2 := hid (HJ1.out.step hn1 (by decide) k1 k2)
  clear k1 k2 HJ1
  obtain ⟨d0, d1, d2, d3, d4, d5, dl⟩ := HC1.out _ _ HJ2.out
  go_wp2_with fail
  go_at_call 97
  refine (pset_any g _ ⟨a0, a1, a2, a3, a4, a5⟩ _ (HJ2.out.fr.env HE.out g8) g8 HJ2.out.pb HX1.out).mono ?_
  rintro e V2 ⟨rfl, k1, k2⟩
  rw [HL1.out] at k1
  have HJ3 := hid (HJ2.out.step hn1 (by decide) k1 k2)
  clear k1 k2 HJ2
  clear d0 d1 d2 d3 d4 d5 dl
  go_wp2_with fail
  go_at_call 70
  refine (HLN.out _ nClient _ HJ3.out.pb (by decide) (by decide)).mono ?_
  rintro e V3 ⟨rfl, k1, k2⟩
  rw [HL2.out] at k1
  have HJ4 := hid (HJ3.out.step hn1 (by decide) k1 k2)
  clear k1 k2 HJ3
  obtain ⟨d6, d7, d8, d9, d10, d11, dl⟩ := HC2.out _ _ HJ4.out
  go_wp2_with fail
  go_at_call 97
  refine (pset_any g _ ⟨a6, a7, a8, a9, a10, a11⟩ _ (HJ4.out.fr.env HE.out g8) g8 HJ4.out.pb HX2.out).mono ?_
  rintro e V4 ⟨rfl, k1, k2⟩
  rw [HL3.out] at k1
  have HJ5 := hid (HJ4.out.step hn1 (by decide) k1 k2)
  clear k1 k2 HJ4
  clear d6 d7 d8 d9 d10 d11 dl
  go_wp2_with fail
  go_at_call 70
  refine (HLN.out _ nConf _ HJ5.out.pb (by decide) (by decide)).mono ?_
  rintro e V5 ⟨rfl, k1, k2⟩
  rw [HL4.out] at k1
  have HJ6 := hid (HJ5.out.step hn1 (by decide) k1 k2)
  clear k1 k2 HJ5
  obtain ⟨d12, d13, d14, d15, dl⟩ := HC3.out _ _ HJ6.out
  go_wp2_with fail
  go_at_call 72
  refine (numN [a12, a13, a14, a15] (HJ6.out.fr.env HE.out g8) g8 HJ6.out.pb (by
    intro s hs
    simp at hs
    have := HX3.out
    rcases hs with rfl | rfl | rfl | rfl
    · exact this.1
    · exact this.2.1
    · exact this.2.2.1
    · exact this.2.2.2) (by simp) _ rfl rfl 4 rfl).mono ?_
  rintro e V6 ⟨rfl, k1, k2⟩
  rw [HL5.out] at k1
  have HJ7 := hid (HJ6.out.step hn1 (by decide) k1 k2)
  clear k1 k2 HJ6
  clear d12 d13 d14 d15 dl
  obtain ⟨d16, dl⟩ := HC4.out _ _ HJ7.out
  go_wp2_with fail
  clear d16 dl
  go_loopw [5, 42] (fun _ iv wr => ∃ k : Nat, iv = .int .i64 (k : Int) ∧ k ≤ pn ∧ Hid (PJ g g1 c1 45 w ((ps.take k).foldl fp L5) wr)) (fun _ iv _ => pn - (intOf iv).toNat)
  case atStart => exact ⟨0, rfl, Nat.zero_le _, HJ7⟩
  case round =>
    obtain ⟨k1, rfl, hk1, HL1x⟩ := hrel
    clear HJ7
    by_cases hlt : k1 < pn
    · have hltI : (k1 : Int) < (pn : Int) := by omega
      have hkl : k1 < ps.length := by have := HNN.out.1; omega
      obtain ⟨B, off, rfl, hB, hcl⟩ := (HI.out wr HL1x.out.fr).1.atF okPg k1 hkl
      obtain ⟨⟨p, s⟩, hx⟩ : ∃ x, ps[k1]'hkl = x := ⟨_, rfl⟩
      have hmem : (p, s) ∈ ps := by rw [← hx]; exact List.getElem_mem _
      have HXM := hid (HPO.out (p, s) hmem)
      have HXI : Hid (∀ U, Fr g w U → In ECh U s.v p.ch) := hid (fun U hU => (HI.out U hU).2.1 (p, s) hmem)
      have HXL : Hid ((ps.take (k1 + 1)).foldl fp L5 = pgL (lineL ((ps.take k1).foldl fp L5) nPage) p) := hid (by
        rw [List.take_add_one, List.getElem?_eq_getElem hkl, hx, List.foldl_append]
        show fp _ _ = _
        rw [HFP.out])
      rw [hx] at hcl
      obtain ⟨sb, sn, sc⟩ := s
      have u0 := hcl 0 (.string p.a) rfl
      have u1 := hcl 1 (.string p.p) rfl
      have u2 := hcl 2 (.int .i64 p.st) rfl
      have u3 := hcl 3 (.string p.vr) rfl
      have u4 := hcl 4 (.slice sb sn sc) rfl
      simp only [show EPg.sz = 5 from rfl, Nat.add_zero] at u0 u1 u2 u3 u4
      obtain ⟨X0, hX0⟩ : ∃ X0, wr.alloc (.cells #[.string p.a, .string p.p, .int .i64 p.st, .string p.vr, .slice sb sn sc] 34) = X0 := ⟨_, rfl⟩
      obtain ⟨g2, hg2⟩ : ∃ g2, wr.heap.size = g2 := ⟨_, rfl⟩
      have bx : Below wr.heap.size wr X0 := by rw [← hX0]; exact bel1 _ _
      have qx : X0.heap[g2]? = some (.cells (pgA p ⟨sb, sn, sc⟩) 34 (0, 0)) := by rw [← hX0, heap_al, if_pos hg2.symm]; rfl
      have hg2n : g2 ≠ g := by have := HL1x.out.pb.lt; omega
      have HX0 := hid hX0
      have HG2 := hid hg2
      have HJx := hid (HL1x.out.below bx)
      have HQX := hid qx
      clear hcl hx hmem hX0 bx qx hkl hg2
      go_upto_region 10 with fail
      try rw [HG2.out]
      erw [HX0.out]
      clear u0 u1 u2 u3 u4
      go_wp2_with fail
      go_at_call 70
      refine (HLN.out _ nPage _ HJx.out.pb (by decide) (by decide)).mono ?_
      rintro e V ⟨rfl, j1, j2⟩
      have HJy := hid (HJx.out.step hn1 (by decide) j1 j2)
      have qy := j2.kb _ _ _ hg2n HQX.out (by decide)
      have t0 := cell_blk qy 0
      have t1 := cell_blk qy 1
      have t2 := cell_blk qy 2
      have t3 := cell_blk qy 3
      have t4 := cell_blk qy 4
      rw [show (pgA p ⟨sb, sn, sc⟩)[0]? = some (.string p.a) from rfl] at t0
      rw [show (pgA p ⟨sb, sn, sc⟩)[1]? = some (.string p.p) from rfl] at t1
      rw [show (pgA p ⟨sb, sn, sc⟩)[2]? = some (.int .i64 p.st) from rfl] at t2
      rw [show (pgA p ⟨sb, sn, sc⟩)[3]? = some (.string p.vr) from rfl] at t3
      rw [show (pgA p ⟨sb, sn, sc⟩)[4]? = some (.slice sb sn sc) from rfl] at t4
      have tl := heap_lt qy
      clear j1 j2 qy
      go_wp2_with fail
      go_at_call 96
      refine (ppage_any g _ p ⟨sb, sn, sc⟩ _ (HJy.out.fr.env HE.out g8) g8 HJy.out.pb HXM.out.1 HXM.out.2 (fun U hU => HXI.out U (HJy.out.fr.trans hU))).mono ?_
      rintro e V2 ⟨rfl, j1, j2⟩
      rw [← HXL.out] at j1
      have HJn := hid (HJy.out.step hn1 (by decide) j1 j2)
      clear j1 j2 t0 t1 t2 t3 t4 tl
      go_wp2_with fail
      go_roundw
      case rel => exact ⟨k1 + 1, rfl, by omega, HJn⟩
      case measure => show pn - ((k1 : Int) + 1).toNat < pn - ((k1 : Nat) : Int).toNat; omega
    · have hnl : ¬ (k1 : Int) < (pn : Int) := by omega
      have HF1 : Hid (PJ g g1 c1 45 w (ps.foldl fp L5) wr) := hid (by
        have := HL1x.out
        rw [List.take_of_length_le (by have := HNN.out.1; omega)] at this
        exact this)
      clear HL1x
      obtain ⟨d17, dl⟩ := HC5.out _ _ HF1.out
      go_wp2_with fail
      clear d17 dl
      go_loopw [7, 55] (fun _ iv wr => ∃ k : Nat, iv = .int .i64 (k : Int) ∧ k ≤ un ∧ Hid (PJ g g1 c1 45 w ((us.take k).foldl fu (ps.foldl fp L5)) wr)) (fun _ iv _ => un - (intOf iv).toNat)
      case atStart => exact ⟨0, rfl, Nat.zero_le _, HF1⟩
      case round =>
        obtain ⟨k2, rfl, hk2, HL2x⟩ := hrel
        clear HF1
        by_cases hlt2 : k2 < un
        · have hltI : (k2 : Int) < (un : Int) := by omega
          have hkl : k2 < us.length := by have := HNN.out.2.1; omega
          obtain ⟨B, off, rfl, hB, hcl⟩ := (HI.out wr HL2x.out.fr).2.2.1.atF okRu k2 hkl
          obtain ⟨⟨⟨⟨ta, tp⟩, push⟩, s⟩, hx⟩ : ∃ x, us[k2]'hkl = x := ⟨_, rfl⟩
          have hmem : ((⟨⟨ta, tp⟩, push⟩ : Ru), s) ∈ us := by rw [← hx]; exact List.getElem_mem _
          have HXM := hid (HUO.out _ hmem)
          have HXI : Hid (∀ U, Fr g w U → In ETg U s.v push) := hid (fun U hU => (HI.out U hU).2.2.2.1 _ hmem)
          have HXL : Hid ((us.take (k2 + 1)).foldl fu (ps.foldl fp L5) = tgsL (tgsL (lineL ((us.take k2).foldl fu (ps.foldl fp L5)) nRule) [⟨ta, tp⟩]) push) := hid (by
            rw [List.take_add_one, List.getElem?_eq_getElem hkl, hx, List.foldl_append]
            show fu _ _ = _
            rw [HFU.out])
          rw [hx] at hcl
          obtain ⟨sb, sn, sc⟩ := s
          have u0 := hcl 0 (.string ta) rfl
          have u1 := hcl 1 (.string tp) rfl
          have u2 := hcl 2 (.slice sb sn sc) rfl
          simp only [show ERu.sz = 3 from rfl, Nat.add_zero] at u0 u1 u2
          obtain ⟨X0, hX0⟩ : ∃ X0, wr.alloc (.cells #[.string ta, .string tp, .slice sb sn sc] 64) = X0 := ⟨_, rfl⟩
          obtain ⟨g2, hg2⟩ : ∃ g2, wr.heap.size = g2 := ⟨_, rfl⟩
          have bx : Below wr.heap.size wr X0 := by rw [← hX0]; exact bel1 _ _
          have qx : X0.heap[g2]? = some (.cells #[.string ta, .string tp, .slice sb sn sc] 64 (0, 0)) := by rw [← hX0, heap_al, if_pos hg2.symm]
          have hg2n : g2 ≠ g := by have := HL2x.out.pb.lt; omega
          have HX0 := hid hX0
          have HG2 := hid hg2
          have HJx := hid (HL2x.out.below bx)
          have HQX := hid qx
          clear hcl hx hmem hX0 bx qx hkl hg2
          go_upto_region 16 with fail
          try rw [HG2.out]
          erw [HX0.out]
          clear u0 u1 u2
          go_wp2_with fail
          go_at_call 70
          refine (HLN.out _ nRule _ HJx.out.pb (by decide) (by decide)).mono ?_
          rintro e V ⟨rfl, j1, j2⟩
          have HJy := hid (HJx.out.step hn1 (by decide) j1 j2)
          have qy := j2.kb _ _ _ hg2n HQX.out (by decide)
          have HQY := hid qy
          have t0 := cell_blk qy 0
          have t1 := cell_blk qy 1
          rw [show (#[Value.string ta, Value.string tp, Value.slice sb sn sc])[0]? = some (.string ta) from rfl] at t0
          rw [show (#[Value.string ta, Value.string tp, Value.slice sb sn sc])[1]? = some (.string tp) from rfl] at t1
          have tl := heap_lt qy
          obtain ⟨Z0, hZ0⟩ : ∃ Z0, V.alloc (.cells #[.string ta, .string tp] 61) = Z0 := ⟨_, rfl⟩
          obtain ⟨g3, hg3⟩ : ∃ g3, V.heap.size = g3 := ⟨_, rfl⟩
          have bz : Below V.heap.size V Z0 := by rw [← hZ0]; exact bel1 _ _
          have qz : Z0.heap[g3]? = some (.cells #[.string ta, .string tp] 61 (0, 0)) := by rw [← hZ0, heap_al, if_pos hg3.symm]
          have hg3n : g3 ≠ g := by have := HJy.out.pb.lt; omega
          have HJz := hid (HJy.out.below bz)
          have HQZ := hid qz
          have HQ2 := hid ((bz.block _ (heap_lt HQY.out)).trans HQY.out)
          have HZ0 := hid hZ0
          have HG3 := hid hg3
          clear j1 j2 qy qz bz hZ0 hg3 HQY HQX
          go_wp2_with fail
          try rw [HG3.out]
          try (erw [HZ0.out])
          go_at_call 99
          refine (ptargets_any g _ [⟨ta, tp⟩] (some ⟨g3, 0, none⟩) 1 1 Z0 HJz.out.pb (by intro f hf; rw [List.mem_singleton] at hf; subst hf; exact HXM.out.1) (fun U hU => in_one (E := ETg) U g3 ⟨ta, tp⟩ #[.string ta, .string tp] 61 (0, 0) (hU.kb _ _ _ hg3n HQZ.out (by decide)) rfl)).mono ?_
          rintro e V2 ⟨rfl, j1, j2⟩
          have HJw := hid (HJz.out.step hn1 (by decide) j1 j2)
          have qw := j2.kb _ _ _ hg2n HQ2.out (by decide)
          have t2 := cell_blk qw 2
          rw [show (#[Value.string ta, Value.string tp, Value.slice sb sn sc])[2]? = some (.slice sb sn sc) from rfl] at t2
          have tl2 := heap_lt qw
          clear j1 j2 qw t0 t1 tl
          go_wp2_with fail
          go_at_call 99
          refine (ptargets_any g _ push sb sn sc _ HJw.out.pb HXM.out.2 (fun U hU => HXI.out U (HJw.out.fr.trans hU))).mono ?_
          rintro e V3 ⟨rfl, j1, j2⟩
          rw [← HXL.out] at j1
          have HJn := hid (HJw.out.step hn1 (by decide) j1 j2)
          clear j1 j2 t2 tl2
          go_wp2_with fail
          go_roundw
          case rel => exact ⟨k2 + 1, rfl, by omega, HJn⟩
          case measure => show un - ((k2 : Int) + 1).toNat < un - ((k2 : Nat) : Int).toNat; omega
        · have hnl : ¬ (k2 : Int) < (un : Int) := by omega
          have HF2 : Hid (PJ g g1 c1 45 w (us.foldl fu (ps.foldl fp L5)) wr) := hid (by
            have := HL2x.out
            rw [List.take_of_length_le (by have := HNN.out.2.1; omega)] at this
            exact this)
          clear HL2x
          obtain ⟨d18, dl⟩ := HC6.out _ _ HF2.out
          go_wp2_with fail
          clear d18 dl
          go_loopw [9, 74] (fun _ iv wr => ∃ k : Nat, iv = .int .i64 (k : Int) ∧ k ≤ on ∧ Hid (PJ g g1 c1 45 w ((wo.take k).foldl fo (us.foldl fu (ps.foldl fp L5))) wr)) (fun _ iv _ => on - (intOf iv).toNat)
          case atStart => exact ⟨0, rfl, Nat.zero_le _, HF2⟩
          case round =>
            obtain ⟨k3, rfl, hk3, HL3x⟩ := hrel
            clear HF2
            by_cases hlt3 : k3 < on
            · have hltI : (k3 : Int) < (on : Int) := by omega
              have hkl : k3 < wo.length := by have := HNN.out.2.2; omega
              obtain ⟨B, off, rfl, hB, hcl⟩ := (HI.out wr HL3x.out.fr).2.2.2.2.atF okOg k3 hkl
              obtain ⟨s, hx⟩ : ∃ x, wo[k3]'hkl = x := ⟨_, rfl⟩
              have HXM := hid (HOO.out s (by rw [← hx]; exact List.getElem_mem _))
              have HXL : Hid ((wo.take (k3 + 1)).foldl fo (us.foldl fu (ps.foldl fp L5)) = textsL (lineL ((wo.take k3).foldl fo (us.foldl fu (ps.foldl fp L5))) nOrigin) [s]) := hid (by
                rw [List.take_add_one, List.getElem?_eq_getElem hkl, hx, List.foldl_append]
                show fo _ _ = _
                rw [HFO.out])
              rw [hx] at hcl
              have u0 := hcl 0 (.string s) rfl
              simp only [show EOg.sz = 1 from rfl, Nat.add_zero, Nat.mul_one] at u0
              clear hcl hx hkl
              go_wp2_with fail
              clear u0
              go_at_call 70
              refine (HLN.out _ nOrigin _ HL3x.out.pb (by decide) (by decide)).mono ?_
              rintro e V ⟨rfl, j1, j2⟩
              have HJy := hid (HL3x.out.step hn1 (by decide) j1 j2)
              clear j1 j2
              go_wp2_with fail
              go_at_call 98
              refine (txtN [s] HJy.out.pb (by intro f hf; rw [List.mem_singleton] at hf; subst hf; exact HXM.out) (by simp) _ rfl rfl 1 rfl).mono ?_
              rintro e V2 ⟨rfl, j1, j2⟩
              rw [← HXL.out] at j1
              have HJn := hid (HJy.out.step hn1 (by decide) j1 j2)
              clear j1 j2
              go_wp2_with fail
              go_roundw
              case rel => exact ⟨k3 + 1, rfl, by omega, HJn⟩
              case measure => show on - ((k3 : Int) + 1).toNat < on - ((k3 : Nat) : Int).toNat; omega
            · have hnl : ¬ (k3 : Int) < (on : Int) := by omega
              have HF3 : Hid (PJ g g1 c1 45 w (wo.foldl fo (us.foldl fu (ps.foldl fp L5))) wr) := hid (by
                have := HL3x.out
                rw [List.take_of_length_le (by have := HNN.out.2.2; omega)] at this
                exact this)
              clear HL3x
              go_wp2_with fail
              go_at_call 70
              refine (HLN.out _ nEnd _ HF3.out.pb (by decide) (by decide)).mono ?_
              rintro e V ⟨rfl, j1, j2⟩
              have HJy := hid (HF3.out.step hn1 (by decide) j1 j2)
              clear j1 j2
              go_wp2_with fail
              go_end0
              exact ⟨rfl, HJy.out.pb, HJy.out.fr⟩
end Go.Proofs.YtghppkfopglgaaaGreatDoor
namespace Go.Proofs.YtghppkfopglgaaaGreatDoor
open Go.RowKit
set_option linter.unusedVariables false
set_option linter.unusedSimpArgs false
def TxRq (q : Rq) : Prop := q.m.size ≤ 140737488355328 ∧ q.s.size ≤ 140737488355328 ∧ q.a.size ≤ 140737488355328 ∧ q.p.size ≤ 140737488355328 ∧ q.b.size ≤ 140737488355328 ∧ ∀ f ∈ q.fs, f.n.size ≤ 140737488355328 ∧ f.v.size ≤ 140737488355328
def TxC (c : Cm) : Prop := TxWo c.w ∧ TxPg c.m.pg ∧ TxRq c.m.rq ∧ c.m.by'.size ≤ 140737488355328
theorem prOk {g : Nat} {c : Cm} {s : CmS} {w0 w : World} (hE : Env w0) (hg : w0.heap.size ≤ g) (hb : Below w0.heap.size w0 w) (hR : CmRd w0 (c, s)) (hC : CmOk c) (hT : TxC c) : PrOk g c s w := by
  have h8 : 8 ≤ g := Nat.le_trans hE.sz hg
  have hB : ∀ V U, Fr g w V → Fr g V U → Below w0.heap.size w0 U := fun V U h k => hb.trans ((h.trans k).bel.mono hg)
  have hEV : ∀ V, Fr g w V → Env V := fun V h => hE.below (hb.trans (h.bel.mono hg))
  obtain ⟨hw, hf, hc⟩ := hR
  obtain ⟨⟨ps, p1, p2, p3⟩, ⟨us, u1, u2, u3⟩, og⟩ := hw
  obtain ⟨t1, t2, t3, t4⟩ := hT
  refine ⟨fun _ _ l V hp hf2 => ?_, fun _ _ l V hp hf2 => ?_, fun _ l V hp hf2 => ?_⟩
  · exact prequest_any g l c.m.rq s.sf V hp t3 (fun U hU => hf.below (hB V U hf2 hU))
  · exact ppage_any g l c.m.pg s.sc V (hEV V hf2) h8 hp hC.2.1.2.1 t2 (fun U hU => hc.below (hB V U hf2 hU))
  · exact pworld_any g l c.w s.sp s.su s.so V (hEV V hf2) h8 hp hC.1 t1 ps us p1 u1 (fun U hU => ⟨p2.below (hB V U hf2 hU), fun q hq => (p3 q hq).below (hB V U hf2 hU), u2.below (hB V U hf2 hU), fun q hq => (u3 q hq).below (hB V U hf2 hU), og.below (hB V U hf2 hU)⟩)
theorem print_w (v : Value) (cs : List (Cm × CmS)) (w : World) (hE : Env w) (h : InC w v cs) (hlen : cs.length ≤ 4611686018427387904) (hC : ∀ x ∈ cs, CmOk x.1 ∧ TxC x.1) (hR : ∀ x ∈ cs, CmRd w x) :
    Calls Tryz.prog 12 #[v] w fun e w' => e = .returned (.tuple #[.string (bt (printL (cs.map (·.1))).1), .int .i64 (printL (cs.map (·.1))).2]) ∧ Below w.heap.size w w' :=
  Print_any v cs w hE h hlen (fun x hx => ⟨(hC x hx).1, (hC x hx).2.2.2.2⟩) (fun x hx V V' hV hV' => prOk hE hV.size (hV.trans (hV'.mono hV.size)) (hR x hx) (hC x hx).1 (hC x hx).2)
end Go.Proofs.YtghppkfopglgaaaGreatDoor
