/- Bytes, drop, dropOldest. -/
import Derived.Test.YtfponcdhaefkdaaDoorC3
namespace Go.Proofs.YtfponcdhaefkdaaDoor
open Go.RowKit
set_option linter.unusedVariables false
set_option linter.unusedSimpArgs false
/-- the thirteen cells of an entry -/
def Cells13 (W : World) (B o : Nat) (e : En) : Prop := W.cell? ⟨B, o, none⟩ = some (.string e.q.m) ∧ W.cell? ⟨B, o + 1, none⟩ = some (.string e.q.s) ∧ W.cell? ⟨B, o + 2, none⟩ = some (.string e.q.a) ∧ W.cell? ⟨B, o + 3, none⟩ = some (.string e.q.p) ∧ W.cell? ⟨B, o + 4, none⟩ = some (sv e.q.y) ∧ W.cell? ⟨B, o + 5, none⟩ = some (.string e.q.b) ∧ W.cell? ⟨B, o + 6, none⟩ = some (sv e.ns) ∧ W.cell? ⟨B, o + 7, none⟩ = some (.int .i64 e.rn) ∧ W.cell? ⟨B, o + 8, none⟩ = some (sv e.ry) ∧ W.cell? ⟨B, o + 9, none⟩ = some (.string e.rb) ∧ W.cell? ⟨B, o + 10, none⟩ = some (.int .i64 (e.sz : Int)) ∧ W.cell? ⟨B, o + 11, none⟩ = some (.int .i64 e.st) ∧ W.cell? ⟨B, o + 12, none⟩ = some (.int .i64 e.ar)
theorem In.en {w : World} {v : Value} {l : List En} (h : In EE w v l) (k : Nat) (hk : k < l.length) : ∃ B off cap, v = .slice (some ⟨B, off, none⟩) l.length cap ∧ ∀ W, Below w.heap.size w W → Cells13 W B (off + k * 13) l[k] := by
  obtain ⟨B, off, cap, e, hB, d⟩ := h.get okE k hk
  exact ⟨B, off, cap, e, fun W hb => ⟨(hb.cell hB).trans (d 0 _ rfl), (hb.cell hB).trans (d 1 _ rfl), (hb.cell hB).trans (d 2 _ rfl), (hb.cell hB).trans (d 3 _ rfl), (hb.cell hB).trans (d 4 _ rfl), (hb.cell hB).trans (d 5 _ rfl), (hb.cell hB).trans (d 6 _ rfl), (hb.cell hB).trans (d 7 _ rfl), (hb.cell hB).trans (d 8 _ rfl), (hb.cell hB).trans (d 9 _ rfl), (hb.cell hB).trans (d 10 _ rfl), (hb.cell hB).trans (d 11 _ rfl), (hb.cell hB).trans (d 12 _ rfl)⟩⟩
set_option maxHeartbeats 4000000 in
set_option maxRecDepth 100000 in
theorem bytes_any (w : World) (g : Nat) (c : Ca) (y : SV) (L : List En) (h : Cx w g c y L) : Calls Tryd.prog 22 #[.pointer (some ⟨g, 0, none⟩)] w fun e w' => e = .returned (.int .i64 (totL L : Int)) ∧ Below w.heap.size w w' := by
  have HI : Hid (In EE w (sv y) L) := h.row.isIn
  have HZ : Hid (totL L ≤ 4611686018427387904) := by have := h.ok.tot; have := h.ok.mb; show _ ≤ _; omega
  obtain ⟨c0, c1, c2, c3, c4, cf⟩ := h.cells
  have hl := heap_lt h.blk
  obtain ⟨b, cc, e, m1, m2⟩ := h.row.slice
  rw [e] at c4
  obtain ⟨sb, sl, sc⟩ := y
  simp only [sv] at e HI
  injection e with e1 e2 e3
  subst e1 e2 e3
  obtain ⟨N, hN⟩ : ∃ N, L.length = N := ⟨_, rfl⟩
  rw [hN] at HI m1 c4
  have HN : Hid (L.length = N) := hN
  clear h hN c0 c1 c2 c3 cf
  go_enter Tryd.func22, Tryd.ntmps22
  go_wp2_with fail
  clear c4
  go_loopw [3, 5, 11] (fun tv _ kv wr => ∃ k t : Nat, kv = .int .i64 (k : Int) ∧ k ≤ N ∧ tv = .int .i64 (t : Int) ∧ Hid (t = totL (L.take k)) ∧ Hid (Below w.heap.size w wr)) (fun _ _ kv _ => N - (intOf kv).toNat)
  case atStart => exact ⟨0, 0, rfl, by omega, rfl, by show _ = _; simp [totL], Below.refl _ _⟩
  case round =>
    obtain ⟨k, t, rfl, hk, rfl, ht, hb⟩ := hrel
    by_cases hlt : k < N
    · obtain ⟨Bk, off, cap, e, hc⟩ := HI.out.en k (by rw [HN.out]; exact hlt)
      injection e with e1 e2 e3
      clear e2 e3
      subst e1
      obtain ⟨d0, d1, d2, d3, d4, d5, d6, d7, d8, d9, d10, d11, d12⟩ := hc wr hb.out
      obtain ⟨x, hx⟩ : ∃ x, L[k]'(by rw [HN.out]; exact hlt) = x := ⟨_, rfl⟩
      rw [hx] at d0 d1 d2 d3 d4 d5 d6 d7 d8 d9 d10 d11 d12
      have l1 : (k : Int) < (N : Int) := by omega
      obtain ⟨z, hz⟩ : ∃ z : Nat, t + x.sz = z := ⟨_, rfl⟩
      have HT : Hid (z = totL (L.take (k + 1)) ∧ z ≤ 4611686018427387904) := by
        have h1 := totL_take (L := L) (k := k) (by rw [HN.out]; exact hlt)
        rw [hx] at h1
        have h2 := ht.out
        have h3 := totL_le L (k + 1)
        have h4 := HZ.out
        exact ⟨by omega, by omega⟩
      have q1 : (t : Int) + (x.sz : Int) = (z : Int) := by omega
      have q2 : z ≤ 4611686018427387904 := HT.out.2
      have HB2 : Hid (Below w.heap.size w (wr.alloc (.cells (env x) 87))) := hb.out.trans ((bel1 _ _).mono hb.out.size)
      clear hc hx hz
      obtain ⟨⟨qm, qs, qa, qp, ⟨qb1, qb2, qb3⟩, qb⟩, ⟨n1, n2, n3⟩, rn, ⟨r1, r2, r3⟩, rb, sz, st, ar, fq, nm, fr⟩ := x
      simp only [sv, env] at d0 d1 d2 d3 d4 d5 d6 d7 d8 d9 d10 d11 d12 HB2 q1
      go_wp2_with fail
      go_roundw
      case rel => exact ⟨k + 1, z, by simp, by omega, by first | rfl | simp, HT.out.1, HB2.out⟩
      case measure => simp [intOf]; omega
    · have l1 : ¬ (k : Int) < (N : Int) := by omega
      have HE : Hid (t = totL L ∧ Below w.heap.size w wr) := ⟨by rw [ht.out, List.take_of_length_le (by rw [HN.out]; omega)], hb.out⟩
      clear ht hb
      go_wp2_with fail
      go_ret
      refine ⟨?_, HE.out.2⟩
      rw [← HE.out.1]
      rfl
/-- what is left when one goes -/
theorem Cok.erase {c : Ca} {L : List En} (h : Cok c L) (i : Nat) (hi : i < L.length) : Cok c (L.eraseIdx i) := by
  have hs := List.eraseIdx_sublist L i
  refine ⟨h.me, h.mb, h.lf, h.ck, ?_, ?_, fun e he => h.ar e (hs.subset he), fun e he => h.fq e (hs.subset he), h.up.sublist hs⟩
  · have := h.len; have := hs.length_le; omega
  · have := h.tot; have := totL_erase hi; omega
theorem Cx.erase {w w2 : World} {g : Nat} {c : Ca} {y z : SV} {L : List En} (h : Cx w g c y L) (i : Nat) (hi : i < L.length) (hR : R EE w2 (sv z) (L.eraseIdx i)) (ho : (sv z).ownBlock = (sv y).ownBlock) (hk : Ks (fun k => (sv y).ownBlock = some k) w w2) : Cx (w2.setCell ⟨g, 4, none⟩ (sv z)) g c z (L.eraseIdx i) ∧ Ks (Ow g y) w (w2.setCell ⟨g, 4, none⟩ (sv z)) := by
  have hs := List.eraseIdx_sublist L i
  have hg2 : w2.heap[g]? = some (.cells (cav c y) 83 (0, 0)) := (hk.block g (heap_lt h.blk) h.gy).trans h.blk
  have hK : Ks (Ow g y) w (w2.setCell ⟨g, 4, none⟩ (sv z)) := hk.trans (Ks.setCell (fun k => k = g) w2 g 4 (sv z) rfl) (fun i _ hi => .inr hi) (fun i _ hi => .inl hi)
  refine ⟨⟨?_, hR.stays fun k hk' _ => setCell_other _ _ _ _ _ (fun e => h.gy (by rw [← ho, ← e]; exact hk')), fun e he => (h.er e (hs.subset he)).keep fun k hk' hl => hK.block k hl (h.off (h.er e (hs.subset he)) hk'), h.ap.sublist hs, h.ok.erase i hi⟩, hK⟩
  rw [setCell_block _ _ _ _ _ _ _ hg2]
  rfl
set_option maxHeartbeats 4000000 in
set_option maxRecDepth 100000 in
theorem drop_any (w : World) (g : Nat) (c : Ca) (y : SV) (L : List En) (h : Cx w g c y L) (i : Nat) (hi : i < L.length) :
    Calls Tryd.prog 41 #[.pointer (some ⟨g, 0, none⟩), .int .i64 (i : Int)] w fun e w' => e = .returned (.tuple #[]) ∧ ∃ z : SV, Cx w' g c z (L.eraseIdx i) ∧ (sv z).ownBlock = (sv y).ownBlock ∧ Ks (Ow g y) w w' := by
  have HX : Hid (Cx w g c y L) := h
  have hD : Hid (Calls Tryd.prog 71 #[sv y, .int .i64 (i : Int), .int .i64 ((i : Int) + 1)] w fun e w' => ∃ z : SV, e = .returned (sv z) ∧ R EE w' (sv z) (L.eraseIdx i) ∧ (sv z).ownBlock = (sv y).ownBlock ∧ Ks (fun k => (sv y).ownBlock = some k) w w') := delete_any w y L i hi h.row
  have hi64 : i ≤ 64 := by have := h.ok.len; have := h.ok.me; omega
  obtain ⟨c0, c1, c2, c3, c4, cf⟩ := h.cells
  have hl := heap_lt h.blk
  obtain ⟨yb, yl, yc⟩ := y
  simp only [sv] at c4 hD
  clear h c0 c1 c2 c3 cf
  go_enter Tryd.func41, Tryd.ntmps41
  go_wp2_with fail
  go_at_call 71
  refine hD.out.mono ?_
  rintro e w2 ⟨⟨zb, zl, zc⟩, rfl, hR, ho, hk⟩
  have HE := HX.out.erase i hi (z := (zb, zl, zc)) hR ho hk
  have hg2 : w2.heap[g]? = some (.cells (cav c (yb, yl, yc)) 83 (0, 0)) := (hk.block g (heap_lt HX.out.blk) HX.out.gy).trans HX.out.blk
  have c4' := cell_blk hg2 4
  have f4 := frozen_blk hg2 4
  have hl2 := heap_lt hg2
  simp only [cav, List.getElem?_toArray, List.getElem?_cons_succ, List.getElem?_cons_zero, sv] at c4'
  have HO : Hid ((sv (zb, zl, zc)).ownBlock = (sv (yb, yl, yc)).ownBlock) := ho
  replace HE : Hid _ := HE
  simp only [sv] at HE ⊢
  clear hR ho hk hg2 hD HX c4 hl
  go_wp2_with fail
  go_end0
  exact ⟨rfl, (zb, zl, zc), HE.out.1, HO.out, HE.out.2⟩
set_option maxHeartbeats 4000000 in
set_option maxRecDepth 100000 in
theorem dropOldest_any (w : World) (g : Nat) (c : Ca) (y : SV) (x : En) (L : List En) (h : Cx w g c y (x :: L)) :
    Calls Tryd.prog 36 #[.pointer (some ⟨g, 0, none⟩)] w fun e w' => e = .returned (.int .i64 x.st) ∧ ∃ z : SV, Cx w' g c z L ∧ (sv z).ownBlock = (sv y).ownBlock ∧ Ks (Ow g y) w w' := by
  have hD : Hid (Calls Tryd.prog 41 #[.pointer (some ⟨g, 0, none⟩), .int .i64 0] w fun e w' => e = .returned (.tuple #[]) ∧ ∃ z : SV, Cx w' g c z L ∧ (sv z).ownBlock = (sv y).ownBlock ∧ Ks (Ow g y) w w') := drop_any w g c y (x :: L) h 0 (by simp)
  obtain ⟨c0, c1, c2, c3, c4, cf⟩ := h.cells
  have hl := heap_lt h.blk
  obtain ⟨Bk, off, cap, e, hc⟩ := h.row.isIn.en 0 (by simp)
  obtain ⟨d0, d1, d2, d3, d4, d5, d6, d7, d8, d9, d10, d11, d12⟩ := hc w (Below.refl _ _)
  rw [e] at c4
  simp only [List.getElem_cons_zero, Nat.zero_mul, Nat.add_zero] at d11
  obtain ⟨n, hn⟩ : ∃ n, (x :: L).length = n := ⟨_, rfl⟩
  have hn1 : 0 < n := by rw [← hn]; simp
  have hn2 : (0 : Int) < (n : Int) := by omega
  rw [hn] at c4
  clear h hc e d0 d1 d2 d3 d4 d5 d6 d7 d8 d9 d10 d12 c0 c1 c2 c3 cf hn
  go_enter Tryd.func36, Tryd.ntmps36
  go_wp2_with fail
  go_at_call 41
  refine hD.out.mono ?_
  rintro e w2 ⟨rfl, z, h1, h2, h3⟩
  have HE : Hid (Cx w2 g c z L ∧ (sv z).ownBlock = (sv y).ownBlock ∧ Ks (Ow g y) w w2) := ⟨h1, h2, h3⟩
  clear h1 h2 h3 hD
  go_wp2_with fail
  go_ret
  exact ⟨rfl, z, HE.out⟩
end Go.Proofs.YtfponcdhaefkdaaDoor
