/- The document's cache in memory; its Size, New, expired, Len, Bytes. -/
import Derived.Test.YtfponcdhaefkdaaDoorVg
namespace Go.Proofs.YtfponcdhaefkdaaDoor
open Go.RowKit
set_option linter.unusedVariables false
set_option linter.unusedSimpArgs false
/-- an entry of the document's cache: its cells -/
def kev (k : Kn) : Array Value := #[.string k.q.m, .string k.q.s, .string k.q.a, .string k.q.p, sv k.q.y, .string k.q.b, .int .i64 k.rn, sv k.ry, .string k.rb, .int .i64 k.st, .int .i64 k.ar]
def EV : El Kn := ⟨98, 119, 11, 168, fun k => (kev k).toList⟩
theorem okV : EV.Ok := ⟨Tryd.underlying98, by kernel_rfl, by decide, by decide, fun _ => rfl, fun a u hu => by
  simp only [EV, kev, List.mem_cons, List.not_mem_nil, or_false] at hu
  rcases hu with rfl | rfl | rfl | rfl | rfl | rfl | rfl | rfl | rfl | rfl | rfl <;> rfl⟩
def CellsE (W : World) (B o : Nat) (k : Kn) : Prop := W.cell? ⟨B, o, none⟩ = some (.string k.q.m) ∧ W.cell? ⟨B, o + 1, none⟩ = some (.string k.q.s) ∧ W.cell? ⟨B, o + 2, none⟩ = some (.string k.q.a) ∧ W.cell? ⟨B, o + 3, none⟩ = some (.string k.q.p) ∧ W.cell? ⟨B, o + 4, none⟩ = some (sv k.q.y) ∧ W.cell? ⟨B, o + 5, none⟩ = some (.string k.q.b) ∧ W.cell? ⟨B, o + 6, none⟩ = some (.int .i64 k.rn) ∧ W.cell? ⟨B, o + 7, none⟩ = some (sv k.ry) ∧ W.cell? ⟨B, o + 8, none⟩ = some (.string k.rb) ∧ W.cell? ⟨B, o + 9, none⟩ = some (.int .i64 k.st) ∧ W.cell? ⟨B, o + 10, none⟩ = some (.int .i64 k.ar)
theorem In.ke {w : World} {v : Value} {l : List Kn} (h : In EV w v l) (k : Nat) (hk : k < l.length) : ∃ B off cap, v = .slice (some ⟨B, off, none⟩) l.length cap ∧ ∀ W, Below w.heap.size w W → CellsE W B (off + k * 11) l[k] := by
  obtain ⟨B, off, cap, e, hB, d⟩ := h.get okV k hk
  exact ⟨B, off, cap, e, fun W hb => ⟨(hb.cell hB).trans (d 0 _ rfl), (hb.cell hB).trans (d 1 _ rfl), (hb.cell hB).trans (d 2 _ rfl), (hb.cell hB).trans (d 3 _ rfl), (hb.cell hB).trans (d 4 _ rfl), (hb.cell hB).trans (d 5 _ rfl), (hb.cell hB).trans (d 6 _ rfl), (hb.cell hB).trans (d 7 _ rfl), (hb.cell hB).trans (d 8 _ rfl), (hb.cell hB).trans (d 9 _ rfl), (hb.cell hB).trans (d 10 _ rfl)⟩⟩
def rcv (me mb lf pd : Int) (z : SV) (now : Int) : Array Value := #[.int .i64 me, .int .i64 mb, .int .i64 lf, .int .i64 pd, sv z, .int .i64 now]
/-- the document's cache at b -/
structure Rc (W : World) (b : Nat) (me mb lf pd : Int) (z : SV) (B : List Kn) (now : Int) : Prop where
  blk : W.heap[b]? = some (.cells (rcv me mb lf pd z now) 100 (0, 0))
  row : R EV W (sv z) B
  fl : ∀ k ∈ B, R EFd W (sv k.q.y) k.fq ∧ R EFd W (sv k.ry) k.fr
/-- its blocks -/
def Rb (b : Nat) (z : SV) (B : List Kn) (k : Nat) : Prop := k = b ∨ (sv z).ownBlock = some k ∨ ∃ x ∈ B, (sv x.q.y).ownBlock = some k ∨ (sv x.ry).ownBlock = some k
theorem Rc.keep {W W' : World} {b : Nat} {me mb lf pd : Int} {z : SV} {B : List Kn} {now : Int} (h : Rc W b me mb lf pd z B now) (hk : ∀ k, Rb b z B k → k < W.heap.size → W'.heap[k]? = W.heap[k]?) : Rc W' b me mb lf pd z B now :=
  ⟨(hk b (.inl rfl) (heap_lt h.blk)).trans h.blk, h.row.stays fun k hk' hl => hk k (.inr (.inl hk')) hl, fun x hx => ⟨(h.fl x hx).1.stays fun k hk' hl => hk k (.inr (.inr ⟨x, hx, .inl hk'⟩)) hl, (h.fl x hx).2.stays fun k hk' hl => hk k (.inr (.inr ⟨x, hx, .inr hk'⟩)) hl⟩⟩
theorem Rc.below {W W' : World} {b : Nat} {me mb lf pd : Int} {z : SV} {B : List Kn} {now : Int} (h : Rc W b me mb lf pd z B now) (hb : Below W.heap.size W W') : Rc W' b me mb lf pd z B now := h.keep fun k _ hl => hb.block k hl
theorem Rc.lt {W : World} {b : Nat} {me mb lf pd : Int} {z : SV} {B : List Kn} {now : Int} (h : Rc W b me mb lf pd z B now) {k : Nat} (hk : Rb b z B k) : k < W.heap.size := by
  rcases hk with rfl | hk | ⟨x, hx, hk | hk⟩
  · exact heap_lt h.blk
  · exact h.row.lt k hk
  · exact (h.fl x hx).1.lt k hk
  · exact (h.fl x hx).2.lt k hk
theorem Rc.cells {W : World} {b : Nat} {me mb lf pd : Int} {z : SV} {B : List Kn} {now : Int} (h : Rc W b me mb lf pd z B now) : W.cell? ⟨b, 0, none⟩ = some (.int .i64 me) ∧ W.cell? ⟨b, 1, none⟩ = some (.int .i64 mb) ∧ W.cell? ⟨b, 2, none⟩ = some (.int .i64 lf) ∧ W.cell? ⟨b, 3, none⟩ = some (.int .i64 pd) ∧ W.cell? ⟨b, 4, none⟩ = some (sv z) ∧ W.cell? ⟨b, 5, none⟩ = some (.int .i64 now) ∧ (∀ i, W.frozen? ⟨b, i, none⟩ = false) :=
  ⟨cell_blk h.blk 0, cell_blk h.blk 1, cell_blk h.blk 2, cell_blk h.blk 3, cell_blk h.blk 4, cell_blk h.blk 5, fun i => frozen_blk h.blk i⟩
theorem Rc.setL {W W2 : World} {b : Nat} {me mb lf pd : Int} {z z' : SV} {B B' : List Kn} {now : Int} (h : Rc W b me mb lf pd z B now) (hk : W2.heap[b]? = W.heap[b]?) (hR : R EV W2 (sv z') B') (hf : ∀ k ∈ B', R EFd W2 (sv k.q.y) k.fq ∧ R EFd W2 (sv k.ry) k.fr) : Rc (W2.setCell ⟨b, 4, none⟩ (sv z')) b me mb lf pd z' B' now := by
  have hb : W2.heap[b]? = some (.cells (rcv me mb lf pd z now) 100 (0, 0)) := hk.trans h.blk
  refine ⟨?_, hR.stays fun k hk' _ => ?_, fun x hx => ⟨(hf x hx).1.stays fun k hk' _ => ?_, (hf x hx).2.stays fun k hk' _ => ?_⟩⟩
  · rw [setCell_block _ _ _ _ _ _ _ hb]; rfl
  · obtain ⟨c, hc⟩ := hR.ty k hk'; exact setCell_other _ _ _ _ _ (ty_ne hc hb (show (119 : TypeId) ≠ 100 by decide))
  · obtain ⟨c, hc⟩ := (hf x hx).1.ty k hk'; exact setCell_other _ _ _ _ _ (ty_ne hc hb (show (51 : TypeId) ≠ 100 by decide))
  · obtain ⟨c, hc⟩ := (hf x hx).2.ty k hk'; exact setCell_other _ _ _ _ _ (ty_ne hc hb (show (51 : TypeId) ≠ 100 by decide))
theorem Rc.setNow {W : World} {b : Nat} {me mb lf pd : Int} {z : SV} {B : List Kn} {now : Int} (h : Rc W b me mb lf pd z B now) (n : Int) : Rc (W.setCell ⟨b, 5, none⟩ (.int .i64 n)) b me mb lf pd z B n := by
  refine ⟨?_, h.row.stays fun k hk' _ => ?_, fun x hx => ⟨(h.fl x hx).1.stays fun k hk' _ => ?_, (h.fl x hx).2.stays fun k hk' _ => ?_⟩⟩
  · rw [setCell_block _ _ _ _ _ _ _ h.blk]; rfl
  · obtain ⟨c, hc⟩ := h.row.ty k hk'; exact setCell_other _ _ _ _ _ (ty_ne hc h.blk (show (119 : TypeId) ≠ 100 by decide))
  · obtain ⟨c, hc⟩ := (h.fl x hx).1.ty k hk'; exact setCell_other _ _ _ _ _ (ty_ne hc h.blk (show (51 : TypeId) ≠ 100 by decide))
  · obtain ⟨c, hc⟩ := (h.fl x hx).2.ty k hk'; exact setCell_other _ _ _ _ _ (ty_ne hc h.blk (show (51 : TypeId) ≠ 100 by decide))
set_option maxHeartbeats 8000000 in
set_option maxRecDepth 100000 in
theorem rsize_any (n : Int) (y : SV) (b : ByteArray) (l : List Fd) (w : World) (hI : In EFd w (sv y) l) (hz : b.size + szL l ≤ 4611686018427387904) :
    Calls Tryd.prog 26 #[.agg (rsv n (sv y) b)] w fun e w' => e = .returned (.int .i64 ((b.size + szL l : Nat) : Int)) ∧ Below w.heap.size w w' := by
  obtain ⟨W, hW⟩ : ∃ W, w.alloc (.cells (rsv n (sv y) b) 26) = W := ⟨_, rfl⟩
  obtain ⟨r0, hr0⟩ : ∃ k, w.heap.size = k := ⟨_, rfl⟩
  have hbW : Below w.heap.size w W := by rw [← hW]; exact bel1 _ _
  have hb0 : W.heap[r0]? = some (.cells (rsv n (sv y) b) 26 (0, 0)) := by rw [← hW, ← hr0, heap_al, if_pos rfl]
  have HBW : Hid (Below w.heap.size w W) := hbW
  have HC : Hid (∀ V, Below W.heap.size W V → V.cell? ⟨r0, 0, none⟩ = some (.int .i64 n) ∧ V.cell? ⟨r0, 1, none⟩ = some (sv y) ∧ V.cell? ⟨r0, 2, none⟩ = some (.string b)) := fun V hV => by
    have h := (hV.block r0 (heap_lt hb0)).trans hb0
    exact ⟨cell_blk h 0, cell_blk h 1, cell_blk h 2⟩
  have HI : Hid (In EFd W (sv y) l) := hI.below hbW
  have HZ : Hid (b.size + szL l ≤ 4611686018427387904) := hz
  obtain ⟨bb, c, e, m1, m2⟩ := hI.slice
  obtain ⟨sb, sl, sc⟩ := y
  unfold rsv at hW ⊢
  simp only [sv] at e HI HC hW ⊢
  injection e with e1 e2 e3
  subst e1 e2 e3
  obtain ⟨N, hN⟩ : ∃ N, l.length = N := ⟨_, rfl⟩
  rw [hN] at HI m1 HC hW ⊢
  have HN : Hid (l.length = N) := hN
  have hbz : b.size ≤ 4611686018427387904 := by omega
  obtain ⟨p0, p1, p2⟩ := HC.out W (Below.refl _ _)
  obtain ⟨T, hT⟩ : ∃ T, b.size + szL l = T := ⟨_, rfl⟩
  rw [hT]
  have HT : Hid (b.size + szL l = T) := hT
  clear hI hz hN hbW hb0 hT
  go_enter Tryd.func26, Tryd.ntmps26
  go_wp2_with fail
  try rw [hW]
  try rw [hr0]
  clear hW p0 p1 p2 hr0
  go_loopw [3, 4] (fun tv kv wr => ∃ k t : Nat, kv = .int .i64 (k : Int) ∧ k ≤ N ∧ tv = .int .i64 (t : Int) ∧ Hid (t = b.size + szL (l.take k)) ∧ Hid (Below W.heap.size W wr)) (fun _ kv _ => N - (intOf kv).toNat)
  case atStart => exact ⟨0, b.size, rfl, by omega, rfl, by show _ = _; simp [szL], Below.refl _ _⟩
  case round =>
    obtain ⟨k, t, rfl, hk, rfl, ht, hb⟩ := hrel
    obtain ⟨p0, p1, p2⟩ := HC.out wr hb.out
    by_cases hlt : k < N
    · obtain ⟨Bk, off, cap, e, hc⟩ := HI.out.fd k (by rw [HN.out]; exact hlt)
      injection e with e1 e2 e3
      clear e2 e3
      subst e1
      obtain ⟨c0, c1, c2⟩ := hc wr hb.out
      obtain ⟨y, hy⟩ : ∃ y, l[k]'(by rw [HN.out]; exact hlt) = y := ⟨_, rfl⟩
      rw [hy] at c0 c1 c2
      have l1 : (k : Int) < (N : Int) := by omega
      have HT : Hid (t + 32 + y.n.size + y.v.size = b.size + szL (l.take (k + 1)) ∧ t + 32 + y.n.size + y.v.size ≤ 4611686018427387904) := by
        have h1 := szL_take (l := l) (k := k) (by rw [HN.out]; exact hlt)
        rw [hy] at h1
        have h2 := ht.out
        have h3 := szL_le l (k + 1)
        have h4 := HZ.out
        exact ⟨by omega, by omega⟩
      obtain ⟨yn, yv, ynv⟩ := y
      simp only at c0 c1 c2 HT
      obtain ⟨z1, hz1⟩ : ∃ z : Nat, yn.size + yv.size = z := ⟨_, rfl⟩
      have q0 : (yn.size : Int) + (yv.size : Int) = (z1 : Int) := by omega
      have q1 : z1 ≤ 4611686018427387904 := by have := HT.out.2; omega
      obtain ⟨z2, hz2⟩ : ∃ z : Nat, t + z1 = z := ⟨_, rfl⟩
      have q2 : (t : Int) + (z1 : Int) = (z2 : Int) := by omega
      have q3 : z2 ≤ 4611686018427387904 := by have := HT.out.2; omega
      obtain ⟨z3, hz3⟩ : ∃ z : Nat, z2 + 32 = z := ⟨_, rfl⟩
      have q4 : (z2 : Int) + 32 = (z3 : Int) := by omega
      have q5 : z3 ≤ 4611686018427387904 := by have := HT.out.2; omega
      have HZ3 : Hid (z3 = b.size + szL (l.take (k + 1))) := by show _ = _; rw [← HT.out.1]; omega
      clear hc hy HT hz1 hz2 hz3 p0 p2
      go_wp2_with fail
      go_quiet (fail)
      go_wp2_with fail
      go_roundw
      case rel => exact ⟨k + 1, z3, by simp, by omega, by first | rfl | simp, HZ3.out, below_drewN hb.out _⟩
      case measure => simp [intOf]; omega
    · obtain rfl : k = N := by omega
      have l1 : ¬ (k : Int) < (k : Int) := by omega
      have HE : Hid (t = T ∧ Below w.heap.size w wr) := ⟨by rw [ht.out, List.take_of_length_le (by rw [HN.out]; omega), HT.out], HBW.out.trans (hb.out.mono HBW.out.size)⟩
      clear ht hb
      go_wp2_with fail
      go_ret
      refine ⟨?_, HE.out.2⟩
      rw [← HE.out.1]
      rfl
set_option maxHeartbeats 8000000 in
set_option maxRecDepth 100000 in
theorem rbytes_any (W : World) (b : Nat) (me mb lf pd : Int) (z : SV) (B : List Kn) (now : Int) (h : Rc W b me mb lf pd z B now) (hz : totK B ≤ 4611686018427387904) :
    Calls Tryd.prog 55 #[.pointer (some ⟨b, 0, none⟩)] W fun e w' => e = .returned (.int .i64 (totK B : Int)) ∧ Below W.heap.size W w' := by
  have HX : Hid (Rc W b me mb lf pd z B now) := h
  have HZ : Hid (totK B ≤ 4611686018427387904) := hz
  obtain ⟨c0, c1, c2, c3, c5, c6, cf⟩ := h.cells
  have hl := heap_lt h.blk
  obtain ⟨bb, cc, e, m1, m2⟩ := h.row.slice
  obtain ⟨sb, sl, sc⟩ := z
  simp only [sv] at e c5 HX
  injection e with e1 e2 e3
  subst e1 e2 e3
  obtain ⟨N, hN⟩ : ∃ N, B.length = N := ⟨_, rfl⟩
  rw [hN] at HX m1 c5
  have HN : Hid (B.length = N) := hN
  have HC : Hid (∀ V, Below W.heap.size W V → V.cell? ⟨b, 4, none⟩ = some (.slice sb N sc)) := fun V hV => (HX.out.below hV).cells.2.2.2.2.1
  obtain ⟨T, hT⟩ : ∃ T, totK B = T := ⟨_, rfl⟩
  rw [hT]
  have HT : Hid (totK B = T) := hT
  clear h hN hT c0 c1 c2 c3 c6 cf hz
  go_enter Tryd.func55, Tryd.ntmps55
  go_wp2_with fail
  clear c5
  go_loopw [3, 4] (fun tv kv wr => ∃ k t : Nat, kv = .int .i64 (k : Int) ∧ k ≤ N ∧ tv = .int .i64 (t : Int) ∧ Hid (t = totK (B.take k)) ∧ Hid (Below W.heap.size W wr)) (fun _ kv _ => N - (intOf kv).toNat)
  case atStart => exact ⟨0, 0, rfl, by omega, rfl, by show _ = _; simp [totK], Below.refl _ _⟩
  case round =>
    obtain ⟨k, t, rfl, hk, rfl, ht, hb⟩ := hrel
    have p5 := HC.out wr hb.out
    by_cases hlt : k < N
    · have hkB : k < B.length := by rw [HN.out]; exact hlt
      obtain ⟨Bj, off, cap, e, hc⟩ := HX.out.row.isIn.ke k hkB
      simp only [sv] at e
      injection e with e1 e2 e3
      clear e2 e3
      subst e1
      obtain ⟨d0, d1, d2, d3, d4, d5, d6, d7, d8, d9, d10⟩ := hc wr hb.out
      obtain ⟨x, hx⟩ : ∃ x, B[k] = x := ⟨_, rfl⟩
      rw [hx] at d6 d7 d8
      have hF := (HX.out.below hb.out).fl x (by rw [← hx]; exact List.getElem_mem _)
      have l1 : (k : Int) < (N : Int) := by omega
      obtain ⟨s1, hs1⟩ : ∃ z : Nat, x.rb.size + szL x.fr = z := ⟨_, rfl⟩
      obtain ⟨z, hz⟩ : ∃ z : Nat, t + s1 = z := ⟨_, rfl⟩
      have HT2 : Hid (z = totK (B.take (k + 1)) ∧ z ≤ 4611686018427387904) := by
        have h1 := totK_take (L := B) (k := k) hkB
        rw [hx] at h1
        unfold ksz at h1
        rw [hs1] at h1
        have h2 := ht.out
        have h3 := totK_le B (k + 1)
        have h4 := HZ.out
        exact ⟨by omega, by omega⟩
      have HSz : Hid (Calls Tryd.prog 26 #[.agg (rsv x.rn (sv x.ry) x.rb)] wr fun e w' => e = .returned (.int .i64 (s1 : Int)) ∧ Below wr.heap.size wr w') := by
        have := rsize_any x.rn x.ry x.rb x.fr wr hF.2.isIn (by rw [hs1]; have := HT2.out.2; omega)
        rw [hs1] at this
        exact this
      have q1 : (t : Int) + (s1 : Int) = (z : Int) := by omega
      have q2 : z ≤ 4611686018427387904 := HT2.out.2
      clear hc hx hz d0 d1 d2 d3 d4 d5 d9 d10 hF hs1
      obtain ⟨kst, kar, kq, krn, ⟨kr1, kr2, kr3⟩, krb, kfq, kfr⟩ := x
      simp only [sv, rsv] at d6 d7 d8 HSz
      go_wp2_with fail
      go_at_call 26
      refine HSz.out.mono ?_
      rintro e V ⟨rfl, bV⟩
      have HB2 : Hid (Below W.heap.size W V) := hb.out.trans (bV.mono hb.out.size)
      clear bV
      go_wp2_with fail
      go_roundw
      case rel => exact ⟨k + 1, z, by simp, by omega, by first | rfl | simp, HT2.out.1, HB2.out⟩
      case measure => simp [intOf]; omega
    · have l1 : ¬ (k : Int) < (N : Int) := by omega
      have HE : Hid (t = T ∧ Below W.heap.size W wr) := ⟨by rw [ht.out, List.take_of_length_le (by rw [HN.out]; omega), HT.out], hb.out⟩
      clear ht hb
      go_wp2_with fail
      go_ret
      refine ⟨?_, HE.out.2⟩
      rw [← HE.out.1]
      rfl
set_option maxHeartbeats 1000000 in
theorem rlen_any (W : World) (b : Nat) (me mb lf pd : Int) (z : SV) (B : List Kn) (now : Int) (h : Rc W b me mb lf pd z B now) : Calls Tryd.prog 54 #[.pointer (some ⟨b, 0, none⟩)] W fun e w' => e = .returned (.int .i64 (B.length : Int)) ∧ w' = W := by
  obtain ⟨c0, c1, c2, c3, c4, c5, cf⟩ := h.cells
  have hl := heap_lt h.blk
  obtain ⟨b', cc, e, _, _⟩ := h.row.slice
  rw [e] at c4
  clear h e
  go_enter Tryd.func54, Tryd.ntmps54
  go_wp2_with fail
  go_ret
  exact ⟨rfl, rfl⟩
set_option maxHeartbeats 1000000 in
theorem upTo_any (n : Int) (w : World) : Calls Tryd.prog 47 #[.int .i64 n] w fun e w' => e = .returned (.bool (!nbB n)) ∧ w' = w := by
  by_cases h0 : 0 ≤ n
  · by_cases h1 : n ≤ 1152921504606846976
    · have HE : Hid (nbB n = false) := by show _ = _; unfold nbB; rw [decide_eq_false (by omega), decide_eq_false (by omega)]; rfl
      go_enter Tryd.func47, Tryd.ntmps47
      go_wp2_with fail
      go_ret
      exact ⟨by rw [HE.out]; rfl, rfl⟩
    · have HE : Hid (nbB n = true) := by show _ = _; unfold nbB; rw [decide_eq_true (show 1152921504606846976 < n by omega)]; simp
      go_enter Tryd.func47, Tryd.ntmps47
      go_wp2_with fail
      go_ret
      exact ⟨by rw [HE.out]; rfl, rfl⟩
  · have HE : Hid (nbB n = true) := by show _ = _; unfold nbB; rw [decide_eq_true (show n < 0 by omega)]; simp
    go_enter Tryd.func47, Tryd.ntmps47
    go_wp2_with fail
    go_ret
    exact ⟨by rw [HE.out]; rfl, rfl⟩
/-- is it expired? -/
def exK (now lf : Int) (k : Kn) : Bool := decide (lf < now - k.ar)
set_option maxHeartbeats 4000000 in
set_option maxRecDepth 100000 in
theorem rexpired_any (w : World) (b : Nat) (me mb lf pd : Int) (z : SV) (now : Int) (k : Kn) (hb : w.heap[b]? = some (.cells (rcv me mb lf pd z now) 100 (0, 0))) (ha : 0 ≤ k.ar ∧ k.ar ≤ now ∧ now ≤ 9223372036854775807) :
    Calls Tryd.prog 74 #[.pointer (some ⟨b, 0, none⟩), .agg (kev k)] w fun r w' => r = .returned (.bool (exK now lf k)) ∧ Below w.heap.size w w' := by
  have hlt := heap_lt hb
  have hb1 : (w.alloc (.cells (kev k) 119)).heap[b]? = some (.cells (rcv me mb lf pd z now) 100 (0, 0)) := by rw [heap_al, if_neg (by omega)]; exact hb
  have hbe : (w.alloc (.cells (kev k) 119)).heap[w.heap.size]? = some (.cells (kev k) 119 (0, 0)) := by rw [heap_al, if_pos rfl]
  obtain ⟨d, hd⟩ : ∃ d : Int, now - k.ar = d := ⟨_, rfl⟩
  have hd1 : -9223372036854775808 ≤ d := by omega
  have hd2 : d ≤ 9223372036854775807 := by omega
  have HE : Hid (exK now lf k = decide (lf < d)) := by show _ = _; unfold exK; rw [hd]
  have HQ : Hid (Below w.heap.size w ((w.alloc (.cells (kev k) 119)).drew)) := (bel1 w _).drew
  have c2 := cell_blk hb1 2
  have c5 := cell_blk hb1 5
  have c10 := cell_blk hbe 10
  obtain ⟨kst, kar, ⟨km, ks, ka, kp, ⟨ky1, ky2, ky3⟩, kb⟩, krn, ⟨kr1, kr2, kr3⟩, krb, kfq, kfr⟩ := k
  simp only [rcv, kev, sv, List.getElem?_toArray, List.getElem?_cons_succ, List.getElem?_cons_zero] at c2 c5 c10 HE HQ hd hlt ⊢
  clear hb hb1 hbe ha
  go_enter Tryd.func74, Tryd.ntmps74
  go_wp2_with fail
  go_region
  all_goals
    go_wp2_with fail
    go_ret
    refine ⟨?_, HQ.out⟩
    rw [HE.out]
    rfl
end Go.Proofs.YtfponcdhaefkdaaDoor
