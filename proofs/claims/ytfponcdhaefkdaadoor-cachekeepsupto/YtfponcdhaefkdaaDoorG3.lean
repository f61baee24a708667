/- The law's book in memory; its bytes. -/
import Derived.Test.YtfponcdhaefkdaaDoorG2
namespace Go.Proofs.YtfponcdhaefkdaaDoor
open Go.RowKit
set_option linter.unusedVariables false
set_option linter.unusedSimpArgs false
def ksz (k : Kn) : Nat := k.rb.size + szL k.fr
def totK (B : List Kn) : Nat := (B.map ksz).sum
theorem totK_take {L : List Kn} {k : Nat} (h : k < L.length) : totK (L.take (k + 1)) = totK (L.take k) + ksz L[k] := by
  unfold totK
  rw [List.take_succ_eq_append_getElem h, List.map_append, List.sum_append]
  simp
theorem totK_le (L : List Kn) (k : Nat) : totK (L.take k) ≤ totK L := by
  unfold totK
  conv => rhs; rw [← List.take_append_drop k L, List.map_append, List.sum_append]
  omega
def bkv (g : Nat) (me mb lf : Int) (z : SV) (now : Int) : Array Value := #[.pointer (some ⟨g, 0, none⟩), .int .i64 me, .int .i64 mb, .int .i64 lf, .int .i64 0, sv z, .int .i64 now]
/-- the law's book at b -/
structure Bk (W : World) (b g : Nat) (me mb lf : Int) (z : SV) (B : List Kn) (now : Int) : Prop where
  blk : W.heap[b]? = some (.cells (bkv g me mb lf z now) 58 (0, 0))
  row : R EK W (sv z) B
  fl : ∀ k ∈ B, R EFd W (sv k.q.y) k.fq ∧ R EFd W (sv k.ry) k.fr
theorem Bk.keep {W W' : World} {b g : Nat} {me mb lf : Int} {z : SV} {B : List Kn} {now : Int} (h : Bk W b g me mb lf z B now) (hk : ∀ (k : Nat) (c : Array Value) (t : TypeId) (fz : Nat × Nat), W.heap[k]? = some (.cells c t fz) → (t = 58 ∨ t = 95 ∨ t = 51) → W'.heap[k]? = W.heap[k]?) : Bk W' b g me mb lf z B now :=
  ⟨(hk _ _ _ _ h.blk (.inl rfl)).trans h.blk, h.row.stays fun k hk' _ => by obtain ⟨c, hc⟩ := h.row.ty k hk'; exact hk _ _ _ _ hc (.inr (.inl rfl)), fun x hx => ⟨(h.fl x hx).1.stays fun k hk' _ => by obtain ⟨c, hc⟩ := (h.fl x hx).1.ty k hk'; exact hk _ _ _ _ hc (.inr (.inr rfl)), (h.fl x hx).2.stays fun k hk' _ => by obtain ⟨c, hc⟩ := (h.fl x hx).2.ty k hk'; exact hk _ _ _ _ hc (.inr (.inr rfl))⟩⟩
theorem Bk.below {W W' : World} {b g : Nat} {me mb lf : Int} {z : SV} {B : List Kn} {now : Int} (h : Bk W b g me mb lf z B now) (hb : Below W.heap.size W W') : Bk W' b g me mb lf z B now := h.keep fun k c t fz hk _ => hb.block k (heap_lt hk)
theorem Bk.cells {W : World} {b g : Nat} {me mb lf : Int} {z : SV} {B : List Kn} {now : Int} (h : Bk W b g me mb lf z B now) : W.cell? ⟨b, 0, none⟩ = some (.pointer (some ⟨g, 0, none⟩)) ∧ W.cell? ⟨b, 1, none⟩ = some (.int .i64 me) ∧ W.cell? ⟨b, 2, none⟩ = some (.int .i64 mb) ∧ W.cell? ⟨b, 3, none⟩ = some (.int .i64 lf) ∧ W.cell? ⟨b, 4, none⟩ = some (.int .i64 0) ∧ W.cell? ⟨b, 5, none⟩ = some (sv z) ∧ W.cell? ⟨b, 6, none⟩ = some (.int .i64 now) ∧ (∀ i, W.frozen? ⟨b, i, none⟩ = false) :=
  ⟨cell_blk h.blk 0, cell_blk h.blk 1, cell_blk h.blk 2, cell_blk h.blk 3, cell_blk h.blk 4, cell_blk h.blk 5, cell_blk h.blk 6, fun i => frozen_blk h.blk i⟩
theorem ty_ne {W : World} {a b : Nat} {c d : Array Value} {t u : TypeId} {f e : Nat × Nat} (h1 : W.heap[a]? = some (.cells c t f)) (h2 : W.heap[b]? = some (.cells d u e)) (hn : t ≠ u) : a ≠ b := fun e => by
  subst e
  rw [h1] at h2
  injection h2 with h2
  injection h2 with _ h2
  exact hn h2
theorem Bk.setL {W W2 : World} {b g : Nat} {me mb lf : Int} {z z' : SV} {B B' : List Kn} {now : Int} (h : Bk W b g me mb lf z B now) (hk : W2.heap[b]? = W.heap[b]?) (hR : R EK W2 (sv z') B') (hf : ∀ k ∈ B', R EFd W2 (sv k.q.y) k.fq ∧ R EFd W2 (sv k.ry) k.fr) : Bk (W2.setCell ⟨b, 5, none⟩ (sv z')) b g me mb lf z' B' now := by
  have hb : W2.heap[b]? = some (.cells (bkv g me mb lf z now) 58 (0, 0)) := hk.trans h.blk
  refine ⟨?_, hR.stays fun k hk' _ => ?_, fun x hx => ⟨(hf x hx).1.stays fun k hk' _ => ?_, (hf x hx).2.stays fun k hk' _ => ?_⟩⟩
  · rw [setCell_block _ _ _ _ _ _ _ hb]; rfl
  · obtain ⟨c, hc⟩ := hR.ty k hk'; exact setCell_other _ _ _ _ _ (ty_ne hc hb (show (95 : TypeId) ≠ 58 by decide))
  · obtain ⟨c, hc⟩ := (hf x hx).1.ty k hk'; exact setCell_other _ _ _ _ _ (ty_ne hc hb (show (51 : TypeId) ≠ 58 by decide))
  · obtain ⟨c, hc⟩ := (hf x hx).2.ty k hk'; exact setCell_other _ _ _ _ _ (ty_ne hc hb (show (51 : TypeId) ≠ 58 by decide))
theorem Bk.setNow {W : World} {b g : Nat} {me mb lf : Int} {z : SV} {B : List Kn} {now : Int} (h : Bk W b g me mb lf z B now) (n : Int) : Bk (W.setCell ⟨b, 6, none⟩ (.int .i64 n)) b g me mb lf z B n := by
  refine ⟨?_, h.row.stays fun k hk' _ => ?_, fun x hx => ⟨(h.fl x hx).1.stays fun k hk' _ => ?_, (h.fl x hx).2.stays fun k hk' _ => ?_⟩⟩
  · rw [setCell_block _ _ _ _ _ _ _ h.blk]; rfl
  · obtain ⟨c, hc⟩ := h.row.ty k hk'; exact setCell_other _ _ _ _ _ (ty_ne hc h.blk (show (95 : TypeId) ≠ 58 by decide))
  · obtain ⟨c, hc⟩ := (h.fl x hx).1.ty k hk'; exact setCell_other _ _ _ _ _ (ty_ne hc h.blk (show (51 : TypeId) ≠ 58 by decide))
  · obtain ⟨c, hc⟩ := (h.fl x hx).2.ty k hk'; exact setCell_other _ _ _ _ _ (ty_ne hc h.blk (show (51 : TypeId) ≠ 58 by decide))
set_option maxHeartbeats 8000000 in
set_option maxRecDepth 100000 in
theorem bytesK_any (W : World) (b g : Nat) (me mb lf : Int) (z : SV) (B : List Kn) (now : Int) (h : Bk W b g me mb lf z B now) (hz : totK B ≤ 4611686018427387904) :
    Calls Tryd.prog 23 #[.pointer (some ⟨b, 0, none⟩)] W fun e w' => e = .returned (.int .i64 (totK B : Int)) ∧ Below W.heap.size W w' := by
  have HX : Hid (Bk W b g me mb lf z B now) := h
  have HZ : Hid (totK B ≤ 4611686018427387904) := hz
  obtain ⟨c0, c1, c2, c3, c4, c5, c6, cf⟩ := h.cells
  have hl := heap_lt h.blk
  obtain ⟨bb, cc, e, m1, m2⟩ := h.row.slice
  obtain ⟨sb, sl, sc⟩ := z
  simp only [sv] at e c5 HX
  injection e with e1 e2 e3
  subst e1 e2 e3
  obtain ⟨N, hN⟩ : ∃ N, B.length = N := ⟨_, rfl⟩
  rw [hN] at HX m1 c5
  have HN : Hid (B.length = N) := hN
  have HC : Hid (∀ V, Below W.heap.size W V → V.cell? ⟨b, 5, none⟩ = some (.slice sb N sc)) := fun V hV => (HX.out.below hV).cells.2.2.2.2.2.1
  obtain ⟨T, hT⟩ : ∃ T, totK B = T := ⟨_, rfl⟩
  rw [hT]
  have HT : Hid (totK B = T) := hT
  clear h hN hT c0 c1 c2 c3 c4 c6 cf hz
  go_enter Tryd.func23, Tryd.ntmps23
  go_wp2_with fail
  clear c5
  go_loopw [3, 4] (fun tv kv wr => ∃ k t : Nat, kv = .int .i64 (k : Int) ∧ k ≤ N ∧ tv = .int .i64 (t : Int) ∧ Hid (t = totK (B.take k)) ∧ Hid (Below W.heap.size W wr)) (fun _ kv _ => N - (intOf kv).toNat)
  case atStart => exact ⟨0, 0, rfl, by omega, rfl, by show _ = _; simp [totK], Below.refl _ _⟩
  case round =>
    obtain ⟨k, t, rfl, hk, rfl, ht, hb⟩ := hrel
    have p5 := HC.out wr hb.out
    by_cases hlt : k < N
    · have hkB : k < B.length := by rw [HN.out]; exact hlt
      obtain ⟨Bj, off, cap, e, hc⟩ := HX.out.row.isIn.kn k hkB
      simp only [sv] at e
      injection e with e1 e2 e3
      clear e2 e3
      subst e1
      obtain ⟨d0, d1, d2, d3, d4, d5, d6, d7, d8, d9, d10⟩ := hc wr hb.out
      obtain ⟨x, hx⟩ : ∃ x, B[k] = x := ⟨_, rfl⟩
      rw [hx] at d8 d9 d10
      have hF := (HX.out.below hb.out).fl x (by rw [← hx]; exact List.getElem_mem _)
      have l1 : (k : Int) < (N : Int) := by omega
      obtain ⟨s1, hs1⟩ : ∃ z : Nat, x.rb.size + szL x.fr = z := ⟨_, rfl⟩
      obtain ⟨z, hz⟩ : ∃ z : Nat, t + s1 = z := ⟨_, rfl⟩
      have HT2 : Hid (z = totK (B.take (k + 1)) ∧ z ≤ 4611686018427387904) := by
        have h1 := totK_take (L := B) (k := k) hkB
        rw [hx] at h1
        unfold ksz at h1
        rw [hs1] at h1
        have h2 := ht.out
        have h3 := totK_le B (k + 1)
        have h4 := HZ.out
        exact ⟨by omega, by omega⟩
      have HSz : Hid (Calls Tryd.prog 44 #[.agg (rsv x.rn (sv x.ry) x.rb)] wr fun e w' => e = .returned (.int .i64 (s1 : Int)) ∧ Below wr.heap.size wr w') := by
        have := size44_any x.rn x.ry x.rb x.fr wr hF.2.isIn (by rw [hs1]; have := HT2.out.2; omega)
        rw [hs1] at this
        exact this
      have q1 : (t : Int) + (s1 : Int) = (z : Int) := by omega
      have q2 : z ≤ 4611686018427387904 := HT2.out.2
      clear hc hx hz d0 d1 d2 d3 d4 d5 d6 d7 hF hs1
      obtain ⟨kst, kar, kq, krn, ⟨kr1, kr2, kr3⟩, krb, kfq, kfr⟩ := x
      simp only [sv, rsv] at d8 d9 d10 HSz
      go_wp2_with fail
      go_at_call 44
      refine HSz.out.mono ?_
      rintro e V ⟨rfl, bV⟩
      have HB2 : Hid (Below W.heap.size W V) := hb.out.trans (bV.mono hb.out.size)
      clear bV
      go_wp2_with fail
      go_roundw
      case rel => exact ⟨k + 1, z, by simp, by omega, by first | rfl | simp, HT2.out.1, HB2.out⟩
      case measure => simp [intOf]; omega
    · have l1 : ¬ (k : Int) < (N : Int) := by omega
      have HE : Hid (t = T ∧ Below W.heap.size W wr) := ⟨by rw [ht.out, List.take_of_length_le (by rw [HN.out]; omega), HT.out], hb.out⟩
      clear ht hb
      go_wp2_with fail
      go_ret
      refine ⟨?_, HE.out.2⟩
      rw [← HE.out.1]
      rfl
end Go.Proofs.YtfponcdhaefkdaaDoor
