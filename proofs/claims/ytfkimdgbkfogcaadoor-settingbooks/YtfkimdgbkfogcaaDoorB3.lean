/- Ack where one waits. -/
import Derived.Test.YtfkimdgbkfogcaaDoorB2
namespace Go.Proofs.YtfkimdgbkfogcaaDoor
open Go.RowKit
set_option linter.unusedVariables false
set_option linter.unusedSimpArgs false

set_option maxRecDepth 100000 in
set_option maxHeartbeats 4000000 in
theorem ack_some (w : World) (b : Nat) (c : Bool) (s : St) (v : Value) (x : St) (T : List St) (h : Bk w b c s v (x :: T)) :
    Calls Tryd.prog 13 #[.pointer (some ⟨b, 0, none⟩)] w fun e w' => e = .returned (.tuple #[.agg x.a, .bool true]) ∧ ∃ v', Bk w' b c x v' T ∧ Ks (Own b v) w w' ∧ v'.ownBlock = v.ownBlock := by
  obtain ⟨x1, x2, x3, x4, x5, x6⟩ := x
  obtain ⟨c0, c1, c2, c3, c4, c5, c6, c7⟩ := h.cells
  have f0 := h.frozen 0; have f1 := h.frozen 1; have f2 := h.frozen 2; have f3 := h.frozen 3; have f4 := h.frozen 4; have f5 := h.frozen 5; have f6 := h.frozen 6; have f7 := h.frozen 7
  have hl := h.lt
  have hks := setB_ks w b ⟨x1, x2, x3, x4, x5, x6⟩
  have hsz0 : (setB w b ⟨x1, x2, x3, x4, x5, x6⟩).heap.size = w.heap.size := by simp [setB, World.setCell]
  have hla : Below w.heap.size (setB w b ⟨x1, x2, x3, x4, x5, x6⟩) ((setB w b ⟨x1, x2, x3, x4, x5, x6⟩).alloc (.cells St.zero.a 27)) := by rw [← hsz0]; exact bel1 _ _
  have hne := h.ne
  have hcall : Calls Tryd.prog 37 #[v, .int .i64 0, .int .i64 1] ((setB w b ⟨x1, x2, x3, x4, x5, x6⟩).alloc (.cells St.zero.a 27)) fun e w2 => ∃ vb vl vc, e = .returned (.slice vb vl vc) ∧ w2.cell? ⟨b, 7, none⟩ = some v ∧ w2.frozen? ⟨b, 7, none⟩ = false ∧ b < w2.heap.size ∧ w.heap.size < w2.heap.size ∧ C6 (w2.setCell ⟨b, 7, none⟩ (.slice vb vl vc)) w.heap.size St.zero ∧ F6 (w2.setCell ⟨b, 7, none⟩ (.slice vb vl vc)) w.heap.size ∧ (w2.setCell ⟨b, 7, none⟩ (.slice vb vl vc)).cell? ⟨b, 1, none⟩ = some (.int .i64 x1) ∧ (w2.setCell ⟨b, 7, none⟩ (.slice vb vl vc)).cell? ⟨b, 2, none⟩ = some (.int .i64 x2) ∧ (w2.setCell ⟨b, 7, none⟩ (.slice vb vl vc)).cell? ⟨b, 3, none⟩ = some (.int .i64 x3) ∧ (w2.setCell ⟨b, 7, none⟩ (.slice vb vl vc)).cell? ⟨b, 4, none⟩ = some (.int .i64 x4) ∧ (w2.setCell ⟨b, 7, none⟩ (.slice vb vl vc)).cell? ⟨b, 5, none⟩ = some (.int .i64 x5) ∧ (w2.setCell ⟨b, 7, none⟩ (.slice vb vl vc)).cell? ⟨b, 6, none⟩ = some (.int .i64 x6) ∧ Hid ((set6 (w2.setCell ⟨b, 7, none⟩ (.slice vb vl vc)) w.heap.size ⟨x1, x2, x3, x4, x5, x6⟩).heap[w.heap.size]? = some (.cells (St.mk x1 x2 x3 x4 x5 x6).a 27 (0, 0)) ∧ Bk (set6 (w2.setCell ⟨b, 7, none⟩ (.slice vb vl vc)) w.heap.size ⟨x1, x2, x3, x4, x5, x6⟩) b c ⟨x1, x2, x3, x4, x5, x6⟩ (.slice vb vl vc) T ∧ Ks (Own b v) w (set6 (w2.setCell ⟨b, 7, none⟩ (.slice vb vl vc)) w.heap.size ⟨x1, x2, x3, x4, x5, x6⟩) ∧ (Value.slice vb vl vc).ownBlock = v.ownBlock) := by
    have hrow : R ES ((setB w b ⟨x1, x2, x3, x4, x5, x6⟩).alloc (.cells St.zero.a 27)) v (⟨x1, x2, x3, x4, x5, x6⟩ :: T) := h.row.stays fun k hk hlt => (hla.block k hlt).trans (hks.block k hlt (fun e => hne (e ▸ hk)))
    have hvlt := h.row.lt
    refine (delete_any _ v _ T hrow).mono ?_
    rintro e w2 ⟨v', rfl, hR2, hown, hK2⟩
    obtain ⟨vb, vc, rfl, _, _⟩ := hR2.slice
    have hbsz : ((setB w b ⟨x1, x2, x3, x4, x5, x6⟩).alloc (.cells St.zero.a 27)).heap.size = w.heap.size + 1 := by rw [size_al, hsz0]
    have hblk2 : w2.heap[b]? = some (.cells (bcs c ⟨x1, x2, x3, x4, x5, x6⟩ v) 61 (0, 0)) := (hK2.block b (by rw [hbsz]; omega) hne).trans ((hla.block b hl).trans (setB_blk _ h.blk))
    have hz2 : w2.heap[w.heap.size]? = some (.cells St.zero.a 27 (0, 0)) := (hK2.block _ (by rw [hbsz]; omega) (fun e => by have := hvlt _ e; omega)).trans (by rw [heap_al, if_pos hsz0.symm])
    have hblk3 : (w2.setCell ⟨b, 7, none⟩ (.slice vb T.length vc)).heap[b]? = some (.cells (bcs c ⟨x1, x2, x3, x4, x5, x6⟩ (.slice vb T.length vc)) 61 (0, 0)) := setCell_block _ _ _ _ _ _ _ hblk2
    have hz3 : (w2.setCell ⟨b, 7, none⟩ (.slice vb T.length vc)).heap[w.heap.size]? = some (.cells St.zero.a 27 (0, 0)) := (setCell_other _ _ _ _ _ (by omega)).trans hz2
    have hR3 : R ES (w2.setCell ⟨b, 7, none⟩ (.slice vb T.length vc)) (.slice vb T.length vc) T := hR2.stays fun k hk _ => setCell_other _ _ _ _ _ (fun e => hne (by rw [← hown, hk, e]))
    refine ⟨vb, _, vc, rfl, cell_blk hblk2 7, frozen_blk hblk2 7, heap_lt hblk2, heap_lt hz2, Go.Proofs.YtfkimdgbkfogcaaDoor.c6 hz3, Go.Proofs.YtfkimdgbkfogcaaDoor.f6 hz3, cell_blk hblk3 1, cell_blk hblk3 2, cell_blk hblk3 3, cell_blk hblk3 4, cell_blk hblk3 5, cell_blk hblk3 6, set6_blk _ hz3, ⟨(set6_other _ _ _ _ (by omega)).trans hblk3, hR3.stays fun k hk _ => set6_other _ _ _ _ (fun e => ?_), by have := h.len; simp at this; omega⟩, ?_, hown⟩
    · rw [hown] at hk
      have := hvlt _ hk
      omega
    · refine ⟨?_, ?_, ?_, ?_, ?_⟩
      · exact (set6_ks _ _ _).os.trans (hK2.os.trans (hla.os.trans hks.os))
      · exact (set6_ks _ _ _).tape.trans (hK2.tape.trans (hla.tape.trans hks.tape))
      · exact (set6_ks _ _ _).output.trans (hK2.output.trans (hla.output.trans hks.output))
      · rw [set6_size]
        have := heap_lt hz3
        omega
      · intro k hk hn
        rw [set6_other _ _ _ _ (by omega), setCell_other _ _ _ _ _ (fun e => hn (.inl e)), hK2.block k (by rw [hbsz]; omega) (fun e => hn (.inr e)), hla.block k hk, hks.block k hk (fun e => hn (.inl e))]
  obtain ⟨B, off, cap, hv, hBl, d0, d1, d2, d3, d4, d5⟩ := h.row.isIn.set 0 (by simp)
  have hz := h.row
  rw [hv] at hz
  obtain ⟨rfl, _, h1, h2⟩ := hz.zero_off
  simp only [List.getElem_cons_zero, Nat.zero_mul, Nat.add_zero, Nat.zero_add] at d0 d1 d2 d3 d4 d5
  have hBb : B ≠ b := fun e => hne (by rw [hv, e]; rfl)
  have hbB : b ≠ B := fun e => hBb e.symm
  simp only [List.length_cons] at hv h1
  obtain ⟨n, hn⟩ : ∃ n, T.length + 1 = n := ⟨_, rfl⟩
  have hn0 : ((n : Nat) : Int) ≠ 0 := by omega
  have hn0' : ((n : Int) == 0) = false := by simpa using hn0
  have hn1 : (0 : Int) < (n : Int) := by omega
  rw [hn] at hv h1
  subst hv
  clear h hz hla hks hne hn hsz0
  simp only [setB, set6, St.a, St.zero] at hcall ⊢
  have hbw : b ≠ w.heap.size := by omega
  have hwb : w.heap.size ≠ b := by omega
  go_enter Tryd.func13, Tryd.ntmps13
  go_wp2_with (go_at_call 37; refine hcall.mono ?_; clear hcall; rintro e w2 ⟨vb, vl, vc, rfl, g7, k7, hbl, hwl, ⟨z0, z1, z2, z3, z4, z5⟩, ⟨y0, y1, y2, y3, y4, y5⟩, e1, e2, e3, e4, e5, e6, HF⟩; try simp only at z0 z1 z2 z3 z4 z5)
  refine bodyPost_ret (results_ct (p := 2) (r := 3) (ty := 27) rfl _ _ w.heap.size 27 _ (0, 0) _ rfl HF.out.1 Tryd.underlying27 rfl (by kernel_rfl)) rfl ⟨rfl, _, HF.out.2.1, HF.out.2.2⟩
end Go.Proofs.YtfkimdgbkfogcaaDoor
