/- the law's same, of responses alike. -/
import Derived.Test.YtacboeeimnikdaaDoorH4
namespace Go.Proofs.YtacboeeimnikdaaDoor
open Go.RowKit Go.Maps
open Go.Shelf
set_option linter.unusedVariables false
set_option linter.unusedSimpArgs false

theorem slice_len {α : Type} {E : El α} {w : World} {b : Option Addr} {n c : Nat} {l : List α} (h : In E w (.slice b n c) l) : n = l.length ∧ l.length ≤ c ∧ c ≤ 9223372036854775807 := by
  obtain ⟨_, _, e, q1, q2⟩ := h.slice
  injection e with _ e1 e2
  subst e2
  exact ⟨e1, q1, q2⟩
theorem beq_l8 (a : List UInt8) : (a == a) = true := by simp
set_option maxHeartbeats 4000000 in
set_option maxRecDepth 100000 in
theorem same_eq (n : Int) (b : ByteArray) (s t : SV) (l : List Fd) (w : World) (hI : In EFd w (sv s) l) (hJ : In EFd w (sv t) l) :
    Calls Tryd.prog 20 #[.agg (rsv n (sv s) b), .agg (rsv n (sv t) b)] w fun e w' => e = .returned (.bool true) ∧ Below w.heap.size w w' := by
  have HI : Hid (In EFd w (sv s) l) := hI
  have HJ : Hid (In EFd w (sv t) l) := hJ
  obtain ⟨sb, sl, sc⟩ := s
  obtain ⟨tb, tl, tc⟩ := t
  obtain ⟨e1, e2, e3⟩ := slice_len hI
  obtain ⟨f1, f2, f3⟩ := slice_len hJ
  subst e1 f1
  unfold rsv
  simp only [sv] at HI HJ ⊢
  clear hI hJ
  obtain ⟨W0, hW0⟩ : ∃ W0, W0 = (w.alloc (.cells #[.int .i64 n, .slice sb l.length sc, .string b] 37)).alloc (.cells #[.int .i64 n, .slice tb l.length tc, .string b] 37) := ⟨_, rfl⟩
  have HB0 : Hid (Below w.heap.size w W0) := by rw [hW0]; exact bel2 _ _ _
  obtain ⟨n0, hn0⟩ : ∃ n0, n0 = w.heap.size := ⟨_, rfl⟩
  obtain ⟨n1, hn1⟩ : ∃ n1, n1 = w.heap.size + 1 := ⟨_, rfl⟩
  have HF0 : Hid (W0.heap[n0]? = some (.cells #[.int .i64 n, .slice sb l.length sc, .string b] 37 (0, 0))) := by
    show _ = _
    rw [hW0, hn0, heap_al, if_neg (by simp), heap_al, if_pos (by simp)]
  have HF1 : Hid (W0.heap[n1]? = some (.cells #[.int .i64 n, .slice tb l.length tc, .string b] 37 (0, 0))) := by
    show _ = _
    rw [hW0, hn1, heap_al, if_pos (by simp)]
  have a0 := cell_blk HF0.out 0
  have a1 := cell_blk HF0.out 1
  have a2 := cell_blk HF0.out 2
  have b0 := cell_blk HF1.out 0
  have b1 := cell_blk HF1.out 1
  have b2 := cell_blk HF1.out 2
  simp at a0 a1 a2 b0 b1 b2
  have hbb := beq_l8 b.toList
  go_enter Tryd.func20, Tryd.ntmps20
  go_upto_region 1 with fail
  rw [← hW0, ← hn1, ← hn0]
  clear hW0 hn0 hn1
  go_wp2_with fail
  clear a0 a1 a2 b0 b1 b2
  go_loopw [5] (fun iv wr => ∃ k : Nat, iv = .int .i64 (k : Int) ∧ k ≤ l.length ∧ Hid (Below W0.heap.size W0 wr)) (fun iv _ => l.length - (intOf iv).toNat)
  case atStart => exact ⟨0, rfl, by omega, Below.refl _ _⟩
  case round =>
    obtain ⟨k, rfl, hk, hb⟩ := hrel
    have a1 := cell_blk ((hb.out.block _ (heap_lt HF0.out)).trans HF0.out) 1
    have b1 := cell_blk ((hb.out.block _ (heap_lt HF1.out)).trans HF1.out) 1
    simp at a1 b1
    have hbw : Below w.heap.size w wr := HB0.out.trans (hb.out.mono HB0.out.size)
    by_cases hlt : k < l.length
    · obtain ⟨Bk, off, cap, e, hBk, hc⟩ := HI.out.get okFd k hlt
      injection e with e1 e2 e3
      clear e2 e3
      subst e1
      obtain ⟨Bj, off', cap', e, hBj, hc'⟩ := HJ.out.get okFd k hlt
      injection e with e1 e2 e3
      clear e2 e3
      subst e1
      have hlt' : (k : Int) < (l.length : Int) := by omega
      obtain ⟨x, hx⟩ : ∃ x, l[k] = x := ⟨_, rfl⟩
      rw [hx] at hc hc'
      obtain ⟨xn, xv, xb⟩ := x
      have c0 := (hbw.cell (p := ⟨Bk, off + k * 3 + 0, none⟩) hBk).trans (hc 0 (.string xn) rfl)
      have c1 := (hbw.cell (p := ⟨Bk, off + k * 3 + 1, none⟩) hBk).trans (hc 1 (.string xv) rfl)
      have c2 := (hbw.cell (p := ⟨Bk, off + k * 3 + 2, none⟩) hBk).trans (hc 2 (.bool xb) rfl)
      have d0 := (hbw.cell (p := ⟨Bj, off' + k * 3 + 0, none⟩) hBj).trans (hc' 0 (.string xn) rfl)
      have d1 := (hbw.cell (p := ⟨Bj, off' + k * 3 + 1, none⟩) hBj).trans (hc' 1 (.string xv) rfl)
      have d2 := (hbw.cell (p := ⟨Bj, off' + k * 3 + 2, none⟩) hBj).trans (hc' 2 (.bool xb) rfl)
      simp only [Nat.add_zero] at c0 d0
      clear hx hc hc' hbw
      go_wp2_with fail
      go_quiet (fail)
      go_wp2_with fail
      go_roundw
      case rel => exact ⟨k + 1, by simp, by omega, below_drewN hb.out _⟩
      case measure => simp [intOf]; omega
    · obtain rfl : k = l.length := by omega
      have hlt' : ¬ (l.length : Int) < (l.length : Int) := by omega
      have HBW : Hid (Below w.heap.size w wr) := hbw
      clear hbw
      go_wp2_with fail
      go_ret
      exact ⟨rfl, HBW.out⟩
end Go.Proofs.YtacboeeimnikdaaDoor
