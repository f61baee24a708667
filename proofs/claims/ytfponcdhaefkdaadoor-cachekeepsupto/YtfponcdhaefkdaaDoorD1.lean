/- The law's sameInts, sameFields, same, of what is alike. -/
import Derived.Test.YtfponcdhaefkdaaDoorCe
import Derived.BigQuiet
import Derived.Deep.QuietTactic
namespace Go.Proofs.YtfponcdhaefkdaaDoor
open Go.RowKit
set_option linter.unusedVariables false
set_option linter.unusedSimpArgs false
theorem beq_l8 (a : List UInt8) : (a == a) = true := by simp
set_option maxHeartbeats 4000000 in
set_option maxRecDepth 100000 in
theorem sameInts_eq (s t : SV) (l : List Int) (w : World) (hI : In EI w (sv s) l) (hJ : In EI w (sv t) l) :
    Calls Tryd.prog 16 #[sv s, sv t] w fun e w' => e = .returned (.bool true) ∧ Below w.heap.size w w' := by
  have HI : Hid (In EI w (sv s) l) := hI
  have HJ : Hid (In EI w (sv t) l) := hJ
  obtain ⟨sb, sl, sc⟩ := s
  obtain ⟨tb, tl, tc⟩ := t
  obtain ⟨e1, e2, e3⟩ := slice_len hI
  obtain ⟨f1, f2, f3⟩ := slice_len hJ
  subst e1 f1
  simp only [sv] at HI HJ ⊢
  clear hI hJ
  go_enter Tryd.func16, Tryd.ntmps16
  go_wp2_with fail
  go_loopw [5] (fun iv wr => ∃ k : Nat, iv = .int .i64 (k : Int) ∧ k ≤ l.length ∧ Hid (Below w.heap.size w wr)) (fun iv _ => l.length - (intOf iv).toNat)
  case atStart => exact ⟨0, rfl, by omega, Below.refl _ _⟩
  case round =>
    obtain ⟨k, rfl, hk, hb⟩ := hrel
    by_cases hlt : k < l.length
    · obtain ⟨Bk, off, cap, e, hc⟩ := HI.out.int k hlt
      injection e with e1 e2 e3
      clear e2 e3
      subst e1
      obtain ⟨Bj, off', cap', e, hc'⟩ := HJ.out.int k hlt
      injection e with e1 e2 e3
      clear e2 e3
      subst e1
      have l1 : (k : Int) < (l.length : Int) := by omega
      have c0 := hc wr hb.out
      have d0 := hc' wr hb.out
      obtain ⟨x, hx⟩ : ∃ x, l[k] = x := ⟨_, rfl⟩
      rw [hx] at c0 d0
      clear hc hc' hx
      go_wp2_with fail
      go_region
      all_goals
        go_wp2_with fail
        go_roundw
        case rel => exact ⟨k + 1, by simp, by omega, hb.out.drew⟩
        case measure => simp [intOf]; omega
    · have l1 : ¬ (k : Int) < (l.length : Int) := by omega
      go_wp2_with fail
      go_ret
      exact ⟨rfl, hb.out⟩
set_option maxHeartbeats 4000000 in
set_option maxRecDepth 100000 in
theorem sameFields_eq (s t : SV) (l : List Fd) (w : World) (hI : In EFd w (sv s) l) (hJ : In EFd w (sv t) l) :
    Calls Tryd.prog 42 #[sv s, sv t] w fun e w' => e = .returned (.bool true) ∧ Below w.heap.size w w' := by
  have HI : Hid (In EFd w (sv s) l) := hI
  have HJ : Hid (In EFd w (sv t) l) := hJ
  obtain ⟨sb, sl, sc⟩ := s
  obtain ⟨tb, tl, tc⟩ := t
  obtain ⟨e1, e2, e3⟩ := slice_len hI
  obtain ⟨f1, f2, f3⟩ := slice_len hJ
  subst e1 f1
  simp only [sv] at HI HJ ⊢
  clear hI hJ
  go_enter Tryd.func42, Tryd.ntmps42
  go_wp2_with fail
  go_loopw [5] (fun iv wr => ∃ k : Nat, iv = .int .i64 (k : Int) ∧ k ≤ l.length ∧ Hid (Below w.heap.size w wr)) (fun iv _ => l.length - (intOf iv).toNat)
  case atStart => exact ⟨0, rfl, by omega, Below.refl _ _⟩
  case round =>
    obtain ⟨k, rfl, hk, hb⟩ := hrel
    by_cases hlt : k < l.length
    · obtain ⟨Bk, off, cap, e, hc⟩ := HI.out.fd k hlt
      injection e with e1 e2 e3
      clear e2 e3
      subst e1
      obtain ⟨Bj, off', cap', e, hc'⟩ := HJ.out.fd k hlt
      injection e with e1 e2 e3
      clear e2 e3
      subst e1
      have l1 : (k : Int) < (l.length : Int) := by omega
      obtain ⟨c0, c1, c2⟩ := hc wr hb.out
      obtain ⟨d0, d1, d2⟩ := hc' wr hb.out
      obtain ⟨x, hx⟩ : ∃ x, l[k] = x := ⟨_, rfl⟩
      rw [hx] at c0 c1 c2 d0 d1 d2
      obtain ⟨xn, xv, xb⟩ := x
      simp only at c0 c1 c2 d0 d1 d2
      clear hc hc' hx
      go_wp2_with fail
      go_quiet (fail)
      go_wp2_with fail
      go_roundw
      case rel => exact ⟨k + 1, by simp, by omega, below_drewN hb.out _⟩
      case measure => simp [intOf]; omega
    · have l1 : ¬ (k : Int) < (l.length : Int) := by omega
      go_wp2_with fail
      go_ret
      exact ⟨rfl, hb.out⟩
set_option maxHeartbeats 4000000 in
set_option maxRecDepth 100000 in
theorem same_eq (n : Int) (b : ByteArray) (s t : SV) (l : List Fd) (w : World) (hI : In EFd w (sv s) l) (hJ : In EFd w (sv t) l) :
    Calls Tryd.prog 15 #[.agg (rsv n (sv s) b), .agg (rsv n (sv t) b)] w fun e w' => e = .returned (.bool true) ∧ Below w.heap.size w w' := by
  obtain ⟨W, hW⟩ : ∃ W, (w.alloc (.cells (rsv n (sv s) b) 26)).alloc (.cells (rsv n (sv t) b) 26) = W := ⟨_, rfl⟩
  obtain ⟨n0, hn0⟩ : ∃ k, w.heap.size = k := ⟨_, rfl⟩
  obtain ⟨n1, hn1⟩ : ∃ k, n0 + 1 = k := ⟨_, rfl⟩
  have hb : Below w.heap.size w W := by rw [← hW]; exact bel2 _ _ _
  have HB : Hid (Below w.heap.size w W) := hb
  have h0 : W.heap[n0]? = some (.cells (rsv n (sv s) b) 26 (0, 0)) := by rw [← hW, ← hn0, heap_al, if_neg (by simp), heap_al, if_pos rfl]
  have h1 : W.heap[n1]? = some (.cells (rsv n (sv t) b) 26 (0, 0)) := by rw [← hW, ← hn1, ← hn0]; exact fresh2 _ _ _
  have HF : Hid (Calls Tryd.prog 42 #[sv s, sv t] W fun e w' => e = .returned (.bool true) ∧ Below W.heap.size W w') := sameFields_eq s t l W (hI.below hb) (hJ.below hb)
  have a0 := cell_blk h0 0
  have a1 := cell_blk h0 1
  have a2 := cell_blk h0 2
  have b0 := cell_blk h1 0
  have b1 := cell_blk h1 1
  have b2 := cell_blk h1 2
  have lg := heap_lt h0
  have lh := heap_lt h1
  obtain ⟨sb, sl, sc⟩ := s
  obtain ⟨tb, tl, tc⟩ := t
  simp only [rsv, List.getElem?_toArray, List.getElem?_cons_succ, List.getElem?_cons_zero, sv] at a0 a1 a2 b0 b1 b2 hW HF ⊢
  have hbb := beq_l8 b.toList
  clear hI hJ hb h0 h1
  go_enter Tryd.func15, Tryd.ntmps15
  go_wp2_with fail
  try rw [hW]
  try rw [hn0]
  try rw [hn1]
  go_at_call 42
  refine HF.out.mono ?_
  rintro e V ⟨rfl, hbV⟩
  have HBV : Hid (Below w.heap.size w V) := HB.out.trans (hbV.mono HB.out.size)
  clear hbV HF a0 a1 a2 b0 b1 b2 hW hn0 hn1
  go_wp2_with fail
  go_ret
  exact ⟨rfl, HBV.out⟩
end Go.Proofs.YtfponcdhaefkdaaDoor
