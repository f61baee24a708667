/- The reader: set, conf's, target. -/
import Derived.Test.YtghppkfopglgaaaGreatDoorKai
namespace Go.Proofs.YtghppkfopglgaaaGreatDoor
open Go.RowKit
set_option linter.unusedVariables false
set_option linter.unusedSimpArgs false
theorem Kr.grow {gr g0 : Nat} {w W W' : World} (h : Kr gr w W) (k : Ks (fun k => k = g0) W W') (hg : w.heap.size ≤ g0) : Kr gr w W' := h.trans k (fun _ _ h => h) (fun i hi e => by omega)
theorem Ks.then_set {g0 i : Nat} {v : Value} {W V : World} (h : Ks (fun k => k = g0) W V) : Ks (fun k => k = g0) W (V.setCell ⟨g0, i, none⟩ v) := h.trans (Ks.setCell (fun k => k = g0) V g0 i v rfl) (fun _ _ h => h) (fun _ _ h => h)
theorem rd_end {gr bw g0 : Nat} {r : Rd} {w W W' : World} (h : RdS gr bw r W) (k : Kr gr w W) (n1 : gr ≠ g0) (n2 : bw ≠ g0) (g8 : 8 ≤ g0) (hg : w.heap.size ≤ g0) (hk : Ks (fun k => k = g0) W W') : RdS gr bw r W' ∧ Kr gr w W' := ⟨h.off n1 n2 g8 hk, k.grow hk hg⟩
def siA (x : Si) : Array Value := #[.int .i64 x.t, .int .i64 x.p, .int .i64 x.s, .int .i64 x.w, .int .i64 x.f, .int .i64 x.l]
def tgA (x : Tg) : Array Value := #[.string x.a, .string x.p]
set_option maxRecDepth 100000 in
set_option maxHeartbeats 8000000 in
theorem target_any (gr bw : Nat) (r : Rd) (w : World) (h : RdS gr bw r w) : Calls Tryz.prog 108 #[.pointer (some ⟨gr, 0, none⟩)] w fun e w' => e = .returned (.agg (tgA r.tg.1)) ∧ RdS gr bw (r.tg.2) w' ∧ Kr gr w w' := by
  have HN := hid (number_r gr bw)
  have HT := hid (text_any gr bw)
  obtain ⟨g0, hg0⟩ : ∃ g0, w.heap.size = g0 := ⟨_, rfl⟩
  obtain ⟨W0, hW0⟩ : ∃ W0, w.alloc (.cells #[.string ⟨#[]⟩, .string ⟨#[]⟩] 61) = W0 := ⟨_, rfl⟩
  have b0 : Below w.heap.size w W0 := by rw [← hW0]; exact bel1 _ _
  have q0 : W0.heap[g0]? = some (.cells #[.string ⟨#[]⟩, .string ⟨#[]⟩] 61 (0, 0)) := by rw [← hW0, heap_al, if_pos hg0.symm]
  have hne : gr ≠ g0 := by have := h.lt; omega
  have hnb : bw ≠ g0 := by have := h.lb; omega
  have h8 : 8 ≤ g0 := by have := h.lt; have := h.g8; omega
  have K0 : Hid (RdS gr bw r W0 ∧ Kr gr w W0 ∧ W0.heap[g0]? = some (.cells #[.string ⟨#[]⟩, .string ⟨#[]⟩] 61 (0, 0))) := hid ⟨h.below b0, Ks.of_below b0, q0⟩
  have hl0 := heap_lt q0
  clear h b0 q0
  go_enter Tryz.func108, Tryz.ntmps108
  go_wp2_with fail
  try rw [hg0]
  try rw [hW0]
  go_at_call 88
  refine (HT.out _ _ K0.out.1).mono ?_
  rintro e W1 ⟨rfl, hS, hK⟩
  have K1 : Hid (RdS gr bw ((r).nx 1).2 W1 ∧ Kr gr w W1 ∧ W1.heap[g0]? = some (.cells #[.string ⟨#[]⟩, .string ⟨#[]⟩] 61 (0, 0))) := hid ⟨hS, Kr.tr K0.out.2.1 hK, (hK.block g0 (heap_lt K0.out.2.2) (fun e => hne e.symm)).trans K0.out.2.2⟩
  clear hS hK K0
  go_wp2_with fail
  go_at_call 88
  refine (HT.out _ _ K1.out.1).mono ?_
  rintro e W2 ⟨rfl, hS, hK⟩
  have K2 : Hid (RdS gr bw ((((r).nx 1).2).nx 1).2 W2 ∧ Kr gr w W2 ∧ W2.heap[g0]? = some (.cells #[.string ⟨#[]⟩, .string ⟨#[]⟩] 61 (0, 0))) := hid ⟨hS, Kr.tr K1.out.2.1 hK, (hK.block g0 (heap_lt K1.out.2.2) (fun e => hne e.symm)).trans K1.out.2.2⟩
  clear hS hK K1
  have c0 := cell_blk K2.out.2.2
  have f0 := frozen_blk K2.out.2.2
  have hl := heap_lt K2.out.2.2
  have hw := K2.out.2.2
  go_wp2_with fail
  refine bodyPost_ret (results_cell_row (p := 2) (ty := 61) rfl _ _ g0 61 _ (0, 0) _ rfl (setCell_block _ _ _ _ _ _ _ (setCell_block _ _ _ _ _ _ _ (K2.out.2.2))) Tryz.underlying61 rfl (by kernel_rfl)) rfl ?_
  refine ⟨rfl, rd_end K2.out.1 K2.out.2.1 hne hnb h8 (by omega) ?_⟩
  repeat (first | exact Ks.refl _ _ | refine Ks.then_set ?_)
set_option maxRecDepth 100000 in
set_option maxHeartbeats 8000000 in
theorem set_any (gr bw : Nat) (r : Rd) (w : World) (h : RdS gr bw r w) : Calls Tryz.prog 84 #[.pointer (some ⟨gr, 0, none⟩)] w fun e w' => e = .returned (.agg (siA r.si.1)) ∧ RdS gr bw (r.si.2) w' ∧ Kr gr w w' := by
  have HN := hid (number_r gr bw)
  have HT := hid (text_any gr bw)
  obtain ⟨g0, hg0⟩ : ∃ g0, w.heap.size = g0 := ⟨_, rfl⟩
  obtain ⟨W0, hW0⟩ : ∃ W0, w.alloc (.cells #[.int .i64 0, .int .i64 0, .int .i64 0, .int .i64 0, .int .i64 0, .int .i64 0] 36) = W0 := ⟨_, rfl⟩
  have b0 : Below w.heap.size w W0 := by rw [← hW0]; exact bel1 _ _
  have q0 : W0.heap[g0]? = some (.cells #[.int .i64 0, .int .i64 0, .int .i64 0, .int .i64 0, .int .i64 0, .int .i64 0] 36 (0, 0)) := by rw [← hW0, heap_al, if_pos hg0.symm]
  have hne : gr ≠ g0 := by have := h.lt; omega
  have hnb : bw ≠ g0 := by have := h.lb; omega
  have h8 : 8 ≤ g0 := by have := h.lt; have := h.g8; omega
  have K0 : Hid (RdS gr bw r W0 ∧ Kr gr w W0 ∧ W0.heap[g0]? = some (.cells #[.int .i64 0, .int .i64 0, .int .i64 0, .int .i64 0, .int .i64 0, .int .i64 0] 36 (0, 0))) := hid ⟨h.below b0, Ks.of_below b0, q0⟩
  have hl0 := heap_lt q0
  clear h b0 q0
  go_enter Tryz.func84, Tryz.ntmps84
  go_wp2_with fail
  try rw [hg0]
  try rw [hW0]
  go_at_call 62
  refine (HN.out _ _ K0.out.1).mono ?_
  rintro e W1 ⟨rfl, hS, hK⟩
  have K1 : Hid (RdS gr bw (r).nu.2 W1 ∧ Kr gr w W1 ∧ W1.heap[g0]? = some (.cells #[.int .i64 0, .int .i64 0, .int .i64 0, .int .i64 0, .int .i64 0, .int .i64 0] 36 (0, 0))) := hid ⟨hS, Kr.tr K0.out.2.1 hK, (hK.block g0 (heap_lt K0.out.2.2) (fun e => hne e.symm)).trans K0.out.2.2⟩
  clear hS hK K0
  go_wp2_with fail
  go_at_call 62
  refine (HN.out _ _ K1.out.1).mono ?_
  rintro e W2 ⟨rfl, hS, hK⟩
  have K2 : Hid (RdS gr bw ((r).nu.2).nu.2 W2 ∧ Kr gr w W2 ∧ W2.heap[g0]? = some (.cells #[.int .i64 0, .int .i64 0, .int .i64 0, .int .i64 0, .int .i64 0, .int .i64 0] 36 (0, 0))) := hid ⟨hS, Kr.tr K1.out.2.1 hK, (hK.block g0 (heap_lt K1.out.2.2) (fun e => hne e.symm)).trans K1.out.2.2⟩
  clear hS hK K1
  go_wp2_with fail
  go_at_call 62
  refine (HN.out _ _ K2.out.1).mono ?_
  rintro e W3 ⟨rfl, hS, hK⟩
  have K3 : Hid (RdS gr bw (((r).nu.2).nu.2).nu.2 W3 ∧ Kr gr w W3 ∧ W3.heap[g0]? = some (.cells #[.int .i64 0, .int .i64 0, .int .i64 0, .int .i64 0, .int .i64 0, .int .i64 0] 36 (0, 0))) := hid ⟨hS, Kr.tr K2.out.2.1 hK, (hK.block g0 (heap_lt K2.out.2.2) (fun e => hne e.symm)).trans K2.out.2.2⟩
  clear hS hK K2
  go_wp2_with fail
  go_at_call 62
  refine (HN.out _ _ K3.out.1).mono ?_
  rintro e W4 ⟨rfl, hS, hK⟩
  have K4 : Hid (RdS gr bw ((((r).nu.2).nu.2).nu.2).nu.2 W4 ∧ Kr gr w W4 ∧ W4.heap[g0]? = some (.cells #[.int .i64 0, .int .i64 0, .int .i64 0, .int .i64 0, .int .i64 0, .int .i64 0] 36 (0, 0))) := hid ⟨hS, Kr.tr K3.out.2.1 hK, (hK.block g0 (heap_lt K3.out.2.2) (fun e => hne e.symm)).trans K3.out.2.2⟩
  clear hS hK K3
  go_wp2_with fail
  go_at_call 62
  refine (HN.out _ _ K4.out.1).mono ?_
  rintro e W5 ⟨rfl, hS, hK⟩
  have K5 : Hid (RdS gr bw (((((r).nu.2).nu.2).nu.2).nu.2).nu.2 W5 ∧ Kr gr w W5 ∧ W5.heap[g0]? = some (.cells #[.int .i64 0, .int .i64 0, .int .i64 0, .int .i64 0, .int .i64 0, .int .i64 0] 36 (0, 0))) := hid ⟨hS, Kr.tr K4.out.2.1 hK, (hK.block g0 (heap_lt K4.out.2.2) (fun e => hne e.symm)).trans K4.out.2.2⟩
  clear hS hK K4
  go_wp2_with fail
  go_at_call 62
  refine (HN.out _ _ K5.out.1).mono ?_
  rintro e W6 ⟨rfl, hS, hK⟩
  have K6 : Hid (RdS gr bw ((((((r).nu.2).nu.2).nu.2).nu.2).nu.2).nu.2 W6 ∧ Kr gr w W6 ∧ W6.heap[g0]? = some (.cells #[.int .i64 0, .int .i64 0, .int .i64 0, .int .i64 0, .int .i64 0, .int .i64 0] 36 (0, 0))) := hid ⟨hS, Kr.tr K5.out.2.1 hK, (hK.block g0 (heap_lt K5.out.2.2) (fun e => hne e.symm)).trans K5.out.2.2⟩
  clear hS hK K5
  have c0 := cell_blk K6.out.2.2
  have f0 := frozen_blk K6.out.2.2
  have hl := heap_lt K6.out.2.2
  have hw := K6.out.2.2
  go_wp2_with fail
  refine bodyPost_ret (results_cell_row (p := 2) (ty := 36) rfl _ _ g0 36 _ (0, 0) _ rfl (setCell_block _ _ _ _ _ _ _ (setCell_block _ _ _ _ _ _ _ (setCell_block _ _ _ _ _ _ _ (setCell_block _ _ _ _ _ _ _ (setCell_block _ _ _ _ _ _ _ (setCell_block _ _ _ _ _ _ _ (K6.out.2.2))))))) Tryz.underlying36 rfl (by kernel_rfl)) rfl ?_
  refine ⟨rfl, rd_end K6.out.1 K6.out.2.1 hne hnb h8 (by omega) ?_⟩
  repeat (first | exact Ks.refl _ _ | refine Ks.then_set ?_)
set_option maxRecDepth 100000 in
set_option maxHeartbeats 8000000 in
theorem conf_any (gr bw : Nat) (r : Rd) (w : World) (h : RdS gr bw r w) : Calls Tryz.prog 85 #[.pointer (some ⟨gr, 0, none⟩)] w fun e w' => e = .returned (.agg #[.int .i64 r.nu.1, .int .i64 r.nu.2.nu.1, .int .i64 r.nu.2.nu.2.nu.1, .int .i64 r.nu.2.nu.2.nu.2.nu.1]) ∧ RdS gr bw (r.nu.2.nu.2.nu.2.nu.2) w' ∧ Kr gr w w' := by
  have HN := hid (number_r gr bw)
  have HT := hid (text_any gr bw)
  obtain ⟨g0, hg0⟩ : ∃ g0, w.heap.size = g0 := ⟨_, rfl⟩
  obtain ⟨W0, hW0⟩ : ∃ W0, w.alloc (.cells #[.int .i64 0, .int .i64 0, .int .i64 0, .int .i64 0] 40) = W0 := ⟨_, rfl⟩
  have b0 : Below w.heap.size w W0 := by rw [← hW0]; exact bel1 _ _
  have q0 : W0.heap[g0]? = some (.cells #[.int .i64 0, .int .i64 0, .int .i64 0, .int .i64 0] 40 (0, 0)) := by rw [← hW0, heap_al, if_pos hg0.symm]
  have hne : gr ≠ g0 := by have := h.lt; omega
  have hnb : bw ≠ g0 := by have := h.lb; omega
  have h8 : 8 ≤ g0 := by have := h.lt; have := h.g8; omega
  have K0 : Hid (RdS gr bw r W0 ∧ Kr gr w W0 ∧ W0.heap[g0]? = some (.cells #[.int .i64 0, .int .i64 0, .int .i64 0, .int .i64 0] 40 (0, 0))) := hid ⟨h.below b0, Ks.of_below b0, q0⟩
  have hl0 := heap_lt q0
  clear h b0 q0
  go_enter Tryz.func85, Tryz.ntmps85
  go_wp2_with fail
  try rw [hg0]
  try rw [hW0]
  go_at_call 62
  refine (HN.out _ _ K0.out.1).mono ?_
  rintro e W1 ⟨rfl, hS, hK⟩
  have K1 : Hid (RdS gr bw (r).nu.2 W1 ∧ Kr gr w W1 ∧ W1.heap[g0]? = some (.cells #[.int .i64 0, .int .i64 0, .int .i64 0, .int .i64 0] 40 (0, 0))) := hid ⟨hS, Kr.tr K0.out.2.1 hK, (hK.block g0 (heap_lt K0.out.2.2) (fun e => hne e.symm)).trans K0.out.2.2⟩
  clear hS hK K0
  go_wp2_with fail
  go_at_call 62
  refine (HN.out _ _ K1.out.1).mono ?_
  rintro e W2 ⟨rfl, hS, hK⟩
  have K2 : Hid (RdS gr bw ((r).nu.2).nu.2 W2 ∧ Kr gr w W2 ∧ W2.heap[g0]? = some (.cells #[.int .i64 0, .int .i64 0, .int .i64 0, .int .i64 0] 40 (0, 0))) := hid ⟨hS, Kr.tr K1.out.2.1 hK, (hK.block g0 (heap_lt K1.out.2.2) (fun e => hne e.symm)).trans K1.out.2.2⟩
  clear hS hK K1
  go_wp2_with fail
  go_at_call 62
  refine (HN.out _ _ K2.out.1).mono ?_
  rintro e W3 ⟨rfl, hS, hK⟩
  have K3 : Hid (RdS gr bw (((r).nu.2).nu.2).nu.2 W3 ∧ Kr gr w W3 ∧ W3.heap[g0]? = some (.cells #[.int .i64 0, .int .i64 0, .int .i64 0, .int .i64 0] 40 (0, 0))) := hid ⟨hS, Kr.tr K2.out.2.1 hK, (hK.block g0 (heap_lt K2.out.2.2) (fun e => hne e.symm)).trans K2.out.2.2⟩
  clear hS hK K2
  go_wp2_with fail
  go_at_call 62
  refine (HN.out _ _ K3.out.1).mono ?_
  rintro e W4 ⟨rfl, hS, hK⟩
  have K4 : Hid (RdS gr bw ((((r).nu.2).nu.2).nu.2).nu.2 W4 ∧ Kr gr w W4 ∧ W4.heap[g0]? = some (.cells #[.int .i64 0, .int .i64 0, .int .i64 0, .int .i64 0] 40 (0, 0))) := hid ⟨hS, Kr.tr K3.out.2.1 hK, (hK.block g0 (heap_lt K3.out.2.2) (fun e => hne e.symm)).trans K3.out.2.2⟩
  clear hS hK K3
  have c0 := cell_blk K4.out.2.2
  have f0 := frozen_blk K4.out.2.2
  have hl := heap_lt K4.out.2.2
  have hw := K4.out.2.2
  go_wp2_with fail
  refine bodyPost_ret (results_cell_row (p := 2) (ty := 40) rfl _ _ g0 40 _ (0, 0) _ rfl (setCell_block _ _ _ _ _ _ _ (setCell_block _ _ _ _ _ _ _ (setCell_block _ _ _ _ _ _ _ (setCell_block _ _ _ _ _ _ _ (K4.out.2.2))))) Tryz.underlying40 rfl (by kernel_rfl)) rfl ?_
  refine ⟨rfl, rd_end K4.out.1 K4.out.2.1 hne hnb h8 (by omega) ?_⟩
  repeat (first | exact Ks.refl _ _ | refine Ks.then_set ?_)
end Go.Proofs.YtghppkfopglgaaaGreatDoor
