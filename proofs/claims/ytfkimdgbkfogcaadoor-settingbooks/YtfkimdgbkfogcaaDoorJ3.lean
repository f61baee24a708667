/- The document's Ack. -/
import Derived.Test.YtfkimdgbkfogcaaDoorJ2
namespace Go.Proofs.YtfkimdgbkfogcaaDoor
open Go.RowKit
set_option linter.unusedVariables false
set_option linter.unusedSimpArgs false

set_option maxRecDepth 100000 in
set_option maxHeartbeats 1000000 in
theorem rack_none (w : World) (r : Nat) (c : Bool) (sx : SV) (xs : List SV) (ls : List (List (Int × Int))) (h : Rb w r c sx xs ls ls.length) :
    Calls Tryd.prog 45 #[.pointer (some ⟨r, 0, none⟩)] w fun e w' => e = .returned (.tuple #[.agg St.zero.a, .bool false]) ∧ Below w.heap.size w w' := by
  obtain ⟨c0, c1, c2⟩ := h.cells
  obtain ⟨b, cap, rfl, h1, h2⟩ := h.slice
  have hrl := h.lt
  rw [h.len] at c1 h1
  obtain ⟨n, hn⟩ : ∃ n, ls.length = n := ⟨_, rfl⟩
  rw [hn] at c1 c2 h1
  simp only [sv] at c1
  clear h hn
  go_enter Tryd.func45, Tryd.ntmps45
  go_wp2_with fail
  go_region
  all_goals
    go_wp2_with fail
    refine bodyPost_ret (results_ct (p := 2) (r := 3) (ty := 27) rfl _ _ w.heap.size 27 St.zero.a (0, 0) _ rfl (heap_alloc_new _ _) Tryd.underlying27 rfl (by kernel_rfl)) rfl ⟨rfl, (bel1 _ _).drew⟩

set_option maxRecDepth 100000 in
set_option maxHeartbeats 4000000 in
theorem rack_some (w : World) (r : Nat) (c : Bool) (sx : SV) (xs : List SV) (ls : List (List (Int × Int))) (d : Nat) (h : Rb w r c sx xs ls d) (hd : d < ls.length) (hT : Top w) :
    Calls Tryd.prog 45 #[.pointer (some ⟨r, 0, none⟩)] w fun e w' => e = .returned (.tuple #[.agg (allS c (ls.take (d + 1))).a, .bool true]) ∧ Rb w' r c sx xs ls (d + 1) ∧ Ks (fun k => k = r) w w' := by
  obtain ⟨c0, c1, c2⟩ := h.cells
  have f2 := h.frozen 2
  have hrl := h.lt
  have hkr : ∀ u, Ks (fun k => k = r) w (w.setCell ⟨r, 2, none⟩ u) := fun u => Ks.setCell _ w r 2 u rfl
  have hset : Rb (w.setCell ⟨r, 2, none⟩ (.int .i64 ((d + 1 : Nat) : Int))) r c sx xs ls (d + 1) := by
    have hk := hkr (.int .i64 ((d + 1 : Nat) : Int))
    refine ⟨setCell_block _ _ _ _ _ _ _ h.blk, h.row.stays fun k e hl => hk.block k hl fun e2 => ?_, h.len, fun i hi => (h.lists i hi).stays fun k e hl => hk.block k hl fun e2 => ?_, by omega⟩
    · obtain ⟨cs, hc⟩ := h.row.ty k e
      rw [e2, h.blk] at hc
      simp [EL] at hc
    · obtain ⟨cs, hc⟩ := (h.lists i hi).ty k e
      rw [e2, h.blk] at hc
      simp [EP] at hc
  have hT1 : Top (w.setCell ⟨r, 2, none⟩ (.int .i64 ((d + 1 : Nat) : Int))) := by
    obtain ⟨t, ht⟩ := hT
    refine ⟨t, ((hkr _).block 1 (heap_lt ht) fun e => ?_).trans ht⟩
    have := h.blk
    rw [← e, ht] at this
    simp [St.a, St.top] at this
  obtain ⟨a, ha⟩ : ∃ a, allS c (ls.take (d + 1)) = a := ⟨_, rfl⟩
  have hsz : (w.setCell ⟨r, 2, none⟩ (.int .i64 ((d + 1 : Nat) : Int))).heap.size = w.heap.size := by simp [World.setCell]
  have hcall : Calls Tryd.prog 34 #[.pointer (some ⟨r, 0, none⟩)] ((w.setCell ⟨r, 2, none⟩ (.int .i64 ((d + 1 : Nat) : Int))).alloc (.cells St.zero.a 27)).drew fun e w1 => e = .returned (.agg a.a) ∧ C6 w1 w.heap.size St.zero ∧ F6 w1 w.heap.size ∧ Hid ((set6 w1 w.heap.size a).heap[w.heap.size]? = some (.cells a.a 27 (0, 0)) ∧ Rb (set6 w1 w.heap.size a) r c sx xs ls (d + 1) ∧ Ks (fun k => k = r) w (set6 w1 w.heap.size a)) := by
    generalize hWw : w.setCell ⟨r, 2, none⟩ (.int .i64 ((d + 1 : Nat) : Int)) = W0 at hset hT1 hsz
    have hk0 : Ks (fun k => k = r) w W0 := by rw [← hWw]; exact hkr _
    have hbd : Below W0.heap.size W0 (W0.alloc (.cells St.zero.a 27)).drew := (bel1 _ _).drew
    have hz : (W0.alloc (.cells St.zero.a 27)).drew.heap[w.heap.size]? = some (.cells St.zero.a 27 (0, 0)) := by rw [← hsz]; exact heap_alloc_new W0 _
    refine (racked_any _ r c sx xs ls (d + 1) (hset.below hbd) (hT1.below hbd)).mono ?_
    rintro e w1 ⟨rfl, hb⟩
    have hz1 := (hb.block _ (heap_lt hz)).trans hz
    have hB1 := (hset.below hbd).below hb
    have hks := set6_ks w1 w.heap.size a
    refine ⟨by rw [ha], c6 hz1, f6 hz1, set6_blk _ hz1, ?_, ?_⟩
    · refine ⟨(hks.block _ hB1.lt fun e => by omega).trans hB1.blk, hB1.row.stays fun k e hl => hks.block k hl fun e2 => ?_, hB1.len, fun i hi => (hB1.lists i hi).stays fun k e hl => hks.block k hl fun e2 => ?_, hB1.done⟩
      · obtain ⟨cs, hc⟩ := hB1.row.ty k e
        rw [e2, hz1] at hc
        simp [EL] at hc
      · obtain ⟨cs, hc⟩ := (hB1.lists i hi).ty k e
        rw [e2, hz1] at hc
        simp [EP] at hc
    · refine ⟨hks.os.trans (hb.os.trans (hbd.os.trans hk0.os)), hks.tape.trans (hb.tape.trans (hbd.tape.trans hk0.tape)), hks.output.trans (hb.output.trans (hbd.output.trans hk0.output)), ?_, fun k hk hn => ?_⟩
      · rw [set6_size]
        have := heap_lt hz1
        omega
      · rw [set6_other _ _ _ _ (by omega), hb.block k (by have := heap_lt hz; omega), hbd.block k (by rw [hsz]; exact hk), hk0.block k hk hn]
  obtain ⟨b, cap, rfl, h1, h2⟩ := h.slice
  rw [h.len] at c1 h1
  obtain ⟨n, hn⟩ : ∃ n, ls.length = n := ⟨_, rfl⟩
  rw [hn] at c1 h1 hd
  simp only [sv] at c1
  have hdn : ¬ (n : Int) ≤ (d : Int) := by omega
  have hdb : decide ((n : Int) ≤ (d : Int)) = false := by simpa using hdn
  obtain ⟨a1, a2, a3, a4, a5, a6⟩ := a
  rw [ha]
  obtain ⟨D1, hD1⟩ : ∃ D1 : Int, ((d + 1 : Nat) : Int) = D1 := ⟨_, rfl⟩
  have hD2 : (d : Int) + 1 = D1 := by omega
  rw [hD1] at hcall
  simp only [St.a, set6, St.zero] at hcall ⊢
  clear h hset hT1 hT hkr hsz ha hn hD1
  go_enter Tryd.func45, Tryd.ntmps45
  go_wp2_with fail
  go_region
  all_goals
    go_wp2_with (go_at_call 34; refine hcall.mono ?_; rintro e w1 ⟨rfl, ⟨z0, z1, z2, z3, z4, z5⟩, ⟨y0, y1, y2, y3, y4, y5⟩, HF⟩)
    refine bodyPost_ret (results_ct (p := 2) (r := 3) (ty := 27) rfl _ _ w.heap.size 27 _ (0, 0) _ rfl HF.out.1 Tryd.underlying27 rfl (by kernel_rfl)) rfl ⟨rfl, HF.out.2⟩
end Go.Proofs.YtfkimdgbkfogcaaDoor
