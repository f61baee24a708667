/- A frame put into a talk's log. -/
import Derived.Test.YtfmljlflnpmceaaGreatDoorVa
import Derived.Test.YtfmljlflnpmceaaGreatDoorVu3
namespace Go.Proofs.YtfmljlflnpmceaaGreatDoor
open Go.RowKit
set_option linter.unusedVariables false
set_option linter.unusedSimpArgs false
/-- an entry without params -/
def e0 (e : Et) : Ec := ⟨e, none, 0, 0⟩
/-- a talk in memory: its log has these entries -/
structure Tk (w W : World) (b : Nat) (v : Value) (l : List Et) (nx pu : Int) : Prop where
  blk : W.heap[b]? = some (.cells #[v, .int .i64 nx, .int .i64 pu] 46 (0, 0))
  row : R EE W v (l.map e0)
  own : ∀ k, v.ownBlock = some k → w.heap.size ≤ k
  lo : w.heap.size ≤ b
  bel : Below w.heap.size w W
theorem Tk.below {w W V : World} {b : Nat} {v : Value} {l : List Et} {nx pu : Int} (h : Tk w W b v l nx pu) (hb : Below W.heap.size W V) : Tk w V b v l nx pu :=
  ⟨(hb.block _ (heap_lt h.blk)).trans h.blk, h.row.below hb, h.own, h.lo, h.bel.trans (hb.mono h.bel.size)⟩
theorem Tk.ne {w W : World} {b : Nat} {v : Value} {l : List Et} {nx pu : Int} (h : Tk w W b v l nx pu) {k : Nat} {cc : Array Value} {t : TypeId} {fz : Nat × Nat} (hk : W.heap[k]? = some (.cells cc t fz)) (ht : t ≠ 46) : k ≠ b := ty_ne hk h.blk ht
/-- frames in boxes stay -/
def K31 (w V : World) : Prop := ∀ (k : Nat) (cc : Array Value) (fz : Nat × Nat), w.heap[k]? = some (.cells cc 31 fz) → V.heap[k]? = some (.cells cc 31 fz)
/-- one entry more -/
theorem Tk.put {w W V : World} {b : Nat} {v u : Value} {l : List Et} {nx pu : Int} {e : Et} (h : Tk w W b v l nx pu) (hG : Gr W V v u) (hR : R EE V u (l.map e0 ++ [e0 e])) : (V.cell? ⟨b, 0, none⟩ = some v ∧ V.frozen? ⟨b, 0, none⟩ = false) ∧ Tk w (V.setCell ⟨b, 0, none⟩ u) b u (l ++ [e]) nx pu := by
  have hb : V.heap[b]? = some (.cells #[v, .int .i64 nx, .int .i64 pu] 46 (0, 0)) := (hG.block _ (heap_lt h.blk) fun e => by
    obtain ⟨cc, hc⟩ := h.row.ty _ e
    exact ty_ne h.blk hc (by decide) rfl).trans h.blk
  refine ⟨⟨cell_blk hb 0, frozen_blk hb 0⟩, ⟨?_, ?_, fun k hk => (hG.own k hk).elim (h.own k) fun e => Nat.le_trans h.bel.size e, h.lo, (hG.belowB h.bel.size h.own |> h.bel.trans).trans ((Ks.setCell (fun i => i = b) V b 0 _ rfl).below (Nat.le_trans h.bel.size hG.size) fun i hi e => ?_)⟩⟩
  · rw [setCell_block _ _ _ _ _ _ _ hb]
    rfl
  · rw [List.map_append]
    exact hR.stays fun k hk _ => setCell_other _ _ _ _ _ (by
      obtain ⟨cc, hc⟩ := hR.ty k hk
      exact ty_ne hc hb (by decide))
  · have := h.lo
    omega
set_option maxRecDepth 100000 in
set_option maxHeartbeats 8000000 in
theorem put_any (e : Et) (w0 w : World) (b : Nat) (v : Value) (l : List Et) (nx pu : Int) (h : Tk w0 w b v l nx pu) (hps : e.ps = []) (hl : l.length ≤ 268435456) :
    Calls Tryz.prog 17 #[.pointer (some ⟨b, 0, none⟩), .bool e.s, .agg (Fm.fv e.f (.slice none 0 0))] w fun r w' => r = .returned (.tuple #[]) ∧ ∃ u, Tk w0 w' b u (l ++ [e]) nx pu ∧ K31 w w' := by
  obtain ⟨es, ⟨ey, el, et, ed, ep, ee, eX, ew, ec, eL⟩, eps, en⟩ := e
  simp only at hps
  subst hps
  obtain ⟨vb, vc, hvs, hc1, hc2⟩ := h.row.slice
  rw [List.length_map] at hvs hc1
  obtain ⟨n, hn⟩ : ∃ n, l.length = n := ⟨_, rfl⟩
  rw [hn] at hvs hc1
  subst hvs
  have HLn : Hid (l.length = n ∧ l.length ≤ 268435456) := ⟨hn, hl⟩
  obtain ⟨W1, hW1⟩ : ∃ V, w.alloc (.cells #[.int .i64 ey, .int .i64 el, .int .i64 et, .string ed, .int .i64 ep, .int .i64 ee, .bool eX, .int .i64 ew, .int .i64 ec, .int .i64 eL, .slice none 0 0] 31) = V := ⟨_, rfl⟩
  obtain ⟨q, hq⟩ : ∃ q, w.heap.size = q := ⟨_, rfl⟩
  have b1 : Below w.heap.size w W1 := by rw [← hW1]; exact bel1 _ _
  have g1 : W1.heap[q]? = some (.cells #[.int .i64 ey, .int .i64 el, .int .i64 et, .string ed, .int .i64 ep, .int .i64 ee, .bool eX, .int .i64 ew, .int .i64 ec, .int .i64 eL, .slice none 0 0] 31 (0, 0)) := by rw [← hW1, ← hq, heap_al, if_pos rfl]
  have HJ : Hid (Tk w0 W1 b (.slice vb n vc) l nx pu ∧ W1.heap[q]? = some (.cells #[.int .i64 ey, .int .i64 el, .int .i64 et, .string ed, .int .i64 ep, .int .i64 ee, .bool eX, .int .i64 ew, .int .i64 ec, .int .i64 eL, .slice none 0 0] 31 (0, 0))) := ⟨h.below b1, g1⟩
  have hS : Hid (∀ V : World, V.heap[q]? = some (.cells #[.int .i64 ey, .int .i64 el, .int .i64 et, .string ed, .int .i64 ep, .int .i64 ee, .bool eX, .int .i64 ew, .int .i64 ec, .int .i64 eL, .slice none 0 0] 31 (0, 0)) → V.cell? ⟨q, 0, none⟩ = some (.int .i64 ey) ∧ V.cell? ⟨q, 1, none⟩ = some (.int .i64 el) ∧ V.cell? ⟨q, 2, none⟩ = some (.int .i64 et) ∧ V.cell? ⟨q, 3, none⟩ = some (.string ed) ∧ V.cell? ⟨q, 4, none⟩ = some (.int .i64 ep) ∧ V.cell? ⟨q, 5, none⟩ = some (.int .i64 ee) ∧ V.cell? ⟨q, 6, none⟩ = some (.bool eX) ∧ V.cell? ⟨q, 7, none⟩ = some (.int .i64 ew) ∧ V.cell? ⟨q, 8, none⟩ = some (.int .i64 ec) ∧ V.cell? ⟨q, 9, none⟩ = some (.int .i64 eL) ∧ V.cell? ⟨q, 10, none⟩ = some (.slice none 0 0)) := fun V h1 => ⟨cell_blk h1 0, cell_blk h1 1, cell_blk h1 2, cell_blk h1 3, cell_blk h1 4, cell_blk h1 5, cell_blk h1 6, cell_blk h1 7, cell_blk h1 8, cell_blk h1 9, cell_blk h1 10⟩
  have HM : Hid (K31 w W1.drew) := fun k cc fz hk => (b1.block k (heap_lt hk)).trans hk
  simp only [Fm.fv]
  clear h hn hl b1 g1 hc1 hc2
  go_enter Tryz.func17, Tryz.ntmps17
  go_upto_region 1 with fail
  try rw [hW1]
  try rw [hq]
  clear hW1 hq
  have hIW : Tk w0 W1.drew b (.slice vb n vc) l nx pu ∧ W1.drew.heap[q]? = some (.cells #[.int .i64 ey, .int .i64 el, .int .i64 et, .string ed, .int .i64 ep, .int .i64 ee, .bool eX, .int .i64 ew, .int .i64 ec, .int .i64 eL, .slice none 0 0] 31 (0, 0)) := ⟨HJ.out.1.below (Below.refl _ _).drew, HJ.out.2⟩
  refine wp_region_held_drew (S := (fun V => V.cell? ⟨q, 0, none⟩ = some (.int .i64 ey) ∧ V.cell? ⟨q, 1, none⟩ = some (.int .i64 el) ∧ V.cell? ⟨q, 2, none⟩ = some (.int .i64 et) ∧ V.cell? ⟨q, 3, none⟩ = some (.string ed) ∧ V.cell? ⟨q, 4, none⟩ = some (.int .i64 ep) ∧ V.cell? ⟨q, 5, none⟩ = some (.int .i64 ee) ∧ V.cell? ⟨q, 6, none⟩ = some (.bool eX) ∧ V.cell? ⟨q, 7, none⟩ = some (.int .i64 ew) ∧ V.cell? ⟨q, 8, none⟩ = some (.int .i64 ec) ∧ V.cell? ⟨q, 9, none⟩ = some (.int .i64 eL) ∧ V.cell? ⟨q, 10, none⟩ = some (.slice none 0 0))) (by kernel_rfl) (hS.out _ hIW.2) (fun hHeld => ?_)
  have mIW : K31 w W1.drew := HM.out
  generalize hWg : World.drew _ = W2 at hIW mIW hHeld ⊢
  clear hWg
  refine tkA (i := 0) (oi := ⟨some 6, .move (.tmp 0), 43, "honest.go:24", #[], none⟩) ?_
  try simp only [Act.put, lA, l0, lS]
  refine tkA (i := 1) (oi := ⟨some 7, .move (.tmp 0), 43, "honest.go:24", #[], none⟩) ?_
  try simp only [Act.put, lA, l0, lS]
  refine tkA (i := 2) (oi := ⟨some 8, .nilCheck (.tmp 7), 0, "honest.go:24", #[⟨1, .data⟩], none⟩) ?_
  try simp only [Act.put, lA, l0, lS]
  refine tkA (i := 3) (oi := ⟨some 9, .fieldAddr 46 (.tmp 8) 0, 0, "honest.go:24", #[⟨2, .data⟩], none⟩) ?_
  try simp only [Act.put, lA, l0, lS]
  refine tkA (i := 5) (oi := ⟨some 11, .move (.tmp 1), 4, "honest.go:24", #[], none⟩) ?_
  try simp only [Act.put, lA, l0, lS]
  refine tkA (i := 6) (oi := ⟨some 12, .load 31 (.tmp 5), 31, "honest.go:24", #[], none⟩) ?_
  try simp only [Act.put, lA, l0, lS]
  refine tkA (i := 7) (oi := ⟨some 13, .build 33 #[(0, .tmp 11), (1, .tmp 12)], 33, "honest.go:24", #[⟨5, .data⟩, ⟨6, .data⟩], none⟩) ?_
  try simp only [Act.put, lA, l0, lS]
  refine wpAnyH_ready (rs := [4, 8]) (by kernel_rfl) (by simp) ?_
  refine AllReadyH.cons (o := ⟨some 10, .load 22 (.tmp 9), 22, "honest.go:24", #[⟨3, .data⟩], none⟩) rfl (fun K hK => ?_) ?_
  · have cz := cell_blk hIW.1.blk 0
    simp only [List.getElem?_toArray, List.getElem?_cons_zero] at cz
    go_simp
    go_wp2_with fail
    refine hK.out _ _ (hS.out _ hIW.2) (fun hHeld => ?_)
    clear hK K cz
    try simp only [Act.put, lA, l0, lS]
    refine wpAnyH_ready (rs := [8]) (by kernel_rfl) (by simp) ?_
    refine AllReadyH.cons (o := ⟨some 14, .buildSlice 22 1 #[(0, .tmp 13)], 22, "honest.go:24", #[⟨7, .data⟩], none⟩) rfl (fun K hK => ?_) AllReadyH.nil
    obtain ⟨W2x, hV0⟩ : ∃ V, W2.alloc (.cells #[.bool es, .int .i64 ey, .int .i64 el, .int .i64 et, .string ed, .int .i64 ep, .int .i64 ee, .bool eX, .int .i64 ew, .int .i64 ec, .int .i64 eL, .slice none 0 0] 33) = V := ⟨_, rfl⟩
    obtain ⟨qv, hqv⟩ : ∃ q, W2.heap.size = q := ⟨_, rfl⟩
    have bX : Below W2.heap.size W2 W2x := by rw [← hV0]; exact bel1 _ _
    have hW2x : Tk w0 W2x b (.slice vb n vc) l nx pu ∧ W2x.heap[q]? = some (.cells #[.int .i64 ey, .int .i64 el, .int .i64 et, .string ed, .int .i64 ep, .int .i64 ee, .bool eX, .int .i64 ew, .int .i64 ec, .int .i64 eL, .slice none 0 0] 31 (0, 0)) := ⟨hIW.1.below bX, (bX.block _ (heap_lt hIW.2)).trans hIW.2⟩
    have gW2x : W2x.heap[qv]? = some (.cells #[.bool es, .int .i64 ey, .int .i64 el, .int .i64 et, .string ed, .int .i64 ep, .int .i64 ee, .bool eX, .int .i64 ew, .int .i64 ec, .int .i64 eL, .slice none 0 0] 33 (0, 0)) := by rw [← hV0, ← hqv, heap_al, if_pos rfl]
    have mW2x : K31 w W2x := fun k cc fz hk => (bX.block k (heap_lt (mIW k cc fz hk))).trans (mIW k cc fz hk)
    clear bX
    go_simp
    go_wp2_with fail
    try rw [hV0]
    try rw [hqv]
    refine hK.out _ _ (hS.out _ hW2x.2) (fun hHeld => ?_)
    clear hK K hV0 hqv
    try simp only [Act.put, lA, l0, lS]
    refine wpAnyH_ready (rs := [9]) (by kernel_rfl) (by simp) ?_
    refine AllReadyH.cons (o := ⟨some 15, .call { callee := Callee.builtin Builtin.append, args := #[.tmp 10, .tmp 14], argTypes := #[22, 22] }, 22, "honest.go:24", #[⟨4, .data⟩, ⟨8, .data⟩], none⟩) rfl (fun K hK => ?_) AllReadyH.nil
    obtain ⟨nb, nc, W2xx, hrun, hR3, hG3⟩ := app okEE _ _ _ hW2x.1.row (.slice (some ⟨qv, 0, none⟩) 1 1) [e0 ⟨es, ⟨ey, el, et, ed, ep, ee, eX, ew, ec, eL⟩, [], en⟩] (in_one _ qv _ _ 33 (0, 0) gW2x rfl) (by have := HLn.out; simp only [EE, List.length_cons, List.length_nil, List.length_map]; omega)
    simp only [List.length_cons, List.length_nil, Nat.zero_add, List.length_map, HLn.out.1] at hrun hR3 hG3
    have hSh := hW2x.1.put hG3 hR3
    have hW2xx : W2xx.heap[q]? = some (.cells #[.int .i64 ey, .int .i64 el, .int .i64 et, .string ed, .int .i64 ep, .int .i64 ee, .bool eX, .int .i64 ew, .int .i64 ec, .int .i64 eL, .slice none 0 0] 31 (0, 0)) := (hG3.block _ (heap_lt hW2x.2) fun e => by
      obtain ⟨cc, hcc⟩ := hW2x.1.row.ty _ e
      exact ty_ne hW2x.2 hcc (by decide) rfl).trans hW2x.2
    have nqW2xx : q ≠ b := hW2x.1.ne hW2x.2 (by decide)
    have mW2xx : K31 w W2xx := fun k cc fz hk => (hG3.block k (heap_lt (mW2x k cc fz hk)) fun e => by
      obtain ⟨cc', hcc⟩ := hW2x.1.row.ty _ e
      exact ty_ne (mW2x k cc fz hk) hcc (by decide) rfl).trans (mW2x k cc fz hk)
    have btW2xx : W2xx.heap[b]? = _ := (hG3.block b (heap_lt hW2x.1.blk) fun e => by
      obtain ⟨cc', hcc⟩ := hW2x.1.row.ty _ e
      exact ty_ne hW2x.1.blk hcc (by decide) rfl).trans hW2x.1.blk
    clear hR3 hG3
    simp only [EE] at hrun
    refine step_append_run rfl (.tmp 10) (.tmp 14) 22 22 rfl hrun rfl rfl ?_
    refine hK.out _ _ (hS.out _ hW2xx) (fun hHeld => ?_)
    clear hK K hrun
    try simp only [Act.put, lA, l0, lS]
    refine tkA (i := 10) (oi := ⟨some 16, .nilCheck (.tmp 6), 0, "honest.go:24", #[⟨0, .data⟩, ⟨0, .phase⟩, ⟨1, .phase⟩, ⟨2, .phase⟩, ⟨3, .phase⟩, ⟨4, .phase⟩, ⟨5, .phase⟩, ⟨6, .phase⟩, ⟨7, .phase⟩, ⟨8, .phase⟩, ⟨9, .phase⟩], none⟩) ?_
    try simp only [Act.put, lA, l0, lS]
    refine tkA (i := 11) (oi := ⟨some 17, .fieldAddr 46 (.tmp 16) 0, 0, "honest.go:24", #[⟨10, .data⟩, ⟨0, .phase⟩, ⟨1, .phase⟩, ⟨2, .phase⟩, ⟨3, .phase⟩, ⟨4, .phase⟩, ⟨5, .phase⟩, ⟨6, .phase⟩, ⟨7, .phase⟩, ⟨8, .phase⟩, ⟨9, .phase⟩], none⟩) ?_
    try simp only [Act.put, lA, l0, lS]
    refine wpAnyH_ready (rs := [12]) (by kernel_rfl) (by simp) ?_
    refine AllReadyH.cons (o := ⟨none, .store 22 (.tmp 17) (.tmp 15), 0, "honest.go:24", #[⟨11, .data⟩, ⟨9, .data⟩, ⟨9, .chain⟩, ⟨0, .phase⟩, ⟨1, .phase⟩, ⟨2, .phase⟩, ⟨3, .phase⟩, ⟨4, .phase⟩, ⟨5, .phase⟩, ⟨6, .phase⟩, ⟨7, .phase⟩, ⟨8, .phase⟩, ⟨9, .phase⟩], none⟩) rfl (fun K hK => ?_) AllReadyH.nil
    obtain ⟨W2xxx, hV0⟩ : ∃ V, W2xx.setCell ⟨b, 0, none⟩ (.slice nb (n + 1) nc) = V := ⟨_, rfl⟩
    have cz := hSh.1.1
    have fz := hSh.1.2
    have hW2xxx : W2xxx.heap[q]? = some (.cells #[.int .i64 ey, .int .i64 el, .int .i64 et, .string ed, .int .i64 ep, .int .i64 ee, .bool eX, .int .i64 ew, .int .i64 ec, .int .i64 eL, .slice none 0 0] 31 (0, 0)) := by
      rw [← hV0]
      exact (setCell_other _ _ _ _ _ nqW2xx).trans hW2xx
    have HZ : Hid (Tk w0 W2xxx b (.slice nb (n + 1) nc) (l ++ [⟨es, ⟨ey, el, et, ed, ep, ee, eX, ew, ec, eL⟩, [], en⟩]) nx pu ∧ K31 w W2xxx) := by
      rw [← hV0]
      exact ⟨hSh.2, fun k cc fz hk => (setCell_other _ _ _ _ _ (ty_ne (mW2xx k cc fz hk) btW2xx (by decide))).trans (mW2xx k cc fz hk)⟩
    go_simp
    go_wp2_with fail
    try rw [hV0]
    refine hK.out _ _ (hS.out _ hW2xxx) (fun hHeld => ?_)
    clear hK K hV0 fz cz
    try simp only [Act.put, lA, l0, lS]
    refine wpAnyH_done (by kernel_rfl) ?_ _
    clear hHeld hW2xxx hSh
    go_wp2_with fail
    first | go_end0 | (refine bodyPost_ret (results_none rfl _ _ _) rfl ?_)
    exact ⟨rfl, _, HZ.out.1, HZ.out.2⟩
  refine AllReadyH.cons (o := ⟨some 14, .buildSlice 22 1 #[(0, .tmp 13)], 22, "honest.go:24", #[⟨7, .data⟩], none⟩) rfl (fun K hK => ?_) AllReadyH.nil
  obtain ⟨W2x, hV0⟩ : ∃ V, W2.alloc (.cells #[.bool es, .int .i64 ey, .int .i64 el, .int .i64 et, .string ed, .int .i64 ep, .int .i64 ee, .bool eX, .int .i64 ew, .int .i64 ec, .int .i64 eL, .slice none 0 0] 33) = V := ⟨_, rfl⟩
  obtain ⟨qv, hqv⟩ : ∃ q, W2.heap.size = q := ⟨_, rfl⟩
  have bX : Below W2.heap.size W2 W2x := by rw [← hV0]; exact bel1 _ _
  have hW2x : Tk w0 W2x b (.slice vb n vc) l nx pu ∧ W2x.heap[q]? = some (.cells #[.int .i64 ey, .int .i64 el, .int .i64 et, .string ed, .int .i64 ep, .int .i64 ee, .bool eX, .int .i64 ew, .int .i64 ec, .int .i64 eL, .slice none 0 0] 31 (0, 0)) := ⟨hIW.1.below bX, (bX.block _ (heap_lt hIW.2)).trans hIW.2⟩
  have gW2x : W2x.heap[qv]? = some (.cells #[.bool es, .int .i64 ey, .int .i64 el, .int .i64 et, .string ed, .int .i64 ep, .int .i64 ee, .bool eX, .int .i64 ew, .int .i64 ec, .int .i64 eL, .slice none 0 0] 33 (0, 0)) := by rw [← hV0, ← hqv, heap_al, if_pos rfl]
  have mW2x : K31 w W2x := fun k cc fz hk => (bX.block k (heap_lt (mIW k cc fz hk))).trans (mIW k cc fz hk)
  clear bX
  go_simp
  go_wp2_with fail
  try rw [hV0]
  try rw [hqv]
  refine hK.out _ _ (hS.out _ hW2x.2) (fun hHeld => ?_)
  clear hK K hV0 hqv
  try simp only [Act.put, lA, l0, lS]
  refine wpAnyH_ready (rs := [4]) (by kernel_rfl) (by simp) ?_
  refine AllReadyH.cons (o := ⟨some 10, .load 22 (.tmp 9), 22, "honest.go:24", #[⟨3, .data⟩], none⟩) rfl (fun K hK => ?_) AllReadyH.nil
  have cz := cell_blk hW2x.1.blk 0
  simp only [List.getElem?_toArray, List.getElem?_cons_zero] at cz
  go_simp
  go_wp2_with fail
  refine hK.out _ _ (hS.out _ hW2x.2) (fun hHeld => ?_)
  clear hK K cz
  try simp only [Act.put, lA, l0, lS]
  refine wpAnyH_ready (rs := [9]) (by kernel_rfl) (by simp) ?_
  refine AllReadyH.cons (o := ⟨some 15, .call { callee := Callee.builtin Builtin.append, args := #[.tmp 10, .tmp 14], argTypes := #[22, 22] }, 22, "honest.go:24", #[⟨4, .data⟩, ⟨8, .data⟩], none⟩) rfl (fun K hK => ?_) AllReadyH.nil
  obtain ⟨nb, nc, W2xx, hrun, hR3, hG3⟩ := app okEE _ _ _ hW2x.1.row (.slice (some ⟨qv, 0, none⟩) 1 1) [e0 ⟨es, ⟨ey, el, et, ed, ep, ee, eX, ew, ec, eL⟩, [], en⟩] (in_one _ qv _ _ 33 (0, 0) gW2x rfl) (by have := HLn.out; simp only [EE, List.length_cons, List.length_nil, List.length_map]; omega)
  simp only [List.length_cons, List.length_nil, Nat.zero_add, List.length_map, HLn.out.1] at hrun hR3 hG3
  have hSh := hW2x.1.put hG3 hR3
  have hW2xx : W2xx.heap[q]? = some (.cells #[.int .i64 ey, .int .i64 el, .int .i64 et, .string ed, .int .i64 ep, .int .i64 ee, .bool eX, .int .i64 ew, .int .i64 ec, .int .i64 eL, .slice none 0 0] 31 (0, 0)) := (hG3.block _ (heap_lt hW2x.2) fun e => by
    obtain ⟨cc, hcc⟩ := hW2x.1.row.ty _ e
    exact ty_ne hW2x.2 hcc (by decide) rfl).trans hW2x.2
  have nqW2xx : q ≠ b := hW2x.1.ne hW2x.2 (by decide)
  have mW2xx : K31 w W2xx := fun k cc fz hk => (hG3.block k (heap_lt (mW2x k cc fz hk)) fun e => by
    obtain ⟨cc', hcc⟩ := hW2x.1.row.ty _ e
    exact ty_ne (mW2x k cc fz hk) hcc (by decide) rfl).trans (mW2x k cc fz hk)
  have btW2xx : W2xx.heap[b]? = _ := (hG3.block b (heap_lt hW2x.1.blk) fun e => by
    obtain ⟨cc', hcc⟩ := hW2x.1.row.ty _ e
    exact ty_ne hW2x.1.blk hcc (by decide) rfl).trans hW2x.1.blk
  clear hR3 hG3
  simp only [EE] at hrun
  refine step_append_run rfl (.tmp 10) (.tmp 14) 22 22 rfl hrun rfl rfl ?_
  refine hK.out _ _ (hS.out _ hW2xx) (fun hHeld => ?_)
  clear hK K hrun
  try simp only [Act.put, lA, l0, lS]
  refine tkA (i := 10) (oi := ⟨some 16, .nilCheck (.tmp 6), 0, "honest.go:24", #[⟨0, .data⟩, ⟨0, .phase⟩, ⟨1, .phase⟩, ⟨2, .phase⟩, ⟨3, .phase⟩, ⟨4, .phase⟩, ⟨5, .phase⟩, ⟨6, .phase⟩, ⟨7, .phase⟩, ⟨8, .phase⟩, ⟨9, .phase⟩], none⟩) ?_
  try simp only [Act.put, lA, l0, lS]
  refine tkA (i := 11) (oi := ⟨some 17, .fieldAddr 46 (.tmp 16) 0, 0, "honest.go:24", #[⟨10, .data⟩, ⟨0, .phase⟩, ⟨1, .phase⟩, ⟨2, .phase⟩, ⟨3, .phase⟩, ⟨4, .phase⟩, ⟨5, .phase⟩, ⟨6, .phase⟩, ⟨7, .phase⟩, ⟨8, .phase⟩, ⟨9, .phase⟩], none⟩) ?_
  try simp only [Act.put, lA, l0, lS]
  refine wpAnyH_ready (rs := [12]) (by kernel_rfl) (by simp) ?_
  refine AllReadyH.cons (o := ⟨none, .store 22 (.tmp 17) (.tmp 15), 0, "honest.go:24", #[⟨11, .data⟩, ⟨9, .data⟩, ⟨9, .chain⟩, ⟨0, .phase⟩, ⟨1, .phase⟩, ⟨2, .phase⟩, ⟨3, .phase⟩, ⟨4, .phase⟩, ⟨5, .phase⟩, ⟨6, .phase⟩, ⟨7, .phase⟩, ⟨8, .phase⟩, ⟨9, .phase⟩], none⟩) rfl (fun K hK => ?_) AllReadyH.nil
  obtain ⟨W2xxx, hV0⟩ : ∃ V, W2xx.setCell ⟨b, 0, none⟩ (.slice nb (n + 1) nc) = V := ⟨_, rfl⟩
  have cz := hSh.1.1
  have fz := hSh.1.2
  have hW2xxx : W2xxx.heap[q]? = some (.cells #[.int .i64 ey, .int .i64 el, .int .i64 et, .string ed, .int .i64 ep, .int .i64 ee, .bool eX, .int .i64 ew, .int .i64 ec, .int .i64 eL, .slice none 0 0] 31 (0, 0)) := by
    rw [← hV0]
    exact (setCell_other _ _ _ _ _ nqW2xx).trans hW2xx
  have HZ : Hid (Tk w0 W2xxx b (.slice nb (n + 1) nc) (l ++ [⟨es, ⟨ey, el, et, ed, ep, ee, eX, ew, ec, eL⟩, [], en⟩]) nx pu ∧ K31 w W2xxx) := by
    rw [← hV0]
    exact ⟨hSh.2, fun k cc fz hk => (setCell_other _ _ _ _ _ (ty_ne (mW2xx k cc fz hk) btW2xx (by decide))).trans (mW2xx k cc fz hk)⟩
  go_simp
  go_wp2_with fail
  try rw [hV0]
  refine hK.out _ _ (hS.out _ hW2xxx) (fun hHeld => ?_)
  clear hK K hV0 fz cz
  try simp only [Act.put, lA, l0, lS]
  refine wpAnyH_done (by kernel_rfl) ?_ _
  clear hHeld hW2xxx hSh
  go_wp2_with fail
  first | go_end0 | (refine bodyPost_ret (results_none rfl _ _ _) rfl ?_)
  exact ⟨rfl, _, HZ.out.1, HZ.out.2⟩
end Go.Proofs.YtfmljlflnpmceaaGreatDoor
