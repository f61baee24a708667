/- copied, copiedAll. -/
import Derived.Test.YtldnibkgdpeocaaA4
import Derived.Test.YtldnibkgdpeocaaM2
import Derived.Deep.RegionHeld3
import Derived.Laws.ResultCell
namespace Go.Proofs.Ytldnibkgdpeocaa
open Go.RowKit
open Go.Shelf
set_option linter.unusedVariables false
set_option linter.unusedSimpArgs false

/-- both texts are not too long -/
def tz (t : Tg) : Prop := t.1.size ≤ 281474976710656 ∧ t.2.size ≤ 281474976710656
set_option maxHeartbeats 4000000 in
set_option maxRecDepth 100000 in
theorem copied_any (t : Tg) (w : World) (hz : tz t) : Calls Try.prog 26 #[.agg (tgv t)] w fun e w' => e = .returned (.agg (tgv t)) ∧ Below w.heap.size w w' := by
  obtain ⟨a, p⟩ := t
  have HZ1 : Hid (a.size ≤ 281474976710656) := hz.1
  have HZ2 : Hid (p.size ≤ 281474976710656) := hz.2
  unfold tgv
  simp only
  clear hz
  obtain ⟨n, hn'⟩ : ∃ n, n = w.heap.size := ⟨_, rfl⟩
  have hn : Hid (n = w.heap.size) := hn'
  obtain ⟨W0, hW0⟩ : ∃ W0, W0 = (w.alloc (.cells #[.string a, .string p] 26)).alloc (.cells #[.string ⟨#[]⟩, .string ⟨#[]⟩] 26) := ⟨_, rfl⟩
  have hsz : Hid (W0.heap.size = n + 2) := by show _ = _; rw [hW0, size_al, size_al, hn']
  have hD0 : Hid (W0.heap[n + 1]? = some (.cells #[.string ⟨#[]⟩, .string ⟨#[]⟩] 26 (0, 0))) := by show _ = _; rw [hW0, hn']; exact fresh2 _ _ _
  have hF0 : W0.heap[n]? = some (.cells #[.string a, .string p] 26 (0, 0)) := by rw [hW0, hn', heap_al, if_neg (by simp), heap_al, if_pos rfl]
  have hB0 : Hid (Below n w W0) := by rw [hW0, hn']; exact bel2 _ _ _
  have hCell : Hid (∀ V, Below W0.heap.size W0 V → V.cell? ⟨n, 0, none⟩ = some (.string a) ∧ V.cell? ⟨n, 1, none⟩ = some (.string p)) := fun V hV => ⟨cell_blk ((hV.block _ (heap_lt hF0)).trans hF0) 0, cell_blk ((hV.block _ (heap_lt hF0)).trans hF0) 1⟩
  clear hF0
  go_enter Try.func26, Try.ntmps26
  go_wp2_with fail
  rw [← hW0]
  try rw [size_al]
  rw [← hn']
  clear hW0 hn'

  have hIW : Below W0.heap.size W0 W0.drew := (Below.refl _ _).drew
  refine wp_region_held_drew (S := (fun V => V.cell? ⟨n, 0, none⟩ = some (.string a) ∧ V.cell? ⟨n, 1, none⟩ = some (.string p))) (by kernel_rfl) (hCell.out _ hIW) (fun hHeld => ?_)
  generalize hWg : World.drew _ = W at hIW hHeld ⊢
  clear hWg
  refine wpAnyH_take (i := 0) (oi := { dst := some 3, op := Op.fieldAddr 26 (Operand.tmp 1) 0, type := 0, pos := "manifest.go:90", after := #[], guard := none }) (v := ?vv1) rfl (by kernel_rfl) (by kernel_rfl) (by kernel_rfl) (fun _ _ _ h => h) (Or.inl ⟨by rfl, ?hy1⟩) (by assumption) ?_
  case hy1 => (intro w hSw; (try dsimp only at hSw); go_simp; all_goals with_reducible rfl)
  try simp only [Act.put, List.setIfInBounds_toArray, List.set_cons_zero, List.set_cons_succ]
  refine wpAnyH_take (i := 1) (oi := { dst := some 4, op := Op.load 9 (Operand.tmp 3), type := 9, pos := "manifest.go:90", after := #[{ on := 0, ground := Ground.data }], guard := none }) (v := ?vv2) rfl (by kernel_rfl) (by kernel_rfl) (by kernel_rfl) (fun _ _ _ h => h) (Or.inl ⟨by rfl, ?hy2⟩) (by assumption) ?_
  case hy2 => (intro w hSw; (try dsimp only at hSw); go_simp; all_goals with_reducible rfl)
  try simp only [Act.put, List.setIfInBounds_toArray, List.set_cons_zero, List.set_cons_succ]
  refine wpAnyH_take (i := 3) (oi := { dst := some 6, op := Op.fieldAddr 26 (Operand.tmp 1) 1, type := 0, pos := "manifest.go:90", after := #[], guard := none }) (v := ?vv3) rfl (by kernel_rfl) (by kernel_rfl) (by kernel_rfl) (fun _ _ _ h => h) (Or.inl ⟨by rfl, ?hy3⟩) (by assumption) ?_
  case hy3 => (intro w hSw; (try dsimp only at hSw); go_simp; all_goals with_reducible rfl)
  try simp only [Act.put, List.setIfInBounds_toArray, List.set_cons_zero, List.set_cons_succ]
  refine wpAnyH_take (i := 4) (oi := { dst := some 7, op := Op.load 9 (Operand.tmp 6), type := 9, pos := "manifest.go:90", after := #[{ on := 3, ground := Ground.data }], guard := none }) (v := ?vv4) rfl (by kernel_rfl) (by kernel_rfl) (by kernel_rfl) (fun _ _ _ h => h) (Or.inl ⟨by rfl, ?hy4⟩) (by assumption) ?_
  case hy4 => (intro w hSw; (try dsimp only at hSw); go_simp; all_goals with_reducible rfl)
  try simp only [Act.put, List.setIfInBounds_toArray, List.set_cons_zero, List.set_cons_succ]
  refine wpAnyH_ready (rs := [2]) (by kernel_rfl) (by simp) ?_
  refine AllReadyH.cons (o := { dst := some 5, op := Op.call { callee := Callee.value (Operand.func 35), args := #[Operand.tmp 4], argTypes := #[9] }, type := 9, pos := "manifest.go:90", after := #[{ on := 1, ground := Ground.data }], guard := none }) rfl (fun K hK => ?_) AllReadyH.nil
  go_simp
  refine (sclone_any a _ HZ1.out).mono ?_
  rintro e' Wx ⟨rfl, bX⟩
  have hWx : Below W0.heap.size W0 Wx := hIW.trans (bX.mono hIW.size)
  clear bX
  go_wp2_with fail
  refine hK.out _ _ (hCell.out _ hWx) (fun hHeld => ?_)
  clear hK K
  try simp only [Act.put, List.setIfInBounds_toArray, List.set_cons_zero, List.set_cons_succ]
  refine wpAnyH_ready (rs := [5]) (by kernel_rfl) (by simp) ?_
  refine AllReadyH.cons (o := { dst := some 8, op := Op.call { callee := Callee.value (Operand.func 35), args := #[Operand.tmp 7], argTypes := #[9] }, type := 9, pos := "manifest.go:90", after := #[{ on := 4, ground := Ground.data }, { on := 2, ground := Ground.chain }], guard := none }) rfl (fun K hK => ?_) AllReadyH.nil
  go_simp
  refine (sclone_any p _ HZ2.out).mono ?_
  rintro e' Wxx ⟨rfl, bX⟩
  have hWxx : Below W0.heap.size W0 Wxx := hWx.trans (bX.mono hWx.size)
  clear bX
  go_wp2_with fail
  refine hK.out _ _ (hCell.out _ hWxx) (fun hHeld => ?_)
  clear hK K
  try simp only [Act.put, List.setIfInBounds_toArray, List.set_cons_zero, List.set_cons_succ]
  refine wpAnyH_take (i := 6) (oi := { dst := some 9, op := Op.build 26 #[(0, Operand.tmp 5), (1, Operand.tmp 8)], type := 26, pos := "manifest.go:90", after := #[{ on := 2, ground := Ground.data }, { on := 5, ground := Ground.data }], guard := none }) (v := ?vv5) rfl (by kernel_rfl) (by kernel_rfl) (by kernel_rfl) (fun _ _ _ h => h) (Or.inl ⟨by rfl, ?hy5⟩) (by assumption) ?_
  case hy5 => (intro w hSw; (try dsimp only at hSw); go_simp; all_goals with_reducible rfl)
  try simp only [Act.put, List.setIfInBounds_toArray, List.set_cons_zero, List.set_cons_succ]
  refine wpAnyH_ready (rs := [7]) (by kernel_rfl) (by simp) ?_
  refine AllReadyH.cons (o := { dst := none, op := Op.store 26 (Operand.tmp 2) (Operand.tmp 9), type := 0, pos := "manifest.go:90", after := #[{ on := 6, ground := Ground.data }, { on := 5, ground := Ground.chain }, { on := 0, ground := Ground.phase }, { on := 1, ground := Ground.phase }, { on := 2, ground := Ground.phase }, { on := 3, ground := Ground.phase }, { on := 4, ground := Ground.phase }, { on := 5, ground := Ground.phase }, { on := 6, ground := Ground.phase }], guard := none }) rfl (fun K hK => ?_) AllReadyH.nil
  have hg : Wxx.heap[n + 1]? = some (.cells #[.string ⟨#[]⟩, .string ⟨#[]⟩] 26 (0, 0)) := (hWxx.block _ (heap_lt hD0.out)).trans hD0.out
  have f0 : Wxx.cell? ⟨n + 1, 0, none⟩ = some (.string ⟨#[]⟩) := cell_blk hg 0
  have f1 : Wxx.cell? ⟨n + 1, 1, none⟩ = some (.string ⟨#[]⟩) := cell_blk hg 1
  have f2 := frozen_blk hg 0
  have f3 := frozen_blk hg 1
  have HSn : Hid ((fun V => V.cell? ⟨n, 0, none⟩ = some (.string a) ∧ V.cell? ⟨n, 1, none⟩ = some (.string p)) ((Wxx.setCell ⟨n + 1, 0, none⟩ (.string a)).setCell ⟨n + 1, 1, none⟩ (.string p))) := by
    have hq := hCell.out _ hWxx
    have hoth : ((Wxx.setCell ⟨n + 1, 0, none⟩ (.string a)).setCell ⟨n + 1, 1, none⟩ (.string p)).heap[n]? = Wxx.heap[n]? := by rw [setCell_other _ _ _ _ _ (by omega), setCell_other _ _ _ _ _ (by omega)]
    refine ⟨?_, ?_⟩
    · have := hq.1; unfold World.cell? at this ⊢; rw [hoth]; exact this
    · have := hq.2; unfold World.cell? at this ⊢; rw [hoth]; exact this
  have HG : Hid (((Wxx.setCell ⟨n + 1, 0, none⟩ (.string a)).setCell ⟨n + 1, 1, none⟩ (.string p)).heap[n + 1]? = some (.cells #[.string a, .string p] 26 (0, 0))) := by
    show _ = _
    rw [setCell_block _ _ _ _ _ _ _ (setCell_block _ _ _ _ _ _ _ hg)]
    rfl
  have HB : Hid (Below n w ((Wxx.setCell ⟨n + 1, 0, none⟩ (.string a)).setCell ⟨n + 1, 1, none⟩ (.string p))) := (((hB0.out.trans (hWxx.mono (by rw [hsz.out]; omega))).setCell (p := ⟨n + 1, 0, none⟩) (by simp) _).setCell (p := ⟨n + 1, 1, none⟩) (by simp) _)
  clear hg
  go_simp
  go_wp2_with fail
  refine hK.out _ _ HSn.out (fun hHeld => ?_)
  clear hK K
  try simp only [Act.put, List.setIfInBounds_toArray, List.set_cons_zero, List.set_cons_succ]
  refine wpAnyH_done (by kernel_rfl) ?_ _
  go_wp2_with fail
  refine bodyPost_ret (results_cell_row (p := 2) (ty := 26) rfl _ _ (n + 1) 26 _ (0, 0) _ rfl HG.out Try.underlying26 rfl (by kernel_rfl)) rfl ⟨rfl, ?_⟩
  have := HB.out
  rw [hn.out] at this ⊢
  exact this

theorem R.whole {α : Type} {E : El α} (ok : E.Ok) {w : World} {g : Nat} {c : Array Value} (l : List α) (hl : l.length ≤ 64) (h : w.heap[g]? = some (.cells c E.e (0, 0))) (hc : c.toList = E.cs l) : R E w (.slice (some ⟨g, 0, none⟩) l.length l.length) l := by
  have hs : c.size = l.length * E.sz := by rw [← Array.length_toList, hc, ok.length]
  refine ⟨by rw [ok.length], .inr ⟨g, l.length, c, rfl, Nat.zero_le _, h, Nat.le_refl _, by unfold maxLen; omega, hs, ?_⟩⟩
  rw [← hs, ← hc, List.take_of_length_le (by simp)]
theorem R.setw {α : Type} {E : El α} (ok : E.Ok) {w : World} {g n c : Nat} {l : List α} {j i : Nat} {y : α} (h : R E w (.slice (some ⟨g, 0, none⟩) n c) (l.set j y)) (hj : j < l.length) (hi : i < E.sz) (u : Value) (x : α) (hx : E.enc x = (E.enc y).set i u) :
    R E (w.setCell ⟨g, j * E.sz + i, none⟩ u) (.slice (some ⟨g, 0, none⟩) n c) (l.set j x) := by
  obtain ⟨g', cap, e, _, _, _, _, _, _, q⟩ := h.setc ok j i (by rw [List.length_set]; exact hj) hi
  injection e with e1 e2 e3
  injection e1 with e1
  injection e1 with e1
  subst e1
  have := q u x (by rw [hx]; simp)
  rw [List.set_set] at this
  exact this
/-- a target written over -/
def setT (w : World) (g j : Nat) (f : Tg) : World := (w.setCell ⟨g, j * 2, none⟩ (.string f.1)).setCell ⟨g, j * 2 + 1, none⟩ (.string f.2)
theorem R.setT {w : World} {g n c : Nat} {l : List Tg} (h : R ET w (.slice (some ⟨g, 0, none⟩) n c) l) (j : Nat) (hj : j < l.length) (f : Tg) : R ET (setT w g j f) (.slice (some ⟨g, 0, none⟩) n c) (l.set j f) := by
  have h0 : R ET w (.slice (some ⟨g, 0, none⟩) n c) (l.set j l[j]) := by rw [List.set_getElem_self]; exact h
  obtain ⟨X, hX⟩ : ∃ X, l[j] = X := ⟨_, rfl⟩
  rw [hX] at h0
  have h1 := h0.setw okT hj (i := 0) (by decide) (.string f.1) (f.1, X.2) rfl
  exact h1.setw okT hj (i := 1) (by decide) (.string f.2) f rfl
def eS : ByteArray := ⟨#[]⟩
def zT : Tg := (eS, eS)
theorem info26 : (Try.prog.info? 26).map (fun i => (i.zero, i.size, i.bytes)) = some (some (.agg #[.string ⟨#[]⟩, .string ⟨#[]⟩]), 2, 32) := by kernel_rfl
theorem made_t (n : Nat) (h8 : n ≤ 8) : ∃ M : Array Value, M.toList = ET.cs (List.replicate n zT) ∧ ∀ W : World, (Instr.makeSlice 27 (.int .i64 (n : Int)) (.int .i64 (n : Int))).run Try.prog W = .ok (.slice (some ⟨W.heap.size, 0, none⟩) n n) (W.alloc (.cells M 26)) := by
  obtain ⟨i0, hi, hz0, hz1, hz2⟩ := info_parts info26
  refine ⟨madeCells (Value.agg #[.string ⟨#[]⟩, .string ⟨#[]⟩]).cells (n * 2), ?_, fun W => ?_⟩
  · have hcl : (Value.agg #[.string ⟨#[]⟩, .string ⟨#[]⟩]).cells = #[.string ⟨#[]⟩, .string ⟨#[]⟩] := by first | rfl | kernel_rfl | simp [Value.cells]
    have e1 : (madeCells (Value.agg #[.string ⟨#[]⟩, .string ⟨#[]⟩]).cells (n * 2)).toList = List.replicate (n * 2) (.string eS) := by
      rw [hcl]
      refine List.eq_replicate_iff.2 ⟨by rw [Array.length_toList, size_madeCells], fun u hu => ?_⟩
      unfold madeCells at hu
      simp only [Array.toList_map, List.mem_map] at hu
      obtain ⟨i, _, rfl⟩ := hu
      have : i % 2 = 0 ∨ i % 2 = 1 := by omega
      show #[Value.string ⟨#[]⟩, Value.string ⟨#[]⟩][i % 2]! = _
      rcases this with e | e <;> rw [e] <;> rfl
    rw [e1]
    clear e1 hcl h8
    induction n with
    | zero => rfl
    | succ n ih =>
      rw [List.replicate_succ, El.cs, List.flatMap_cons]
      show _ = [.string eS, .string eS] ++ ET.cs (List.replicate n zT)
      rw [← ih, Nat.succ_mul, List.replicate_succ, List.replicate_succ]
      rfl
  · have h := run_make (P := Try.prog) W 27 26 i0 (.agg #[.string ⟨#[]⟩, .string ⟨#[]⟩]) Try.underlying27 hi hz0 .i64 .i64 (n : Int) (n : Int) (by omega) (by omega) (by rw [hz2]; omega) (by omega)
    rw [hz1] at h
    simpa using h
/-- the first k copied -/
def cpL (l : List Tg) (k : Nat) : List Tg := l.take k ++ List.replicate (l.length - k) zT
theorem cpL_len (l : List Tg) (k : Nat) (h : k ≤ l.length) : (cpL l k).length = l.length := by unfold cpL; simp; omega
theorem cpL_step (l : List Tg) (k : Nat) (h : k < l.length) : (cpL l k).set k l[k] = cpL l (k + 1) := by
  unfold cpL
  rw [List.set_append_right _ _ (by simp; omega), show l.length - k = (l.length - (k + 1)) + 1 by omega, List.replicate_succ, show k - (l.take k).length = 0 by simp; omega, List.set_cons_zero, List.take_succ_eq_append_getElem h, List.append_assoc]
  rfl
theorem cpL_end (l : List Tg) : cpL l l.length = l := by unfold cpL; simp

/-- a row of one's own, made since w -/
def CpPost (l : List Tg) (w : World) (e : Ending) (w' : World) : Prop :=
  ∃ y : SV, e = .returned (sv y) ∧ Below w.heap.size w w' ∧ R ET w' (sv y) l ∧ ∀ k, (sv y).ownBlock = some k → w.heap.size ≤ k
set_option maxHeartbeats 8000000 in
set_option maxRecDepth 100000 in
theorem copiedAll_any (x : SV) (l : List Tg) (w : World) (hI : In ET w (sv x) l) (h8 : l.length ≤ 8) (hz : ∀ c ∈ l, tz c) :
    Calls Try.prog 25 #[sv x] w fun e w' => CpPost l w e w' := by
  have HI : Hid (In ET w (sv x) l) := hI
  have HZ : Hid (∀ c ∈ l, tz c) := hz
  have H8 : Hid (l.length ≤ 8) := h8
  obtain ⟨b, c, e, m1, m2⟩ := hI.slice
  obtain ⟨sb, sl, sc⟩ := x
  simp only [sv] at e HI ⊢
  injection e with e1 e2 e3
  subst e1 e2 e3
  obtain ⟨M, hM, hmk⟩ := made_t l.length h8
  have HR0 : Hid (R ET (w.alloc (.cells M 26)) (.slice (some ⟨w.heap.size, 0, none⟩) l.length l.length) (cpL l 0)) := by
    have := R.whole okT (w := w.alloc (.cells M 26)) (g := w.heap.size) (c := M) (cpL l 0) (by rw [cpL_len _ _ (by omega)]; omega) (by rw [heap_al, if_pos rfl]; rfl) (by rw [hM]; unfold cpL; simp)
    rw [cpL_len _ _ (by omega)] at this
    exact this
  have HB0 : Hid (Below w.heap.size w (w.alloc (.cells M 26))) := bel1 _ _
  obtain ⟨wm, hwm⟩ : ∃ wm, w.alloc (.cells M 26) = wm := ⟨_, rfl⟩
  have hmk' := hmk w
  rw [hwm] at HR0 HB0 hmk'
  have ez : l.length ≤ 9223372036854775807 := by omega
  clear hI hz h8 hM hmk hwm
  go_enter Try.func25, Try.ntmps25
  go_wp2_with fail
  go_loopw [4, 5, 11] (fun _ _ kv wr => ∃ k : Nat, kv = .int .i64 (k : Int) ∧ k ≤ l.length ∧ Hid (R ET wr (.slice (some ⟨w.heap.size, 0, none⟩) l.length l.length) (cpL l k)) ∧ Hid (Below w.heap.size w wr)) (fun _ _ kv _ => l.length - (intOf kv).toNat)
  case atStart => exact ⟨0, rfl, by omega, HR0.out, HB0.out⟩
  case round =>
    obtain ⟨k, rfl, hk, hR, hb⟩ := hrel
    by_cases hlt : k < l.length
    · obtain ⟨Bk, off, cap, e, hBk, hc⟩ := HI.out.tg k hlt
      injection e with e1 e2 e3
      clear e2 e3
      subst e1
      obtain ⟨c0, c1⟩ := hc wr hb.out
      obtain ⟨y, hy⟩ : ∃ y, l[k] = y := ⟨_, rfl⟩
      rw [hy] at c0 c1
      have HST : Hid ((cpL l k).set k y = cpL l (k + 1)) := by show _ = _; rw [← hy]; exact cpL_step l k hlt
      have HLN : Hid ((cpL l k).length = l.length) := cpL_len l k hk
      have HYZ : Hid (tz y) := HZ.out y (by rw [← hy]; exact List.getElem_mem hlt)
      have hlt' : (k : Int) < (l.length : Int) := by omega
      clear hc hy
      obtain ⟨ya, yp⟩ := y
      simp only at c0 c1
      have hC : Hid (∀ W, Calls Try.prog 26 #[.agg #[.string ya, .string yp]] W fun e w' => e = .returned (.agg #[.string ya, .string yp]) ∧ Below W.heap.size W w') := fun W => copied_any (ya, yp) W HYZ.out
      go_wp2_with fail
      refine (hC.out _).mono ?_
      rintro e w1 ⟨rfl, hb1⟩
      have hb2 : Hid (Below wr.heap.size wr w1) := (bel1 _ _).trans (hb1.mono (bel1 _ _).size)
      clear hb1 hC
      have hR2 : R ET w1 (.slice (some ⟨w.heap.size, 0, none⟩) l.length l.length) (cpL l k) := hR.out.below hb2.out
      obtain ⟨g', cap', e5, x1, x2, g2, x3, g3, g4, x4⟩ := hR2.setc okT k 0 (by rw [HLN.out]; exact hlt) (by decide)
      clear x1 x2 x3 x4
      injection e5 with e5 e6 e7
      clear e6 e7
      injection e5 with e5
      injection e5 with e5
      subst e5
      obtain ⟨X, hX⟩ : ∃ X, (cpL l k)[k]'(by rw [HLN.out]; exact hlt) = X := ⟨_, rfl⟩
      rw [hX] at g3
      have f0 : w1.cell? ⟨w.heap.size, k * 2, none⟩ = some (.string X.1) := g3 0 _ rfl
      have f1 : w1.cell? ⟨w.heap.size, k * 2 + 1, none⟩ = some (.string X.2) := g3 1 _ rfl
      have f2 := g4 (k * 2)
      have f3 := g4 (k * 2 + 1)
      have HRn : Hid (R ET (setT w1 w.heap.size k (ya, yp)) (.slice (some ⟨w.heap.size, 0, none⟩) l.length l.length) (cpL l (k + 1))) := by have := hR2.setT k (by rw [HLN.out]; exact hlt) (ya, yp); rw [HST.out] at this; exact this
      have HBn : Hid (Below w.heap.size w (setT w1 w.heap.size k (ya, yp))) := ((hb.out.trans (hb2.out.mono hb.out.size)).setCell (p := ⟨w.heap.size, k * 2, none⟩) (by simp) _).setCell (p := ⟨w.heap.size, k * 2 + 1, none⟩) (by simp) _
      unfold setT at HRn HBn
      clear g2 g3 g4 hX hR2
      go_wp2_with fail
      go_roundw
      case rel =>
        exact ⟨k + 1, by simp, by omega, HRn.out, HBn.out⟩
      case measure => simp [intOf]; omega
    · obtain rfl : k = l.length := by omega
      have hlt' : ¬ (l.length : Int) < (l.length : Int) := by omega
      go_wp2_with fail
      go_ret
      exact ⟨(some ⟨w.heap.size, 0, none⟩, l.length, l.length), rfl, hb.out, by have := hR.out; rw [cpL_end] at this; exact this, fun j hj => by simp [sv, Value.ownBlock] at hj; omega⟩
end Go.Proofs.Ytldnibkgdpeocaa
