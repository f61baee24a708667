/- site: copied. -/
import Derived.Test.YtcadlpmopplkeaaDoorB9
import Derived.Test.YtcadlpmopplkeaaDoorM2
import Derived.Deep.RegionHeld3
namespace Go.Proofs.YtcadlpmopplkeaaDoor
open Go.RowKit
open Go.Shelf
set_option linter.unusedVariables false
set_option linter.unusedSimpArgs false

theorem R.whole {α : Type} {E : El α} (ok : E.Ok) {w : World} {g : Nat} {c : Array Value} (l : List α) (hl : l.length ≤ 64) (h : w.heap[g]? = some (.cells c E.e (0, 0))) (hc : c.toList = E.cs l) : R E w (.slice (some ⟨g, 0, none⟩) l.length l.length) l := by
  have hs : c.size = l.length * E.sz := by rw [← Array.length_toList, hc, ok.length]
  refine ⟨by rw [ok.length], .inr ⟨g, l.length, c, rfl, Nat.zero_le _, h, Nat.le_refl _, by unfold maxLen; omega, hs, ?_⟩⟩
  rw [← hs, ← hc, List.take_of_length_le (by simp)]
theorem R.setw {α : Type} {E : El α} (ok : E.Ok) {w : World} {g n c : Nat} {l : List α} {j i : Nat} {y : α} (h : R E w (.slice (some ⟨g, 0, none⟩) n c) (l.set j y)) (hj : j < l.length) (hi : i < E.sz) (u : Value) (x : α) (hx : E.enc x = (E.enc y).set i u) :
    R E (w.setCell ⟨g, j * E.sz + i, none⟩ u) (.slice (some ⟨g, 0, none⟩) n c) (l.set j x) := by
  obtain ⟨g', cap, e, _, _, _, _, _, _, q⟩ := h.setc ok j i (by rw [List.length_set]; exact hj) hi
  injection e with e1 e2 e3
  injection e1 with e1
  injection e1 with e1
  subst e1
  have := q u x (by rw [hx]; simp)
  rw [List.set_set] at this
  exact this
/-- a choice written over -/
def setCh (w : World) (g j : Nat) (f : Ch) : World := (w.setCell ⟨g, j * 2, none⟩ (.string f.v)).setCell ⟨g, j * 2 + 1, none⟩ (.string f.b)
theorem R.setCh {w : World} {g n c : Nat} {l : List Ch} (h : R ECh w (.slice (some ⟨g, 0, none⟩) n c) l) (j : Nat) (hj : j < l.length) (f : Ch) : R ECh (setCh w g j f) (.slice (some ⟨g, 0, none⟩) n c) (l.set j f) := by
  have h0 : R ECh w (.slice (some ⟨g, 0, none⟩) n c) (l.set j l[j]) := by rw [List.set_getElem_self]; exact h
  obtain ⟨X, hX⟩ : ∃ X, l[j] = X := ⟨_, rfl⟩
  rw [hX] at h0
  have h1 := h0.setw okCh hj (i := 0) (by decide) (.string f.v) ⟨f.v, X.b⟩ rfl
  exact h1.setw okCh hj (i := 1) (by decide) (.string f.b) f rfl
def zCh : Ch := ⟨eS, eS⟩
theorem info29 : (Tryd.prog.info? 29).map (fun i => (i.zero, i.size, i.bytes)) = some (some (.agg #[.string ⟨#[]⟩, .string ⟨#[]⟩]), 2, 32) := by kernel_rfl
theorem made_ch (n : Nat) (h8 : n ≤ 8) : ∃ M : Array Value, M.toList = ECh.cs (List.replicate n zCh) ∧ ∀ W : World, (Instr.makeSlice 24 (.int .i64 (n : Int)) (.int .i64 (n : Int))).run Tryd.prog W = .ok (.slice (some ⟨W.heap.size, 0, none⟩) n n) (W.alloc (.cells M 29)) := by
  obtain ⟨i0, hi, hz0, hz1, hz2⟩ := info_parts info29
  refine ⟨madeCells (Value.agg #[.string ⟨#[]⟩, .string ⟨#[]⟩]).cells (n * 2), ?_, fun W => ?_⟩
  · have hcl : (Value.agg #[.string ⟨#[]⟩, .string ⟨#[]⟩]).cells = #[.string ⟨#[]⟩, .string ⟨#[]⟩] := by first | rfl | kernel_rfl | simp [Value.cells]
    have e1 : (madeCells (Value.agg #[.string ⟨#[]⟩, .string ⟨#[]⟩]).cells (n * 2)).toList = List.replicate (n * 2) (.string eS) := by
      rw [hcl]
      refine List.eq_replicate_iff.2 ⟨by rw [Array.length_toList, size_madeCells], fun u hu => ?_⟩
      unfold madeCells at hu
      simp only [Array.toList_map, List.mem_map] at hu
      obtain ⟨i, _, rfl⟩ := hu
      have : i % 2 = 0 ∨ i % 2 = 1 := by omega
      show #[Value.string ⟨#[]⟩, Value.string ⟨#[]⟩][i % 2]! = _
      rcases this with e | e <;> rw [e] <;> rfl
    rw [e1]
    clear e1 hcl h8
    induction n with
    | zero => rfl
    | succ n ih =>
      rw [List.replicate_succ, El.cs, List.flatMap_cons]
      show _ = [.string eS, .string eS] ++ ECh.cs (List.replicate n zCh)
      rw [← ih, Nat.succ_mul, List.replicate_succ, List.replicate_succ]
      rfl
  · have h := run_make (P := Tryd.prog) W 24 29 i0 (.agg #[.string ⟨#[]⟩, .string ⟨#[]⟩]) Tryd.underlying24 hi hz0 .i64 .i64 (n : Int) (n : Int) (by omega) (by omega) (by rw [hz2]; omega) (by omega)
    rw [hz1] at h
    simpa using h
/-- the first k copied -/
def cpL (l : List Ch) (k : Nat) : List Ch := l.take k ++ List.replicate (l.length - k) zCh
theorem cpL_len (l : List Ch) (k : Nat) (h : k ≤ l.length) : (cpL l k).length = l.length := by unfold cpL; simp; omega
theorem cpL_step (l : List Ch) (k : Nat) (h : k < l.length) : (cpL l k).set k l[k] = cpL l (k + 1) := by
  unfold cpL
  rw [List.set_append_right _ _ (by simp; omega), show l.length - k = (l.length - (k + 1)) + 1 by omega, List.replicate_succ, show k - (l.take k).length = 0 by simp; omega, List.set_cons_zero, List.take_succ_eq_append_getElem h, List.append_assoc]
  rfl
theorem cpL_end (l : List Ch) : cpL l l.length = l := by unfold cpL; simp

/-- a row of one's own, made since w -/
def CpPost (l : List Ch) (w : World) (e : Ending) (w' : World) : Prop :=
  ∃ y : SV, e = .returned (sv y) ∧ Below w.heap.size w w' ∧ R ECh w' (sv y) l ∧ ∀ k, (sv y).ownBlock = some k → w.heap.size ≤ k
set_option maxHeartbeats 8000000 in
set_option maxRecDepth 100000 in
theorem copied_any (x : SV) (l : List Ch) (w : World) (hI : In ECh w (sv x) l) (h8 : l.length ≤ 8) (hz : ∀ c ∈ l, c.v.size ≤ 140737488355328 ∧ c.b.size ≤ 140737488355328) :
    Calls Tryd.prog 56 #[sv x] w fun e w' => CpPost l w e w' := by
  have HI : Hid (In ECh w (sv x) l) := hI
  have HZ : Hid (∀ c ∈ l, c.v.size ≤ 140737488355328 ∧ c.b.size ≤ 140737488355328) := hz
  have H8 : Hid (l.length ≤ 8) := h8
  obtain ⟨b, c, e, m1, m2⟩ := hI.slice
  obtain ⟨sb, sl, sc⟩ := x
  simp only [sv] at e HI ⊢
  injection e with e1 e2 e3
  subst e1 e2 e3
  obtain ⟨M, hM, hmk⟩ := made_ch l.length h8
  have HR0 : Hid (R ECh (w.alloc (.cells M 29)) (.slice (some ⟨w.heap.size, 0, none⟩) l.length l.length) (cpL l 0)) := by
    have := R.whole okCh (w := w.alloc (.cells M 29)) (g := w.heap.size) (c := M) (cpL l 0) (by rw [cpL_len _ _ (by omega)]; omega) (by rw [heap_al, if_pos rfl]; rfl) (by rw [hM]; unfold cpL; simp)
    rw [cpL_len _ _ (by omega)] at this
    exact this
  have HB0 : Hid (Below w.heap.size w (w.alloc (.cells M 29))) := bel1 _ _
  obtain ⟨wm, hwm⟩ : ∃ wm, w.alloc (.cells M 29) = wm := ⟨_, rfl⟩
  have hmk' := hmk w
  rw [hwm] at HR0 HB0 hmk'
  have ez : l.length ≤ 9223372036854775807 := by omega
  clear hI hz h8 hM hmk hwm
  go_enter Tryd.func56, Tryd.ntmps56
  go_wp2_with fail
  go_loopw [4, 5, 11] (fun _ _ kv wr => ∃ k : Nat, kv = .int .i64 (k : Int) ∧ k ≤ l.length ∧ Hid (R ECh wr (.slice (some ⟨w.heap.size, 0, none⟩) l.length l.length) (cpL l k)) ∧ Hid (Below w.heap.size w wr)) (fun _ _ kv _ => l.length - (intOf kv).toNat)
  case atStart => exact ⟨0, rfl, by omega, HR0.out, HB0.out⟩
  case round =>
    obtain ⟨k, rfl, hk, hR, hb⟩ := hrel
    by_cases hlt : k < l.length
    · obtain ⟨Bk, off, cap, e, hc⟩ := HI.out.ch k hlt
      injection e with e1 e2 e3
      clear e2 e3
      subst e1
      obtain ⟨c0, c1⟩ := hc wr hb.out
      obtain ⟨y, hy⟩ : ∃ y, l[k] = y := ⟨_, rfl⟩
      rw [hy] at c0 c1
      have HST : Hid ((cpL l k).set k y = cpL l (k + 1)) := by show _ = _; rw [← hy]; exact cpL_step l k hlt
      have HLN : Hid ((cpL l k).length = l.length) := cpL_len l k hk
      have HYZ : Hid (y.v.size ≤ 140737488355328 ∧ y.b.size ≤ 140737488355328) := HZ.out y (by rw [← hy]; exact List.getElem_mem hlt)
      have hgl : Hid (w.heap.size < wr.heap.size) := (hR.out.lt _ rfl)
      have hF0 : (wr.alloc (.cells #[.string y.v, .string y.b] 29)).heap[wr.heap.size]? = some (.cells #[.string y.v, .string y.b] 29 (0, 0)) := by rw [heap_al, if_pos rfl]
      have hCell : Hid (∀ W, Below (wr.alloc (.cells #[.string y.v, .string y.b] 29)).heap.size (wr.alloc (.cells #[.string y.v, .string y.b] 29)) W → W.cell? ⟨wr.heap.size, 0, none⟩ = some (.string y.v) ∧ W.cell? ⟨wr.heap.size, 1, none⟩ = some (.string y.b)) := fun W hW => ⟨cell_blk ((hW.block _ (heap_lt hF0)).trans hF0) 0, cell_blk ((hW.block _ (heap_lt hF0)).trans hF0) 1⟩
      have hlt' : (k : Int) < (l.length : Int) := by omega
      clear hc hy hF0
      go_upto_region 5 with fail
      have hIW : Below (wr.alloc (.cells #[.string y.v, .string y.b] 29)).heap.size (wr.alloc (.cells #[.string y.v, .string y.b] 29)) ((wr.alloc (.cells #[.string y.v, .string y.b] 29)).drew) := (Below.refl _ _).drew
      refine wp_region_held_drew (S := (fun W => W.cell? ⟨wr.heap.size, 0, none⟩ = some (.string y.v) ∧ W.cell? ⟨wr.heap.size, 1, none⟩ = some (.string y.b))) (by kernel_rfl) (hCell.out _ hIW) (fun hHeld => ?_)
      generalize hWg : World.drew _ = W at hIW hHeld ⊢
      clear hWg
      refine wpAnyH_take (i := 0) (oi := { dst := some 16, op := Op.move (Operand.tmp 3), type := 24, pos := "site.go:158", after := #[], guard := none }) (v := ?vv1) rfl (by kernel_rfl) (by kernel_rfl) (by kernel_rfl) (fun _ _ _ h => h) (Or.inl ⟨by rfl, ?hy1⟩) (by assumption) ?_
      case hy1 => (intro w hSw; (try dsimp only at hSw); go_simp; all_goals with_reducible rfl)
      try simp only [Act.put, List.setIfInBounds_toArray, List.set_cons_zero, List.set_cons_succ]
      refine wpAnyH_take (i := 1) (oi := { dst := some 17, op := Op.move (Operand.tmp 4), type := 3, pos := "site.go:158", after := #[], guard := none }) (v := ?vv2) rfl (by kernel_rfl) (by kernel_rfl) (by kernel_rfl) (fun _ _ _ h => h) (Or.inl ⟨by rfl, ?hy2⟩) (by assumption) ?_
      case hy2 => (intro w hSw; (try dsimp only at hSw); go_simp; all_goals with_reducible rfl)
      try simp only [Act.put, List.setIfInBounds_toArray, List.set_cons_zero, List.set_cons_succ]
      refine wpAnyH_take (i := 2) (oi := { dst := some 18, op := Op.fieldAddr 29 (Operand.tmp 5) 0, type := 0, pos := "site.go:158", after := #[], guard := none }) (v := ?vv3) rfl (by kernel_rfl) (by kernel_rfl) (by kernel_rfl) (fun _ _ _ h => h) (Or.inl ⟨by rfl, ?hy3⟩) (by assumption) ?_
      case hy3 => (intro w hSw; (try dsimp only at hSw); go_simp; all_goals with_reducible rfl)
      try simp only [Act.put, List.setIfInBounds_toArray, List.set_cons_zero, List.set_cons_succ]
      refine wpAnyH_take (i := 3) (oi := { dst := some 19, op := Op.load 9 (Operand.tmp 18), type := 9, pos := "site.go:158", after := #[{ on := 2, ground := Ground.data }], guard := none }) (v := ?vv4) rfl (by kernel_rfl) (by kernel_rfl) (by kernel_rfl) (fun _ _ _ h => h) (Or.inl ⟨by rfl, ?hy4⟩) (by assumption) ?_
      case hy4 => (intro w hSw; (try dsimp only at hSw); go_simp; all_goals with_reducible rfl)
      try simp only [Act.put, List.setIfInBounds_toArray, List.set_cons_zero, List.set_cons_succ]
      refine wpAnyH_take (i := 5) (oi := { dst := some 21, op := Op.fieldAddr 29 (Operand.tmp 5) 1, type := 0, pos := "site.go:158", after := #[], guard := none }) (v := ?vv5) rfl (by kernel_rfl) (by kernel_rfl) (by kernel_rfl) (fun _ _ _ h => h) (Or.inl ⟨by rfl, ?hy5⟩) (by assumption) ?_
      case hy5 => (intro w hSw; (try dsimp only at hSw); go_simp; all_goals with_reducible rfl)
      try simp only [Act.put, List.setIfInBounds_toArray, List.set_cons_zero, List.set_cons_succ]
      refine wpAnyH_take (i := 6) (oi := { dst := some 22, op := Op.load 9 (Operand.tmp 21), type := 9, pos := "site.go:158", after := #[{ on := 5, ground := Ground.data }], guard := none }) (v := ?vv6) rfl (by kernel_rfl) (by kernel_rfl) (by kernel_rfl) (fun _ _ _ h => h) (Or.inl ⟨by rfl, ?hy6⟩) (by assumption) ?_
      case hy6 => (intro w hSw; (try dsimp only at hSw); go_simp; all_goals with_reducible rfl)
      try simp only [Act.put, List.setIfInBounds_toArray, List.set_cons_zero, List.set_cons_succ]
      refine wpAnyH_ready (rs := [4]) (by kernel_rfl) (by simp) ?_
      refine AllReadyH.cons (o := { dst := some 20, op := Op.call { callee := Callee.value (Operand.func 55), args := #[Operand.tmp 19], argTypes := #[9] }, type := 9, pos := "site.go:158", after := #[{ on := 3, ground := Ground.data }], guard := none }) rfl (fun K hK => ?_) AllReadyH.nil
      go_simp
      refine (sclone_any y.v _ (by have := HYZ.out.1; omega)).mono ?_
      rintro e' Wx ⟨rfl, bX⟩
      have hWx : Below (wr.alloc (.cells #[.string y.v, .string y.b] 29)).heap.size (wr.alloc (.cells #[.string y.v, .string y.b] 29)) Wx := hIW.trans (bX.mono hIW.size)
      clear bX
      go_wp2_with fail
      refine hK.out _ _ (hCell.out _ hWx) (fun hHeld => ?_)
      clear hK K
      try simp only [Act.put, List.setIfInBounds_toArray, List.set_cons_zero, List.set_cons_succ]
      refine wpAnyH_ready (rs := [7]) (by kernel_rfl) (by simp) ?_
      refine AllReadyH.cons (o := { dst := some 23, op := Op.call { callee := Callee.value (Operand.func 55), args := #[Operand.tmp 22], argTypes := #[9] }, type := 9, pos := "site.go:158", after := #[{ on := 6, ground := Ground.data }, { on := 4, ground := Ground.chain }], guard := none }) rfl (fun K hK => ?_) AllReadyH.nil
      go_simp
      refine (sclone_any y.b _ (by have := HYZ.out.2; omega)).mono ?_
      rintro e' Wxx ⟨rfl, bX⟩
      have hWxx : Below (wr.alloc (.cells #[.string y.v, .string y.b] 29)).heap.size (wr.alloc (.cells #[.string y.v, .string y.b] 29)) Wxx := hWx.trans (bX.mono hWx.size)
      clear bX
      go_wp2_with fail
      refine hK.out _ _ (hCell.out _ hWxx) (fun hHeld => ?_)
      clear hK K
      try simp only [Act.put, List.setIfInBounds_toArray, List.set_cons_zero, List.set_cons_succ]
      refine wpAnyH_take (i := 8) (oi := { dst := some 24, op := Op.build 29 #[(0, Operand.tmp 20), (1, Operand.tmp 23)], type := 29, pos := "site.go:158", after := #[{ on := 4, ground := Ground.data }, { on := 7, ground := Ground.data }], guard := none }) (v := ?vv7) rfl (by kernel_rfl) (by kernel_rfl) (by kernel_rfl) (fun _ _ _ h => h) (Or.inl ⟨by rfl, ?hy7⟩) (by assumption) ?_
      case hy7 => (intro w hSw; (try dsimp only at hSw); go_simp; all_goals with_reducible rfl)
      try simp only [Act.put, List.setIfInBounds_toArray, List.set_cons_zero, List.set_cons_succ]
      refine wpAnyH_take (i := 9) (oi := { dst := some 25, op := Op.indexAddr 24 (Operand.tmp 16) (Operand.tmp 17), type := 0, pos := "site.go:158", after := #[{ on := 0, ground := Ground.data }, { on := 1, ground := Ground.data }, { on := 0, ground := Ground.phase }, { on := 1, ground := Ground.phase }, { on := 2, ground := Ground.phase }, { on := 3, ground := Ground.phase }, { on := 4, ground := Ground.phase }, { on := 5, ground := Ground.phase }, { on := 6, ground := Ground.phase }, { on := 7, ground := Ground.phase }, { on := 8, ground := Ground.phase }], guard := none }) (v := ?vv8) rfl (by kernel_rfl) (by kernel_rfl) (by kernel_rfl) (fun _ _ _ h => h) (Or.inl ⟨by rfl, ?hy8⟩) (by assumption) ?_
      case hy8 => (intro w hSw; (try dsimp only at hSw); go_simp; all_goals with_reducible rfl)
      try simp only [Act.put, List.setIfInBounds_toArray, List.set_cons_zero, List.set_cons_succ]
      refine wpAnyH_ready (rs := [10]) (by kernel_rfl) (by simp) ?_
      refine AllReadyH.cons (o := { dst := none, op := Op.store 29 (Operand.tmp 25) (Operand.tmp 24), type := 0, pos := "site.go:158", after := #[{ on := 9, ground := Ground.data }, { on := 8, ground := Ground.data }, { on := 7, ground := Ground.chain }, { on := 0, ground := Ground.phase }, { on := 1, ground := Ground.phase }, { on := 2, ground := Ground.phase }, { on := 3, ground := Ground.phase }, { on := 4, ground := Ground.phase }, { on := 5, ground := Ground.phase }, { on := 6, ground := Ground.phase }, { on := 7, ground := Ground.phase }, { on := 8, ground := Ground.phase }], guard := none }) rfl (fun K hK => ?_) AllReadyH.nil
      have hR2 : R ECh Wxx (.slice (some ⟨w.heap.size, 0, none⟩) l.length l.length) (cpL l k) := (hR.out.below (bel1 _ _)).below hWxx
      obtain ⟨g', cap', e5, x1, x2, g2, x3, g3, g4, x4⟩ := hR2.setc okCh k 0 (by rw [HLN.out]; exact hlt) (by decide)
      clear x1 x2 x3 x4
      injection e5 with e5 e6 e7
      clear e6 e7
      injection e5 with e5
      injection e5 with e5
      subst e5
      obtain ⟨X, hX⟩ : ∃ X, (cpL l k)[k]'(by rw [HLN.out]; exact hlt) = X := ⟨_, rfl⟩
      rw [hX] at g3
      have f0 : Wxx.cell? ⟨w.heap.size, k * 2, none⟩ = some (.string X.v) := g3 0 _ rfl
      have f1 : Wxx.cell? ⟨w.heap.size, k * 2 + 1, none⟩ = some (.string X.b) := g3 1 _ rfl
      have f2 := g4 (k * 2)
      have f3 := g4 (k * 2 + 1)
      have HRn : Hid (R ECh (setCh Wxx w.heap.size k y) (.slice (some ⟨w.heap.size, 0, none⟩) l.length l.length) (cpL l (k + 1))) := by have := hR2.setCh k (by rw [HLN.out]; exact hlt) y; rw [HST.out] at this; exact this
      have hbb : Below w.heap.size w Wxx := (hb.out.trans ((bel1 _ _).mono hb.out.size)).trans (hWxx.mono (Nat.le_trans hb.out.size (bel1 _ _).size))
      have HBn : Hid (Below w.heap.size w (setCh Wxx w.heap.size k y)) := (hbb.setCell (p := ⟨w.heap.size, k * 2, none⟩) (by simp) _).setCell (p := ⟨w.heap.size, k * 2 + 1, none⟩) (by simp) _
      have HSn : Hid ((fun W => W.cell? ⟨wr.heap.size, 0, none⟩ = some (.string y.v) ∧ W.cell? ⟨wr.heap.size, 1, none⟩ = some (.string y.b)) (setCh Wxx w.heap.size k y)) := by
        have hne : wr.heap.size ≠ w.heap.size := by have := hgl.out; omega
        have hq := hCell.out _ hWxx
        have hoth : (setCh Wxx w.heap.size k y).heap[wr.heap.size]? = Wxx.heap[wr.heap.size]? := by unfold setCh; rw [setCell_other _ _ _ _ _ hne, setCell_other _ _ _ _ _ hne]
        refine ⟨?_, ?_⟩
        · have := hq.1; unfold World.cell? at this ⊢; rw [hoth]; exact this
        · have := hq.2; unfold World.cell? at this ⊢; rw [hoth]; exact this
      unfold setCh at HRn HBn HSn
      clear g2 g3 g4 hX hbb hR2
      go_simp
      go_wp2_with fail
      refine hK.out _ _ HSn.out (fun hHeld => ?_)
      clear hK K
      try simp only [Act.put, List.setIfInBounds_toArray, List.set_cons_zero, List.set_cons_succ]
      refine wpAnyH_done (by kernel_rfl) ?_ _
      go_wp2_with fail
      go_roundw
      case rel =>
        exact ⟨k + 1, by simp, by omega, HRn.out, HBn.out⟩
      case measure => simp [intOf]; omega
    · obtain rfl : k = l.length := by omega
      have hlt' : ¬ (l.length : Int) < (l.length : Int) := by omega
      go_wp2_with fail
      go_ret
      exact ⟨(some ⟨w.heap.size, 0, none⟩, l.length, l.length), rfl, hb.out, by have := hR.out; rw [cpL_end] at this; exact this, fun j hj => by simp [sv, Value.ownBlock] at hj; omega⟩

end Go.Proofs.YtcadlpmopplkeaaDoor
