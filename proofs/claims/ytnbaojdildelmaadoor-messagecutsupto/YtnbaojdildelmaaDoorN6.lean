/- Clone, Response, Request. -/
import Derived.Test.YtnbaojdildelmaaDoorN5
import Derived.Deep.RegionHeld3
namespace Go.Proofs.YtnbaojdildelmaaDoor
open Go.RowKit
set_option linter.unusedVariables false
set_option linter.unusedSimpArgs false
theorem R.whole {α : Type} {E : El α} (ok : E.Ok) {w : World} {g : Nat} {c : Array Value} (l : List α) (hl : l.length ≤ 64) (h : w.heap[g]? = some (.cells c E.e (0, 0))) (hc : c.toList = E.cs l) : R E w (.slice (some ⟨g, 0, none⟩) l.length l.length) l := by
  have hs : c.size = l.length * E.sz := by rw [← Array.length_toList, hc, ok.length]
  refine ⟨by rw [ok.length], .inr ⟨g, l.length, c, rfl, Nat.zero_le _, h, Nat.le_refl _, by unfold maxLen; omega, hs, ?_⟩⟩
  rw [← hs, List.take_of_length_le (by simp), hc]
theorem results_c {P : Program} {fn : Func} {p : Tmp} {ty : TypeId} (h : fn.results = #[.cell p ty]) (tmps : Array Value) (w : World) (g : Nat) (t : TypeId) (cs : Array Value) (fr : Nat × Nat) (d : TypeDesc)
    (hp : tmps.getD p undef = .pointer (some ⟨g, 0, none⟩)) (hg : w.heap[g]? = some (.cells cs t fr)) (hu : P.underlying ty = some d) (hd : (match d with | .struct _ | .array _ _ => true | _ => false) = true) (hi : (P.info? ty).map (·.size) = some cs.size) :
    (results fn tmps).run P w = .ok (.agg cs) w := by
  have hp' : tmps[p]?.getD undef = .pointer (some ⟨g, 0, none⟩) := by simpa using hp
  simp [results, h, hp', asAddr, run_loadVar_row w g t ty cs fr d hg hu hd hi]
def ClPost (l : List Fd) (w : World) (e : Ending) (w' : World) : Prop :=
  ∃ y : SV, e = .returned (sv y) ∧ Below w.heap.size w w' ∧ R EFd w' (sv y) l ∧ ∀ k, (sv y).ownBlock = some k → w.heap.size ≤ k
set_option maxHeartbeats 4000000 in
set_option maxRecDepth 100000 in
theorem clone_any (s : SV) (l : List Fd) (w : World) (hI : In EFd w (sv s) l) (hlen : l.length * 40 ≤ 140737488355328) : Calls Tryd.prog 24 #[sv s] w fun e w' => ClPost l w e w' := by
  obtain ⟨sb, sn, sc⟩ := s
  simp only [sv] at hI ⊢
  rcases hI with ⟨hv, rfl⟩ | ⟨a, cap, hv, h1, h2, hc⟩
  · injection hv with e1 e2 e3
    subst e1 e2 e3
    clear hlen
    have hbq : Sem.run Tryd.prog (binOp BinOp.eql 24 (.slice none 0 0) (.slice none 0 0)) w = .ok (.bool true) w := by kernel_rfl
    go_enter Tryd.func24, Tryd.ntmps24
    go_wp2_with fail
    go_ret
    exact ⟨(none, 0, 0), by first | rfl | simp, Below.refl _ _, R.nil EFd _, fun k hk => by simp [sv, Value.ownBlock] at hk⟩
  · injection hv with e1 e2 e3
    subst e1 e2 e3
    have hI : In EFd w (.slice (some a) l.length sc) l := .inr ⟨a, sc, rfl, h1, h2, hc⟩
    have bm := bel1 w (.cells #[] 28)
    have hr0 : R EFd (w.alloc (.cells #[] 28)) (.slice (some ⟨w.heap.size, 0, none⟩) 0 0) [] := R.whole okFd [] (by simp) (by rw [heap_al, if_pos rfl]; rfl) rfl
    obtain ⟨b, c, w2, a1, a2, a3⟩ := app okFd (w.alloc (.cells #[] 28)) (.slice (some ⟨w.heap.size, 0, none⟩) 0 0) [] hr0 _ _ (hI.below bm) (by simp only [EFd, List.length_nil]; omega)
    simp only [List.length_nil, Nat.zero_add, List.nil_append] at a1 a2 a3
    have HP : Hid (Below w.heap.size w w2 ∧ R EFd w2 (.slice b l.length c) l ∧ ∀ k, (Value.slice b l.length c).ownBlock = some k → w.heap.size ≤ k) := by
      have ho : ∀ k, (Value.slice (some ⟨w.heap.size, 0, none⟩) 0 0).ownBlock = some k → w.heap.size ≤ k := fun k hk => by
        have : w.heap.size = k := by simpa [Value.ownBlock] using hk
        omega
      refine ⟨bm.trans (a3.belowB bm.size ho), a2, fun k hk => ?_⟩
      rcases a3.own k hk with e | e
      · exact ho k e
      · exact Nat.le_trans bm.size e
    replace a1 : Hid _ := a1
    simp only [EFd] at a1
    have hbq : Sem.run Tryd.prog (binOp BinOp.eql 24 (.slice (some a) l.length sc) (.slice none 0 0)) w = .ok (.bool false) w := by kernel_rfl
    clear hI hc h1 h2 bm hr0 a2 a3 hlen
    go_enter Tryd.func24, Tryd.ntmps24
    go_wp2_with (at_builtin; refine Lib.wpList_append_run _ rfl _ _ _ _ rfl _ _ rfl rfl _ _ a1.out ?_)
    go_ret
    exact ⟨(b, l.length, c), by first | rfl | simp, HP.out⟩

structure RpS (w : World) (g : Nat) (x : Mg) (body : List UInt8) (fl ql : List Fd) (f : Value) (b : ByteArray) (yv : Value) (V : World) : Prop where
  ms : Msg V g x body fl ql
  rb : RsB V (w.heap.size + 1) x.n f b
  ob : RsB V w.heap.size 0 (.slice none 0 0) ⟨#[]⟩
  bel : Below w.heap.size w V
  cl : R EFd V yv fl
theorem RpS.below {w : World} {g : Nat} {x : Mg} {body : List UInt8} {fl ql : List Fd} {f : Value} {b : ByteArray} {yv : Value} {V V' : World} (h : RpS w g x body fl ql f b yv V) (hb : Below V.heap.size V V') : RpS w g x body fl ql f b yv V' :=
  ⟨h.ms.below hb, (hb.block _ (heap_lt h.rb)).trans h.rb, (hb.block _ (heap_lt h.ob)).trans h.ob, h.bel.trans (hb.mono h.bel.size), R.below h.cl hb⟩
theorem RpS.keep {w : World} {g : Nat} {x : Mg} {body : List UInt8} {fl ql : List Fd} {f f' : Value} {b b' : ByteArray} {yv : Value} {V : World} (h : RpS w g x body fl ql f b yv V) (hg : g < w.heap.size) (o : Nat) (v : Value) (hr : RsB (V.setCell ⟨w.heap.size + 1, o, none⟩ v) (w.heap.size + 1) x.n f' b') : RpS w g x body fl ql f' b' yv (V.setCell ⟨w.heap.size + 1, o, none⟩ v) := by
  have hf : ∀ k, k ≠ w.heap.size + 1 → (V.setCell ⟨w.heap.size + 1, o, none⟩ v).heap[k]? = V.heap[k]? := fun k hk => setCell_other _ _ _ _ _ hk
  have hn : ∀ {α : Type} {E : El α} {u : Value} {l : List α}, R E V u l → E.e ≠ 34 → ∀ k, u.ownBlock = some k → k ≠ w.heap.size + 1 := fun hR he k hk e => by
    obtain ⟨c, hc⟩ := R.ty hR k hk
    have hrb := h.rb
    unfold RsB at hrb
    rw [e, hrb] at hc
    simp at hc
    exact he hc.2.symm
  exact ⟨⟨(hf g (by omega)).trans h.ms.bx, R.stays h.ms.rb fun k hk _ => hf k (hn h.ms.rb (by decide) k hk), R.stays h.ms.rf fun k hk _ => hf k (hn h.ms.rf (by decide) k hk), R.stays h.ms.qf fun k hk _ => hf k (hn h.ms.qf (by decide) k hk)⟩, hr, (hf _ (by omega)).trans h.ob, h.bel.setCell (p := ⟨w.heap.size + 1, o, none⟩) (by simp) _, R.stays h.cl fun k hk _ => hf k (hn h.cl (by decide) k hk)⟩
theorem RpS.setF {w : World} {g : Nat} {x : Mg} {body : List UInt8} {fl ql : List Fd} {f : Value} {b : ByteArray} {yv : Value} {V : World} (h : RpS w g x body fl ql f b yv V) (hg : g < w.heap.size) (v : Value) : RpS w g x body fl ql v b yv (V.setCell ⟨w.heap.size + 1, 1, none⟩ v) :=
  h.keep hg _ _ (by have hrb := h.rb; unfold RsB at hrb ⊢; rw [setCell_block _ _ _ _ _ _ _ hrb]; rfl)
theorem RpS.setB {w : World} {g : Nat} {x : Mg} {body : List UInt8} {fl ql : List Fd} {f : Value} {b : ByteArray} {yv : Value} {V : World} (h : RpS w g x body fl ql f b yv V) (hg : g < w.heap.size) (v : ByteArray) : RpS w g x body fl ql f v yv (V.setCell ⟨w.heap.size + 1, 2, none⟩ (.string v)) :=
  h.keep hg _ _ (by have hrb := h.rb; unfold RsB at hrb ⊢; rw [setCell_block _ _ _ _ _ _ _ hrb]; rfl)
theorem RpS.cells {w : World} {g : Nat} {x : Mg} {body : List UInt8} {fl ql : List Fd} {f : Value} {b : ByteArray} {yv : Value} {V : World} (h : RpS w g x body fl ql f b yv V) : V.cell? ⟨w.heap.size + 1, 1, none⟩ = some f ∧ V.cell? ⟨w.heap.size + 1, 2, none⟩ = some (.string b) ∧ (∀ i, V.frozen? ⟨w.heap.size + 1, i, none⟩ = false) ∧ w.heap.size + 1 < V.heap.size :=
  ⟨cell_blk h.rb 1, cell_blk h.rb 2, fun i => frozen_blk h.rb i, heap_lt h.rb⟩

structure RpQ (w : World) (g : Nat) (x : Mg) (body : List UInt8) (fl ql : List Fd) (f : Value) (b : ByteArray) (yv : Value) (V : World) : Prop where
  ms : Msg V g x body fl ql
  rb : RqB V (w.heap.size + 1) x.m x.s x.a x.p f b
  ob : RqB V w.heap.size ⟨#[]⟩ ⟨#[]⟩ ⟨#[]⟩ ⟨#[]⟩ (.slice none 0 0) ⟨#[]⟩
  bel : Below w.heap.size w V
  cl : R EFd V yv ql
theorem RpQ.below {w : World} {g : Nat} {x : Mg} {body : List UInt8} {fl ql : List Fd} {f : Value} {b : ByteArray} {yv : Value} {V V' : World} (h : RpQ w g x body fl ql f b yv V) (hb : Below V.heap.size V V') : RpQ w g x body fl ql f b yv V' :=
  ⟨h.ms.below hb, (hb.block _ (heap_lt h.rb)).trans h.rb, (hb.block _ (heap_lt h.ob)).trans h.ob, h.bel.trans (hb.mono h.bel.size), R.below h.cl hb⟩
theorem RpQ.keep {w : World} {g : Nat} {x : Mg} {body : List UInt8} {fl ql : List Fd} {f f' : Value} {b b' : ByteArray} {yv : Value} {V : World} (h : RpQ w g x body fl ql f b yv V) (hg : g < w.heap.size) (o : Nat) (v : Value) (hr : RqB (V.setCell ⟨w.heap.size + 1, o, none⟩ v) (w.heap.size + 1) x.m x.s x.a x.p f' b') : RpQ w g x body fl ql f' b' yv (V.setCell ⟨w.heap.size + 1, o, none⟩ v) := by
  have hf : ∀ k, k ≠ w.heap.size + 1 → (V.setCell ⟨w.heap.size + 1, o, none⟩ v).heap[k]? = V.heap[k]? := fun k hk => setCell_other _ _ _ _ _ hk
  have hn : ∀ {α : Type} {E : El α} {u : Value} {l : List α}, R E V u l → E.e ≠ 37 → ∀ k, u.ownBlock = some k → k ≠ w.heap.size + 1 := fun hR he k hk e => by
    obtain ⟨c, hc⟩ := R.ty hR k hk
    have hrb := h.rb
    unfold RqB at hrb
    rw [e, hrb] at hc
    simp at hc
    exact he hc.2.symm
  exact ⟨⟨(hf g (by omega)).trans h.ms.bx, R.stays h.ms.rb fun k hk _ => hf k (hn h.ms.rb (by decide) k hk), R.stays h.ms.rf fun k hk _ => hf k (hn h.ms.rf (by decide) k hk), R.stays h.ms.qf fun k hk _ => hf k (hn h.ms.qf (by decide) k hk)⟩, hr, (hf _ (by omega)).trans h.ob, h.bel.setCell (p := ⟨w.heap.size + 1, o, none⟩) (by simp) _, R.stays h.cl fun k hk _ => hf k (hn h.cl (by decide) k hk)⟩
theorem RpQ.setF {w : World} {g : Nat} {x : Mg} {body : List UInt8} {fl ql : List Fd} {f : Value} {b : ByteArray} {yv : Value} {V : World} (h : RpQ w g x body fl ql f b yv V) (hg : g < w.heap.size) (v : Value) : RpQ w g x body fl ql v b yv (V.setCell ⟨w.heap.size + 1, 4, none⟩ v) :=
  h.keep hg _ _ (by have hrb := h.rb; unfold RqB at hrb ⊢; rw [setCell_block _ _ _ _ _ _ _ hrb]; rfl)
theorem RpQ.setB {w : World} {g : Nat} {x : Mg} {body : List UInt8} {fl ql : List Fd} {f : Value} {b : ByteArray} {yv : Value} {V : World} (h : RpQ w g x body fl ql f b yv V) (hg : g < w.heap.size) (v : ByteArray) : RpQ w g x body fl ql f v yv (V.setCell ⟨w.heap.size + 1, 5, none⟩ (.string v)) :=
  h.keep hg _ _ (by have hrb := h.rb; unfold RqB at hrb ⊢; rw [setCell_block _ _ _ _ _ _ _ hrb]; rfl)
theorem RpQ.cells {w : World} {g : Nat} {x : Mg} {body : List UInt8} {fl ql : List Fd} {f : Value} {b : ByteArray} {yv : Value} {V : World} (h : RpQ w g x body fl ql f b yv V) : V.cell? ⟨w.heap.size + 1, 4, none⟩ = some f ∧ V.cell? ⟨w.heap.size + 1, 5, none⟩ = some (.string b) ∧ (∀ i, V.frozen? ⟨w.heap.size + 1, i, none⟩ = false) ∧ w.heap.size + 1 < V.heap.size :=
  ⟨cell_blk h.rb 4, cell_blk h.rb 5, fun i => frozen_blk h.rb i, heap_lt h.rb⟩

def SPost (x : Mg) (body : List UInt8) (l : List Fd) (w : World) (e : Ending) (w' : World) : Prop :=
  ∃ y : SV, e = .returned (.agg (rsv x.n (sv y) (bt body))) ∧ Below w.heap.size w w' ∧ R EFd w' (sv y) l ∧ ∀ k, (sv y).ownBlock = some k → w.heap.size ≤ k
set_option maxHeartbeats 20000000 in
set_option maxRecDepth 100000 in
theorem response_any (g : Nat) (x : Mg) (body : List UInt8) (fl ql : List Fd) (w : World) (h : Msg w g x body fl ql) (hrq : x.rq = false) (hlen : fl.length * 40 ≤ 140737488355328) :
    Calls Tryd.prog 11 #[.pointer (some ⟨g, 0, none⟩)] w fun e w' => SPost x body fl w e w' := by
  obtain ⟨⟨bb, bn, bc⟩, hbs⟩ : ∃ b, x.bs = b := ⟨_, rfl⟩
  obtain ⟨⟨yb, yn, yc⟩, hys⟩ : ∃ b, x.ry = b := ⟨_, rfl⟩
  have HX : Hid (x.bs = (bb, bn, bc)) := hbs
  have HY : Hid (x.ry = (yb, yn, yc)) := hys
  have HM : Hid (Msg w g x body fl ql) := h
  have HLEN : Hid (fl.length * 40 ≤ 140737488355328) := hlen
  have HG : Hid (g < w.heap.size) := heap_lt h.bx
  obtain ⟨w1, hw1⟩ : ∃ v, w.alloc (.cells #[.int .i64 0, .slice none 0 0, .string ⟨#[]⟩] 34) = v := ⟨_, rfl⟩
  have b1 : Below w.heap.size w w1 := by rw [← hw1]; exact bel1 w _
  have m1 := (h.below b1).bx
  unfold MgB at m1
  have c0 := cell_blk m1 0
  have c7 := cell_blk m1 7
  have c8 := cell_blk m1 8
  have c9 := cell_blk m1 9
  have lg := heap_lt m1
  simp only [mgv, sv, hys, hrq, List.getElem?_toArray, List.getElem?_cons_succ, List.getElem?_cons_zero] at c0 c7 c8 c9
  have HW1 : Hid (w.alloc (.cells #[.int .i64 0, .slice none 0 0, .string ⟨#[]⟩] 34) = w1) := hw1
  have hsz : w1.heap.size = w.heap.size + 1 := by rw [← hw1]; exact size_al _ _
  obtain ⟨w5, hw5⟩ : ∃ v, w1.alloc (.cells #[.int .i64 x.n, .slice yb yn yc, .string ⟨#[]⟩] 34) = v := ⟨_, rfl⟩
  have HW5 : Hid (w1.alloc (.cells #[.int .i64 x.n, .slice yb yn yc, .string ⟨#[]⟩] 34) = w5) := hw5
  have b5 : Below w1.heap.size w1 w5 := by rw [← hw5]; exact bel1 w1 _
  have H5 : Hid (RpS w g x body fl ql (.slice yb yn yc) ⟨#[]⟩ (.slice yb yn yc) w5) := by
    have hm := (h.below b1).below b5
    refine ⟨hm, ?_, ?_, b1.trans (b5.mono b1.size), ?_⟩
    · unfold RsB
      rw [← hw5, heap_al, if_pos hsz.symm]
      rfl
    · unfold RsB
      rw [(b5.block _ (by omega)), ← hw1, heap_al, if_pos rfl]
      rfl
    · have := hm.rf
      rw [hys] at this
      exact this
  have HSZ : Hid (w1.heap.size = w.heap.size + 1) := hsz
  clear h hrq hlen hbs hys b1 b5 m1 hw1 hw5 hsz
  go_enter Tryd.func11, Tryd.ntmps11
  go_upto_region 1 with fail
  rw [HW1.out]
  go_upto_region 4 with fail
  rw [HW5.out, HSZ.out]
  clear c0 c7 c8 c9 lg HW1 HW5
  have hIW : Below w5.heap.size w5 (w5.drew) := (Below.refl _ _).drew
  refine wp_region_held_drew (S := (fun W => W.cell? ⟨g, 11, none⟩ = some (.slice bb bn bc))) (by kernel_rfl) (by have := (H5.out.below hIW).ms.bx.cells.c11; rw [HX.out] at this; exact this) (fun hHeld => ?_)
  generalize hWg : World.drew _ = W at hIW hHeld ⊢
  clear hWg
  have hsW : Hid (RpS w g x body fl ql (.slice yb yn yc) ⟨#[]⟩ (.slice yb yn yc) W) := H5.out.below hIW
  clear hIW H5
  refine wpAnyH_take (i := 0) (oi := { dst := some 13, op := Op.fieldAddr 34 (Operand.tmp 3) 1, type := 0, pos := "message.go:98", after := #[], guard := none }) (v := ?vv1) rfl (by kernel_rfl) (by kernel_rfl) (by kernel_rfl) (fun _ _ _ h => h) (Or.inl ⟨by rfl, ?hy1⟩) (by assumption) ?_
  case hy1 => (intro w hSw; (try dsimp only at hSw); go_simp; all_goals with_reducible rfl)
  try simp only [Act.put, List.setIfInBounds_toArray, List.set_cons_zero, List.set_cons_succ]
  refine wpAnyH_take (i := 3) (oi := { dst := some 16, op := Op.move (Operand.tmp 0), type := 29, pos := "message.go:98", after := #[{ on := 9, ground := Ground.gcOnly Departure.lateStores }], guard := none }) (v := ?vv2) rfl (by kernel_rfl) (by kernel_rfl) (by kernel_rfl) (fun _ _ _ h => h) (Or.inl ⟨by rfl, ?hy2⟩) (by assumption) ?_
  case hy2 => (intro w hSw; (try dsimp only at hSw); go_simp; all_goals with_reducible rfl)
  try simp only [Act.put, List.setIfInBounds_toArray, List.set_cons_zero, List.set_cons_succ]
  refine wpAnyH_take (i := 4) (oi := { dst := some 17, op := Op.nilCheck (Operand.tmp 16), type := 0, pos := "message.go:98", after := #[{ on := 3, ground := Ground.data }, { on := 9, ground := Ground.gcOnly Departure.lateStores }], guard := none }) (v := ?vv3) rfl (by kernel_rfl) (by kernel_rfl) (by kernel_rfl) (fun _ _ _ h => h) (Or.inl ⟨by rfl, ?hy3⟩) (by assumption) ?_
  case hy3 => (intro w hSw; (try dsimp only at hSw); go_simp; all_goals with_reducible rfl)
  try simp only [Act.put, List.setIfInBounds_toArray, List.set_cons_zero, List.set_cons_succ]
  refine wpAnyH_take (i := 5) (oi := { dst := some 18, op := Op.fieldAddr 53 (Operand.tmp 17) 4, type := 0, pos := "message.go:98", after := #[{ on := 4, ground := Ground.data }, { on := 9, ground := Ground.gcOnly Departure.lateStores }], guard := none }) (v := ?vv4) rfl (by kernel_rfl) (by kernel_rfl) (by kernel_rfl) (fun _ _ _ h => h) (Or.inl ⟨by rfl, ?hy4⟩) (by assumption) ?_
  case hy4 => (intro w hSw; (try dsimp only at hSw); go_simp; all_goals with_reducible rfl)
  try simp only [Act.put, List.setIfInBounds_toArray, List.set_cons_zero, List.set_cons_succ]
  refine wpAnyH_take (i := 6) (oi := { dst := some 19, op := Op.load 51 (Operand.tmp 18), type := 51, pos := "message.go:98", after := #[{ on := 5, ground := Ground.data }, { on := 9, ground := Ground.gcOnly Departure.lateStores }], guard := none }) (v := ?vv5) rfl (by kernel_rfl) (by kernel_rfl) (by kernel_rfl) (fun _ _ _ h => h) (Or.inl ⟨by rfl, ?hy5⟩) (by assumption) ?_
  case hy5 => (intro w hSw; (try dsimp only at hSw); go_simp; all_goals with_reducible rfl)
  try simp only [Act.put, List.setIfInBounds_toArray, List.set_cons_zero, List.set_cons_succ]
  refine wpAnyH_ready (rs := [1, 7]) (by kernel_rfl) (by simp) ?_
  refine AllReadyH.cons (o := { dst := some 14, op := Op.load 24 (Operand.tmp 13), type := 24, pos := "message.go:98", after := #[{ on := 0, ground := Ground.data }], guard := none }) rfl (fun K hK => ?_) ?_
  · obtain ⟨a1W, a2W, a3W, a4W⟩ := hsW.out.cells
    try simp only [sv] at a1W
    go_simp
    go_wp2_with fail
    refine hK.out _ _ (by have := hsW.out.ms.bx.cells.c11; rw [HX.out] at this; exact this) (fun hHeld => ?_)
    clear hK K a1W a2W a3W a4W
    try simp only [Act.put, List.setIfInBounds_toArray, List.set_cons_zero, List.set_cons_succ]
    refine wpAnyH_ready (rs := [2, 7]) (by kernel_rfl) (by simp) ?_
    refine AllReadyH.cons (o := { dst := some 15, op := Op.call { callee := Callee.value (Operand.func 24), args := #[Operand.tmp 14], argTypes := #[24] }, type := 24, pos := "message.go:98", after := #[{ on := 1, ground := Ground.data }], guard := none }) rfl (fun K hK => ?_) ?_
    · go_simp
      refine (clone_any (yb, yn, yc) fl W (R.isIn (by have := hsW.out.ms.rf; rw [HY.out] at this; exact this)) (HLEN.out)).mono ?_
      rintro e' Wxx ⟨⟨zb, zn, zc⟩, rfl, bX, rX, oX⟩
      have hWxx : Hid (RpS w g x body fl ql (.slice yb yn yc) ⟨#[]⟩ (.slice zb zn zc) Wxx) := ⟨(hsW.out.below bX).ms, (hsW.out.below bX).rb, (hsW.out.below bX).ob, (hsW.out.below bX).bel, rX⟩
      have OZ : Hid (∀ k, (Value.slice zb zn zc).ownBlock = some k → w.heap.size ≤ k) := fun k hk => Nat.le_trans hsW.out.bel.size (oX k hk)
      try simp only [sv]
      go_wp2_with fail
      refine hK.out _ _ (by have := hWxx.out.ms.bx.cells.c11; rw [HX.out] at this; exact this) (fun hHeld => ?_)
      clear hK K bX rX oX hsW
      try simp only [Act.put, List.setIfInBounds_toArray, List.set_cons_zero, List.set_cons_succ]
      refine wpAnyH_take (i := 8) (oi := { dst := some 21, op := Op.fieldAddr 34 (Operand.tmp 3) 1, type := 0, pos := "message.go:98", after := #[{ on := 0, ground := Ground.phase }, { on := 1, ground := Ground.phase }, { on := 2, ground := Ground.phase }, { on := 3, ground := Ground.textOnly Departure.lateStores }, { on := 4, ground := Ground.textOnly Departure.lateStores }, { on := 5, ground := Ground.textOnly Departure.lateStores }, { on := 6, ground := Ground.textOnly Departure.lateStores }, { on := 7, ground := Ground.textOnly Departure.lateStores }], guard := none }) (v := ?vv6) rfl (by kernel_rfl) (by kernel_rfl) (by kernel_rfl) (fun _ _ _ h => h) (Or.inl ⟨by rfl, ?hy6⟩) (by assumption) ?_
      case hy6 => (intro w hSw; (try dsimp only at hSw); go_simp; all_goals with_reducible rfl)
      try simp only [Act.put, List.setIfInBounds_toArray, List.set_cons_zero, List.set_cons_succ]
      refine wpAnyH_ready (rs := [7, 9]) (by kernel_rfl) (by simp) ?_
      refine AllReadyH.cons (o := { dst := some 20, op := Op.convert 51 9 (Operand.tmp 19), type := 9, pos := "message.go:98", after := #[{ on := 6, ground := Ground.data }, { on := 9, ground := Ground.gcOnly Departure.lateStores }], guard := none }) rfl (fun K hK => ?_) ?_
      · have hcv : Sem.run Tryd.prog (convert 51 9 (.slice bb bn bc)) Wxx = .ok (.string (bt body)) Wxx := conv_row' (R.isIn (by have := hWxx.out.ms.rb; rw [HX.out] at this; exact this))
        go_simp
        go_wp2_with fail
        refine hK.out _ _ (by have := hWxx.out.ms.bx.cells.c11; rw [HX.out] at this; exact this) (fun hHeld => ?_)
        clear hK K hcv
        try simp only [Act.put, List.setIfInBounds_toArray, List.set_cons_zero, List.set_cons_succ]
        refine wpAnyH_ready (rs := [9]) (by kernel_rfl) (by simp) ?_
        refine AllReadyH.cons (o := { dst := none, op := Op.store 24 (Operand.tmp 21) (Operand.tmp 15), type := 0, pos := "message.go:98", after := #[{ on := 8, ground := Ground.data }, { on := 2, ground := Ground.data }, { on := 2, ground := Ground.chain }, { on := 0, ground := Ground.phase }, { on := 1, ground := Ground.phase }, { on := 2, ground := Ground.phase }, { on := 3, ground := Ground.textOnly Departure.lateStores }, { on := 4, ground := Ground.textOnly Departure.lateStores }, { on := 5, ground := Ground.textOnly Departure.lateStores }, { on := 6, ground := Ground.textOnly Departure.lateStores }, { on := 7, ground := Ground.textOnly Departure.lateStores }], guard := none }) rfl (fun K hK => ?_) AllReadyH.nil
        obtain ⟨a1, a2, a3, a4⟩ := hWxx.out.cells
        have a5 := a3 1
        have hs9 : Hid (RpS w g x body fl ql (.slice zb zn zc) ⟨#[]⟩ (.slice zb zn zc) (Wxx.setCell ⟨w.heap.size + 1, 1, none⟩ (.slice zb zn zc))) := hWxx.out.setF HG.out _
        try simp only [sv] at a1
        clear a2 a3
        go_simp
        go_wp2_with fail
        refine hK.out _ _ (by have := hs9.out.ms.bx.cells.c11; rw [HX.out] at this; exact this) (fun hHeld => ?_)
        clear hK K a1 a4 a5 hWxx
        obtain ⟨V9, hV9⟩ : ∃ v, Wxx.setCell ⟨w.heap.size + 1, 1, none⟩ (.slice zb zn zc) = v := ⟨_, rfl⟩
        rw [hV9] at hs9 hHeld ⊢
        clear hV9
        try simp only [Act.put, List.setIfInBounds_toArray, List.set_cons_zero, List.set_cons_succ]
        refine wpAnyH_take (i := 10) (oi := { dst := some 22, op := Op.fieldAddr 34 (Operand.tmp 3) 2, type := 0, pos := "message.go:98", after := #[{ on := 0, ground := Ground.phase }, { on := 1, ground := Ground.phase }, { on := 2, ground := Ground.phase }, { on := 3, ground := Ground.phase }, { on := 4, ground := Ground.phase }, { on := 5, ground := Ground.phase }, { on := 6, ground := Ground.phase }, { on := 7, ground := Ground.phase }, { on := 8, ground := Ground.phase }, { on := 9, ground := Ground.phase }], guard := none }) (v := ?vv7) rfl (by kernel_rfl) (by kernel_rfl) (by kernel_rfl) (fun _ _ _ h => h) (Or.inl ⟨by rfl, ?hy7⟩) (by assumption) ?_
        case hy7 => (intro w hSw; (try dsimp only at hSw); go_simp; all_goals with_reducible rfl)
        try simp only [Act.put, List.setIfInBounds_toArray, List.set_cons_zero, List.set_cons_succ]
        refine wpAnyH_ready (rs := [11]) (by kernel_rfl) (by simp) ?_
        refine AllReadyH.cons (o := { dst := none, op := Op.store 9 (Operand.tmp 22) (Operand.tmp 20), type := 0, pos := "message.go:98", after := #[{ on := 10, ground := Ground.data }, { on := 7, ground := Ground.data }, { on := 9, ground := Ground.chain }, { on := 0, ground := Ground.phase }, { on := 1, ground := Ground.phase }, { on := 2, ground := Ground.phase }, { on := 3, ground := Ground.phase }, { on := 4, ground := Ground.phase }, { on := 5, ground := Ground.phase }, { on := 6, ground := Ground.phase }, { on := 7, ground := Ground.phase }, { on := 8, ground := Ground.phase }, { on := 9, ground := Ground.phase }], guard := none }) rfl (fun K hK => ?_) AllReadyH.nil
        obtain ⟨a1, a2, a3, a4⟩ := hs9.out.cells
        have a5 := a3 2
        have hs11 : Hid (RpS w g x body fl ql (.slice zb zn zc) (bt body) (.slice zb zn zc) (V9.setCell ⟨w.heap.size + 1, 2, none⟩ (.string (bt body)))) := hs9.out.setB HG.out _
        clear a1 a3
        go_simp
        go_wp2_with fail
        refine hK.out _ _ (by have := hs11.out.ms.bx.cells.c11; rw [HX.out] at this; exact this) (fun hHeld => ?_)
        clear hK K a2 a4 a5 hs9
        obtain ⟨V11, hV11⟩ : ∃ v, V9.setCell ⟨w.heap.size + 1, 2, none⟩ (.string (bt body)) = v := ⟨_, rfl⟩
        rw [hV11] at hs11 hHeld ⊢
        clear hV11
        try simp only [Act.put, List.setIfInBounds_toArray, List.set_cons_zero, List.set_cons_succ]
        refine wpAnyH_done (by kernel_rfl) ?_ _
        have hrb := hs11.out.rb
        have hob := hs11.out.ob
        unfold RsB at hrb hob
        have p0 := cell_blk hrb 0
        have o0 := cell_blk hob 0
        have z0 := frozen_blk hob 0
        have p1 := cell_blk hrb 1
        have o1 := cell_blk hob 1
        have z1 := frozen_blk hob 1
        have p2 := cell_blk hrb 2
        have o2 := cell_blk hob 2
        have z2 := frozen_blk hob 2
        have pl := heap_lt hrb
        have ol := heap_lt hob
        have HR : Hid (RsB (((V11.setCell ⟨w.heap.size, 0, none⟩ (.int .i64 x.n)).setCell ⟨w.heap.size, 1, none⟩ (.slice zb zn zc)).setCell ⟨w.heap.size, 2, none⟩ (.string (bt body))) w.heap.size x.n (.slice zb zn zc) (bt body) ∧ Below w.heap.size w (((V11.setCell ⟨w.heap.size, 0, none⟩ (.int .i64 x.n)).setCell ⟨w.heap.size, 1, none⟩ (.slice zb zn zc)).setCell ⟨w.heap.size, 2, none⟩ (.string (bt body))) ∧ R EFd (((V11.setCell ⟨w.heap.size, 0, none⟩ (.int .i64 x.n)).setCell ⟨w.heap.size, 1, none⟩ (.slice zb zn zc)).setCell ⟨w.heap.size, 2, none⟩ (.string (bt body))) (.slice zb zn zc) fl) := by
          have hB : Below w.heap.size V11 (((V11.setCell ⟨w.heap.size, 0, none⟩ (.int .i64 x.n)).setCell ⟨w.heap.size, 1, none⟩ (.slice zb zn zc)).setCell ⟨w.heap.size, 2, none⟩ (.string (bt body))) := (((Below.refl _ _).setCell (p := ⟨w.heap.size, 0, none⟩) (Nat.le_refl _) _).setCell (p := ⟨w.heap.size, 1, none⟩) (Nat.le_refl _) _).setCell (p := ⟨w.heap.size, 2, none⟩) (Nat.le_refl _) _
          refine ⟨by unfold RsB; rw [setCell_block _ _ _ _ _ _ _ (setCell_block _ _ _ _ _ _ _ (setCell_block _ _ _ _ _ _ _ hob))]; rfl, hs11.out.bel.trans hB, R.stays hs11.out.cl fun k hk hl => ?_⟩
          have hk : k ≠ w.heap.size := fun e => by
            obtain ⟨c, hc⟩ := R.ty hs11.out.cl k hk
            rw [e, hob] at hc
            simp [EFd] at hc
          simp only [setCell_other _ _ _ _ _ hk]
        simp only [rsv, List.getElem?_toArray, List.getElem?_cons_succ, List.getElem?_cons_zero] at p0 o0 p1 o1 p2 o2
        clear hrb hob hs11 hHeld
        go_wp2_with fail
        refine bodyPost_ret (results_c (p := 2) (ty := 34) rfl _ _ w.heap.size 34 (rsv x.n (.slice zb zn zc) (bt body)) (0, 0) _ rfl HR.out.1 Tryd.underlying34 rfl (by kernel_rfl)) rfl ?_
        exact ⟨(zb, zn, zc), by first | rfl | simp, HR.out.2.1, HR.out.2.2, OZ.out⟩
      refine AllReadyH.cons (o := { dst := none, op := Op.store 24 (Operand.tmp 21) (Operand.tmp 15), type := 0, pos := "message.go:98", after := #[{ on := 8, ground := Ground.data }, { on := 2, ground := Ground.data }, { on := 2, ground := Ground.chain }, { on := 0, ground := Ground.phase }, { on := 1, ground := Ground.phase }, { on := 2, ground := Ground.phase }, { on := 3, ground := Ground.textOnly Departure.lateStores }, { on := 4, ground := Ground.textOnly Departure.lateStores }, { on := 5, ground := Ground.textOnly Departure.lateStores }, { on := 6, ground := Ground.textOnly Departure.lateStores }, { on := 7, ground := Ground.textOnly Departure.lateStores }], guard := none }) rfl (fun K hK => ?_) AllReadyH.nil
      obtain ⟨a1, a2, a3, a4⟩ := hWxx.out.cells
      have a5 := a3 1
      have hs9 : Hid (RpS w g x body fl ql (.slice zb zn zc) ⟨#[]⟩ (.slice zb zn zc) (Wxx.setCell ⟨w.heap.size + 1, 1, none⟩ (.slice zb zn zc))) := hWxx.out.setF HG.out _
      try simp only [sv] at a1
      clear a2 a3
      go_simp
      go_wp2_with fail
      refine hK.out _ _ (by have := hs9.out.ms.bx.cells.c11; rw [HX.out] at this; exact this) (fun hHeld => ?_)
      clear hK K a1 a4 a5 hWxx
      obtain ⟨V9, hV9⟩ : ∃ v, Wxx.setCell ⟨w.heap.size + 1, 1, none⟩ (.slice zb zn zc) = v := ⟨_, rfl⟩
      rw [hV9] at hs9 hHeld ⊢
      clear hV9
      try simp only [Act.put, List.setIfInBounds_toArray, List.set_cons_zero, List.set_cons_succ]
      refine wpAnyH_ready (rs := [7]) (by kernel_rfl) (by simp) ?_
      refine AllReadyH.cons (o := { dst := some 20, op := Op.convert 51 9 (Operand.tmp 19), type := 9, pos := "message.go:98", after := #[{ on := 6, ground := Ground.data }, { on := 9, ground := Ground.gcOnly Departure.lateStores }], guard := none }) rfl (fun K hK => ?_) AllReadyH.nil
      have hcv : Sem.run Tryd.prog (convert 51 9 (.slice bb bn bc)) V9 = .ok (.string (bt body)) V9 := conv_row' (R.isIn (by have := hs9.out.ms.rb; rw [HX.out] at this; exact this))
      go_simp
      go_wp2_with fail
      refine hK.out _ _ (by have := hs9.out.ms.bx.cells.c11; rw [HX.out] at this; exact this) (fun hHeld => ?_)
      clear hK K hcv
      try simp only [Act.put, List.setIfInBounds_toArray, List.set_cons_zero, List.set_cons_succ]
      refine wpAnyH_take (i := 10) (oi := { dst := some 22, op := Op.fieldAddr 34 (Operand.tmp 3) 2, type := 0, pos := "message.go:98", after := #[{ on := 0, ground := Ground.phase }, { on := 1, ground := Ground.phase }, { on := 2, ground := Ground.phase }, { on := 3, ground := Ground.phase }, { on := 4, ground := Ground.phase }, { on := 5, ground := Ground.phase }, { on := 6, ground := Ground.phase }, { on := 7, ground := Ground.phase }, { on := 8, ground := Ground.phase }, { on := 9, ground := Ground.phase }], guard := none }) (v := ?vv8) rfl (by kernel_rfl) (by kernel_rfl) (by kernel_rfl) (fun _ _ _ h => h) (Or.inl ⟨by rfl, ?hy8⟩) (by assumption) ?_
      case hy8 => (intro w hSw; (try dsimp only at hSw); go_simp; all_goals with_reducible rfl)
      try simp only [Act.put, List.setIfInBounds_toArray, List.set_cons_zero, List.set_cons_succ]
      refine wpAnyH_ready (rs := [11]) (by kernel_rfl) (by simp) ?_
      refine AllReadyH.cons (o := { dst := none, op := Op.store 9 (Operand.tmp 22) (Operand.tmp 20), type := 0, pos := "message.go:98", after := #[{ on := 10, ground := Ground.data }, { on := 7, ground := Ground.data }, { on := 9, ground := Ground.chain }, { on := 0, ground := Ground.phase }, { on := 1, ground := Ground.phase }, { on := 2, ground := Ground.phase }, { on := 3, ground := Ground.phase }, { on := 4, ground := Ground.phase }, { on := 5, ground := Ground.phase }, { on := 6, ground := Ground.phase }, { on := 7, ground := Ground.phase }, { on := 8, ground := Ground.phase }, { on := 9, ground := Ground.phase }], guard := none }) rfl (fun K hK => ?_) AllReadyH.nil
      obtain ⟨a1, a2, a3, a4⟩ := hs9.out.cells
      have a5 := a3 2
      have hs11 : Hid (RpS w g x body fl ql (.slice zb zn zc) (bt body) (.slice zb zn zc) (V9.setCell ⟨w.heap.size + 1, 2, none⟩ (.string (bt body)))) := hs9.out.setB HG.out _
      clear a1 a3
      go_simp
      go_wp2_with fail
      refine hK.out _ _ (by have := hs11.out.ms.bx.cells.c11; rw [HX.out] at this; exact this) (fun hHeld => ?_)
      clear hK K a2 a4 a5 hs9
      obtain ⟨V11, hV11⟩ : ∃ v, V9.setCell ⟨w.heap.size + 1, 2, none⟩ (.string (bt body)) = v := ⟨_, rfl⟩
      rw [hV11] at hs11 hHeld ⊢
      clear hV11
      try simp only [Act.put, List.setIfInBounds_toArray, List.set_cons_zero, List.set_cons_succ]
      refine wpAnyH_done (by kernel_rfl) ?_ _
      have hrb := hs11.out.rb
      have hob := hs11.out.ob
      unfold RsB at hrb hob
      have p0 := cell_blk hrb 0
      have o0 := cell_blk hob 0
      have z0 := frozen_blk hob 0
      have p1 := cell_blk hrb 1
      have o1 := cell_blk hob 1
      have z1 := frozen_blk hob 1
      have p2 := cell_blk hrb 2
      have o2 := cell_blk hob 2
      have z2 := frozen_blk hob 2
      have pl := heap_lt hrb
      have ol := heap_lt hob
      have HR : Hid (RsB (((V11.setCell ⟨w.heap.size, 0, none⟩ (.int .i64 x.n)).setCell ⟨w.heap.size, 1, none⟩ (.slice zb zn zc)).setCell ⟨w.heap.size, 2, none⟩ (.string (bt body))) w.heap.size x.n (.slice zb zn zc) (bt body) ∧ Below w.heap.size w (((V11.setCell ⟨w.heap.size, 0, none⟩ (.int .i64 x.n)).setCell ⟨w.heap.size, 1, none⟩ (.slice zb zn zc)).setCell ⟨w.heap.size, 2, none⟩ (.string (bt body))) ∧ R EFd (((V11.setCell ⟨w.heap.size, 0, none⟩ (.int .i64 x.n)).setCell ⟨w.heap.size, 1, none⟩ (.slice zb zn zc)).setCell ⟨w.heap.size, 2, none⟩ (.string (bt body))) (.slice zb zn zc) fl) := by
        have hB : Below w.heap.size V11 (((V11.setCell ⟨w.heap.size, 0, none⟩ (.int .i64 x.n)).setCell ⟨w.heap.size, 1, none⟩ (.slice zb zn zc)).setCell ⟨w.heap.size, 2, none⟩ (.string (bt body))) := (((Below.refl _ _).setCell (p := ⟨w.heap.size, 0, none⟩) (Nat.le_refl _) _).setCell (p := ⟨w.heap.size, 1, none⟩) (Nat.le_refl _) _).setCell (p := ⟨w.heap.size, 2, none⟩) (Nat.le_refl _) _
        refine ⟨by unfold RsB; rw [setCell_block _ _ _ _ _ _ _ (setCell_block _ _ _ _ _ _ _ (setCell_block _ _ _ _ _ _ _ hob))]; rfl, hs11.out.bel.trans hB, R.stays hs11.out.cl fun k hk hl => ?_⟩
        have hk : k ≠ w.heap.size := fun e => by
          obtain ⟨c, hc⟩ := R.ty hs11.out.cl k hk
          rw [e, hob] at hc
          simp [EFd] at hc
        simp only [setCell_other _ _ _ _ _ hk]
      simp only [rsv, List.getElem?_toArray, List.getElem?_cons_succ, List.getElem?_cons_zero] at p0 o0 p1 o1 p2 o2
      clear hrb hob hs11 hHeld
      go_wp2_with fail
      refine bodyPost_ret (results_c (p := 2) (ty := 34) rfl _ _ w.heap.size 34 (rsv x.n (.slice zb zn zc) (bt body)) (0, 0) _ rfl HR.out.1 Tryd.underlying34 rfl (by kernel_rfl)) rfl ?_
      exact ⟨(zb, zn, zc), by first | rfl | simp, HR.out.2.1, HR.out.2.2, OZ.out⟩
    refine AllReadyH.cons (o := { dst := some 20, op := Op.convert 51 9 (Operand.tmp 19), type := 9, pos := "message.go:98", after := #[{ on := 6, ground := Ground.data }, { on := 9, ground := Ground.gcOnly Departure.lateStores }], guard := none }) rfl (fun K hK => ?_) AllReadyH.nil
    have hcv : Sem.run Tryd.prog (convert 51 9 (.slice bb bn bc)) W = .ok (.string (bt body)) W := conv_row' (R.isIn (by have := hsW.out.ms.rb; rw [HX.out] at this; exact this))
    go_simp
    go_wp2_with fail
    refine hK.out _ _ (by have := hsW.out.ms.bx.cells.c11; rw [HX.out] at this; exact this) (fun hHeld => ?_)
    clear hK K hcv
    try simp only [Act.put, List.setIfInBounds_toArray, List.set_cons_zero, List.set_cons_succ]
    refine wpAnyH_ready (rs := [2]) (by kernel_rfl) (by simp) ?_
    refine AllReadyH.cons (o := { dst := some 15, op := Op.call { callee := Callee.value (Operand.func 24), args := #[Operand.tmp 14], argTypes := #[24] }, type := 24, pos := "message.go:98", after := #[{ on := 1, ground := Ground.data }], guard := none }) rfl (fun K hK => ?_) AllReadyH.nil
    go_simp
    refine (clone_any (yb, yn, yc) fl W (R.isIn (by have := hsW.out.ms.rf; rw [HY.out] at this; exact this)) (HLEN.out)).mono ?_
    rintro e' Wxxx ⟨⟨zb, zn, zc⟩, rfl, bX, rX, oX⟩
    have hWxxx : Hid (RpS w g x body fl ql (.slice yb yn yc) ⟨#[]⟩ (.slice zb zn zc) Wxxx) := ⟨(hsW.out.below bX).ms, (hsW.out.below bX).rb, (hsW.out.below bX).ob, (hsW.out.below bX).bel, rX⟩
    have OZ : Hid (∀ k, (Value.slice zb zn zc).ownBlock = some k → w.heap.size ≤ k) := fun k hk => Nat.le_trans hsW.out.bel.size (oX k hk)
    try simp only [sv]
    go_wp2_with fail
    refine hK.out _ _ (by have := hWxxx.out.ms.bx.cells.c11; rw [HX.out] at this; exact this) (fun hHeld => ?_)
    clear hK K bX rX oX hsW
    try simp only [Act.put, List.setIfInBounds_toArray, List.set_cons_zero, List.set_cons_succ]
    refine wpAnyH_take (i := 8) (oi := { dst := some 21, op := Op.fieldAddr 34 (Operand.tmp 3) 1, type := 0, pos := "message.go:98", after := #[{ on := 0, ground := Ground.phase }, { on := 1, ground := Ground.phase }, { on := 2, ground := Ground.phase }, { on := 3, ground := Ground.textOnly Departure.lateStores }, { on := 4, ground := Ground.textOnly Departure.lateStores }, { on := 5, ground := Ground.textOnly Departure.lateStores }, { on := 6, ground := Ground.textOnly Departure.lateStores }, { on := 7, ground := Ground.textOnly Departure.lateStores }], guard := none }) (v := ?vv9) rfl (by kernel_rfl) (by kernel_rfl) (by kernel_rfl) (fun _ _ _ h => h) (Or.inl ⟨by rfl, ?hy9⟩) (by assumption) ?_
    case hy9 => (intro w hSw; (try dsimp only at hSw); go_simp; all_goals with_reducible rfl)
    try simp only [Act.put, List.setIfInBounds_toArray, List.set_cons_zero, List.set_cons_succ]
    refine wpAnyH_ready (rs := [9]) (by kernel_rfl) (by simp) ?_
    refine AllReadyH.cons (o := { dst := none, op := Op.store 24 (Operand.tmp 21) (Operand.tmp 15), type := 0, pos := "message.go:98", after := #[{ on := 8, ground := Ground.data }, { on := 2, ground := Ground.data }, { on := 2, ground := Ground.chain }, { on := 0, ground := Ground.phase }, { on := 1, ground := Ground.phase }, { on := 2, ground := Ground.phase }, { on := 3, ground := Ground.textOnly Departure.lateStores }, { on := 4, ground := Ground.textOnly Departure.lateStores }, { on := 5, ground := Ground.textOnly Departure.lateStores }, { on := 6, ground := Ground.textOnly Departure.lateStores }, { on := 7, ground := Ground.textOnly Departure.lateStores }], guard := none }) rfl (fun K hK => ?_) AllReadyH.nil
    obtain ⟨a1, a2, a3, a4⟩ := hWxxx.out.cells
    have a5 := a3 1
    have hs9 : Hid (RpS w g x body fl ql (.slice zb zn zc) ⟨#[]⟩ (.slice zb zn zc) (Wxxx.setCell ⟨w.heap.size + 1, 1, none⟩ (.slice zb zn zc))) := hWxxx.out.setF HG.out _
    try simp only [sv] at a1
    clear a2 a3
    go_simp
    go_wp2_with fail
    refine hK.out _ _ (by have := hs9.out.ms.bx.cells.c11; rw [HX.out] at this; exact this) (fun hHeld => ?_)
    clear hK K a1 a4 a5 hWxxx
    obtain ⟨V9, hV9⟩ : ∃ v, Wxxx.setCell ⟨w.heap.size + 1, 1, none⟩ (.slice zb zn zc) = v := ⟨_, rfl⟩
    rw [hV9] at hs9 hHeld ⊢
    clear hV9
    try simp only [Act.put, List.setIfInBounds_toArray, List.set_cons_zero, List.set_cons_succ]
    refine wpAnyH_take (i := 10) (oi := { dst := some 22, op := Op.fieldAddr 34 (Operand.tmp 3) 2, type := 0, pos := "message.go:98", after := #[{ on := 0, ground := Ground.phase }, { on := 1, ground := Ground.phase }, { on := 2, ground := Ground.phase }, { on := 3, ground := Ground.phase }, { on := 4, ground := Ground.phase }, { on := 5, ground := Ground.phase }, { on := 6, ground := Ground.phase }, { on := 7, ground := Ground.phase }, { on := 8, ground := Ground.phase }, { on := 9, ground := Ground.phase }], guard := none }) (v := ?vv10) rfl (by kernel_rfl) (by kernel_rfl) (by kernel_rfl) (fun _ _ _ h => h) (Or.inl ⟨by rfl, ?hy10⟩) (by assumption) ?_
    case hy10 => (intro w hSw; (try dsimp only at hSw); go_simp; all_goals with_reducible rfl)
    try simp only [Act.put, List.setIfInBounds_toArray, List.set_cons_zero, List.set_cons_succ]
    refine wpAnyH_ready (rs := [11]) (by kernel_rfl) (by simp) ?_
    refine AllReadyH.cons (o := { dst := none, op := Op.store 9 (Operand.tmp 22) (Operand.tmp 20), type := 0, pos := "message.go:98", after := #[{ on := 10, ground := Ground.data }, { on := 7, ground := Ground.data }, { on := 9, ground := Ground.chain }, { on := 0, ground := Ground.phase }, { on := 1, ground := Ground.phase }, { on := 2, ground := Ground.phase }, { on := 3, ground := Ground.phase }, { on := 4, ground := Ground.phase }, { on := 5, ground := Ground.phase }, { on := 6, ground := Ground.phase }, { on := 7, ground := Ground.phase }, { on := 8, ground := Ground.phase }, { on := 9, ground := Ground.phase }], guard := none }) rfl (fun K hK => ?_) AllReadyH.nil
    obtain ⟨a1, a2, a3, a4⟩ := hs9.out.cells
    have a5 := a3 2
    have hs11 : Hid (RpS w g x body fl ql (.slice zb zn zc) (bt body) (.slice zb zn zc) (V9.setCell ⟨w.heap.size + 1, 2, none⟩ (.string (bt body)))) := hs9.out.setB HG.out _
    clear a1 a3
    go_simp
    go_wp2_with fail
    refine hK.out _ _ (by have := hs11.out.ms.bx.cells.c11; rw [HX.out] at this; exact this) (fun hHeld => ?_)
    clear hK K a2 a4 a5 hs9
    obtain ⟨V11, hV11⟩ : ∃ v, V9.setCell ⟨w.heap.size + 1, 2, none⟩ (.string (bt body)) = v := ⟨_, rfl⟩
    rw [hV11] at hs11 hHeld ⊢
    clear hV11
    try simp only [Act.put, List.setIfInBounds_toArray, List.set_cons_zero, List.set_cons_succ]
    refine wpAnyH_done (by kernel_rfl) ?_ _
    have hrb := hs11.out.rb
    have hob := hs11.out.ob
    unfold RsB at hrb hob
    have p0 := cell_blk hrb 0
    have o0 := cell_blk hob 0
    have z0 := frozen_blk hob 0
    have p1 := cell_blk hrb 1
    have o1 := cell_blk hob 1
    have z1 := frozen_blk hob 1
    have p2 := cell_blk hrb 2
    have o2 := cell_blk hob 2
    have z2 := frozen_blk hob 2
    have pl := heap_lt hrb
    have ol := heap_lt hob
    have HR : Hid (RsB (((V11.setCell ⟨w.heap.size, 0, none⟩ (.int .i64 x.n)).setCell ⟨w.heap.size, 1, none⟩ (.slice zb zn zc)).setCell ⟨w.heap.size, 2, none⟩ (.string (bt body))) w.heap.size x.n (.slice zb zn zc) (bt body) ∧ Below w.heap.size w (((V11.setCell ⟨w.heap.size, 0, none⟩ (.int .i64 x.n)).setCell ⟨w.heap.size, 1, none⟩ (.slice zb zn zc)).setCell ⟨w.heap.size, 2, none⟩ (.string (bt body))) ∧ R EFd (((V11.setCell ⟨w.heap.size, 0, none⟩ (.int .i64 x.n)).setCell ⟨w.heap.size, 1, none⟩ (.slice zb zn zc)).setCell ⟨w.heap.size, 2, none⟩ (.string (bt body))) (.slice zb zn zc) fl) := by
      have hB : Below w.heap.size V11 (((V11.setCell ⟨w.heap.size, 0, none⟩ (.int .i64 x.n)).setCell ⟨w.heap.size, 1, none⟩ (.slice zb zn zc)).setCell ⟨w.heap.size, 2, none⟩ (.string (bt body))) := (((Below.refl _ _).setCell (p := ⟨w.heap.size, 0, none⟩) (Nat.le_refl _) _).setCell (p := ⟨w.heap.size, 1, none⟩) (Nat.le_refl _) _).setCell (p := ⟨w.heap.size, 2, none⟩) (Nat.le_refl _) _
      refine ⟨by unfold RsB; rw [setCell_block _ _ _ _ _ _ _ (setCell_block _ _ _ _ _ _ _ (setCell_block _ _ _ _ _ _ _ hob))]; rfl, hs11.out.bel.trans hB, R.stays hs11.out.cl fun k hk hl => ?_⟩
      have hk : k ≠ w.heap.size := fun e => by
        obtain ⟨c, hc⟩ := R.ty hs11.out.cl k hk
        rw [e, hob] at hc
        simp [EFd] at hc
      simp only [setCell_other _ _ _ _ _ hk]
    simp only [rsv, List.getElem?_toArray, List.getElem?_cons_succ, List.getElem?_cons_zero] at p0 o0 p1 o1 p2 o2
    clear hrb hob hs11 hHeld
    go_wp2_with fail
    refine bodyPost_ret (results_c (p := 2) (ty := 34) rfl _ _ w.heap.size 34 (rsv x.n (.slice zb zn zc) (bt body)) (0, 0) _ rfl HR.out.1 Tryd.underlying34 rfl (by kernel_rfl)) rfl ?_
    exact ⟨(zb, zn, zc), by first | rfl | simp, HR.out.2.1, HR.out.2.2, OZ.out⟩
  refine AllReadyH.cons (o := { dst := some 20, op := Op.convert 51 9 (Operand.tmp 19), type := 9, pos := "message.go:98", after := #[{ on := 6, ground := Ground.data }, { on := 9, ground := Ground.gcOnly Departure.lateStores }], guard := none }) rfl (fun K hK => ?_) AllReadyH.nil
  have hcv : Sem.run Tryd.prog (convert 51 9 (.slice bb bn bc)) W = .ok (.string (bt body)) W := conv_row' (R.isIn (by have := hsW.out.ms.rb; rw [HX.out] at this; exact this))
  go_simp
  go_wp2_with fail
  refine hK.out _ _ (by have := hsW.out.ms.bx.cells.c11; rw [HX.out] at this; exact this) (fun hHeld => ?_)
  clear hK K hcv
  try simp only [Act.put, List.setIfInBounds_toArray, List.set_cons_zero, List.set_cons_succ]
  refine wpAnyH_ready (rs := [1]) (by kernel_rfl) (by simp) ?_
  refine AllReadyH.cons (o := { dst := some 14, op := Op.load 24 (Operand.tmp 13), type := 24, pos := "message.go:98", after := #[{ on := 0, ground := Ground.data }], guard := none }) rfl (fun K hK => ?_) AllReadyH.nil
  obtain ⟨a1Wx, a2Wx, a3Wx, a4Wx⟩ := hsW.out.cells
  try simp only [sv] at a1Wx
  go_simp
  go_wp2_with fail
  refine hK.out _ _ (by have := hsW.out.ms.bx.cells.c11; rw [HX.out] at this; exact this) (fun hHeld => ?_)
  clear hK K a1Wx a2Wx a3Wx a4Wx
  try simp only [Act.put, List.setIfInBounds_toArray, List.set_cons_zero, List.set_cons_succ]
  refine wpAnyH_ready (rs := [2]) (by kernel_rfl) (by simp) ?_
  refine AllReadyH.cons (o := { dst := some 15, op := Op.call { callee := Callee.value (Operand.func 24), args := #[Operand.tmp 14], argTypes := #[24] }, type := 24, pos := "message.go:98", after := #[{ on := 1, ground := Ground.data }], guard := none }) rfl (fun K hK => ?_) AllReadyH.nil
  go_simp
  refine (clone_any (yb, yn, yc) fl W (R.isIn (by have := hsW.out.ms.rf; rw [HY.out] at this; exact this)) (HLEN.out)).mono ?_
  rintro e' Wxxx ⟨⟨zb, zn, zc⟩, rfl, bX, rX, oX⟩
  have hWxxx : Hid (RpS w g x body fl ql (.slice yb yn yc) ⟨#[]⟩ (.slice zb zn zc) Wxxx) := ⟨(hsW.out.below bX).ms, (hsW.out.below bX).rb, (hsW.out.below bX).ob, (hsW.out.below bX).bel, rX⟩
  have OZ : Hid (∀ k, (Value.slice zb zn zc).ownBlock = some k → w.heap.size ≤ k) := fun k hk => Nat.le_trans hsW.out.bel.size (oX k hk)
  try simp only [sv]
  go_wp2_with fail
  refine hK.out _ _ (by have := hWxxx.out.ms.bx.cells.c11; rw [HX.out] at this; exact this) (fun hHeld => ?_)
  clear hK K bX rX oX hsW
  try simp only [Act.put, List.setIfInBounds_toArray, List.set_cons_zero, List.set_cons_succ]
  refine wpAnyH_take (i := 8) (oi := { dst := some 21, op := Op.fieldAddr 34 (Operand.tmp 3) 1, type := 0, pos := "message.go:98", after := #[{ on := 0, ground := Ground.phase }, { on := 1, ground := Ground.phase }, { on := 2, ground := Ground.phase }, { on := 3, ground := Ground.textOnly Departure.lateStores }, { on := 4, ground := Ground.textOnly Departure.lateStores }, { on := 5, ground := Ground.textOnly Departure.lateStores }, { on := 6, ground := Ground.textOnly Departure.lateStores }, { on := 7, ground := Ground.textOnly Departure.lateStores }], guard := none }) (v := ?vv11) rfl (by kernel_rfl) (by kernel_rfl) (by kernel_rfl) (fun _ _ _ h => h) (Or.inl ⟨by rfl, ?hy11⟩) (by assumption) ?_
  case hy11 => (intro w hSw; (try dsimp only at hSw); go_simp; all_goals with_reducible rfl)
  try simp only [Act.put, List.setIfInBounds_toArray, List.set_cons_zero, List.set_cons_succ]
  refine wpAnyH_ready (rs := [9]) (by kernel_rfl) (by simp) ?_
  refine AllReadyH.cons (o := { dst := none, op := Op.store 24 (Operand.tmp 21) (Operand.tmp 15), type := 0, pos := "message.go:98", after := #[{ on := 8, ground := Ground.data }, { on := 2, ground := Ground.data }, { on := 2, ground := Ground.chain }, { on := 0, ground := Ground.phase }, { on := 1, ground := Ground.phase }, { on := 2, ground := Ground.phase }, { on := 3, ground := Ground.textOnly Departure.lateStores }, { on := 4, ground := Ground.textOnly Departure.lateStores }, { on := 5, ground := Ground.textOnly Departure.lateStores }, { on := 6, ground := Ground.textOnly Departure.lateStores }, { on := 7, ground := Ground.textOnly Departure.lateStores }], guard := none }) rfl (fun K hK => ?_) AllReadyH.nil
  obtain ⟨a1, a2, a3, a4⟩ := hWxxx.out.cells
  have a5 := a3 1
  have hs9 : Hid (RpS w g x body fl ql (.slice zb zn zc) ⟨#[]⟩ (.slice zb zn zc) (Wxxx.setCell ⟨w.heap.size + 1, 1, none⟩ (.slice zb zn zc))) := hWxxx.out.setF HG.out _
  try simp only [sv] at a1
  clear a2 a3
  go_simp
  go_wp2_with fail
  refine hK.out _ _ (by have := hs9.out.ms.bx.cells.c11; rw [HX.out] at this; exact this) (fun hHeld => ?_)
  clear hK K a1 a4 a5 hWxxx
  obtain ⟨V9, hV9⟩ : ∃ v, Wxxx.setCell ⟨w.heap.size + 1, 1, none⟩ (.slice zb zn zc) = v := ⟨_, rfl⟩
  rw [hV9] at hs9 hHeld ⊢
  clear hV9
  try simp only [Act.put, List.setIfInBounds_toArray, List.set_cons_zero, List.set_cons_succ]
  refine wpAnyH_take (i := 10) (oi := { dst := some 22, op := Op.fieldAddr 34 (Operand.tmp 3) 2, type := 0, pos := "message.go:98", after := #[{ on := 0, ground := Ground.phase }, { on := 1, ground := Ground.phase }, { on := 2, ground := Ground.phase }, { on := 3, ground := Ground.phase }, { on := 4, ground := Ground.phase }, { on := 5, ground := Ground.phase }, { on := 6, ground := Ground.phase }, { on := 7, ground := Ground.phase }, { on := 8, ground := Ground.phase }, { on := 9, ground := Ground.phase }], guard := none }) (v := ?vv12) rfl (by kernel_rfl) (by kernel_rfl) (by kernel_rfl) (fun _ _ _ h => h) (Or.inl ⟨by rfl, ?hy12⟩) (by assumption) ?_
  case hy12 => (intro w hSw; (try dsimp only at hSw); go_simp; all_goals with_reducible rfl)
  try simp only [Act.put, List.setIfInBounds_toArray, List.set_cons_zero, List.set_cons_succ]
  refine wpAnyH_ready (rs := [11]) (by kernel_rfl) (by simp) ?_
  refine AllReadyH.cons (o := { dst := none, op := Op.store 9 (Operand.tmp 22) (Operand.tmp 20), type := 0, pos := "message.go:98", after := #[{ on := 10, ground := Ground.data }, { on := 7, ground := Ground.data }, { on := 9, ground := Ground.chain }, { on := 0, ground := Ground.phase }, { on := 1, ground := Ground.phase }, { on := 2, ground := Ground.phase }, { on := 3, ground := Ground.phase }, { on := 4, ground := Ground.phase }, { on := 5, ground := Ground.phase }, { on := 6, ground := Ground.phase }, { on := 7, ground := Ground.phase }, { on := 8, ground := Ground.phase }, { on := 9, ground := Ground.phase }], guard := none }) rfl (fun K hK => ?_) AllReadyH.nil
  obtain ⟨a1, a2, a3, a4⟩ := hs9.out.cells
  have a5 := a3 2
  have hs11 : Hid (RpS w g x body fl ql (.slice zb zn zc) (bt body) (.slice zb zn zc) (V9.setCell ⟨w.heap.size + 1, 2, none⟩ (.string (bt body)))) := hs9.out.setB HG.out _
  clear a1 a3
  go_simp
  go_wp2_with fail
  refine hK.out _ _ (by have := hs11.out.ms.bx.cells.c11; rw [HX.out] at this; exact this) (fun hHeld => ?_)
  clear hK K a2 a4 a5 hs9
  obtain ⟨V11, hV11⟩ : ∃ v, V9.setCell ⟨w.heap.size + 1, 2, none⟩ (.string (bt body)) = v := ⟨_, rfl⟩
  rw [hV11] at hs11 hHeld ⊢
  clear hV11
  try simp only [Act.put, List.setIfInBounds_toArray, List.set_cons_zero, List.set_cons_succ]
  refine wpAnyH_done (by kernel_rfl) ?_ _
  have hrb := hs11.out.rb
  have hob := hs11.out.ob
  unfold RsB at hrb hob
  have p0 := cell_blk hrb 0
  have o0 := cell_blk hob 0
  have z0 := frozen_blk hob 0
  have p1 := cell_blk hrb 1
  have o1 := cell_blk hob 1
  have z1 := frozen_blk hob 1
  have p2 := cell_blk hrb 2
  have o2 := cell_blk hob 2
  have z2 := frozen_blk hob 2
  have pl := heap_lt hrb
  have ol := heap_lt hob
  have HR : Hid (RsB (((V11.setCell ⟨w.heap.size, 0, none⟩ (.int .i64 x.n)).setCell ⟨w.heap.size, 1, none⟩ (.slice zb zn zc)).setCell ⟨w.heap.size, 2, none⟩ (.string (bt body))) w.heap.size x.n (.slice zb zn zc) (bt body) ∧ Below w.heap.size w (((V11.setCell ⟨w.heap.size, 0, none⟩ (.int .i64 x.n)).setCell ⟨w.heap.size, 1, none⟩ (.slice zb zn zc)).setCell ⟨w.heap.size, 2, none⟩ (.string (bt body))) ∧ R EFd (((V11.setCell ⟨w.heap.size, 0, none⟩ (.int .i64 x.n)).setCell ⟨w.heap.size, 1, none⟩ (.slice zb zn zc)).setCell ⟨w.heap.size, 2, none⟩ (.string (bt body))) (.slice zb zn zc) fl) := by
    have hB : Below w.heap.size V11 (((V11.setCell ⟨w.heap.size, 0, none⟩ (.int .i64 x.n)).setCell ⟨w.heap.size, 1, none⟩ (.slice zb zn zc)).setCell ⟨w.heap.size, 2, none⟩ (.string (bt body))) := (((Below.refl _ _).setCell (p := ⟨w.heap.size, 0, none⟩) (Nat.le_refl _) _).setCell (p := ⟨w.heap.size, 1, none⟩) (Nat.le_refl _) _).setCell (p := ⟨w.heap.size, 2, none⟩) (Nat.le_refl _) _
    refine ⟨by unfold RsB; rw [setCell_block _ _ _ _ _ _ _ (setCell_block _ _ _ _ _ _ _ (setCell_block _ _ _ _ _ _ _ hob))]; rfl, hs11.out.bel.trans hB, R.stays hs11.out.cl fun k hk hl => ?_⟩
    have hk : k ≠ w.heap.size := fun e => by
      obtain ⟨c, hc⟩ := R.ty hs11.out.cl k hk
      rw [e, hob] at hc
      simp [EFd] at hc
    simp only [setCell_other _ _ _ _ _ hk]
  simp only [rsv, List.getElem?_toArray, List.getElem?_cons_succ, List.getElem?_cons_zero] at p0 o0 p1 o1 p2 o2
  clear hrb hob hs11 hHeld
  go_wp2_with fail
  refine bodyPost_ret (results_c (p := 2) (ty := 34) rfl _ _ w.heap.size 34 (rsv x.n (.slice zb zn zc) (bt body)) (0, 0) _ rfl HR.out.1 Tryd.underlying34 rfl (by kernel_rfl)) rfl ?_
  exact ⟨(zb, zn, zc), by first | rfl | simp, HR.out.2.1, HR.out.2.2, OZ.out⟩


def QPost (x : Mg) (body : List UInt8) (l : List Fd) (w : World) (e : Ending) (w' : World) : Prop :=
  ∃ y : SV, e = .returned (.agg (rqv x.m x.s x.a x.p (sv y) (bt body))) ∧ Below w.heap.size w w' ∧ R EFd w' (sv y) l ∧ ∀ k, (sv y).ownBlock = some k → w.heap.size ≤ k
set_option maxHeartbeats 20000000 in
set_option maxRecDepth 100000 in
theorem request_any (g : Nat) (x : Mg) (body : List UInt8) (fl ql : List Fd) (w : World) (h : Msg w g x body fl ql) (hrq : x.rq = true) (hlen : ql.length * 40 ≤ 140737488355328) :
    Calls Tryd.prog 12 #[.pointer (some ⟨g, 0, none⟩)] w fun e w' => QPost x body ql w e w' := by
  obtain ⟨⟨bb, bn, bc⟩, hbs⟩ : ∃ b, x.bs = b := ⟨_, rfl⟩
  obtain ⟨⟨yb, yn, yc⟩, hys⟩ : ∃ b, x.qy = b := ⟨_, rfl⟩
  have HX : Hid (x.bs = (bb, bn, bc)) := hbs
  have HY : Hid (x.qy = (yb, yn, yc)) := hys
  have HM : Hid (Msg w g x body fl ql) := h
  have HLEN : Hid (ql.length * 40 ≤ 140737488355328) := hlen
  have HG : Hid (g < w.heap.size) := heap_lt h.bx
  obtain ⟨w1, hw1⟩ : ∃ v, w.alloc (.cells #[.string ⟨#[]⟩, .string ⟨#[]⟩, .string ⟨#[]⟩, .string ⟨#[]⟩, .slice none 0 0, .string ⟨#[]⟩] 37) = v := ⟨_, rfl⟩
  have b1 : Below w.heap.size w w1 := by rw [← hw1]; exact bel1 w _
  have m1 := (h.below b1).bx
  unfold MgB at m1
  have c0 := cell_blk m1 0
  have c1 := cell_blk m1 1
  have c2 := cell_blk m1 2
  have c3 := cell_blk m1 3
  have c4 := cell_blk m1 4
  have c5 := cell_blk m1 5
  have c6 := cell_blk m1 6
  have lg := heap_lt m1
  simp only [mgv, sv, hys, hrq, List.getElem?_toArray, List.getElem?_cons_succ, List.getElem?_cons_zero] at c0 c1 c2 c3 c4 c5 c6
  have HW1 : Hid (w.alloc (.cells #[.string ⟨#[]⟩, .string ⟨#[]⟩, .string ⟨#[]⟩, .string ⟨#[]⟩, .slice none 0 0, .string ⟨#[]⟩] 37) = w1) := hw1
  have hsz : w1.heap.size = w.heap.size + 1 := by rw [← hw1]; exact size_al _ _
  obtain ⟨w5, hw5⟩ : ∃ v, w1.alloc (.cells #[.string x.m, .string x.s, .string x.a, .string x.p, .slice yb yn yc, .string ⟨#[]⟩] 37) = v := ⟨_, rfl⟩
  have HW5 : Hid (w1.alloc (.cells #[.string x.m, .string x.s, .string x.a, .string x.p, .slice yb yn yc, .string ⟨#[]⟩] 37) = w5) := hw5
  have b5 : Below w1.heap.size w1 w5 := by rw [← hw5]; exact bel1 w1 _
  have H5 : Hid (RpQ w g x body fl ql (.slice yb yn yc) ⟨#[]⟩ (.slice yb yn yc) w5) := by
    have hm := (h.below b1).below b5
    refine ⟨hm, ?_, ?_, b1.trans (b5.mono b1.size), ?_⟩
    · unfold RqB
      rw [← hw5, heap_al, if_pos hsz.symm]
      rfl
    · unfold RqB
      rw [(b5.block _ (by omega)), ← hw1, heap_al, if_pos rfl]
      rfl
    · have := hm.qf
      rw [hys] at this
      exact this
  have HSZ : Hid (w1.heap.size = w.heap.size + 1) := hsz
  clear h hrq hlen hbs hys b1 b5 m1 hw1 hw5 hsz
  go_enter Tryd.func12, Tryd.ntmps12
  go_upto_region 1 with fail
  rw [HW1.out]
  go_upto_region 4 with fail
  rw [HW5.out, HSZ.out]
  clear c0 c1 c2 c3 c4 c5 c6 lg HW1 HW5
  have hIW : Below w5.heap.size w5 (w5.drew) := (Below.refl _ _).drew
  refine wp_region_held_drew (S := (fun W => W.cell? ⟨g, 11, none⟩ = some (.slice bb bn bc))) (by kernel_rfl) (by have := (H5.out.below hIW).ms.bx.cells.c11; rw [HX.out] at this; exact this) (fun hHeld => ?_)
  generalize hWg : World.drew _ = W at hIW hHeld ⊢
  clear hWg
  have hsW : Hid (RpQ w g x body fl ql (.slice yb yn yc) ⟨#[]⟩ (.slice yb yn yc) W) := H5.out.below hIW
  clear hIW H5
  refine wpAnyH_take (i := 0) (oi := { dst := some 14, op := Op.fieldAddr 37 (Operand.tmp 3) 4, type := 0, pos := "message.go:88", after := #[], guard := none }) (v := ?vv13) rfl (by kernel_rfl) (by kernel_rfl) (by kernel_rfl) (fun _ _ _ h => h) (Or.inl ⟨by rfl, ?hy13⟩) (by assumption) ?_
  case hy13 => (intro w hSw; (try dsimp only at hSw); go_simp; all_goals with_reducible rfl)
  try simp only [Act.put, List.setIfInBounds_toArray, List.set_cons_zero, List.set_cons_succ]
  refine wpAnyH_take (i := 3) (oi := { dst := some 17, op := Op.move (Operand.tmp 0), type := 29, pos := "message.go:88", after := #[{ on := 9, ground := Ground.gcOnly Departure.lateStores }], guard := none }) (v := ?vv14) rfl (by kernel_rfl) (by kernel_rfl) (by kernel_rfl) (fun _ _ _ h => h) (Or.inl ⟨by rfl, ?hy14⟩) (by assumption) ?_
  case hy14 => (intro w hSw; (try dsimp only at hSw); go_simp; all_goals with_reducible rfl)
  try simp only [Act.put, List.setIfInBounds_toArray, List.set_cons_zero, List.set_cons_succ]
  refine wpAnyH_take (i := 4) (oi := { dst := some 18, op := Op.nilCheck (Operand.tmp 17), type := 0, pos := "message.go:88", after := #[{ on := 3, ground := Ground.data }, { on := 9, ground := Ground.gcOnly Departure.lateStores }], guard := none }) (v := ?vv15) rfl (by kernel_rfl) (by kernel_rfl) (by kernel_rfl) (fun _ _ _ h => h) (Or.inl ⟨by rfl, ?hy15⟩) (by assumption) ?_
  case hy15 => (intro w hSw; (try dsimp only at hSw); go_simp; all_goals with_reducible rfl)
  try simp only [Act.put, List.setIfInBounds_toArray, List.set_cons_zero, List.set_cons_succ]
  refine wpAnyH_take (i := 5) (oi := { dst := some 19, op := Op.fieldAddr 53 (Operand.tmp 18) 4, type := 0, pos := "message.go:88", after := #[{ on := 4, ground := Ground.data }, { on := 9, ground := Ground.gcOnly Departure.lateStores }], guard := none }) (v := ?vv16) rfl (by kernel_rfl) (by kernel_rfl) (by kernel_rfl) (fun _ _ _ h => h) (Or.inl ⟨by rfl, ?hy16⟩) (by assumption) ?_
  case hy16 => (intro w hSw; (try dsimp only at hSw); go_simp; all_goals with_reducible rfl)
  try simp only [Act.put, List.setIfInBounds_toArray, List.set_cons_zero, List.set_cons_succ]
  refine wpAnyH_take (i := 6) (oi := { dst := some 20, op := Op.load 51 (Operand.tmp 19), type := 51, pos := "message.go:88", after := #[{ on := 5, ground := Ground.data }, { on := 9, ground := Ground.gcOnly Departure.lateStores }], guard := none }) (v := ?vv17) rfl (by kernel_rfl) (by kernel_rfl) (by kernel_rfl) (fun _ _ _ h => h) (Or.inl ⟨by rfl, ?hy17⟩) (by assumption) ?_
  case hy17 => (intro w hSw; (try dsimp only at hSw); go_simp; all_goals with_reducible rfl)
  try simp only [Act.put, List.setIfInBounds_toArray, List.set_cons_zero, List.set_cons_succ]
  refine wpAnyH_ready (rs := [1, 7]) (by kernel_rfl) (by simp) ?_
  refine AllReadyH.cons (o := { dst := some 15, op := Op.load 24 (Operand.tmp 14), type := 24, pos := "message.go:88", after := #[{ on := 0, ground := Ground.data }], guard := none }) rfl (fun K hK => ?_) ?_
  · obtain ⟨a1W, a2W, a3W, a4W⟩ := hsW.out.cells
    try simp only [sv] at a1W
    go_simp
    go_wp2_with fail
    refine hK.out _ _ (by have := hsW.out.ms.bx.cells.c11; rw [HX.out] at this; exact this) (fun hHeld => ?_)
    clear hK K a1W a2W a3W a4W
    try simp only [Act.put, List.setIfInBounds_toArray, List.set_cons_zero, List.set_cons_succ]
    refine wpAnyH_ready (rs := [2, 7]) (by kernel_rfl) (by simp) ?_
    refine AllReadyH.cons (o := { dst := some 16, op := Op.call { callee := Callee.value (Operand.func 24), args := #[Operand.tmp 15], argTypes := #[24] }, type := 24, pos := "message.go:88", after := #[{ on := 1, ground := Ground.data }], guard := none }) rfl (fun K hK => ?_) ?_
    · go_simp
      refine (clone_any (yb, yn, yc) ql W (R.isIn (by have := hsW.out.ms.qf; rw [HY.out] at this; exact this)) (HLEN.out)).mono ?_
      rintro e' Wxx ⟨⟨zb, zn, zc⟩, rfl, bX, rX, oX⟩
      have hWxx : Hid (RpQ w g x body fl ql (.slice yb yn yc) ⟨#[]⟩ (.slice zb zn zc) Wxx) := ⟨(hsW.out.below bX).ms, (hsW.out.below bX).rb, (hsW.out.below bX).ob, (hsW.out.below bX).bel, rX⟩
      have OZ : Hid (∀ k, (Value.slice zb zn zc).ownBlock = some k → w.heap.size ≤ k) := fun k hk => Nat.le_trans hsW.out.bel.size (oX k hk)
      try simp only [sv]
      go_wp2_with fail
      refine hK.out _ _ (by have := hWxx.out.ms.bx.cells.c11; rw [HX.out] at this; exact this) (fun hHeld => ?_)
      clear hK K bX rX oX hsW
      try simp only [Act.put, List.setIfInBounds_toArray, List.set_cons_zero, List.set_cons_succ]
      refine wpAnyH_take (i := 8) (oi := { dst := some 22, op := Op.fieldAddr 37 (Operand.tmp 3) 4, type := 0, pos := "message.go:88", after := #[{ on := 0, ground := Ground.phase }, { on := 1, ground := Ground.phase }, { on := 2, ground := Ground.phase }, { on := 3, ground := Ground.textOnly Departure.lateStores }, { on := 4, ground := Ground.textOnly Departure.lateStores }, { on := 5, ground := Ground.textOnly Departure.lateStores }, { on := 6, ground := Ground.textOnly Departure.lateStores }, { on := 7, ground := Ground.textOnly Departure.lateStores }], guard := none }) (v := ?vv18) rfl (by kernel_rfl) (by kernel_rfl) (by kernel_rfl) (fun _ _ _ h => h) (Or.inl ⟨by rfl, ?hy18⟩) (by assumption) ?_
      case hy18 => (intro w hSw; (try dsimp only at hSw); go_simp; all_goals with_reducible rfl)
      try simp only [Act.put, List.setIfInBounds_toArray, List.set_cons_zero, List.set_cons_succ]
      refine wpAnyH_ready (rs := [7, 9]) (by kernel_rfl) (by simp) ?_
      refine AllReadyH.cons (o := { dst := some 21, op := Op.convert 51 9 (Operand.tmp 20), type := 9, pos := "message.go:88", after := #[{ on := 6, ground := Ground.data }, { on := 9, ground := Ground.gcOnly Departure.lateStores }], guard := none }) rfl (fun K hK => ?_) ?_
      · have hcv : Sem.run Tryd.prog (convert 51 9 (.slice bb bn bc)) Wxx = .ok (.string (bt body)) Wxx := conv_row' (R.isIn (by have := hWxx.out.ms.rb; rw [HX.out] at this; exact this))
        go_simp
        go_wp2_with fail
        refine hK.out _ _ (by have := hWxx.out.ms.bx.cells.c11; rw [HX.out] at this; exact this) (fun hHeld => ?_)
        clear hK K hcv
        try simp only [Act.put, List.setIfInBounds_toArray, List.set_cons_zero, List.set_cons_succ]
        refine wpAnyH_ready (rs := [9]) (by kernel_rfl) (by simp) ?_
        refine AllReadyH.cons (o := { dst := none, op := Op.store 24 (Operand.tmp 22) (Operand.tmp 16), type := 0, pos := "message.go:88", after := #[{ on := 8, ground := Ground.data }, { on := 2, ground := Ground.data }, { on := 2, ground := Ground.chain }, { on := 0, ground := Ground.phase }, { on := 1, ground := Ground.phase }, { on := 2, ground := Ground.phase }, { on := 3, ground := Ground.textOnly Departure.lateStores }, { on := 4, ground := Ground.textOnly Departure.lateStores }, { on := 5, ground := Ground.textOnly Departure.lateStores }, { on := 6, ground := Ground.textOnly Departure.lateStores }, { on := 7, ground := Ground.textOnly Departure.lateStores }], guard := none }) rfl (fun K hK => ?_) AllReadyH.nil
        obtain ⟨a1, a2, a3, a4⟩ := hWxx.out.cells
        have a5 := a3 4
        have hs9 : Hid (RpQ w g x body fl ql (.slice zb zn zc) ⟨#[]⟩ (.slice zb zn zc) (Wxx.setCell ⟨w.heap.size + 1, 4, none⟩ (.slice zb zn zc))) := hWxx.out.setF HG.out _
        try simp only [sv] at a1
        clear a2 a3
        go_simp
        go_wp2_with fail
        refine hK.out _ _ (by have := hs9.out.ms.bx.cells.c11; rw [HX.out] at this; exact this) (fun hHeld => ?_)
        clear hK K a1 a4 a5 hWxx
        obtain ⟨V9, hV9⟩ : ∃ v, Wxx.setCell ⟨w.heap.size + 1, 4, none⟩ (.slice zb zn zc) = v := ⟨_, rfl⟩
        rw [hV9] at hs9 hHeld ⊢
        clear hV9
        try simp only [Act.put, List.setIfInBounds_toArray, List.set_cons_zero, List.set_cons_succ]
        refine wpAnyH_take (i := 10) (oi := { dst := some 23, op := Op.fieldAddr 37 (Operand.tmp 3) 5, type := 0, pos := "message.go:88", after := #[{ on := 0, ground := Ground.phase }, { on := 1, ground := Ground.phase }, { on := 2, ground := Ground.phase }, { on := 3, ground := Ground.phase }, { on := 4, ground := Ground.phase }, { on := 5, ground := Ground.phase }, { on := 6, ground := Ground.phase }, { on := 7, ground := Ground.phase }, { on := 8, ground := Ground.phase }, { on := 9, ground := Ground.phase }], guard := none }) (v := ?vv19) rfl (by kernel_rfl) (by kernel_rfl) (by kernel_rfl) (fun _ _ _ h => h) (Or.inl ⟨by rfl, ?hy19⟩) (by assumption) ?_
        case hy19 => (intro w hSw; (try dsimp only at hSw); go_simp; all_goals with_reducible rfl)
        try simp only [Act.put, List.setIfInBounds_toArray, List.set_cons_zero, List.set_cons_succ]
        refine wpAnyH_ready (rs := [11]) (by kernel_rfl) (by simp) ?_
        refine AllReadyH.cons (o := { dst := none, op := Op.store 9 (Operand.tmp 23) (Operand.tmp 21), type := 0, pos := "message.go:88", after := #[{ on := 10, ground := Ground.data }, { on := 7, ground := Ground.data }, { on := 9, ground := Ground.chain }, { on := 0, ground := Ground.phase }, { on := 1, ground := Ground.phase }, { on := 2, ground := Ground.phase }, { on := 3, ground := Ground.phase }, { on := 4, ground := Ground.phase }, { on := 5, ground := Ground.phase }, { on := 6, ground := Ground.phase }, { on := 7, ground := Ground.phase }, { on := 8, ground := Ground.phase }, { on := 9, ground := Ground.phase }], guard := none }) rfl (fun K hK => ?_) AllReadyH.nil
        obtain ⟨a1, a2, a3, a4⟩ := hs9.out.cells
        have a5 := a3 5
        have hs11 : Hid (RpQ w g x body fl ql (.slice zb zn zc) (bt body) (.slice zb zn zc) (V9.setCell ⟨w.heap.size + 1, 5, none⟩ (.string (bt body)))) := hs9.out.setB HG.out _
        clear a1 a3
        go_simp
        go_wp2_with fail
        refine hK.out _ _ (by have := hs11.out.ms.bx.cells.c11; rw [HX.out] at this; exact this) (fun hHeld => ?_)
        clear hK K a2 a4 a5 hs9
        obtain ⟨V11, hV11⟩ : ∃ v, V9.setCell ⟨w.heap.size + 1, 5, none⟩ (.string (bt body)) = v := ⟨_, rfl⟩
        rw [hV11] at hs11 hHeld ⊢
        clear hV11
        try simp only [Act.put, List.setIfInBounds_toArray, List.set_cons_zero, List.set_cons_succ]
        refine wpAnyH_done (by kernel_rfl) ?_ _
        have hrb := hs11.out.rb
        have hob := hs11.out.ob
        unfold RqB at hrb hob
        have p0 := cell_blk hrb 0
        have o0 := cell_blk hob 0
        have z0 := frozen_blk hob 0
        have p1 := cell_blk hrb 1
        have o1 := cell_blk hob 1
        have z1 := frozen_blk hob 1
        have p2 := cell_blk hrb 2
        have o2 := cell_blk hob 2
        have z2 := frozen_blk hob 2
        have p3 := cell_blk hrb 3
        have o3 := cell_blk hob 3
        have z3 := frozen_blk hob 3
        have p4 := cell_blk hrb 4
        have o4 := cell_blk hob 4
        have z4 := frozen_blk hob 4
        have p5 := cell_blk hrb 5
        have o5 := cell_blk hob 5
        have z5 := frozen_blk hob 5
        have pl := heap_lt hrb
        have ol := heap_lt hob
        have HR : Hid (RqB ((((((V11.setCell ⟨w.heap.size, 0, none⟩ (.string x.m)).setCell ⟨w.heap.size, 1, none⟩ (.string x.s)).setCell ⟨w.heap.size, 2, none⟩ (.string x.a)).setCell ⟨w.heap.size, 3, none⟩ (.string x.p)).setCell ⟨w.heap.size, 4, none⟩ (.slice zb zn zc)).setCell ⟨w.heap.size, 5, none⟩ (.string (bt body))) w.heap.size x.m x.s x.a x.p (.slice zb zn zc) (bt body) ∧ Below w.heap.size w ((((((V11.setCell ⟨w.heap.size, 0, none⟩ (.string x.m)).setCell ⟨w.heap.size, 1, none⟩ (.string x.s)).setCell ⟨w.heap.size, 2, none⟩ (.string x.a)).setCell ⟨w.heap.size, 3, none⟩ (.string x.p)).setCell ⟨w.heap.size, 4, none⟩ (.slice zb zn zc)).setCell ⟨w.heap.size, 5, none⟩ (.string (bt body))) ∧ R EFd ((((((V11.setCell ⟨w.heap.size, 0, none⟩ (.string x.m)).setCell ⟨w.heap.size, 1, none⟩ (.string x.s)).setCell ⟨w.heap.size, 2, none⟩ (.string x.a)).setCell ⟨w.heap.size, 3, none⟩ (.string x.p)).setCell ⟨w.heap.size, 4, none⟩ (.slice zb zn zc)).setCell ⟨w.heap.size, 5, none⟩ (.string (bt body))) (.slice zb zn zc) ql) := by
          have hB : Below w.heap.size V11 ((((((V11.setCell ⟨w.heap.size, 0, none⟩ (.string x.m)).setCell ⟨w.heap.size, 1, none⟩ (.string x.s)).setCell ⟨w.heap.size, 2, none⟩ (.string x.a)).setCell ⟨w.heap.size, 3, none⟩ (.string x.p)).setCell ⟨w.heap.size, 4, none⟩ (.slice zb zn zc)).setCell ⟨w.heap.size, 5, none⟩ (.string (bt body))) := ((((((Below.refl _ _).setCell (p := ⟨w.heap.size, 0, none⟩) (Nat.le_refl _) _).setCell (p := ⟨w.heap.size, 1, none⟩) (Nat.le_refl _) _).setCell (p := ⟨w.heap.size, 2, none⟩) (Nat.le_refl _) _).setCell (p := ⟨w.heap.size, 3, none⟩) (Nat.le_refl _) _).setCell (p := ⟨w.heap.size, 4, none⟩) (Nat.le_refl _) _).setCell (p := ⟨w.heap.size, 5, none⟩) (Nat.le_refl _) _
          refine ⟨by unfold RqB; rw [setCell_block _ _ _ _ _ _ _ (setCell_block _ _ _ _ _ _ _ (setCell_block _ _ _ _ _ _ _ (setCell_block _ _ _ _ _ _ _ (setCell_block _ _ _ _ _ _ _ (setCell_block _ _ _ _ _ _ _ hob)))))]; rfl, hs11.out.bel.trans hB, R.stays hs11.out.cl fun k hk hl => ?_⟩
          have hk : k ≠ w.heap.size := fun e => by
            obtain ⟨c, hc⟩ := R.ty hs11.out.cl k hk
            rw [e, hob] at hc
            simp [EFd] at hc
          simp only [setCell_other _ _ _ _ _ hk]
        simp only [rqv, List.getElem?_toArray, List.getElem?_cons_succ, List.getElem?_cons_zero] at p0 o0 p1 o1 p2 o2 p3 o3 p4 o4 p5 o5
        clear hrb hob hs11 hHeld
        go_wp2_with fail
        refine bodyPost_ret (results_c (p := 2) (ty := 37) rfl _ _ w.heap.size 37 (rqv x.m x.s x.a x.p (.slice zb zn zc) (bt body)) (0, 0) _ rfl HR.out.1 Tryd.underlying37 rfl (by kernel_rfl)) rfl ?_
        exact ⟨(zb, zn, zc), by first | rfl | simp, HR.out.2.1, HR.out.2.2, OZ.out⟩
      refine AllReadyH.cons (o := { dst := none, op := Op.store 24 (Operand.tmp 22) (Operand.tmp 16), type := 0, pos := "message.go:88", after := #[{ on := 8, ground := Ground.data }, { on := 2, ground := Ground.data }, { on := 2, ground := Ground.chain }, { on := 0, ground := Ground.phase }, { on := 1, ground := Ground.phase }, { on := 2, ground := Ground.phase }, { on := 3, ground := Ground.textOnly Departure.lateStores }, { on := 4, ground := Ground.textOnly Departure.lateStores }, { on := 5, ground := Ground.textOnly Departure.lateStores }, { on := 6, ground := Ground.textOnly Departure.lateStores }, { on := 7, ground := Ground.textOnly Departure.lateStores }], guard := none }) rfl (fun K hK => ?_) AllReadyH.nil
      obtain ⟨a1, a2, a3, a4⟩ := hWxx.out.cells
      have a5 := a3 4
      have hs9 : Hid (RpQ w g x body fl ql (.slice zb zn zc) ⟨#[]⟩ (.slice zb zn zc) (Wxx.setCell ⟨w.heap.size + 1, 4, none⟩ (.slice zb zn zc))) := hWxx.out.setF HG.out _
      try simp only [sv] at a1
      clear a2 a3
      go_simp
      go_wp2_with fail
      refine hK.out _ _ (by have := hs9.out.ms.bx.cells.c11; rw [HX.out] at this; exact this) (fun hHeld => ?_)
      clear hK K a1 a4 a5 hWxx
      obtain ⟨V9, hV9⟩ : ∃ v, Wxx.setCell ⟨w.heap.size + 1, 4, none⟩ (.slice zb zn zc) = v := ⟨_, rfl⟩
      rw [hV9] at hs9 hHeld ⊢
      clear hV9
      try simp only [Act.put, List.setIfInBounds_toArray, List.set_cons_zero, List.set_cons_succ]
      refine wpAnyH_ready (rs := [7]) (by kernel_rfl) (by simp) ?_
      refine AllReadyH.cons (o := { dst := some 21, op := Op.convert 51 9 (Operand.tmp 20), type := 9, pos := "message.go:88", after := #[{ on := 6, ground := Ground.data }, { on := 9, ground := Ground.gcOnly Departure.lateStores }], guard := none }) rfl (fun K hK => ?_) AllReadyH.nil
      have hcv : Sem.run Tryd.prog (convert 51 9 (.slice bb bn bc)) V9 = .ok (.string (bt body)) V9 := conv_row' (R.isIn (by have := hs9.out.ms.rb; rw [HX.out] at this; exact this))
      go_simp
      go_wp2_with fail
      refine hK.out _ _ (by have := hs9.out.ms.bx.cells.c11; rw [HX.out] at this; exact this) (fun hHeld => ?_)
      clear hK K hcv
      try simp only [Act.put, List.setIfInBounds_toArray, List.set_cons_zero, List.set_cons_succ]
      refine wpAnyH_take (i := 10) (oi := { dst := some 23, op := Op.fieldAddr 37 (Operand.tmp 3) 5, type := 0, pos := "message.go:88", after := #[{ on := 0, ground := Ground.phase }, { on := 1, ground := Ground.phase }, { on := 2, ground := Ground.phase }, { on := 3, ground := Ground.phase }, { on := 4, ground := Ground.phase }, { on := 5, ground := Ground.phase }, { on := 6, ground := Ground.phase }, { on := 7, ground := Ground.phase }, { on := 8, ground := Ground.phase }, { on := 9, ground := Ground.phase }], guard := none }) (v := ?vv20) rfl (by kernel_rfl) (by kernel_rfl) (by kernel_rfl) (fun _ _ _ h => h) (Or.inl ⟨by rfl, ?hy20⟩) (by assumption) ?_
      case hy20 => (intro w hSw; (try dsimp only at hSw); go_simp; all_goals with_reducible rfl)
      try simp only [Act.put, List.setIfInBounds_toArray, List.set_cons_zero, List.set_cons_succ]
      refine wpAnyH_ready (rs := [11]) (by kernel_rfl) (by simp) ?_
      refine AllReadyH.cons (o := { dst := none, op := Op.store 9 (Operand.tmp 23) (Operand.tmp 21), type := 0, pos := "message.go:88", after := #[{ on := 10, ground := Ground.data }, { on := 7, ground := Ground.data }, { on := 9, ground := Ground.chain }, { on := 0, ground := Ground.phase }, { on := 1, ground := Ground.phase }, { on := 2, ground := Ground.phase }, { on := 3, ground := Ground.phase }, { on := 4, ground := Ground.phase }, { on := 5, ground := Ground.phase }, { on := 6, ground := Ground.phase }, { on := 7, ground := Ground.phase }, { on := 8, ground := Ground.phase }, { on := 9, ground := Ground.phase }], guard := none }) rfl (fun K hK => ?_) AllReadyH.nil
      obtain ⟨a1, a2, a3, a4⟩ := hs9.out.cells
      have a5 := a3 5
      have hs11 : Hid (RpQ w g x body fl ql (.slice zb zn zc) (bt body) (.slice zb zn zc) (V9.setCell ⟨w.heap.size + 1, 5, none⟩ (.string (bt body)))) := hs9.out.setB HG.out _
      clear a1 a3
      go_simp
      go_wp2_with fail
      refine hK.out _ _ (by have := hs11.out.ms.bx.cells.c11; rw [HX.out] at this; exact this) (fun hHeld => ?_)
      clear hK K a2 a4 a5 hs9
      obtain ⟨V11, hV11⟩ : ∃ v, V9.setCell ⟨w.heap.size + 1, 5, none⟩ (.string (bt body)) = v := ⟨_, rfl⟩
      rw [hV11] at hs11 hHeld ⊢
      clear hV11
      try simp only [Act.put, List.setIfInBounds_toArray, List.set_cons_zero, List.set_cons_succ]
      refine wpAnyH_done (by kernel_rfl) ?_ _
      have hrb := hs11.out.rb
      have hob := hs11.out.ob
      unfold RqB at hrb hob
      have p0 := cell_blk hrb 0
      have o0 := cell_blk hob 0
      have z0 := frozen_blk hob 0
      have p1 := cell_blk hrb 1
      have o1 := cell_blk hob 1
      have z1 := frozen_blk hob 1
      have p2 := cell_blk hrb 2
      have o2 := cell_blk hob 2
      have z2 := frozen_blk hob 2
      have p3 := cell_blk hrb 3
      have o3 := cell_blk hob 3
      have z3 := frozen_blk hob 3
      have p4 := cell_blk hrb 4
      have o4 := cell_blk hob 4
      have z4 := frozen_blk hob 4
      have p5 := cell_blk hrb 5
      have o5 := cell_blk hob 5
      have z5 := frozen_blk hob 5
      have pl := heap_lt hrb
      have ol := heap_lt hob
      have HR : Hid (RqB ((((((V11.setCell ⟨w.heap.size, 0, none⟩ (.string x.m)).setCell ⟨w.heap.size, 1, none⟩ (.string x.s)).setCell ⟨w.heap.size, 2, none⟩ (.string x.a)).setCell ⟨w.heap.size, 3, none⟩ (.string x.p)).setCell ⟨w.heap.size, 4, none⟩ (.slice zb zn zc)).setCell ⟨w.heap.size, 5, none⟩ (.string (bt body))) w.heap.size x.m x.s x.a x.p (.slice zb zn zc) (bt body) ∧ Below w.heap.size w ((((((V11.setCell ⟨w.heap.size, 0, none⟩ (.string x.m)).setCell ⟨w.heap.size, 1, none⟩ (.string x.s)).setCell ⟨w.heap.size, 2, none⟩ (.string x.a)).setCell ⟨w.heap.size, 3, none⟩ (.string x.p)).setCell ⟨w.heap.size, 4, none⟩ (.slice zb zn zc)).setCell ⟨w.heap.size, 5, none⟩ (.string (bt body))) ∧ R EFd ((((((V11.setCell ⟨w.heap.size, 0, none⟩ (.string x.m)).setCell ⟨w.heap.size, 1, none⟩ (.string x.s)).setCell ⟨w.heap.size, 2, none⟩ (.string x.a)).setCell ⟨w.heap.size, 3, none⟩ (.string x.p)).setCell ⟨w.heap.size, 4, none⟩ (.slice zb zn zc)).setCell ⟨w.heap.size, 5, none⟩ (.string (bt body))) (.slice zb zn zc) ql) := by
        have hB : Below w.heap.size V11 ((((((V11.setCell ⟨w.heap.size, 0, none⟩ (.string x.m)).setCell ⟨w.heap.size, 1, none⟩ (.string x.s)).setCell ⟨w.heap.size, 2, none⟩ (.string x.a)).setCell ⟨w.heap.size, 3, none⟩ (.string x.p)).setCell ⟨w.heap.size, 4, none⟩ (.slice zb zn zc)).setCell ⟨w.heap.size, 5, none⟩ (.string (bt body))) := ((((((Below.refl _ _).setCell (p := ⟨w.heap.size, 0, none⟩) (Nat.le_refl _) _).setCell (p := ⟨w.heap.size, 1, none⟩) (Nat.le_refl _) _).setCell (p := ⟨w.heap.size, 2, none⟩) (Nat.le_refl _) _).setCell (p := ⟨w.heap.size, 3, none⟩) (Nat.le_refl _) _).setCell (p := ⟨w.heap.size, 4, none⟩) (Nat.le_refl _) _).setCell (p := ⟨w.heap.size, 5, none⟩) (Nat.le_refl _) _
        refine ⟨by unfold RqB; rw [setCell_block _ _ _ _ _ _ _ (setCell_block _ _ _ _ _ _ _ (setCell_block _ _ _ _ _ _ _ (setCell_block _ _ _ _ _ _ _ (setCell_block _ _ _ _ _ _ _ (setCell_block _ _ _ _ _ _ _ hob)))))]; rfl, hs11.out.bel.trans hB, R.stays hs11.out.cl fun k hk hl => ?_⟩
        have hk : k ≠ w.heap.size := fun e => by
          obtain ⟨c, hc⟩ := R.ty hs11.out.cl k hk
          rw [e, hob] at hc
          simp [EFd] at hc
        simp only [setCell_other _ _ _ _ _ hk]
      simp only [rqv, List.getElem?_toArray, List.getElem?_cons_succ, List.getElem?_cons_zero] at p0 o0 p1 o1 p2 o2 p3 o3 p4 o4 p5 o5
      clear hrb hob hs11 hHeld
      go_wp2_with fail
      refine bodyPost_ret (results_c (p := 2) (ty := 37) rfl _ _ w.heap.size 37 (rqv x.m x.s x.a x.p (.slice zb zn zc) (bt body)) (0, 0) _ rfl HR.out.1 Tryd.underlying37 rfl (by kernel_rfl)) rfl ?_
      exact ⟨(zb, zn, zc), by first | rfl | simp, HR.out.2.1, HR.out.2.2, OZ.out⟩
    refine AllReadyH.cons (o := { dst := some 21, op := Op.convert 51 9 (Operand.tmp 20), type := 9, pos := "message.go:88", after := #[{ on := 6, ground := Ground.data }, { on := 9, ground := Ground.gcOnly Departure.lateStores }], guard := none }) rfl (fun K hK => ?_) AllReadyH.nil
    have hcv : Sem.run Tryd.prog (convert 51 9 (.slice bb bn bc)) W = .ok (.string (bt body)) W := conv_row' (R.isIn (by have := hsW.out.ms.rb; rw [HX.out] at this; exact this))
    go_simp
    go_wp2_with fail
    refine hK.out _ _ (by have := hsW.out.ms.bx.cells.c11; rw [HX.out] at this; exact this) (fun hHeld => ?_)
    clear hK K hcv
    try simp only [Act.put, List.setIfInBounds_toArray, List.set_cons_zero, List.set_cons_succ]
    refine wpAnyH_ready (rs := [2]) (by kernel_rfl) (by simp) ?_
    refine AllReadyH.cons (o := { dst := some 16, op := Op.call { callee := Callee.value (Operand.func 24), args := #[Operand.tmp 15], argTypes := #[24] }, type := 24, pos := "message.go:88", after := #[{ on := 1, ground := Ground.data }], guard := none }) rfl (fun K hK => ?_) AllReadyH.nil
    go_simp
    refine (clone_any (yb, yn, yc) ql W (R.isIn (by have := hsW.out.ms.qf; rw [HY.out] at this; exact this)) (HLEN.out)).mono ?_
    rintro e' Wxxx ⟨⟨zb, zn, zc⟩, rfl, bX, rX, oX⟩
    have hWxxx : Hid (RpQ w g x body fl ql (.slice yb yn yc) ⟨#[]⟩ (.slice zb zn zc) Wxxx) := ⟨(hsW.out.below bX).ms, (hsW.out.below bX).rb, (hsW.out.below bX).ob, (hsW.out.below bX).bel, rX⟩
    have OZ : Hid (∀ k, (Value.slice zb zn zc).ownBlock = some k → w.heap.size ≤ k) := fun k hk => Nat.le_trans hsW.out.bel.size (oX k hk)
    try simp only [sv]
    go_wp2_with fail
    refine hK.out _ _ (by have := hWxxx.out.ms.bx.cells.c11; rw [HX.out] at this; exact this) (fun hHeld => ?_)
    clear hK K bX rX oX hsW
    try simp only [Act.put, List.setIfInBounds_toArray, List.set_cons_zero, List.set_cons_succ]
    refine wpAnyH_take (i := 8) (oi := { dst := some 22, op := Op.fieldAddr 37 (Operand.tmp 3) 4, type := 0, pos := "message.go:88", after := #[{ on := 0, ground := Ground.phase }, { on := 1, ground := Ground.phase }, { on := 2, ground := Ground.phase }, { on := 3, ground := Ground.textOnly Departure.lateStores }, { on := 4, ground := Ground.textOnly Departure.lateStores }, { on := 5, ground := Ground.textOnly Departure.lateStores }, { on := 6, ground := Ground.textOnly Departure.lateStores }, { on := 7, ground := Ground.textOnly Departure.lateStores }], guard := none }) (v := ?vv21) rfl (by kernel_rfl) (by kernel_rfl) (by kernel_rfl) (fun _ _ _ h => h) (Or.inl ⟨by rfl, ?hy21⟩) (by assumption) ?_
    case hy21 => (intro w hSw; (try dsimp only at hSw); go_simp; all_goals with_reducible rfl)
    try simp only [Act.put, List.setIfInBounds_toArray, List.set_cons_zero, List.set_cons_succ]
    refine wpAnyH_ready (rs := [9]) (by kernel_rfl) (by simp) ?_
    refine AllReadyH.cons (o := { dst := none, op := Op.store 24 (Operand.tmp 22) (Operand.tmp 16), type := 0, pos := "message.go:88", after := #[{ on := 8, ground := Ground.data }, { on := 2, ground := Ground.data }, { on := 2, ground := Ground.chain }, { on := 0, ground := Ground.phase }, { on := 1, ground := Ground.phase }, { on := 2, ground := Ground.phase }, { on := 3, ground := Ground.textOnly Departure.lateStores }, { on := 4, ground := Ground.textOnly Departure.lateStores }, { on := 5, ground := Ground.textOnly Departure.lateStores }, { on := 6, ground := Ground.textOnly Departure.lateStores }, { on := 7, ground := Ground.textOnly Departure.lateStores }], guard := none }) rfl (fun K hK => ?_) AllReadyH.nil
    obtain ⟨a1, a2, a3, a4⟩ := hWxxx.out.cells
    have a5 := a3 4
    have hs9 : Hid (RpQ w g x body fl ql (.slice zb zn zc) ⟨#[]⟩ (.slice zb zn zc) (Wxxx.setCell ⟨w.heap.size + 1, 4, none⟩ (.slice zb zn zc))) := hWxxx.out.setF HG.out _
    try simp only [sv] at a1
    clear a2 a3
    go_simp
    go_wp2_with fail
    refine hK.out _ _ (by have := hs9.out.ms.bx.cells.c11; rw [HX.out] at this; exact this) (fun hHeld => ?_)
    clear hK K a1 a4 a5 hWxxx
    obtain ⟨V9, hV9⟩ : ∃ v, Wxxx.setCell ⟨w.heap.size + 1, 4, none⟩ (.slice zb zn zc) = v := ⟨_, rfl⟩
    rw [hV9] at hs9 hHeld ⊢
    clear hV9
    try simp only [Act.put, List.setIfInBounds_toArray, List.set_cons_zero, List.set_cons_succ]
    refine wpAnyH_take (i := 10) (oi := { dst := some 23, op := Op.fieldAddr 37 (Operand.tmp 3) 5, type := 0, pos := "message.go:88", after := #[{ on := 0, ground := Ground.phase }, { on := 1, ground := Ground.phase }, { on := 2, ground := Ground.phase }, { on := 3, ground := Ground.phase }, { on := 4, ground := Ground.phase }, { on := 5, ground := Ground.phase }, { on := 6, ground := Ground.phase }, { on := 7, ground := Ground.phase }, { on := 8, ground := Ground.phase }, { on := 9, ground := Ground.phase }], guard := none }) (v := ?vv22) rfl (by kernel_rfl) (by kernel_rfl) (by kernel_rfl) (fun _ _ _ h => h) (Or.inl ⟨by rfl, ?hy22⟩) (by assumption) ?_
    case hy22 => (intro w hSw; (try dsimp only at hSw); go_simp; all_goals with_reducible rfl)
    try simp only [Act.put, List.setIfInBounds_toArray, List.set_cons_zero, List.set_cons_succ]
    refine wpAnyH_ready (rs := [11]) (by kernel_rfl) (by simp) ?_
    refine AllReadyH.cons (o := { dst := none, op := Op.store 9 (Operand.tmp 23) (Operand.tmp 21), type := 0, pos := "message.go:88", after := #[{ on := 10, ground := Ground.data }, { on := 7, ground := Ground.data }, { on := 9, ground := Ground.chain }, { on := 0, ground := Ground.phase }, { on := 1, ground := Ground.phase }, { on := 2, ground := Ground.phase }, { on := 3, ground := Ground.phase }, { on := 4, ground := Ground.phase }, { on := 5, ground := Ground.phase }, { on := 6, ground := Ground.phase }, { on := 7, ground := Ground.phase }, { on := 8, ground := Ground.phase }, { on := 9, ground := Ground.phase }], guard := none }) rfl (fun K hK => ?_) AllReadyH.nil
    obtain ⟨a1, a2, a3, a4⟩ := hs9.out.cells
    have a5 := a3 5
    have hs11 : Hid (RpQ w g x body fl ql (.slice zb zn zc) (bt body) (.slice zb zn zc) (V9.setCell ⟨w.heap.size + 1, 5, none⟩ (.string (bt body)))) := hs9.out.setB HG.out _
    clear a1 a3
    go_simp
    go_wp2_with fail
    refine hK.out _ _ (by have := hs11.out.ms.bx.cells.c11; rw [HX.out] at this; exact this) (fun hHeld => ?_)
    clear hK K a2 a4 a5 hs9
    obtain ⟨V11, hV11⟩ : ∃ v, V9.setCell ⟨w.heap.size + 1, 5, none⟩ (.string (bt body)) = v := ⟨_, rfl⟩
    rw [hV11] at hs11 hHeld ⊢
    clear hV11
    try simp only [Act.put, List.setIfInBounds_toArray, List.set_cons_zero, List.set_cons_succ]
    refine wpAnyH_done (by kernel_rfl) ?_ _
    have hrb := hs11.out.rb
    have hob := hs11.out.ob
    unfold RqB at hrb hob
    have p0 := cell_blk hrb 0
    have o0 := cell_blk hob 0
    have z0 := frozen_blk hob 0
    have p1 := cell_blk hrb 1
    have o1 := cell_blk hob 1
    have z1 := frozen_blk hob 1
    have p2 := cell_blk hrb 2
    have o2 := cell_blk hob 2
    have z2 := frozen_blk hob 2
    have p3 := cell_blk hrb 3
    have o3 := cell_blk hob 3
    have z3 := frozen_blk hob 3
    have p4 := cell_blk hrb 4
    have o4 := cell_blk hob 4
    have z4 := frozen_blk hob 4
    have p5 := cell_blk hrb 5
    have o5 := cell_blk hob 5
    have z5 := frozen_blk hob 5
    have pl := heap_lt hrb
    have ol := heap_lt hob
    have HR : Hid (RqB ((((((V11.setCell ⟨w.heap.size, 0, none⟩ (.string x.m)).setCell ⟨w.heap.size, 1, none⟩ (.string x.s)).setCell ⟨w.heap.size, 2, none⟩ (.string x.a)).setCell ⟨w.heap.size, 3, none⟩ (.string x.p)).setCell ⟨w.heap.size, 4, none⟩ (.slice zb zn zc)).setCell ⟨w.heap.size, 5, none⟩ (.string (bt body))) w.heap.size x.m x.s x.a x.p (.slice zb zn zc) (bt body) ∧ Below w.heap.size w ((((((V11.setCell ⟨w.heap.size, 0, none⟩ (.string x.m)).setCell ⟨w.heap.size, 1, none⟩ (.string x.s)).setCell ⟨w.heap.size, 2, none⟩ (.string x.a)).setCell ⟨w.heap.size, 3, none⟩ (.string x.p)).setCell ⟨w.heap.size, 4, none⟩ (.slice zb zn zc)).setCell ⟨w.heap.size, 5, none⟩ (.string (bt body))) ∧ R EFd ((((((V11.setCell ⟨w.heap.size, 0, none⟩ (.string x.m)).setCell ⟨w.heap.size, 1, none⟩ (.string x.s)).setCell ⟨w.heap.size, 2, none⟩ (.string x.a)).setCell ⟨w.heap.size, 3, none⟩ (.string x.p)).setCell ⟨w.heap.size, 4, none⟩ (.slice zb zn zc)).setCell ⟨w.heap.size, 5, none⟩ (.string (bt body))) (.slice zb zn zc) ql) := by
      have hB : Below w.heap.size V11 ((((((V11.setCell ⟨w.heap.size, 0, none⟩ (.string x.m)).setCell ⟨w.heap.size, 1, none⟩ (.string x.s)).setCell ⟨w.heap.size, 2, none⟩ (.string x.a)).setCell ⟨w.heap.size, 3, none⟩ (.string x.p)).setCell ⟨w.heap.size, 4, none⟩ (.slice zb zn zc)).setCell ⟨w.heap.size, 5, none⟩ (.string (bt body))) := ((((((Below.refl _ _).setCell (p := ⟨w.heap.size, 0, none⟩) (Nat.le_refl _) _).setCell (p := ⟨w.heap.size, 1, none⟩) (Nat.le_refl _) _).setCell (p := ⟨w.heap.size, 2, none⟩) (Nat.le_refl _) _).setCell (p := ⟨w.heap.size, 3, none⟩) (Nat.le_refl _) _).setCell (p := ⟨w.heap.size, 4, none⟩) (Nat.le_refl _) _).setCell (p := ⟨w.heap.size, 5, none⟩) (Nat.le_refl _) _
      refine ⟨by unfold RqB; rw [setCell_block _ _ _ _ _ _ _ (setCell_block _ _ _ _ _ _ _ (setCell_block _ _ _ _ _ _ _ (setCell_block _ _ _ _ _ _ _ (setCell_block _ _ _ _ _ _ _ (setCell_block _ _ _ _ _ _ _ hob)))))]; rfl, hs11.out.bel.trans hB, R.stays hs11.out.cl fun k hk hl => ?_⟩
      have hk : k ≠ w.heap.size := fun e => by
        obtain ⟨c, hc⟩ := R.ty hs11.out.cl k hk
        rw [e, hob] at hc
        simp [EFd] at hc
      simp only [setCell_other _ _ _ _ _ hk]
    simp only [rqv, List.getElem?_toArray, List.getElem?_cons_succ, List.getElem?_cons_zero] at p0 o0 p1 o1 p2 o2 p3 o3 p4 o4 p5 o5
    clear hrb hob hs11 hHeld
    go_wp2_with fail
    refine bodyPost_ret (results_c (p := 2) (ty := 37) rfl _ _ w.heap.size 37 (rqv x.m x.s x.a x.p (.slice zb zn zc) (bt body)) (0, 0) _ rfl HR.out.1 Tryd.underlying37 rfl (by kernel_rfl)) rfl ?_
    exact ⟨(zb, zn, zc), by first | rfl | simp, HR.out.2.1, HR.out.2.2, OZ.out⟩
  refine AllReadyH.cons (o := { dst := some 21, op := Op.convert 51 9 (Operand.tmp 20), type := 9, pos := "message.go:88", after := #[{ on := 6, ground := Ground.data }, { on := 9, ground := Ground.gcOnly Departure.lateStores }], guard := none }) rfl (fun K hK => ?_) AllReadyH.nil
  have hcv : Sem.run Tryd.prog (convert 51 9 (.slice bb bn bc)) W = .ok (.string (bt body)) W := conv_row' (R.isIn (by have := hsW.out.ms.rb; rw [HX.out] at this; exact this))
  go_simp
  go_wp2_with fail
  refine hK.out _ _ (by have := hsW.out.ms.bx.cells.c11; rw [HX.out] at this; exact this) (fun hHeld => ?_)
  clear hK K hcv
  try simp only [Act.put, List.setIfInBounds_toArray, List.set_cons_zero, List.set_cons_succ]
  refine wpAnyH_ready (rs := [1]) (by kernel_rfl) (by simp) ?_
  refine AllReadyH.cons (o := { dst := some 15, op := Op.load 24 (Operand.tmp 14), type := 24, pos := "message.go:88", after := #[{ on := 0, ground := Ground.data }], guard := none }) rfl (fun K hK => ?_) AllReadyH.nil
  obtain ⟨a1Wx, a2Wx, a3Wx, a4Wx⟩ := hsW.out.cells
  try simp only [sv] at a1Wx
  go_simp
  go_wp2_with fail
  refine hK.out _ _ (by have := hsW.out.ms.bx.cells.c11; rw [HX.out] at this; exact this) (fun hHeld => ?_)
  clear hK K a1Wx a2Wx a3Wx a4Wx
  try simp only [Act.put, List.setIfInBounds_toArray, List.set_cons_zero, List.set_cons_succ]
  refine wpAnyH_ready (rs := [2]) (by kernel_rfl) (by simp) ?_
  refine AllReadyH.cons (o := { dst := some 16, op := Op.call { callee := Callee.value (Operand.func 24), args := #[Operand.tmp 15], argTypes := #[24] }, type := 24, pos := "message.go:88", after := #[{ on := 1, ground := Ground.data }], guard := none }) rfl (fun K hK => ?_) AllReadyH.nil
  go_simp
  refine (clone_any (yb, yn, yc) ql W (R.isIn (by have := hsW.out.ms.qf; rw [HY.out] at this; exact this)) (HLEN.out)).mono ?_
  rintro e' Wxxx ⟨⟨zb, zn, zc⟩, rfl, bX, rX, oX⟩
  have hWxxx : Hid (RpQ w g x body fl ql (.slice yb yn yc) ⟨#[]⟩ (.slice zb zn zc) Wxxx) := ⟨(hsW.out.below bX).ms, (hsW.out.below bX).rb, (hsW.out.below bX).ob, (hsW.out.below bX).bel, rX⟩
  have OZ : Hid (∀ k, (Value.slice zb zn zc).ownBlock = some k → w.heap.size ≤ k) := fun k hk => Nat.le_trans hsW.out.bel.size (oX k hk)
  try simp only [sv]
  go_wp2_with fail
  refine hK.out _ _ (by have := hWxxx.out.ms.bx.cells.c11; rw [HX.out] at this; exact this) (fun hHeld => ?_)
  clear hK K bX rX oX hsW
  try simp only [Act.put, List.setIfInBounds_toArray, List.set_cons_zero, List.set_cons_succ]
  refine wpAnyH_take (i := 8) (oi := { dst := some 22, op := Op.fieldAddr 37 (Operand.tmp 3) 4, type := 0, pos := "message.go:88", after := #[{ on := 0, ground := Ground.phase }, { on := 1, ground := Ground.phase }, { on := 2, ground := Ground.phase }, { on := 3, ground := Ground.textOnly Departure.lateStores }, { on := 4, ground := Ground.textOnly Departure.lateStores }, { on := 5, ground := Ground.textOnly Departure.lateStores }, { on := 6, ground := Ground.textOnly Departure.lateStores }, { on := 7, ground := Ground.textOnly Departure.lateStores }], guard := none }) (v := ?vv23) rfl (by kernel_rfl) (by kernel_rfl) (by kernel_rfl) (fun _ _ _ h => h) (Or.inl ⟨by rfl, ?hy23⟩) (by assumption) ?_
  case hy23 => (intro w hSw; (try dsimp only at hSw); go_simp; all_goals with_reducible rfl)
  try simp only [Act.put, List.setIfInBounds_toArray, List.set_cons_zero, List.set_cons_succ]
  refine wpAnyH_ready (rs := [9]) (by kernel_rfl) (by simp) ?_
  refine AllReadyH.cons (o := { dst := none, op := Op.store 24 (Operand.tmp 22) (Operand.tmp 16), type := 0, pos := "message.go:88", after := #[{ on := 8, ground := Ground.data }, { on := 2, ground := Ground.data }, { on := 2, ground := Ground.chain }, { on := 0, ground := Ground.phase }, { on := 1, ground := Ground.phase }, { on := 2, ground := Ground.phase }, { on := 3, ground := Ground.textOnly Departure.lateStores }, { on := 4, ground := Ground.textOnly Departure.lateStores }, { on := 5, ground := Ground.textOnly Departure.lateStores }, { on := 6, ground := Ground.textOnly Departure.lateStores }, { on := 7, ground := Ground.textOnly Departure.lateStores }], guard := none }) rfl (fun K hK => ?_) AllReadyH.nil
  obtain ⟨a1, a2, a3, a4⟩ := hWxxx.out.cells
  have a5 := a3 4
  have hs9 : Hid (RpQ w g x body fl ql (.slice zb zn zc) ⟨#[]⟩ (.slice zb zn zc) (Wxxx.setCell ⟨w.heap.size + 1, 4, none⟩ (.slice zb zn zc))) := hWxxx.out.setF HG.out _
  try simp only [sv] at a1
  clear a2 a3
  go_simp
  go_wp2_with fail
  refine hK.out _ _ (by have := hs9.out.ms.bx.cells.c11; rw [HX.out] at this; exact this) (fun hHeld => ?_)
  clear hK K a1 a4 a5 hWxxx
  obtain ⟨V9, hV9⟩ : ∃ v, Wxxx.setCell ⟨w.heap.size + 1, 4, none⟩ (.slice zb zn zc) = v := ⟨_, rfl⟩
  rw [hV9] at hs9 hHeld ⊢
  clear hV9
  try simp only [Act.put, List.setIfInBounds_toArray, List.set_cons_zero, List.set_cons_succ]
  refine wpAnyH_take (i := 10) (oi := { dst := some 23, op := Op.fieldAddr 37 (Operand.tmp 3) 5, type := 0, pos := "message.go:88", after := #[{ on := 0, ground := Ground.phase }, { on := 1, ground := Ground.phase }, { on := 2, ground := Ground.phase }, { on := 3, ground := Ground.phase }, { on := 4, ground := Ground.phase }, { on := 5, ground := Ground.phase }, { on := 6, ground := Ground.phase }, { on := 7, ground := Ground.phase }, { on := 8, ground := Ground.phase }, { on := 9, ground := Ground.phase }], guard := none }) (v := ?vv24) rfl (by kernel_rfl) (by kernel_rfl) (by kernel_rfl) (fun _ _ _ h => h) (Or.inl ⟨by rfl, ?hy24⟩) (by assumption) ?_
  case hy24 => (intro w hSw; (try dsimp only at hSw); go_simp; all_goals with_reducible rfl)
  try simp only [Act.put, List.setIfInBounds_toArray, List.set_cons_zero, List.set_cons_succ]
  refine wpAnyH_ready (rs := [11]) (by kernel_rfl) (by simp) ?_
  refine AllReadyH.cons (o := { dst := none, op := Op.store 9 (Operand.tmp 23) (Operand.tmp 21), type := 0, pos := "message.go:88", after := #[{ on := 10, ground := Ground.data }, { on := 7, ground := Ground.data }, { on := 9, ground := Ground.chain }, { on := 0, ground := Ground.phase }, { on := 1, ground := Ground.phase }, { on := 2, ground := Ground.phase }, { on := 3, ground := Ground.phase }, { on := 4, ground := Ground.phase }, { on := 5, ground := Ground.phase }, { on := 6, ground := Ground.phase }, { on := 7, ground := Ground.phase }, { on := 8, ground := Ground.phase }, { on := 9, ground := Ground.phase }], guard := none }) rfl (fun K hK => ?_) AllReadyH.nil
  obtain ⟨a1, a2, a3, a4⟩ := hs9.out.cells
  have a5 := a3 5
  have hs11 : Hid (RpQ w g x body fl ql (.slice zb zn zc) (bt body) (.slice zb zn zc) (V9.setCell ⟨w.heap.size + 1, 5, none⟩ (.string (bt body)))) := hs9.out.setB HG.out _
  clear a1 a3
  go_simp
  go_wp2_with fail
  refine hK.out _ _ (by have := hs11.out.ms.bx.cells.c11; rw [HX.out] at this; exact this) (fun hHeld => ?_)
  clear hK K a2 a4 a5 hs9
  obtain ⟨V11, hV11⟩ : ∃ v, V9.setCell ⟨w.heap.size + 1, 5, none⟩ (.string (bt body)) = v := ⟨_, rfl⟩
  rw [hV11] at hs11 hHeld ⊢
  clear hV11
  try simp only [Act.put, List.setIfInBounds_toArray, List.set_cons_zero, List.set_cons_succ]
  refine wpAnyH_done (by kernel_rfl) ?_ _
  have hrb := hs11.out.rb
  have hob := hs11.out.ob
  unfold RqB at hrb hob
  have p0 := cell_blk hrb 0
  have o0 := cell_blk hob 0
  have z0 := frozen_blk hob 0
  have p1 := cell_blk hrb 1
  have o1 := cell_blk hob 1
  have z1 := frozen_blk hob 1
  have p2 := cell_blk hrb 2
  have o2 := cell_blk hob 2
  have z2 := frozen_blk hob 2
  have p3 := cell_blk hrb 3
  have o3 := cell_blk hob 3
  have z3 := frozen_blk hob 3
  have p4 := cell_blk hrb 4
  have o4 := cell_blk hob 4
  have z4 := frozen_blk hob 4
  have p5 := cell_blk hrb 5
  have o5 := cell_blk hob 5
  have z5 := frozen_blk hob 5
  have pl := heap_lt hrb
  have ol := heap_lt hob
  have HR : Hid (RqB ((((((V11.setCell ⟨w.heap.size, 0, none⟩ (.string x.m)).setCell ⟨w.heap.size, 1, none⟩ (.string x.s)).setCell ⟨w.heap.size, 2, none⟩ (.string x.a)).setCell ⟨w.heap.size, 3, none⟩ (.string x.p)).setCell ⟨w.heap.size, 4, none⟩ (.slice zb zn zc)).setCell ⟨w.heap.size, 5, none⟩ (.string (bt body))) w.heap.size x.m x.s x.a x.p (.slice zb zn zc) (bt body) ∧ Below w.heap.size w ((((((V11.setCell ⟨w.heap.size, 0, none⟩ (.string x.m)).setCell ⟨w.heap.size, 1, none⟩ (.string x.s)).setCell ⟨w.heap.size, 2, none⟩ (.string x.a)).setCell ⟨w.heap.size, 3, none⟩ (.string x.p)).setCell ⟨w.heap.size, 4, none⟩ (.slice zb zn zc)).setCell ⟨w.heap.size, 5, none⟩ (.string (bt body))) ∧ R EFd ((((((V11.setCell ⟨w.heap.size, 0, none⟩ (.string x.m)).setCell ⟨w.heap.size, 1, none⟩ (.string x.s)).setCell ⟨w.heap.size, 2, none⟩ (.string x.a)).setCell ⟨w.heap.size, 3, none⟩ (.string x.p)).setCell ⟨w.heap.size, 4, none⟩ (.slice zb zn zc)).setCell ⟨w.heap.size, 5, none⟩ (.string (bt body))) (.slice zb zn zc) ql) := by
    have hB : Below w.heap.size V11 ((((((V11.setCell ⟨w.heap.size, 0, none⟩ (.string x.m)).setCell ⟨w.heap.size, 1, none⟩ (.string x.s)).setCell ⟨w.heap.size, 2, none⟩ (.string x.a)).setCell ⟨w.heap.size, 3, none⟩ (.string x.p)).setCell ⟨w.heap.size, 4, none⟩ (.slice zb zn zc)).setCell ⟨w.heap.size, 5, none⟩ (.string (bt body))) := ((((((Below.refl _ _).setCell (p := ⟨w.heap.size, 0, none⟩) (Nat.le_refl _) _).setCell (p := ⟨w.heap.size, 1, none⟩) (Nat.le_refl _) _).setCell (p := ⟨w.heap.size, 2, none⟩) (Nat.le_refl _) _).setCell (p := ⟨w.heap.size, 3, none⟩) (Nat.le_refl _) _).setCell (p := ⟨w.heap.size, 4, none⟩) (Nat.le_refl _) _).setCell (p := ⟨w.heap.size, 5, none⟩) (Nat.le_refl _) _
    refine ⟨by unfold RqB; rw [setCell_block _ _ _ _ _ _ _ (setCell_block _ _ _ _ _ _ _ (setCell_block _ _ _ _ _ _ _ (setCell_block _ _ _ _ _ _ _ (setCell_block _ _ _ _ _ _ _ (setCell_block _ _ _ _ _ _ _ hob)))))]; rfl, hs11.out.bel.trans hB, R.stays hs11.out.cl fun k hk hl => ?_⟩
    have hk : k ≠ w.heap.size := fun e => by
      obtain ⟨c, hc⟩ := R.ty hs11.out.cl k hk
      rw [e, hob] at hc
      simp [EFd] at hc
    simp only [setCell_other _ _ _ _ _ hk]
  simp only [rqv, List.getElem?_toArray, List.getElem?_cons_succ, List.getElem?_cons_zero] at p0 o0 p1 o1 p2 o2 p3 o3 p4 o4 p5 o5
  clear hrb hob hs11 hHeld
  go_wp2_with fail
  refine bodyPost_ret (results_c (p := 2) (ty := 37) rfl _ _ w.heap.size 37 (rqv x.m x.s x.a x.p (.slice zb zn zc) (bt body)) (0, 0) _ rfl HR.out.1 Tryd.underlying37 rfl (by kernel_rfl)) rfl ?_
  exact ⟨(zb, zn, zc), by first | rfl | simp, HR.out.2.1, HR.out.2.2, OZ.out⟩

end Go.Proofs.YtnbaojdildelmaaDoor
