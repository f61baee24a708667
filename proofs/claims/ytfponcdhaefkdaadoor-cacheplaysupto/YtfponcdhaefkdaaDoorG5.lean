/- The cache and the law's book side by side. -/
import Derived.Test.YtfponcdhaefkdaaDoorG4
namespace Go.Proofs.YtfponcdhaefkdaaDoor
open Go.RowKit
set_option linter.unusedVariables false
set_option linter.unusedSimpArgs false
/-- the cache's entry and the book's are one -/
structure Re (e : En) (k : Kn) : Prop where
  ee : Ee e k.q k.fq k.rn k.rb k.fr k.st k.ar
  kz : Kz k
/-- the same entries, in one order -/
structure Rl (L : List En) (B : List Kn) : Prop where
  len : L.length = B.length
  re : ∀ i (h1 : i < L.length) (h2 : i < B.length), Re L[i] B[i]
theorem Rl.nil : Rl [] [] := ⟨rfl, fun i h => absurd h (by simp)⟩
theorem Rl.tail {e : En} {k : Kn} {L : List En} {B : List Kn} (h : Rl (e :: L) (k :: B)) : Re e k ∧ Rl L B :=
  ⟨h.re 0 (by simp) (by simp), by have := h.len; simpa using this, fun i h1 h2 => h.re (i + 1) (by simpa using h1) (by simpa using h2)⟩
theorem Rl.cons {e : En} {k : Kn} {L : List En} {B : List Kn} (h1 : Re e k) (h2 : Rl L B) : Rl (e :: L) (k :: B) :=
  ⟨by simp [h2.len], fun i q1 q2 => by
    cases i with
    | zero => exact h1
    | succ i => exact h2.re i (by simpa using q1) (by simpa using q2)⟩
theorem Rl.erase {L : List En} {B : List Kn} (h : Rl L B) (i : Nat) : Rl (L.eraseIdx i) (B.eraseIdx i) := by
  induction L generalizing B i with
  | nil => cases B with
    | nil => exact h
    | cons k B => have := h.len; simp at this
  | cons e L ih => cases B with
    | nil => have := h.len; simp at this
    | cons k B =>
      obtain ⟨h1, h2⟩ := h.tail
      cases i with
      | zero => exact h2
      | succ i => exact Rl.cons h1 (ih h2 i)
theorem Rl.drop {L : List En} {B : List Kn} (h : Rl L B) (n : Nat) : Rl (L.drop n) (B.drop n) := by
  induction n generalizing L B with
  | zero => exact h
  | succ n ih => cases L with
    | nil => cases B with
      | nil => exact h
      | cons k B => have := h.len; simp at this
    | cons e L => cases B with
      | nil => have := h.len; simp at this
      | cons k B => exact ih h.tail.2
theorem Rl.app {L : List En} {B : List Kn} (h : Rl L B) {e : En} {k : Kn} (h1 : Re e k) : Rl (L ++ [e]) (B ++ [k]) := by
  induction L generalizing B with
  | nil => cases B with
    | nil => exact Rl.cons h1 Rl.nil
    | cons k B => have := h.len; simp at this
  | cons x L ih => cases B with
    | nil => have := h.len; simp at this
    | cons y B => exact Rl.cons h.tail.1 (ih h.tail.2)
theorem Rl.tot {L : List En} {B : List Kn} (h : Rl L B) : totL L = totK B := by
  induction L generalizing B with
  | nil => cases B with
    | nil => rfl
    | cons k B => have := h.len; simp at this
  | cons x L ih => cases B with
    | nil => have := h.len; simp at this
    | cons y B =>
      have := ih h.tail.2
      unfold totL totK at this ⊢
      rw [List.map_cons, List.map_cons, List.sum_cons, List.sum_cons, this, h.tail.1.ee.sz]
      rfl
theorem Rl.mem {L : List En} {B : List Kn} (h : Rl L B) {k : Kn} (hk : k ∈ B) : ∃ e ∈ L, Re e k := by
  obtain ⟨i, hi, rfl⟩ := List.getElem_of_mem hk
  have := h.len
  exact ⟨L[i]'(by omega), List.getElem_mem _, h.re i (by omega) hi⟩
theorem Rl.ar {L : List En} {B : List Kn} (h : Rl L B) {c : Ca} (hc : Cok c L) : ∀ k ∈ B, 0 ≤ k.ar ∧ k.ar ≤ c.ck := fun k hk => by
  obtain ⟨e, he, hr⟩ := h.mem hk
  have := hc.ar e he
  rw [hr.ee.ar] at this
  exact this
theorem Rl.find {L : List En} {B : List Kn} (h : Rl L B) (c : Ca) (q : Rq) (Q : List Fd) : L.findIdx? (anB c q Q) = B.findIdx? (anK c.ck c.lf q Q) := by
  induction L generalizing B with
  | nil => cases B with
    | nil => rfl
    | cons k B => have := h.len; simp at this
  | cons x L ih => cases B with
    | nil => have := h.len; simp at this
    | cons y B =>
      obtain ⟨h1, h2⟩ := h.tail
      have e : anB c q Q x = anK c.ck c.lf q Q y := by
        unfold anB anK exB
        rw [h1.ee.mt, h1.ee.ar]
        congr 2
        rw [Bool.eq_iff_iff]
        simp
      rw [List.findIdx?_cons, List.findIdx?_cons, e, ih h2]
/-- the two side by side, made since w0 -/
structure Ci (w0 W : World) (b g : Nat) (c : Ca) (y : SV) (L : List En) (z : SV) (B : List Kn) (now : Int) : Prop where
  cx : Cx W g c y L
  bk : Bk W b g c.me c.mb c.lf z B now
  rl : Rl L B
  bel : Below w0.heap.size w0 W
  nb : w0.heap.size ≤ b
  nc : ∀ k, Ow g y k → w0.heap.size ≤ k
  nz : ∀ k, (sv z).ownBlock = some k → w0.heap.size ≤ k
variable {w0 W W' : World} {b g : Nat} {c c' : Ca} {y y' : SV} {L L' : List En} {z z' : SV} {B B' : List Kn} {now now' : Int}
theorem Ci.below (h : Ci w0 W b g c y L z B now) (hb : Below W.heap.size W W') : Ci w0 W' b g c y L z B now := ⟨h.cx.below hb, h.bk.below hb, h.rl, h.bel.trans (hb.mono h.bel.size), h.nb, h.nc, h.nz⟩
theorem Bk.cop (h : Bk W b g c.me c.mb c.lf z B now) (hx : Cx W g c y L) (hk : Ks (Ow g y) W W') : Bk W' b g c.me c.mb c.lf z B now :=
  h.keep fun k cc t fz hb ht => hk.block k (heap_lt hb) (hx.offb hb (by rcases ht with rfl | rfl | rfl <;> decide) (by rcases ht with rfl | rfl | rfl <;> decide))
/-- the cache does something -/
theorem Ci.cop (h : Ci w0 W b g c y L z B now) (hk : Ks (Ow g y) W W') (hx : Cx W' g c' y' L') (h1 : c'.me = c.me ∧ c'.mb = c.mb ∧ c'.lf = c.lf) (ho : ∀ k, Ow g y' k → Ow g y k ∨ W.heap.size ≤ k) (hr : Rl L' B) : Ci w0 W' b g c' y' L' z B now :=
  ⟨hx, by have := h.bk.cop h.cx hk; rw [h1.1, h1.2.1, h1.2.2]; exact this, hr, h.bel.trans (hk.below h.bel.size fun i hi ho => by have := h.nc i ho; omega), h.nb, fun k hk' => (ho k hk').elim (h.nc k) (fun e => Nat.le_trans h.bel.size e), h.nz⟩
theorem Cx.offk (h : Cx W g c y L) {k : Nat} {cc : Array Value} {t : TypeId} {fz : Nat × Nat} (hb : W.heap[k]? = some (.cells cc t fz)) (h1 : t ≠ 83) (h2 : t ≠ 87) (h3 : t ≠ 51) (h4 : t ≠ 9) : ¬ Cb g y L k := by
  rintro (ho | ⟨e, he, hk⟩)
  · exact h.offb hb h1 h2 ho
  · obtain ⟨c2, hc2 | hc2⟩ := (h.er e he).ty hk
    · rw [hb] at hc2; injection hc2 with hc2; injection hc2 with _ hc2; exact h3 hc2
    · rw [hb] at hc2; injection hc2 with hc2; injection hc2 with _ hc2; exact h4 hc2
/-- the book does something -/
theorem Ci.bop (h : Ci w0 W b g c y L z B now) (A : Nat → Prop) (hk : Ks A W W') (hA : ∀ k, A k → k < W.heap.size → w0.heap.size ≤ k ∧ ¬ Cb g y L k) (hb : Bk W' b g c.me c.mb c.lf z' B' now') (hz : ∀ k, (sv z').ownBlock = some k → w0.heap.size ≤ k) (hr : Rl L B') : Ci w0 W' b g c y L z' B' now' :=
  ⟨h.cx.keep fun k hc hl => hk.block k hl fun ha => (hA k ha hl).2 hc, hb, hr, h.bel.trans (hk.below h.bel.size fun i hi ha => by have := (hA i ha (by have := h.bel.size; omega)).1; omega), h.nb, h.nc, hz⟩
theorem Ci.offB (h : Ci w0 W b g c y L z B now) : ¬ Cb g y L b := h.cx.offk h.bk.blk (by decide) (by decide) (by decide) (by decide)
theorem Ci.setNow (h : Ci w0 W b g c y L z B now) (n : Int) : Ci w0 (W.setCell ⟨b, 6, none⟩ (.int .i64 n)) b g c y L z B n :=
  h.bop (fun k => k = b) (Ks.setCell _ _ _ _ _ rfl) (fun k hk _ => by subst hk; exact ⟨h.nb, h.offB⟩) (h.bk.setNow n) h.nz h.rl
/-- one of the book's goes -/
theorem Ci.setL {V : World} (h : Ci w0 W b g c y L z B now) (hb : Below W.heap.size W V) (hR : R EK V (sv z') B') (hn : ∀ k, (sv z').ownBlock = some k → W.heap.size ≤ k) (hs : ∀ k ∈ B', k ∈ B) (hr : Rl L B') : Ci w0 (V.setCell ⟨b, 5, none⟩ (sv z')) b g c y L z' B' now := by
  have hV := h.below hb
  exact hV.bop (fun k => k = b) (Ks.setCell _ _ _ _ _ rfl) (fun k hk _ => by subst hk; exact ⟨h.nb, hV.offB⟩) (hV.bk.setL rfl hR fun k hk => hV.bk.fl k (hs k hk)) (fun k hk => Nat.le_trans h.bel.size (hn k hk)) hr
/-- a step of the script -/
structure Os where
  kd : Int
  tw : Bool
  q : Rq
  rn : Int
  ry : SV
  rb : ByteArray
  st : Int
  tk : Int
  Q : List Fd
  fr : List Fd
def opv (o : Os) : Array Value := #[.int .i64 o.kd, .bool o.tw, .string o.q.m, .string o.q.s, .string o.q.a, .string o.q.p, sv o.q.y, .string o.q.b, .int .i64 o.rn, sv o.ry, .string o.rb, .int .i64 o.st, .int .i64 o.tk]
/-- its lists, and sizes -/
structure Oi (w0 : World) (o : Os) : Prop where
  iq : In EFd w0 (sv o.q.y) o.Q
  ir : In EFd w0 (sv o.ry) o.fr
  az : Az o.q o.Q o.rb o.fr
  tk : o.tk ≤ 9223372036854775807
def Cells60 (W : World) (o0 : Nat) (o : Os) : Prop := W.cell? ⟨o0, 0, none⟩ = some (.int .i64 o.kd) ∧ W.cell? ⟨o0, 1, none⟩ = some (.bool o.tw) ∧ W.cell? ⟨o0, 2, none⟩ = some (.string o.q.m) ∧ W.cell? ⟨o0, 3, none⟩ = some (.string o.q.s) ∧ W.cell? ⟨o0, 4, none⟩ = some (.string o.q.a) ∧ W.cell? ⟨o0, 5, none⟩ = some (.string o.q.p) ∧ W.cell? ⟨o0, 6, none⟩ = some (sv o.q.y) ∧ W.cell? ⟨o0, 7, none⟩ = some (.string o.q.b) ∧ W.cell? ⟨o0, 8, none⟩ = some (.int .i64 o.rn) ∧ W.cell? ⟨o0, 9, none⟩ = some (sv o.ry) ∧ W.cell? ⟨o0, 10, none⟩ = some (.string o.rb) ∧ W.cell? ⟨o0, 11, none⟩ = some (.int .i64 o.st) ∧ W.cell? ⟨o0, 12, none⟩ = some (.int .i64 o.tk)
theorem cells60 {o0 : Nat} {o : Os} (h : W.heap[o0]? = some (.cells (opv o) 60 (0, 0))) : Cells60 W o0 o := ⟨cell_blk h 0, cell_blk h 1, cell_blk h 2, cell_blk h 3, cell_blk h 4, cell_blk h 5, cell_blk h 6, cell_blk h 7, cell_blk h 8, cell_blk h 9, cell_blk h 10, cell_blk h 11, cell_blk h 12⟩
/-- a block that neither writes -/
structure Bx' (W : World) (k : Nat) (cc : Array Value) (t : TypeId) : Prop where
  blk : W.heap[k]? = some (.cells cc t (0, 0))
  ty : t ≠ 83 ∧ t ≠ 87 ∧ t ≠ 58 ∧ t ≠ 95
theorem Bx'.below {k : Nat} {cc : Array Value} {t : TypeId} (h : Bx' W k cc t) (hb : Below W.heap.size W W') : Bx' W' k cc t := ⟨(hb.block _ (heap_lt h.blk)).trans h.blk, h.ty⟩
theorem Bx'.cop {k : Nat} {cc : Array Value} {t : TypeId} (h : Bx' W k cc t) (hx : Cx W g c y L) (hk : Ks (Ow g y) W W') : Bx' W' k cc t := ⟨(hk.block _ (heap_lt h.blk) (hx.offb h.blk h.ty.1 h.ty.2.1)).trans h.blk, h.ty⟩
theorem Bx'.bop {k : Nat} {cc : Array Value} {t : TypeId} (h : Bx' W k cc t) (hb : Bk W b g c.me c.mb c.lf z B now) (o : Nat) (v : Value) : Bx' (W.setCell ⟨b, o, none⟩ v) k cc t := ⟨(setCell_other _ _ _ _ _ (ty_ne h.blk hb.blk h.ty.2.2.1)).trans h.blk, h.ty⟩
theorem ks_g (hk : Ks (fun k => k = g) W W') : Ks (Ow g y) W W' := hk.mono fun i _ h => .inl h
end Go.Proofs.YtfponcdhaefkdaaDoor
