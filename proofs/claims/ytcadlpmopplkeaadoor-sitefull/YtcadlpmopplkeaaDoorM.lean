/- Rows of anything, and what is kept. -/
import Derived.Test.YtcadlpmopplkeaaDoorRows
import Derived.WalkKit
import Derived.WalkSpells
import Derived.WalkLawsBesides
import Derived.Lib.AppendStr
import Derived.Laws.AppendOwnNone
import Derived.Laws.MakeOwn
import Derived.Lib.Walk
import Derived.Lib.Hide
import Derived.Deep.RegionLaw
import Derived.Lib.AppendZerosOnto
namespace Go.Proofs.YtcadlpmopplkeaaDoor
open Go.RowKit
set_option linter.unusedVariables false
set_option linter.unusedSimpArgs false

/-- From w to w' nothing has turned but v's row, and v' is that row, or a new one. -/
structure Gr (w w' : World) (v v' : Value) : Prop where
  os : w'.os = w.os
  tape : w'.tape = w.tape
  output : w'.output = w.output
  size : w.heap.size ≤ w'.heap.size
  block : ∀ k, k < w.heap.size → v.ownBlock ≠ some k → w'.heap[k]? = w.heap[k]?
  own : ∀ k, v'.ownBlock = some k → v.ownBlock = some k ∨ w.heap.size ≤ k

theorem Gr.refl (w : World) (v : Value) : Gr w w v v := ⟨rfl, rfl, rfl, Nat.le_refl _, fun _ _ _ => rfl, fun _ h => .inl h⟩
theorem Gr.trans {a b c : World} {u v x : Value} (h : Gr a b u v) (k : Gr b c v x) : Gr a c u x :=
  ⟨k.os.trans h.os, k.tape.trans h.tape, k.output.trans h.output, Nat.le_trans h.size k.size,
    fun i hi hu => (k.block i (Nat.lt_of_lt_of_le hi h.size) (fun e => (h.own i e).elim hu fun hh => by omega)).trans (h.block i hi hu),
    fun i hi => (k.own i hi).elim (fun e => h.own i e) fun hh => .inr (Nat.le_trans h.size hh)⟩
theorem Gr.below {a b : World} (h : Below a.heap.size a b) (v : Value) : Gr a b v v :=
  ⟨h.os, h.tape, h.output, h.size, fun k hk _ => h.block k hk, fun _ h => .inl h⟩
/-- where it began with no row, all that was there is as it was -/
theorem Gr.fresh {a b : World} {v : Value} (h : Gr a b (.slice none 0 0) v) : Below a.heap.size a b :=
  ⟨h.os, h.tape, h.output, h.size, fun k hk => h.block k hk (by simp [Value.ownBlock])⟩
theorem Gr.new {a b : World} {v : Value} (h : Gr a b (.slice none 0 0) v) : ∀ k, v.ownBlock = some k → a.heap.size ≤ k :=
  fun k hk => (h.own k hk).elim (fun e => by simp [Value.ownBlock] at e) id
theorem Gr.belowB {a b : World} {u v : Value} {B : Nat} (h : Gr a b u v) (hB : B ≤ a.heap.size) (hu : ∀ k, u.ownBlock = some k → B ≤ k) : Below B a b :=
  ⟨h.os, h.tape, h.output, h.size, fun k hk => h.block k (by omega) fun e => by have := hu k e; omega⟩

/-- All blocks but those of A are as they were. -/
structure Ks (A : Nat → Prop) (w w' : World) : Prop where
  os : w'.os = w.os
  tape : w'.tape = w.tape
  output : w'.output = w.output
  size : w.heap.size ≤ w'.heap.size
  block : ∀ k, k < w.heap.size → ¬ A k → w'.heap[k]? = w.heap[k]?
theorem Ks.refl (A : Nat → Prop) (w : World) : Ks A w w := ⟨rfl, rfl, rfl, Nat.le_refl _, fun _ _ _ => rfl⟩
theorem Ks.trans {A B C : Nat → Prop} {a b c : World} (h : Ks A a b) (k : Ks B b c) (h1 : ∀ i, i < a.heap.size → A i → C i) (h2 : ∀ i, i < a.heap.size → B i → C i) : Ks C a c :=
  ⟨k.os.trans h.os, k.tape.trans h.tape, k.output.trans h.output, Nat.le_trans h.size k.size,
    fun i hi hu => (k.block i (Nat.lt_of_lt_of_le hi h.size) (fun e => hu (h2 i hi e))).trans (h.block i hi (fun e => hu (h1 i hi e)))⟩
theorem Ks.of_below {A : Nat → Prop} {a b : World} (h : Below a.heap.size a b) : Ks A a b := ⟨h.os, h.tape, h.output, h.size, fun k hk _ => h.block k hk⟩
theorem Ks.of_gr {a b : World} {u v : Value} (h : Gr a b u v) : Ks (fun k => u.ownBlock = some k) a b := ⟨h.os, h.tape, h.output, h.size, h.block⟩
theorem Ks.below {A : Nat → Prop} {a b : World} {B : Nat} (h : Ks A a b) (hB : B ≤ a.heap.size) (hg : ∀ i, i < B → ¬ A i) : Below B a b :=
  ⟨h.os, h.tape, h.output, h.size, fun k hk => h.block k (Nat.lt_of_lt_of_le hk hB) (hg k hk)⟩
theorem Ks.mono {A B : Nat → Prop} {a b : World} (h : Ks A a b) (hs : ∀ i, i < a.heap.size → A i → B i) : Ks B a b :=
  ⟨h.os, h.tape, h.output, h.size, fun k hk hn => h.block k hk fun e => hn (hs k hk e)⟩

theorem setCell_block (w : World) (b off : Nat) (v : Value) (c : Array Value) (t : TypeId) (fz : Nat × Nat) (h : w.heap[b]? = some (.cells c t fz)) :
    (w.setCell ⟨b, off, none⟩ v).heap[b]? = some (.cells (c.setIfInBounds off v) t fz) := by
  simp [World.setCell, Array.getElem?_modify, h]
theorem setCell_other (w : World) (b k off : Nat) (v : Value) (h : k ≠ b) : (w.setCell ⟨b, off, none⟩ v).heap[k]? = w.heap[k]? := by
  simp [World.setCell, Array.getElem?_modify, Ne.symm h]
theorem Ks.setCell (A : Nat → Prop) (w : World) (g off : Nat) (v : Value) (h : A g) : Ks A w (w.setCell ⟨g, off, none⟩ v) := ⟨rfl, rfl, rfl, by simp [World.setCell], fun k _ hk => setCell_other _ _ _ _ _ (fun e => hk (e ▸ h))⟩
theorem cell_blk {w : World} {b : Nat} {c : Array Value} {t : TypeId} {fz : Nat × Nat} (h : w.heap[b]? = some (.cells c t fz)) (i : Nat) : w.cell? ⟨b, i, none⟩ = c[i]? := by simp [World.cell?, h]
theorem frozen_blk {w : World} {b : Nat} {c : Array Value} {t : TypeId} (h : w.heap[b]? = some (.cells c t (0, 0))) (i : Nat) : w.frozen? ⟨b, i, none⟩ = false := by simp [World.frozen?, h]
theorem heap_lt {w : World} {b : Nat} {o : Obj} (h : w.heap[b]? = some o) : b < w.heap.size := (Array.getElem?_eq_some_iff.1 h).1

theorem heap_al (w : World) (o : Obj) (k : Nat) : (w.alloc o).heap[k]? = if k = w.heap.size then some o else w.heap[k]? := by
  show (w.heap.push o)[k]? = _
  rw [Array.getElem?_push]
theorem heap_dr (w : World) (k : Nat) : w.drew.heap[k]? = w.heap[k]? := rfl
theorem size_al (w : World) (o : Obj) : (w.alloc o).heap.size = w.heap.size + 1 := by simp
theorem size_dr (w : World) : w.drew.heap.size = w.heap.size := rfl
theorem fresh2 (w : World) (o p : Obj) : ((w.alloc o).alloc p).heap[w.heap.size + 1]? = some p := by
  rw [heap_al, if_pos (by simp)]
theorem fresh3 (w : World) (o p q : Obj) : (((w.alloc o).alloc p).alloc q).heap[w.heap.size + 2]? = some q := by
  rw [heap_al, if_pos (by simp)]
theorem bel1 (w : World) (o : Obj) : Below w.heap.size w (w.alloc o) := (Below.refl _ w).alloc (Nat.le_refl _) o
theorem bel2 (w : World) (o p : Obj) : Below w.heap.size w ((w.alloc o).alloc p) := (bel1 w o).alloc (by simp) p
theorem bel3 (w : World) (o p q : Obj) : Below w.heap.size w (((w.alloc o).alloc p).alloc q) := (bel2 w o p).alloc (by simp; omega) q

/-- what a row's elements are -/
structure El (α : Type) where
  t : TypeId
  e : TypeId
  sz : Nat
  by' : Nat
  enc : α → List Value
structure El.Ok {α : Type} (E : El α) : Prop where
  und : Tryd.prog.underlying E.t = some (.slice E.e)
  info : (Tryd.prog.info? E.e).map (fun i => (i.zero.map (·.cells.size), i.size, i.bytes)) = some (some E.sz, E.sz, E.by')
  pos : 0 < E.sz
  bpos : 0 < E.by'
  len : ∀ a, (E.enc a).length = E.sz
  one : ∀ a, ∀ u ∈ E.enc a, u.oneCell' = true

def El.cs {α : Type} (E : El α) (l : List α) : List Value := l.flatMap E.enc
theorem El.Ok.length {α : Type} {E : El α} (ok : E.Ok) (l : List α) : (E.cs l).length = l.length * E.sz := by
  induction l with
  | nil => simp [El.cs]
  | cons a r ih => simp only [El.cs, List.flatMap_cons, List.length_append, ok.len, List.length_cons] at ih ⊢; rw [ih, Nat.succ_mul, Nat.add_comm]
theorem El.cs_append {α : Type} (E : El α) (a b : List α) : E.cs (a ++ b) = E.cs a ++ E.cs b := by simp [El.cs]
theorem El.Ok.ones {α : Type} {E : El α} (ok : E.Ok) (l : List α) : ∀ u ∈ E.cs l, u.oneCell' = true := by
  intro u hu
  obtain ⟨b, _, hb⟩ := List.mem_flatMap.1 hu
  exact ok.one b u hb
theorem El.Ok.get {α : Type} {E : El α} (ok : E.Ok) (l : List α) (k i : Nat) (hk : k < l.length) (hi : i < E.sz) : (E.cs l)[k * E.sz + i]? = (E.enc l[k])[i]? := by
  induction l generalizing k with
  | nil => exact absurd hk (by simp)
  | cons a r ih =>
    simp only [El.cs, List.flatMap_cons]
    cases k with
    | zero => simp; rw [List.getElem?_append_left (by rw [ok.len]; exact hi)]
    | succ k =>
      rw [List.getElem?_append_right (by rw [ok.len, Nat.succ_mul]; omega), ok.len, show (k + 1) * E.sz + i - E.sz = k * E.sz + i by rw [Nat.succ_mul]; omega]
      exact ih k (by simpa using hk)

/-- The slice holds these, in a row of its own from the row's beginning. -/
def R {α : Type} (E : El α) (w : World) (o : Value) (l : List α) : Prop := w.ownsRow 0 E.e E.sz o l.length (E.cs l)
/-- They can be read behind the slice. -/
def In {α : Type} (E : El α) (w : World) (v : Value) (l : List α) : Prop :=
  (v = .slice none 0 0 ∧ l = []) ∨ ∃ a cap, v = .slice (some a) l.length cap ∧ l.length ≤ cap ∧ cap ≤ 9223372036854775807 ∧ ∀ j u, (E.cs l)[j]? = some u → w.cell? (a.add j) = some u

variable {α : Type} {E : El α} {w w' : World} {o v : Value} {l : List α}

theorem R.nil (E : El α) (w : World) : R E w (.slice none 0 0) [] := World.ownsRow_nil w 0 E.e E.sz
theorem R.stays (h : R E w o l) (hb : ∀ k, o.ownBlock = some k → k < w.heap.size → w'.heap[k]? = w.heap[k]?) : R E w' o l := by
  refine ⟨h.1, ?_⟩
  rcases h.2 with hn | ⟨g, cap, cur, rfl, hbs, hgg, rest⟩
  · exact .inl hn
  · refine .inr ⟨g, cap, cur, rfl, hbs, ?_, rest⟩
    rw [hb g rfl (Array.getElem?_eq_some_iff.1 hgg).1]
    exact hgg
theorem R.below (h : R E w o l) (hb : Below w.heap.size w w') : R E w' o l := h.stays fun k _ hk => hb.block k hk
theorem R.lt (h : R E w o l) : ∀ k, o.ownBlock = some k → k < w.heap.size := fun k hk => (World.ownsRow.lt h k hk).2
theorem R.slice (h : R E w o l) : ∃ base cap, o = .slice base l.length cap ∧ l.length ≤ cap ∧ cap ≤ 9223372036854775807 := by
  rcases h.2 with ⟨rfl, hn⟩ | ⟨g, cap, cur, rfl, _, _, hn, hm, _⟩
  · exact ⟨none, 0, by rw [hn], by omega, by omega⟩
  · exact ⟨_, cap, rfl, hn, by unfold maxLen at hm; omega⟩
theorem R.ty (h : R E w o l) (k : Nat) (hk : o.ownBlock = some k) : ∃ c, w.heap[k]? = some (.cells c E.e (0, 0)) := by
  rcases h.2 with ⟨rfl, hn⟩ | ⟨g, cap, cur, rfl, _, hg, hn, hm, _⟩
  · simp [Value.ownBlock] at hk
  · simp [Value.ownBlock] at hk
    subst hk
    exact ⟨_, hg⟩
theorem R.isIn (h : R E w o l) : In E w o l := by
  have h' := h
  rcases h.2 with ⟨rfl, hn⟩ | ⟨g, cap, cur, rfl, _, _, hn, hm, _⟩
  · exact .inl ⟨rfl, List.eq_nil_of_length_eq_zero hn⟩
  · exact .inr ⟨_, cap, rfl, hn, by unfold maxLen at hm; omega, World.ownsRow.cells h' (g := g) rfl⟩
theorem In.below (h : In E w v l) (hb : Below w.heap.size w w') : In E w' v l := by
  rcases h with h | ⟨a, cap, h1, h2, h3, h5⟩
  · exact .inl h
  · refine .inr ⟨a, cap, h1, h2, h3, fun j u hu => ?_⟩
    have := h5 j u hu
    have hlt := World.block_lt_of_cell? _ _ this
    exact (hb.cell hlt).trans this
theorem In.slice (h : In E w v l) : ∃ base cap, v = .slice base l.length cap ∧ l.length ≤ cap ∧ cap ≤ 9223372036854775807 := by
  rcases h with ⟨rfl, rfl⟩ | ⟨a, cap, h1, h2, h3, h5⟩
  · exact ⟨none, 0, rfl, Nat.le_refl _, by omega⟩
  · exact ⟨_, cap, h1, h2, h3⟩
theorem spot_none {W : World} {a : Addr} {u : Value} (h : W.cell? a = some u) : a.spot = none := by
  unfold World.cell? at h
  split at h
  · split at h
    · cases h
    · rename_i h1
      simpa using h1
  · cases h
theorem In.get (h : In E w v l) (ok : E.Ok) (k : Nat) (hk : k < l.length) : ∃ B off cap, v = .slice (some ⟨B, off, none⟩) l.length cap ∧ B < w.heap.size ∧ ∀ i u, (E.enc l[k])[i]? = some u → w.cell? ⟨B, off + k * E.sz + i, none⟩ = some u := by
  rcases h with ⟨rfl, rfl⟩ | ⟨a, cap, h1, h2, h3, h5⟩
  · exact absurd hk (by simp)
  · obtain ⟨B, off, spot⟩ := a
    have h0 := ok.get l 0 0 (by omega) ok.pos
    obtain ⟨u0, hu0⟩ : ∃ u, (E.enc (l[0]'(by omega)))[0]? = some u := ⟨(E.enc (l[0]'(by omega)))[0]'(by rw [ok.len]; exact ok.pos), List.getElem?_eq_getElem _⟩
    have hc := h5 _ _ (h0.trans hu0)
    have hs := spot_none hc
    have hlt := World.block_lt_of_cell? _ _ hc
    simp [Addr.add] at hs hlt
    subst hs
    refine ⟨B, off, cap, h1, hlt, fun i u hu => ?_⟩
    have hi : i < E.sz := by
      have := (List.getElem?_eq_some_iff.1 hu).1
      rw [ok.len] at this
      exact this
    have := h5 _ _ ((ok.get l k i hk hi).trans hu)
    rw [Addr.add_lit, ← Nat.add_assoc] at this
    exact this

theorem info_z (ok : E.Ok) : ∃ i0 z, Tryd.prog.info? E.e = some i0 ∧ i0.zero = some z ∧ i0.size = E.sz ∧ i0.bytes = E.by' ∧ z.cells.size = E.sz := by
  have h := ok.info
  cases hi : Tryd.prog.info? E.e with
  | none => rw [hi] at h; simp at h
  | some i0 =>
    rw [hi] at h
    simp at h
    obtain ⟨⟨z, h1, h2⟩, h3, h4⟩ := h
    exact ⟨i0, z, rfl, h1, h3, h4, h2⟩

/-- append, whatever is appended -/
theorem app (ok : E.Ok) (w : World) (o : Value) (l : List α) (hR : R E w o l) (v : Value) (news : List α) (hv : In E w v news) (hlen : (l.length + news.length) * E.by' ≤ 140737488355328) :
    ∃ base cap w', (Builtin.append_ #[E.t, E.t] E.t #[o, v]).run Tryd.prog w = .ok (.slice base (l.length + news.length) cap) w' ∧ R E w' (.slice base (l.length + news.length) cap) (l ++ news) ∧ Gr w w' o (.slice base (l.length + news.length) cap) := by
  obtain ⟨i0, z, hi0, hz0, hz1, hz2, hz3⟩ := info_z ok
  rcases hv with ⟨rfl, rfl⟩ | ⟨a, c, rfl, hc1, hc2, hc⟩
  · obtain ⟨b, cap, rfl, _⟩ := hR.slice
    exact ⟨b, cap, w, run_append_owned_none (P := Tryd.prog) (w := w) 0 E.t E.t E.e i0 E.sz ok.und hi0 _ l.length (E.cs l) hR, by simpa using hR, Gr.refl _ _⟩
  · have hmul : l.length + news.length ≤ (l.length + news.length) * E.by' := Nat.le_mul_of_pos_right _ ok.bpos
    have hml : l.length + news.length ≤ maxLen := by unfold maxLen; omega
    obtain ⟨v', w', hrun, ho, hg, hnil⟩ := run_append_own (P := Tryd.prog) w 0 E.t E.t E.e i0 z E.sz E.by' ok.und hi0 hz0 hz1 hz2 hz3 ok.pos o l.length (E.cs l) hR a news.length c (E.cs news) (ok.length news) hc (ok.ones news) hml hlen (Nat.zero_le _)
    have hown : ∀ k, v'.ownBlock = some k → o.ownBlock = some k ∨ w.heap.size ≤ k := by
      intro k hk
      rcases hR.2 with ⟨rfl, h0⟩ | ⟨g, cap, cur, rfl, _, hgg, hnc, _, hcs, _⟩
      · by_cases hm : news.length = 0
        · rw [hnil.2 ⟨rfl, hm⟩] at hk
          simp [Value.ownBlock] at hk
        · have hb : news.length ≤ news.length * E.by' := Nat.le_mul_of_pos_right _ ok.bpos
          have hb2 : news.length * E.by' ≤ (l.length + news.length) * E.by' := Nat.mul_le_mul_right _ (by omega)
          have hr := run_append_nil (P := Tryd.prog) w E.t E.t E.e i0 z ok.und hi0 hz0 a news.length c (E.cs news) (by rw [hz1]; exact ok.length news) hc (by omega) (by omega) (by rw [hz2]; omega)
          rw [hrun] at hr
          injection hr with hr _
          subst hr
          simp [Value.ownBlock] at hk
          exact .inr (by omega)
      · by_cases hroom : l.length + news.length ≤ cap
        · have hr := run_append_room (P := Tryd.prog) w E.t E.t E.e i0 ok.und hi0 g l.length cap cur hgg a news.length c (E.cs news) (by rw [hz1]; exact ok.length news) hc (ok.ones news) hroom (by
            rw [hcs, ok.length, hz1, ← Nat.add_mul]
            exact Nat.mul_le_mul_right _ hroom)
          rw [hrun] at hr
          injection hr with hr _
          subst hr
          exact .inl hk
        · have hr := run_append_grow (P := Tryd.prog) w E.t E.t E.e i0 z ok.und hi0 hz0 ⟨g, 0, none⟩ l.length cap (E.cs l) (by rw [hz1]; exact ok.length l) (World.ownsRow.cells hR (g := g) rfl) a news.length c (E.cs news) (by rw [hz1]; exact ok.length news) hc (by omega) (by omega) (growslice_fits (by omega) (by rw [hz2]; exact hlen))
          rw [hrun] at hr
          injection hr with hr _
          subst hr
          simp [Value.ownBlock] at hk
          exact .inr (by omega)
    have hP : R E w' v' (l ++ news) := by
      unfold R
      rw [El.cs_append, List.length_append]
      exact ho
    obtain ⟨base, cap, rfl, _⟩ := hP.slice
    rw [List.length_append] at hrun hP hown
    exact ⟨base, cap, w', hrun, hP, hg.os, hg.tape, hg.output, hg.size, fun k hk hne => hg.block k hk (fun e => hne e.symm), hown⟩

/-- one element, in a block of its own, can be read behind the slice that was built -/
theorem in_one (w : World) (B : Nat) (x : α) (c : Array Value) (t : TypeId) (fz : Nat × Nat) (h : w.heap[B]? = some (.cells c t fz)) (hc : c.toList = E.enc x) : In E w (.slice (some ⟨B, 0, none⟩) 1 1) [x] := by
  refine .inr ⟨_, 1, rfl, Nat.le_refl _, by omega, fun j u hu => ?_⟩
  rw [Addr.add_lit, cell_blk h, Nat.zero_add, ← Array.getElem?_toList, hc]
  simpa [El.cs] using hu

/-- append, as one step of a region that draws, by the equation of its run. -/
theorem step_append_run {P : Program} {ops : Array Oper} {o : Oper} {a : Act} {w : World} {K : Act → World → Prop} {Q : Exit → Act → World → Prop} {R : Prop}
    (hg : o.guard = none) (s x : Operand) (t tn : TypeId) (ho : o.op = .call { callee := .builtin .append, args := #[s, x], argTypes := #[t, tn] })
    {vs vx v' : Value} {w' : World} (hr : (Builtin.append_ #[t, tn] o.type #[vs, vx]).run P w = .ok v' w') (hs : a.eval s = vs) (hx : a.eval x = vx)
    (hK : K (a.put o.dst v') w') : if Region.wanted o (yielded ops a.tmps) = true then Oper.wp P o a w K Q else R := by
  have hw : Region.wanted o (yielded ops a.tmps) = true := by simp [Region.wanted, hg]
  rw [if_pos hw]
  exact Lib.wp_append_run w s x t tn ho vs vx hs hx v' w' hr hK
/-- a call of a Go function, as one step of a region: for a guard -/
theorem step_value {P : Program} {ops : Array Oper} {o : Oper} {a : Act} {w : World} {K : Act → World → Prop} {Q : Exit → Act → World → Prop} {R : Prop}
    (f : FuncId) (xs : Array Operand) (ats : Array TypeId) (_ho : o.op = .call { callee := .value (.func f), args := xs, argTypes := ats })
    (h : if Region.wanted o (yielded ops a.tmps) = true then Oper.wp P o a w K Q else R) : if Region.wanted o (yielded ops a.tmps) = true then Oper.wp P o a w K Q else R := h
end Go.Proofs.YtcadlpmopplkeaaDoor
