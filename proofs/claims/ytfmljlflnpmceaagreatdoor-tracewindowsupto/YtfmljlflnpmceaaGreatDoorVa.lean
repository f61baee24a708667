import Derived.Test.YtfmljlflnpmceaaGreatDoorRows
import Derived.WalkKit
import Derived.WalkSpells
import Derived.WalkLawsBesides
import Derived.Lib.AppendStr
import Derived.Laws.AppendOwnNone
import Derived.Laws.MakeOwn
import Derived.Lib.Walk
import Derived.Lib.Hide
import Derived.Deep.RegionLaw
import Derived.Lib.AppendZerosOnto
import Derived.Deep.RegionHeld3
import Derived.Maps.Own
import Derived.Maps.OwnOps
import Derived.Maps.OwnSet
import Derived.Maps.RangeWalk
import Derived.Deep.RegionWith
import Derived.Deep.QuietTactic
import Derived.BigQuiet
/- Rows of anything, and what is kept. -/
namespace Go.Proofs.YtfmljlflnpmceaaGreatDoor
open Go.RowKit
set_option linter.unusedVariables false
set_option linter.unusedSimpArgs false

/-- From w to w' nothing has turned but v's row, and v' is that row, or a new one. -/
structure Gr (w w' : World) (v v' : Value) : Prop where
  os : w'.os = w.os
  tape : w'.tape = w.tape
  output : w'.output = w.output
  size : w.heap.size ≤ w'.heap.size
  block : ∀ k, k < w.heap.size → v.ownBlock ≠ some k → w'.heap[k]? = w.heap[k]?
  own : ∀ k, v'.ownBlock = some k → v.ownBlock = some k ∨ w.heap.size ≤ k

theorem Gr.refl (w : World) (v : Value) : Gr w w v v := ⟨rfl, rfl, rfl, Nat.le_refl _, fun _ _ _ => rfl, fun _ h => .inl h⟩
theorem Gr.trans {a b c : World} {u v x : Value} (h : Gr a b u v) (k : Gr b c v x) : Gr a c u x :=
  ⟨k.os.trans h.os, k.tape.trans h.tape, k.output.trans h.output, Nat.le_trans h.size k.size,
    fun i hi hu => (k.block i (Nat.lt_of_lt_of_le hi h.size) (fun e => (h.own i e).elim hu fun hh => by omega)).trans (h.block i hi hu),
    fun i hi => (k.own i hi).elim (fun e => h.own i e) fun hh => .inr (Nat.le_trans h.size hh)⟩
theorem Gr.below {a b : World} (h : Below a.heap.size a b) (v : Value) : Gr a b v v :=
  ⟨h.os, h.tape, h.output, h.size, fun k hk _ => h.block k hk, fun _ h => .inl h⟩
/-- where it began with no row, all that was there is as it was -/
theorem Gr.fresh {a b : World} {v : Value} (h : Gr a b (.slice none 0 0) v) : Below a.heap.size a b :=
  ⟨h.os, h.tape, h.output, h.size, fun k hk => h.block k hk (by simp [Value.ownBlock])⟩
theorem Gr.new {a b : World} {v : Value} (h : Gr a b (.slice none 0 0) v) : ∀ k, v.ownBlock = some k → a.heap.size ≤ k :=
  fun k hk => (h.own k hk).elim (fun e => by simp [Value.ownBlock] at e) id
theorem Gr.belowB {a b : World} {u v : Value} {B : Nat} (h : Gr a b u v) (hB : B ≤ a.heap.size) (hu : ∀ k, u.ownBlock = some k → B ≤ k) : Below B a b :=
  ⟨h.os, h.tape, h.output, h.size, fun k hk => h.block k (by omega) fun e => by have := hu k e; omega⟩

/-- All blocks but those of A are as they were. -/
structure Ks (A : Nat → Prop) (w w' : World) : Prop where
  os : w'.os = w.os
  tape : w'.tape = w.tape
  output : w'.output = w.output
  size : w.heap.size ≤ w'.heap.size
  block : ∀ k, k < w.heap.size → ¬ A k → w'.heap[k]? = w.heap[k]?
theorem Ks.refl (A : Nat → Prop) (w : World) : Ks A w w := ⟨rfl, rfl, rfl, Nat.le_refl _, fun _ _ _ => rfl⟩
theorem Ks.trans {A B C : Nat → Prop} {a b c : World} (h : Ks A a b) (k : Ks B b c) (h1 : ∀ i, i < a.heap.size → A i → C i) (h2 : ∀ i, i < a.heap.size → B i → C i) : Ks C a c :=
  ⟨k.os.trans h.os, k.tape.trans h.tape, k.output.trans h.output, Nat.le_trans h.size k.size,
    fun i hi hu => (k.block i (Nat.lt_of_lt_of_le hi h.size) (fun e => hu (h2 i hi e))).trans (h.block i hi (fun e => hu (h1 i hi e)))⟩
theorem Ks.of_below {A : Nat → Prop} {a b : World} (h : Below a.heap.size a b) : Ks A a b := ⟨h.os, h.tape, h.output, h.size, fun k hk _ => h.block k hk⟩
theorem Ks.of_gr {a b : World} {u v : Value} (h : Gr a b u v) : Ks (fun k => u.ownBlock = some k) a b := ⟨h.os, h.tape, h.output, h.size, h.block⟩
theorem Ks.below {A : Nat → Prop} {a b : World} {B : Nat} (h : Ks A a b) (hB : B ≤ a.heap.size) (hg : ∀ i, i < B → ¬ A i) : Below B a b :=
  ⟨h.os, h.tape, h.output, h.size, fun k hk => h.block k (Nat.lt_of_lt_of_le hk hB) (hg k hk)⟩
theorem Ks.mono {A B : Nat → Prop} {a b : World} (h : Ks A a b) (hs : ∀ i, i < a.heap.size → A i → B i) : Ks B a b :=
  ⟨h.os, h.tape, h.output, h.size, fun k hk hn => h.block k hk fun e => hn (hs k hk e)⟩

theorem setCell_block (w : World) (b off : Nat) (v : Value) (c : Array Value) (t : TypeId) (fz : Nat × Nat) (h : w.heap[b]? = some (.cells c t fz)) :
    (w.setCell ⟨b, off, none⟩ v).heap[b]? = some (.cells (c.setIfInBounds off v) t fz) := by
  simp [World.setCell, Array.getElem?_modify, h]
theorem setCell_other (w : World) (b k off : Nat) (v : Value) (h : k ≠ b) : (w.setCell ⟨b, off, none⟩ v).heap[k]? = w.heap[k]? := by
  simp [World.setCell, Array.getElem?_modify, Ne.symm h]
theorem Ks.setCell (A : Nat → Prop) (w : World) (g off : Nat) (v : Value) (h : A g) : Ks A w (w.setCell ⟨g, off, none⟩ v) := ⟨rfl, rfl, rfl, by simp [World.setCell], fun k _ hk => setCell_other _ _ _ _ _ (fun e => hk (e ▸ h))⟩
theorem cell_blk {w : World} {b : Nat} {c : Array Value} {t : TypeId} {fz : Nat × Nat} (h : w.heap[b]? = some (.cells c t fz)) (i : Nat) : w.cell? ⟨b, i, none⟩ = c[i]? := by simp [World.cell?, h]
theorem frozen_blk {w : World} {b : Nat} {c : Array Value} {t : TypeId} (h : w.heap[b]? = some (.cells c t (0, 0))) (i : Nat) : w.frozen? ⟨b, i, none⟩ = false := by simp [World.frozen?, h]
theorem heap_lt {w : World} {b : Nat} {o : Obj} (h : w.heap[b]? = some o) : b < w.heap.size := (Array.getElem?_eq_some_iff.1 h).1

theorem heap_al (w : World) (o : Obj) (k : Nat) : (w.alloc o).heap[k]? = if k = w.heap.size then some o else w.heap[k]? := by
  show (w.heap.push o)[k]? = _
  rw [Array.getElem?_push]
theorem heap_dr (w : World) (k : Nat) : w.drew.heap[k]? = w.heap[k]? := rfl
theorem size_al (w : World) (o : Obj) : (w.alloc o).heap.size = w.heap.size + 1 := by simp
theorem size_dr (w : World) : w.drew.heap.size = w.heap.size := rfl
theorem fresh2 (w : World) (o p : Obj) : ((w.alloc o).alloc p).heap[w.heap.size + 1]? = some p := by
  rw [heap_al, if_pos (by simp)]
theorem fresh3 (w : World) (o p q : Obj) : (((w.alloc o).alloc p).alloc q).heap[w.heap.size + 2]? = some q := by
  rw [heap_al, if_pos (by simp)]
theorem bel1 (w : World) (o : Obj) : Below w.heap.size w (w.alloc o) := (Below.refl _ w).alloc (Nat.le_refl _) o
theorem bel2 (w : World) (o p : Obj) : Below w.heap.size w ((w.alloc o).alloc p) := (bel1 w o).alloc (by simp) p
theorem bel3 (w : World) (o p q : Obj) : Below w.heap.size w (((w.alloc o).alloc p).alloc q) := (bel2 w o p).alloc (by simp; omega) q

/-- what a row's elements are -/
structure El (α : Type) where
  t : TypeId
  e : TypeId
  sz : Nat
  by' : Nat
  enc : α → List Value
structure El.Ok {α : Type} (E : El α) : Prop where
  und : Tryz.prog.underlying E.t = some (.slice E.e)
  info : (Tryz.prog.info? E.e).map (fun i => (i.zero.map (·.cells.size), i.size, i.bytes)) = some (some E.sz, E.sz, E.by')
  pos : 0 < E.sz
  bpos : 0 < E.by'
  len : ∀ a, (E.enc a).length = E.sz
  one : ∀ a, ∀ u ∈ E.enc a, u.oneCell' = true

def El.cs {α : Type} (E : El α) (l : List α) : List Value := l.flatMap E.enc
theorem El.Ok.length {α : Type} {E : El α} (ok : E.Ok) (l : List α) : (E.cs l).length = l.length * E.sz := by
  induction l with
  | nil => simp [El.cs]
  | cons a r ih => simp only [El.cs, List.flatMap_cons, List.length_append, ok.len, List.length_cons] at ih ⊢; rw [ih, Nat.succ_mul, Nat.add_comm]
theorem El.cs_append {α : Type} (E : El α) (a b : List α) : E.cs (a ++ b) = E.cs a ++ E.cs b := by simp [El.cs]
theorem El.Ok.ones {α : Type} {E : El α} (ok : E.Ok) (l : List α) : ∀ u ∈ E.cs l, u.oneCell' = true := by
  intro u hu
  obtain ⟨b, _, hb⟩ := List.mem_flatMap.1 hu
  exact ok.one b u hb
theorem El.Ok.get {α : Type} {E : El α} (ok : E.Ok) (l : List α) (k i : Nat) (hk : k < l.length) (hi : i < E.sz) : (E.cs l)[k * E.sz + i]? = (E.enc l[k])[i]? := by
  induction l generalizing k with
  | nil => exact absurd hk (by simp)
  | cons a r ih =>
    simp only [El.cs, List.flatMap_cons]
    cases k with
    | zero => simp; rw [List.getElem?_append_left (by rw [ok.len]; exact hi)]
    | succ k =>
      rw [List.getElem?_append_right (by rw [ok.len, Nat.succ_mul]; omega), ok.len, show (k + 1) * E.sz + i - E.sz = k * E.sz + i by rw [Nat.succ_mul]; omega]
      exact ih k (by simpa using hk)

/-- The slice holds these, in a row of its own from the row's beginning. -/
def R {α : Type} (E : El α) (w : World) (o : Value) (l : List α) : Prop := w.ownsRow 0 E.e E.sz o l.length (E.cs l)
/-- They can be read behind the slice. -/
def In {α : Type} (E : El α) (w : World) (v : Value) (l : List α) : Prop :=
  (v = .slice none 0 0 ∧ l = []) ∨ ∃ a cap, v = .slice (some a) l.length cap ∧ l.length ≤ cap ∧ cap ≤ 9223372036854775807 ∧ ∀ j u, (E.cs l)[j]? = some u → w.cell? (a.add j) = some u

variable {α : Type} {E : El α} {w w' : World} {o v : Value} {l : List α}

theorem R.nil (E : El α) (w : World) : R E w (.slice none 0 0) [] := World.ownsRow_nil w 0 E.e E.sz
theorem R.stays (h : R E w o l) (hb : ∀ k, o.ownBlock = some k → k < w.heap.size → w'.heap[k]? = w.heap[k]?) : R E w' o l := by
  refine ⟨h.1, ?_⟩
  rcases h.2 with hn | ⟨g, cap, cur, rfl, hbs, hgg, rest⟩
  · exact .inl hn
  · refine .inr ⟨g, cap, cur, rfl, hbs, ?_, rest⟩
    rw [hb g rfl (Array.getElem?_eq_some_iff.1 hgg).1]
    exact hgg
theorem R.below (h : R E w o l) (hb : Below w.heap.size w w') : R E w' o l := h.stays fun k _ hk => hb.block k hk
theorem R.lt (h : R E w o l) : ∀ k, o.ownBlock = some k → k < w.heap.size := fun k hk => (World.ownsRow.lt h k hk).2
theorem R.slice (h : R E w o l) : ∃ base cap, o = .slice base l.length cap ∧ l.length ≤ cap ∧ cap ≤ 9223372036854775807 := by
  rcases h.2 with ⟨rfl, hn⟩ | ⟨g, cap, cur, rfl, _, _, hn, hm, _⟩
  · exact ⟨none, 0, by rw [hn], by omega, by omega⟩
  · exact ⟨_, cap, rfl, hn, by unfold maxLen at hm; omega⟩
theorem R.ty (h : R E w o l) (k : Nat) (hk : o.ownBlock = some k) : ∃ c, w.heap[k]? = some (.cells c E.e (0, 0)) := by
  rcases h.2 with ⟨rfl, hn⟩ | ⟨g, cap, cur, rfl, _, hg, hn, hm, _⟩
  · simp [Value.ownBlock] at hk
  · simp [Value.ownBlock] at hk
    subst hk
    exact ⟨_, hg⟩
theorem R.isIn (h : R E w o l) : In E w o l := by
  have h' := h
  rcases h.2 with ⟨rfl, hn⟩ | ⟨g, cap, cur, rfl, _, _, hn, hm, _⟩
  · exact .inl ⟨rfl, List.eq_nil_of_length_eq_zero hn⟩
  · exact .inr ⟨_, cap, rfl, hn, by unfold maxLen at hm; omega, World.ownsRow.cells h' (g := g) rfl⟩
theorem In.below (h : In E w v l) (hb : Below w.heap.size w w') : In E w' v l := by
  rcases h with h | ⟨a, cap, h1, h2, h3, h5⟩
  · exact .inl h
  · refine .inr ⟨a, cap, h1, h2, h3, fun j u hu => ?_⟩
    have := h5 j u hu
    have hlt := World.block_lt_of_cell? _ _ this
    exact (hb.cell hlt).trans this
theorem In.slice (h : In E w v l) : ∃ base cap, v = .slice base l.length cap ∧ l.length ≤ cap ∧ cap ≤ 9223372036854775807 := by
  rcases h with ⟨rfl, rfl⟩ | ⟨a, cap, h1, h2, h3, h5⟩
  · exact ⟨none, 0, rfl, Nat.le_refl _, by omega⟩
  · exact ⟨_, cap, h1, h2, h3⟩
theorem spot_none {W : World} {a : Addr} {u : Value} (h : W.cell? a = some u) : a.spot = none := by
  unfold World.cell? at h
  split at h
  · split at h
    · cases h
    · rename_i h1
      simpa using h1
  · cases h
theorem In.get (h : In E w v l) (ok : E.Ok) (k : Nat) (hk : k < l.length) : ∃ B off cap, v = .slice (some ⟨B, off, none⟩) l.length cap ∧ B < w.heap.size ∧ ∀ i u, (E.enc l[k])[i]? = some u → w.cell? ⟨B, off + k * E.sz + i, none⟩ = some u := by
  rcases h with ⟨rfl, rfl⟩ | ⟨a, cap, h1, h2, h3, h5⟩
  · exact absurd hk (by simp)
  · obtain ⟨B, off, spot⟩ := a
    have h0 := ok.get l 0 0 (by omega) ok.pos
    obtain ⟨u0, hu0⟩ : ∃ u, (E.enc (l[0]'(by omega)))[0]? = some u := ⟨(E.enc (l[0]'(by omega)))[0]'(by rw [ok.len]; exact ok.pos), List.getElem?_eq_getElem _⟩
    have hc := h5 _ _ (h0.trans hu0)
    have hs := spot_none hc
    have hlt := World.block_lt_of_cell? _ _ hc
    simp [Addr.add] at hs hlt
    subst hs
    refine ⟨B, off, cap, h1, hlt, fun i u hu => ?_⟩
    have hi : i < E.sz := by
      have := (List.getElem?_eq_some_iff.1 hu).1
      rw [ok.len] at this
      exact this
    have := h5 _ _ ((ok.get l k i hk hi).trans hu)
    rw [Addr.add_lit, ← Nat.add_assoc] at this
    exact this

theorem info_z (ok : E.Ok) : ∃ i0 z, Tryz.prog.info? E.e = some i0 ∧ i0.zero = some z ∧ i0.size = E.sz ∧ i0.bytes = E.by' ∧ z.cells.size = E.sz := by
  have h := ok.info
  cases hi : Tryz.prog.info? E.e with
  | none => rw [hi] at h; simp at h
  | some i0 =>
    rw [hi] at h
    simp at h
    obtain ⟨⟨z, h1, h2⟩, h3, h4⟩ := h
    exact ⟨i0, z, rfl, h1, h3, h4, h2⟩

/-- append, whatever is appended -/
theorem app (ok : E.Ok) (w : World) (o : Value) (l : List α) (hR : R E w o l) (v : Value) (news : List α) (hv : In E w v news) (hlen : (l.length + news.length) * E.by' ≤ 140737488355328) :
    ∃ base cap w', (Builtin.append_ #[E.t, E.t] E.t #[o, v]).run Tryz.prog w = .ok (.slice base (l.length + news.length) cap) w' ∧ R E w' (.slice base (l.length + news.length) cap) (l ++ news) ∧ Gr w w' o (.slice base (l.length + news.length) cap) := by
  obtain ⟨i0, z, hi0, hz0, hz1, hz2, hz3⟩ := info_z ok
  rcases hv with ⟨rfl, rfl⟩ | ⟨a, c, rfl, hc1, hc2, hc⟩
  · obtain ⟨b, cap, rfl, _⟩ := hR.slice
    exact ⟨b, cap, w, run_append_owned_none (P := Tryz.prog) (w := w) 0 E.t E.t E.e i0 E.sz ok.und hi0 _ l.length (E.cs l) hR, by simpa using hR, Gr.refl _ _⟩
  · have hmul : l.length + news.length ≤ (l.length + news.length) * E.by' := Nat.le_mul_of_pos_right _ ok.bpos
    have hml : l.length + news.length ≤ maxLen := by unfold maxLen; omega
    obtain ⟨v', w', hrun, ho, hg, hnil⟩ := run_append_own (P := Tryz.prog) w 0 E.t E.t E.e i0 z E.sz E.by' ok.und hi0 hz0 hz1 hz2 hz3 ok.pos o l.length (E.cs l) hR a news.length c (E.cs news) (ok.length news) hc (ok.ones news) hml hlen (Nat.zero_le _)
    have hown : ∀ k, v'.ownBlock = some k → o.ownBlock = some k ∨ w.heap.size ≤ k := by
      intro k hk
      rcases hR.2 with ⟨rfl, h0⟩ | ⟨g, cap, cur, rfl, _, hgg, hnc, _, hcs, _⟩
      · by_cases hm : news.length = 0
        · rw [hnil.2 ⟨rfl, hm⟩] at hk
          simp [Value.ownBlock] at hk
        · have hb : news.length ≤ news.length * E.by' := Nat.le_mul_of_pos_right _ ok.bpos
          have hb2 : news.length * E.by' ≤ (l.length + news.length) * E.by' := Nat.mul_le_mul_right _ (by omega)
          have hr := run_append_nil (P := Tryz.prog) w E.t E.t E.e i0 z ok.und hi0 hz0 a news.length c (E.cs news) (by rw [hz1]; exact ok.length news) hc (by omega) (by omega) (by rw [hz2]; omega)
          rw [hrun] at hr
          injection hr with hr _
          subst hr
          simp [Value.ownBlock] at hk
          exact .inr (by omega)
      · by_cases hroom : l.length + news.length ≤ cap
        · have hr := run_append_room (P := Tryz.prog) w E.t E.t E.e i0 ok.und hi0 g l.length cap cur hgg a news.length c (E.cs news) (by rw [hz1]; exact ok.length news) hc (ok.ones news) hroom (by
            rw [hcs, ok.length, hz1, ← Nat.add_mul]
            exact Nat.mul_le_mul_right _ hroom)
          rw [hrun] at hr
          injection hr with hr _
          subst hr
          exact .inl hk
        · have hr := run_append_grow (P := Tryz.prog) w E.t E.t E.e i0 z ok.und hi0 hz0 ⟨g, 0, none⟩ l.length cap (E.cs l) (by rw [hz1]; exact ok.length l) (World.ownsRow.cells hR (g := g) rfl) a news.length c (E.cs news) (by rw [hz1]; exact ok.length news) hc (by omega) (by omega) (growslice_fits (by omega) (by rw [hz2]; exact hlen))
          rw [hrun] at hr
          injection hr with hr _
          subst hr
          simp [Value.ownBlock] at hk
          exact .inr (by omega)
    have hP : R E w' v' (l ++ news) := by
      unfold R
      rw [El.cs_append, List.length_append]
      exact ho
    obtain ⟨base, cap, rfl, _⟩ := hP.slice
    rw [List.length_append] at hrun hP hown
    exact ⟨base, cap, w', hrun, hP, hg.os, hg.tape, hg.output, hg.size, fun k hk hne => hg.block k hk (fun e => hne e.symm), hown⟩

/-- one element, in a block of its own, can be read behind the slice that was built -/
theorem in_one (w : World) (B : Nat) (x : α) (c : Array Value) (t : TypeId) (fz : Nat × Nat) (h : w.heap[B]? = some (.cells c t fz)) (hc : c.toList = E.enc x) : In E w (.slice (some ⟨B, 0, none⟩) 1 1) [x] := by
  refine .inr ⟨_, 1, rfl, Nat.le_refl _, by omega, fun j u hu => ?_⟩
  rw [Addr.add_lit, cell_blk h, Nat.zero_add, ← Array.getElem?_toList, hc]
  simpa [El.cs] using hu

/-- append, as one step of a region that draws, by the equation of its run. -/
theorem step_append_run {P : Program} {ops : Array Oper} {o : Oper} {a : Act} {w : World} {K : Act → World → Prop} {Q : Exit → Act → World → Prop} {R : Prop}
    (hg : o.guard = none) (s x : Operand) (t tn : TypeId) (ho : o.op = .call { callee := .builtin .append, args := #[s, x], argTypes := #[t, tn] })
    {vs vx v' : Value} {w' : World} (hr : (Builtin.append_ #[t, tn] o.type #[vs, vx]).run P w = .ok v' w') (hs : a.eval s = vs) (hx : a.eval x = vx)
    (hK : K (a.put o.dst v') w') : if Region.wanted o (yielded ops a.tmps) = true then Oper.wp P o a w K Q else R := by
  have hw : Region.wanted o (yielded ops a.tmps) = true := by simp [Region.wanted, hg]
  rw [if_pos hw]
  exact Lib.wp_append_run w s x t tn ho vs vx hs hx v' w' hr hK
/-- a call of a Go function, as one step of a region: for a guard -/
theorem step_value {P : Program} {ops : Array Oper} {o : Oper} {a : Act} {w : World} {K : Act → World → Prop} {Q : Exit → Act → World → Prop} {R : Prop}
    (f : FuncId) (xs : Array Operand) (ats : Array TypeId) (_ho : o.op = .call { callee := .value (.func f), args := xs, argTypes := ats })
    (h : if Region.wanted o (yielded ops a.tmps) = true then Oper.wp P o a w K Q else R) : if Region.wanted o (yielded ops a.tmps) = true then Oper.wp P o a w K Q else R := h
end Go.Proofs.YtfmljlflnpmceaaGreatDoor
/- A region's operation taken, in short. -/
namespace Go.Proofs.YtfmljlflnpmceaaGreatDoor
open Go.RowKit
set_option linter.unusedVariables false
set_option linter.unusedSimpArgs false
theorem tkH {P : Program} {ops : Array Oper} {Q : Exit → Act → World → Prop} {md : Region.Mode} {S : World → Prop} {i : Nat} {oi : Oper} {v : Value} {fuel : Nat} {listed : Array Bool} {a : Act} {w : World} (hy : ∀ w, S w → (execOp a.eval oi).run P w = .ok (.value v) w)
    (h : wpAnyH P md ops Q S fuel (listed.setIfInBounds i true) (a.put oi.dst v) w) (hi : ops[i]? = some oi := by rfl)
    (hs : Region.noSelect ops = true := by kernel_rfl) (hf : Region.free md ops listed i = true := by kernel_rfl) (hr : (Region.ready md ops listed).contains i = true := by kernel_rfl)
    (hQ : ∀ c a w, Q (.panic c) (a.put oi.dst v) w → Q (.panic c) a w := by exact fun _ _ _ h => h) (hw : Region.wanted oi (yielded ops a.tmps) = true := by rfl) (hS : S w := by assumption) : wpAnyH P md ops Q S (fuel + 1) listed a w :=
  wpAnyH_take hi hs hf hr hQ (.inl ⟨hw, hy⟩) hS h
theorem lA {α : Type} (l : List α) (i : Nat) (a : α) : l.toArray.setIfInBounds i a = (l.set i a).toArray := List.setIfInBounds_toArray ..
theorem l0 {α : Type} (x : α) (l : List α) (a : α) : (x :: l).set 0 a = a :: l := rfl
theorem lS {α : Type} (x : α) (l : List α) (i : Nat) (a : α) : (x :: l).set (i + 1) a = x :: l.set i a := rfl
end Go.Proofs.YtfmljlflnpmceaaGreatDoor
/- A region's operation taken, in short. -/
namespace Go.Proofs.YtfmljlflnpmceaaGreatDoor
open Go.RowKit
set_option linter.unusedVariables false
set_option linter.unusedSimpArgs false
theorem tkA {P : Program} {ops : Array Oper} {Q : Exit → Act → World → Prop} {md : Region.Mode} {S : World → Prop} {i : Nat} {oi : Oper} {v : Value} {fuel : Nat} {listed : Array Bool} {a : Act} {w : World} 
    (h : wpAnyH P md ops Q S fuel (listed.setIfInBounds i true) (a.put oi.dst v) w) (hi : ops[i]? = some oi := by rfl) (hy : ∀ w, S w → (execOp a.eval oi).run P w = .ok (.value v) w := by (intro w hSw; (try dsimp only at hSw); go_simp; all_goals with_reducible rfl))
    (hs : Region.noSelect ops = true := by kernel_rfl) (hf : Region.free md ops listed i = true := by kernel_rfl) (hr : (Region.ready md ops listed).contains i = true := by kernel_rfl)
    (hQ : ∀ c a w, Q (.panic c) (a.put oi.dst v) w → Q (.panic c) a w := by exact fun _ _ _ h => h) (hw : Region.wanted oi (yielded ops a.tmps) = true := by rfl) (hS : S w := by assumption) : wpAnyH P md ops Q S (fuel + 1) listed a w :=
  wpAnyH_take hi hs hf hr hQ (.inl ⟨hw, hy⟩) hS h
end Go.Proofs.YtfmljlflnpmceaaGreatDoor
/- The tables of Next. -/
namespace Go.Proofs.YtfmljlflnpmceaaGreatDoor
open Go.RowKit
set_option linter.unusedVariables false
set_option linter.unusedSimpArgs false

/-- what is sent, and what is got: seven states, eight kinds -/
def sentT : List (Int × Int × Int) := [(3, 0, 0), (4, 0, 0), (0, 4, 0), (0, 4, 0), (1, 0, 0), (0, 4, 0), (0, 4, 0), (0, 0, 0), (5, 0, 0), (6, 0, 0), (1, 4, 0), (1, 4, 0), (1, 4, 0), (6, 0, 0), (1, 4, 0), (1, 0, 0), (2, 4, 0), (2, 4, 0), (2, 4, 0), (2, 4, 0), (2, 4, 0), (6, 0, 0), (2, 0, 0), (2, 0, 0), (3, 0, 0), (4, 0, 0), (3, 0, 0), (4, 0, 0), (3, 4, 0), (6, 0, 0), (3, 0, 0), (3, 0, 0), (4, 4, 0), (4, 4, 0), (4, 4, 0), (4, 4, 0), (4, 4, 0), (6, 0, 0), (4, 0, 0), (4, 0, 0), (5, 0, 0), (6, 0, 0), (5, 0, 0), (6, 0, 0), (5, 4, 0), (6, 0, 0), (5, 0, 0), (5, 0, 0), (6, 4, 0), (6, 4, 0), (6, 4, 0), (6, 4, 0), (6, 4, 0), (6, 4, 0), (6, 4, 0), (6, 0, 0)]
def gotT : List (Int × Int × Int) := [(3, 0, 0), (5, 0, 0), (0, 3, 1), (0, 3, 1), (2, 0, 0), (0, 3, 1), (0, 3, 1), (0, 0, 0), (1, 3, 1), (1, 3, 1), (1, 3, 1), (1, 3, 1), (1, 3, 1), (6, 0, 0), (1, 0, 0), (1, 0, 0), (4, 0, 0), (6, 0, 0), (2, 3, 1), (2, 3, 1), (2, 3, 1), (6, 0, 0), (2, 3, 1), (2, 0, 0), (3, 0, 0), (5, 0, 0), (3, 0, 0), (5, 0, 0), (3, 3, 1), (6, 0, 0), (3, 0, 0), (3, 0, 0), (4, 0, 0), (6, 0, 0), (4, 0, 0), (6, 0, 0), (4, 3, 1), (6, 0, 0), (4, 0, 0), (4, 0, 0), (5, 2, 5), (5, 2, 5), (5, 2, 5), (5, 2, 5), (5, 3, 1), (6, 0, 0), (5, 0, 0), (5, 0, 0), (6, 3, 5), (6, 3, 5), (6, 3, 5), (6, 3, 5), (6, 3, 1), (6, 1, 0), (6, 1, 0), (6, 1, 0)]
def tb (g : Bool) (s k : Nat) : Int × Int × Int := (if g then gotT else sentT).getD (8 * s + k - 1) (0, 4, 0)
/-- the state behind an event, its verdict, its code -/
def nx (s : Int) (g : Bool) (k : Int) : Int × Int × Int := if 0 ≤ s ∧ s ≤ 6 ∧ 1 ≤ k ∧ k ≤ 8 then tb g s.toNat k.toNat else (s, 4, 0)
theorem nx_out {s : Int} {g : Bool} {k : Int} (h : ¬ (0 ≤ s ∧ s ≤ 6 ∧ 1 ≤ k ∧ k ≤ 8)) : nx s g k = (s, 4, 0) := if_neg h
theorem kinds {k : Int} (h : 1 ≤ k ∧ k ≤ 8) : k = 1 ∨ k = 2 ∨ k = 3 ∨ k = 4 ∨ k = 5 ∨ k = 6 ∨ k = 7 ∨ k = 8 := by omega
theorem states {s : Int} (h : 0 ≤ s ∧ s ≤ 6) : s = 0 ∨ s = 1 ∨ s = 2 ∨ s = 3 ∨ s = 4 ∨ s = 5 ∨ s = 6 := by omega

end Go.Proofs.YtfmljlflnpmceaaGreatDoor
/- The table of streams, on lists. -/
namespace Go.Proofs.YtfmljlflnpmceaaGreatDoor
open Go.RowKit
set_option linter.unusedVariables false
set_option linter.unusedSimpArgs false

/-- a map: its entries, rising by key -/
abbrev Mp := List (Int × Int)
def look (L : Mp) (k : Int) : Option Int := (L.find? (fun p => p.1 == k)).map (·.2)
def ins (k v : Int) : Mp → Mp
  | [] => [(k, v)]
  | y :: r => if k < y.1 then (k, v) :: y :: r else y :: ins k v r
def dele (L : Mp) (k : Int) : Mp := L.filter fun p => !(p.1 == k)
def putm (L : Mp) (k v : Int) : Mp := ins k v (dele L k)
def Srt (L : Mp) : Prop := L.Pairwise fun p q => p.1 < q.1

theorem mem_ins (k v : Int) (p : Int × Int) : ∀ L : Mp, p ∈ ins k v L ↔ p = (k, v) ∨ p ∈ L
  | [] => by simp [ins]
  | y :: r => by
    unfold ins
    split
    · simp
    · simp only [List.mem_cons, mem_ins k v p r]
      constructor
      · rintro (h | h | h)
        · exact .inr (.inl h)
        · exact .inl h
        · exact .inr (.inr h)
      · rintro (h | h | h)
        · exact .inr (.inl h)
        · exact .inl h
        · exact .inr (.inr h)
theorem mem_dele (L : Mp) (k : Int) (p : Int × Int) : p ∈ dele L k ↔ p ∈ L ∧ p.1 ≠ k := by
  simp [dele]
theorem mem_putm (L : Mp) (k v : Int) (p : Int × Int) : p ∈ putm L k v ↔ p = (k, v) ∨ (p ∈ L ∧ p.1 ≠ k) := by
  rw [putm, mem_ins, mem_dele]
theorem Srt.ins {k v : Int} : ∀ {L : Mp}, Srt L → (∀ p ∈ L, p.1 ≠ k) → Srt (ins k v L)
  | [], _, _ => by simp [Srt, YtfmljlflnpmceaaGreatDoor.ins]
  | y :: r, h, hn => by
    have h' := List.pairwise_cons.1 h
    unfold YtfmljlflnpmceaaGreatDoor.ins
    split
    · rename_i hk
      refine List.pairwise_cons.2 ⟨fun q hq => ?_, h⟩
      rcases List.mem_cons.1 hq with rfl | hq
      · exact hk
      · have := h'.1 q hq
        show k < q.1
        omega
    · rename_i hk
      refine List.pairwise_cons.2 ⟨fun q hq => ?_, Srt.ins h'.2 fun p hp => hn p (List.mem_cons_of_mem _ hp)⟩
      rcases (mem_ins k v q r).1 hq with rfl | hq
      · have := hn y (List.mem_cons_self)
        show y.1 < k
        omega
      · exact h'.1 q hq
theorem Srt.dele {L : Mp} (h : Srt L) (k : Int) : Srt (dele L k) := h.sublist List.filter_sublist
theorem Srt.putm {L : Mp} (h : Srt L) (k v : Int) : Srt (putm L k v) := (h.dele k).ins fun p hp => ((mem_dele L k p).1 hp).2
theorem Srt.one {L : Mp} (h : Srt L) {p q : Int × Int} (hp : p ∈ L) (hq : q ∈ L) (e : p.1 = q.1) : p = q := by
  induction L with
  | nil => cases hp
  | cons a r ih =>
    have h' := List.pairwise_cons.1 h
    rcases List.mem_cons.1 hp with rfl | hp'
    · rcases List.mem_cons.1 hq with rfl | hq'
      · rfl
      · have := h'.1 q hq'; omega
    · rcases List.mem_cons.1 hq with rfl | hq'
      · have := h'.1 p hp'; omega
      · exact ih h'.2 hp' hq'
theorem look_mem {L : Mp} {k v : Int} (h : look L k = some v) : (k, v) ∈ L := by
  unfold look at h
  cases hf : L.find? (fun p => p.1 == k) with
  | none => rw [hf] at h; cases h
  | some p =>
    rw [hf] at h
    have h1 := List.find?_some hf
    have h2 := List.mem_of_find?_eq_some hf
    simp at h h1
    subst h h1
    exact h2
theorem look_none {L : Mp} {k : Int} (h : look L k = none) : ∀ p ∈ L, p.1 ≠ k := by
  unfold look at h
  cases hf : L.find? (fun p => p.1 == k) with
  | none =>
    intro p hp
    have := List.find?_eq_none.1 hf p hp
    simpa using this
  | some p => rw [hf] at h; cases h
theorem look_iff {L : Mp} (hs : Srt L) (k v : Int) : look L k = some v ↔ (k, v) ∈ L := by
  refine ⟨look_mem, fun h => ?_⟩
  cases hl : look L k with
  | none => exact absurd rfl (look_none hl _ h)
  | some u =>
    have := hs.one (look_mem hl) h rfl
    simp at this
    rw [this]
theorem look_no {L : Mp} {k : Int} (h : ∀ p ∈ L, p.1 ≠ k) : look L k = none := by
  cases hl : look L k with
  | none => rfl
  | some u => exact absurd rfl (h _ (look_mem hl))
theorem look_putm {L : Mp} (hs : Srt L) (k v j : Int) : look (putm L k v) j = if j = k then some v else look L j := by
  split
  · rename_i h
    subst h
    exact (look_iff (hs.putm _ _) _ _).2 ((mem_putm _ _ _ _).2 (.inl rfl))
  · rename_i h
    cases hl : look L j with
    | none =>
      refine look_no fun p hp => ?_
      rcases (mem_putm _ _ _ _).1 hp with rfl | hp
      · exact fun e => h e.symm
      · exact look_none hl p hp.1
    | some u => exact (look_iff (hs.putm _ _) _ _).2 ((mem_putm _ _ _ _).2 (.inr ⟨look_mem hl, h⟩))
theorem look_dele {L : Mp} (hs : Srt L) (k j : Int) : look (dele L k) j = if j = k then none else look L j := by
  split
  · rename_i h
    subst h
    exact look_no fun p hp => ((mem_dele _ _ _).1 hp).2
  · rename_i h
    cases hl : look L j with
    | none => exact look_no fun p hp => look_none hl p ((mem_dele _ _ _).1 hp).1
    | some u => exact (look_iff (hs.dele _) _ _).2 ((mem_dele _ _ _).2 ⟨look_mem hl, h⟩)

theorem rise_keys {L : Mp} (hs : Srt L) (c : Int × Int → Bool) : ((L.filter c).map (·.1)).Pairwise (· < ·) := List.pairwise_map.2 (hs.sublist List.filter_sublist)
theorem mem_keys {L : Mp} (hs : Srt L) (c : Int × Int → Bool) (x : Int) : x ∈ (L.filter c).map (·.1) ↔ ∃ v, look L x = some v ∧ c (x, v) = true := by
  simp only [List.mem_map, List.mem_filter]
  constructor
  · rintro ⟨⟨k, v⟩, ⟨h1, h2⟩, rfl⟩
    exact ⟨v, (look_iff hs _ _).2 h1, h2⟩
  · rintro ⟨v, h1, h2⟩
    exact ⟨(x, v), ⟨look_mem h1, h2⟩, rfl⟩
/-- does a state count? -/
def ct (s : Int) : Bool := s == 3 || s == 4 || s == 5
structure Tb where
  cl : Bool
  lo : Int
  lt : Int
  L : Mp
def isStr (id : Int) : Bool := decide (1 ≤ id) && decide (id ≤ 2147483647)
def odd (id : Int) : Bool := !(id.tmod 2 == 0)
def Tb.ours (T : Tb) (id : Int) : Bool := odd id == T.cl
def Tb.last (T : Tb) (l : Bool) : Int := if l then T.lo else T.lt
def Tb.st (T : Tb) (id : Int) : Int := if isStr id then (if T.last (T.ours id) < id then 0 else (look T.L id).getD 6) else 6
def Tb.cut (T : Tb) (id : Int) : Bool := (look T.L id).getD 0 == 6
def isK (k : Int) : Bool := decide (1 ≤ k) && decide (k ≤ 8)
def isB (k : Int) : Bool := k == 1 || k == 2 || k == 5
def Tb.may (T : Tb) (id : Int) (g : Bool) (k : Int) : Bool := (odd id == (T.cl != g)) && (odd id != (k == 5))
def Tb.mv (T : Tb) (id n : Int) (g : Bool) (k : Int) : Tb :=
  ⟨T.cl, if T.ours id then max T.lo id else T.lo, if T.ours id then T.lt else max T.lt id, if (n == 6 && !(k == 6 && !g)) = true then dele T.L id else putm T.L id n⟩
def mis (g : Bool) : Int × Int := if g then (3, 1) else (4, 0)
/-- an event: what becomes of the table, and the verdict -/
def Tb.doo (T : Tb) (id : Int) (g : Bool) (k : Int) : Tb × Int × Int :=
  if isK k = false then (T, 4, 0)
  else if isStr id = false then (T, mis g)
  else if (T.st id == 0 && isB k && !T.may id g k) = true then (T, mis g)
  else if (T.cut id && g && !(k == 5)) = true then (T, 1, 0)
  else (if ((nx (T.st id) g k).2.1 == 0 && !((nx (T.st id) g k).1 == T.st id)) = true then T.mv id (nx (T.st id) g k).1 g k else T, (nx (T.st id) g k).2)
def Tb.count (T : Tb) (l : Bool) : Nat := (T.L.filter fun p => (T.ours p.1 == l) && ct p.2).length
def Tb.live (T : Tb) : List Int := (T.L.filter fun p => !(p.2 == 6)).map (·.1)
def Tb.new (c : Bool) : Tb := ⟨c, 0, 0, []⟩

structure Tb.Ok (T : Tb) : Prop where
  srt : Srt T.L
  key : ∀ p ∈ T.L, 1 ≤ p.1 ∧ p.1 ≤ T.last (T.ours p.1)
  val : ∀ p ∈ T.L, 1 ≤ p.2 ∧ p.2 ≤ 6
  lo : 0 ≤ T.lo ∧ T.lo ≤ 2147483647
  lt : 0 ≤ T.lt ∧ T.lt ≤ 2147483647
  plo : T.lo = 0 ∨ T.ours T.lo = true
  plt : T.lt = 0 ∨ T.ours T.lt = false
theorem Tb.new_ok (c : Bool) : (Tb.new c).Ok := ⟨List.Pairwise.nil, by simp [Tb.new], by simp [Tb.new], by simp [Tb.new], by simp [Tb.new], .inl rfl, .inl rfl⟩
theorem isStr_iff {id : Int} : isStr id = true ↔ 1 ≤ id ∧ id ≤ 2147483647 := by simp [isStr]
theorem isK_iff {k : Int} : isK k = true ↔ 1 ≤ k ∧ k ≤ 8 := by simp [isK]
theorem Tb.Ok.bound {T : Tb} (h : T.Ok) (l : Bool) : 0 ≤ T.last l ∧ T.last l ≤ 2147483647 := by
  cases l
  · exact h.lt
  · exact h.lo
theorem Tb.Ok.look_range {T : Tb} (h : T.Ok) {id v : Int} (hl : look T.L id = some v) : 1 ≤ id ∧ id ≤ T.last (T.ours id) ∧ id ≤ 2147483647 ∧ 1 ≤ v ∧ v ≤ 6 := by
  have hm := look_mem hl
  have h1 := h.key _ hm
  have h2 := h.val _ hm
  have h3 := (h.bound (T.ours id)).2
  exact ⟨h1.1, h1.2, Int.le_trans h1.2 h3, h2.1, h2.2⟩
theorem Tb.Ok.st_range {T : Tb} (h : T.Ok) (id : Int) : 0 ≤ T.st id ∧ T.st id ≤ 6 := by
  unfold Tb.st
  split
  · split
    · omega
    · cases hl : look T.L id with
      | none => simp
      | some v =>
        have := h.look_range hl
        simp
        omega
  · omega
theorem length_le_range : ∀ (n : Nat) (l : List Int) (a : Int), l.Pairwise (· < ·) → (∀ x ∈ l, a ≤ x ∧ x < a + n) → l.length ≤ n
  | _, [], _, _, _ => Nat.zero_le _
  | 0, x :: r, a, _, h => by have := h x List.mem_cons_self; omega
  | n + 1, x :: r, a, hp, h => by
    have h' := List.pairwise_cons.1 hp
    have := length_le_range n r (a + 1) h'.2 fun y hy => by
      have h1 := h'.1 y hy
      have h2 := h x List.mem_cons_self
      have h3 := h y (List.mem_cons_of_mem _ hy)
      omega
    simp
    omega
theorem Tb.Ok.length {T : Tb} (h : T.Ok) : T.L.length ≤ 2147483647 := by
  have h1 : ((T.L.map (·.1))).Pairwise (· < ·) := List.pairwise_map.2 h.srt
  have := length_le_range 2147483647 (T.L.map (·.1)) 1 h1 fun x hx => by
    obtain ⟨p, hp, rfl⟩ := List.mem_map.1 hx
    have h2 := h.key p hp
    have h3 := (h.bound (T.ours p.1)).2
    omega
  simpa using this
theorem Tb.mv_last (T : Tb) (id n : Int) (g : Bool) (k : Int) (l : Bool) : (T.mv id n g k).last l = if (T.ours id == l) = true then max (T.last l) id else T.last l := by
  unfold Tb.mv Tb.last
  cases T.ours id <;> cases l <;> simp
theorem Tb.mv_ok {T : Tb} (h : T.Ok) {id n : Int} (g : Bool) (k : Int) (hid : 1 ≤ id ∧ id ≤ 2147483647) (hn : 1 ≤ n ∧ n ≤ 6) : (T.mv id n g k).Ok := by
  have ho : ∀ x, (T.mv id n g k).ours x = T.ours x := fun _ => rfl
  refine ⟨?_, ?_, ?_, ?_, ?_, ?_, ?_⟩
  · show Srt (if _ then _ else _)
    split
    · exact h.srt.dele _
    · exact h.srt.putm _ _
  · have hk : ∀ p, p ∈ (T.mv id n g k).L → p.1 = id ∨ p ∈ T.L := by
      intro p hp
      replace hp : p ∈ (if (n == 6 && !(k == 6 && !g)) = true then dele T.L id else putm T.L id n) := hp
      split at hp
      · exact .inr ((mem_dele _ _ _).1 hp).1
      · rcases (mem_putm _ _ _ _).1 hp with rfl | hp
        · exact .inl rfl
        · exact .inr hp.1
    intro p hp
    rw [ho, Tb.mv_last]
    rcases hk p hp with e | hp
    · rw [e]
      simp
      omega
    · have := h.key p hp
      split <;> omega
  · intro p hp
    replace hp : p ∈ (if (n == 6 && !(k == 6 && !g)) = true then dele T.L id else putm T.L id n) := hp
    split at hp
    · exact h.val p ((mem_dele _ _ _).1 hp).1
    · rcases (mem_putm _ _ _ _).1 hp with rfl | hp
      · exact hn
      · exact h.val p hp.1
  · have := h.lo
    have e : (T.mv id n g k).lo = if T.ours id = true then max T.lo id else T.lo := rfl
    rw [e]
    split <;> omega
  · have := h.lt
    have e : (T.mv id n g k).lt = if T.ours id = true then T.lt else max T.lt id := rfl
    rw [e]
    split <;> omega
  · rw [ho]
    by_cases h1 : T.ours id = true
    · right
      show T.ours (if T.ours id = true then max T.lo id else T.lo) = true
      rw [if_pos h1]
      by_cases h2 : T.lo ≤ id
      · rw [Int.max_eq_right h2]; exact h1
      · rw [Int.max_eq_left (by omega)]
        rcases h.plo with e | e
        · omega
        · exact e
    · show (if T.ours id = true then _ else T.lo) = 0 ∨ T.ours (if T.ours id = true then _ else T.lo) = true
      rw [if_neg h1]
      exact h.plo
  · rw [ho]
    by_cases h1 : T.ours id = true
    · show (if T.ours id = true then T.lt else _) = 0 ∨ T.ours (if T.ours id = true then T.lt else _) = false
      rw [if_pos h1]
      exact h.plt
    · right
      show T.ours (if T.ours id = true then T.lt else max T.lt id) = false
      rw [if_neg h1]
      by_cases h2 : T.lt ≤ id
      · rw [Int.max_eq_right h2]; simpa using h1
      · rw [Int.max_eq_left (by omega)]
        rcases h.plt with e | e
        · omega
        · exact e

/-- what holds of all cells of both tables -/
theorem cells_all (P : Int → Bool → Int → Int × Int × Int → Prop) (h : ∀ g : Bool, ∀ s : Fin 7, ∀ k : Fin 8, P (s.val : Int) g ((k.val : Int) + 1) (tb g s.val (k.val + 1))) (s : Int) (g : Bool) (k : Int) (hs : 0 ≤ s ∧ s ≤ 6) (hk : 1 ≤ k ∧ k ≤ 8) : P s g k (nx s g k) := by
  obtain ⟨h1, h2⟩ := hs
  obtain ⟨h3, h4⟩ := hk
  have := h g ⟨s.toNat, by omega⟩ ⟨k.toNat - 1, by omega⟩
  simp only at this
  have e1 : (s.toNat : Int) = s := by omega
  have e2 : ((k.toNat - 1 : Nat) : Int) + 1 = k := by omega
  have e3 : k.toNat - 1 + 1 = k.toNat := by omega
  rw [e1, e2, e3] at this
  unfold nx
  rw [if_pos ⟨h1, h2, h3, h4⟩]
  exact this
/-- where a Fine event leads somewhere else it leads to no Idle -/
theorem nx_new {s : Int} {g : Bool} {k : Int} (hs : 0 ≤ s ∧ s ≤ 6) (hk : 1 ≤ k ∧ k ≤ 8) (h : (nx s g k).1 ≠ s) : 1 ≤ (nx s g k).1 ∧ (nx s g k).1 ≤ 6 ∧ s ≠ 6 ∧ (s = 0 → isB k = true) ∧ (nx s g k).2 = (0, 0) :=
  cells_all (fun s g k r => r.1 ≠ s → 1 ≤ r.1 ∧ r.1 ≤ 6 ∧ s ≠ 6 ∧ (s = 0 → isB k = true) ∧ r.2 = (0, 0)) (by decide) s g k hs hk h
/-- an event either leaves the table as it is, or a stream moves -/
theorem Tb.doo_cases (T : Tb) (h : T.Ok) (id : Int) (g : Bool) (k : Int) :
    (T.doo id g k).1 = T ∨ (∃ n, 1 ≤ n ∧ n ≤ 6 ∧ n ≠ T.st id ∧ T.st id ≠ 6 ∧ nx (T.st id) g k = (n, 0, 0) ∧ isStr id = true ∧ isK k = true ∧ (T.st id = 0 → isB k = true ∧ T.may id g k = true) ∧ T.doo id g k = (T.mv id n g k, 0, 0)) := by
  cases h1 : isK k
  · left; unfold Tb.doo; rw [if_pos h1]
  cases h2 : isStr id
  · left; unfold Tb.doo; rw [if_neg (by rw [h1]; decide), if_pos h2]
  cases h3 : (T.st id == 0 && isB k && !T.may id g k)
  · cases h4 : (T.cut id && g && !(k == 5))
    · cases h5 : ((nx (T.st id) g k).2.1 == 0 && !((nx (T.st id) g k).1 == T.st id))
      · left
        unfold Tb.doo
        rw [if_neg (by rw [h1]; decide), if_neg (by rw [h2]; decide), if_neg (by rw [h3]; decide), if_neg (by rw [h4]; decide), if_neg (by rw [h5]; decide)]
      · right
        have h5' := h5
        simp at h5'
        obtain ⟨a1, a2, a3, a4, a5⟩ := nx_new (g := g) (h.st_range id) (isK_iff.1 h1) h5'.2
        refine ⟨(nx (T.st id) g k).1, a1, a2, h5'.2, a3, by rw [← a5], rfl, rfl, fun e => ⟨a4 e, ?_⟩, ?_⟩
        · rw [e, a4 e] at h3
          simpa using h3
        · unfold Tb.doo
          rw [if_neg (by rw [h1]; decide), if_neg (by rw [h2]; decide), if_neg (by rw [h3]; decide), if_neg (by rw [h4]; decide), if_pos h5, a5]
    · left
      unfold Tb.doo
      rw [if_neg (by rw [h1]; decide), if_neg (by rw [h2]; decide), if_neg (by rw [h3]; decide), if_pos h4]
  · left
    unfold Tb.doo
    rw [if_neg (by rw [h1]; decide), if_neg (by rw [h2]; decide), if_pos h3]
end Go.Proofs.YtfmljlflnpmceaaGreatDoor
/- A table in memory; the small functions. -/
namespace Go.Proofs.YtfmljlflnpmceaaGreatDoor
open Go.RowKit Go.Maps
set_option linter.unusedVariables false
set_option linter.unusedSimpArgs false

def mD (L : Mp) : DataW Unit := .map (L.map fun p => (.int .i64 p.1, .lit (.int .i64 p.2)))
theorem same_int (a b : Int) : (Lit.int .i64 a).sameKey (.int .i64 b) = (a == b) := by
  simp only [Lit.sameKey, true_and]
  by_cases h : a = b <;> simp [h]
theorem filter_mD (L : Mp) (k : Int) : ((L.map fun p => ((Lit.int .i64 p.1, (DataW.lit (.int .i64 p.2) : DataW Unit)))).filter fun p => !p.1.sameKey (.int .i64 k)) = (dele L k).map fun p => (.int .i64 p.1, .lit (.int .i64 p.2)) := by
  unfold dele
  rw [List.filter_map]
  congr 1
  exact List.filter_congr fun p _ => by simp [same_int]
theorem insert_mD (k v : Int) : ∀ L : Mp, DataW.insert (.int .i64 k, (.lit (.int .i64 v) : DataW Unit)) (L.map fun p => (.int .i64 p.1, .lit (.int .i64 p.2))) = (ins k v L).map fun p => (.int .i64 p.1, .lit (.int .i64 p.2))
  | [] => rfl
  | y :: r => by
    simp only [List.map_cons, DataW.insert, ins, Lit.before, decide_eq_true_eq]
    split
    · rfl
    · simp only [List.map_cons]
      rw [insert_mD k v r]
theorem put_mD (L : Mp) (k v : Int) : (mD L).put (.int .i64 k) (.lit (.int .i64 v)) = mD (putm L k v) := by
  unfold mD putm DataW.put
  simp only
  rw [filter_mD, insert_mD]
theorem del_mD (L : Mp) (k : Int) : (mD L).del (.int .i64 k) = mD (dele L k) := by
  unfold mD DataW.del
  simp only
  rw [filter_mD]
theorem at_mD (L : Mp) (k : Int) (z : DataW Unit) : (mD L).atKey (.int .i64 k) z = match look L k with | some v => .lit (.int .i64 v) | none => z := by
  unfold mD DataW.atKey look
  simp only
  rw [List.find?_map]
  have : ((fun p : Lit × DataW Unit => p.1.sameKey (.int .i64 k)) ∘ fun p : Int × Int => (Lit.int .i64 p.1, (DataW.lit (.int .i64 p.2) : DataW Unit))) = fun p => p.1 == k := by
    funext p
    simp [same_int]
  rw [this]
  cases L.find? (fun p => p.1 == k) <;> rfl
theorem has_mD (L : Mp) (k : Int) : Maps.has (mD L) (.int .i64 k) = (look L k).isSome := by
  cases h : look L k with
  | none =>
    refine Maps.has_false_of_atKey fun z => ?_
    rw [at_mD, h]
  | some v =>
    refine Maps.has_true_of_atKey (y := .lit (.int .i64 v)) fun z => ?_
    rw [at_mD, h]
theorem size_mD (L : Mp) : Maps.size (mD L) = L.length := by simp [mD, Maps.size]

theorem law2 : Keyed Tryz.prog 2 := int_keyed Tryz.underlying2
theorem zero3 (w : World) : (zeroValue 3).run Tryz.prog w = .ok (.int .i64 0) w := by kernel_rfl

/-- a table in memory: its block, and its map's -/
structure TI (w : World) (p b : Nat) (T : Tb) : Prop where
  blk : w.heap[p]? = some (.cells #[.bool T.cl, .int .i64 T.lo, .int .i64 T.lt, .map (some b)] 85)
  mp : w.ownsMap Tryz.prog 2 (plainElem Tryz.prog 3) b T.L.length (mD T.L)
  ok : T.Ok
theorem TI.lt {w : World} {p b : Nat} {T : Tb} (h : TI w p b T) : p < w.heap.size := heap_lt h.blk
theorem TI.mlt {w : World} {p b : Nat} {T : Tb} (h : TI w p b T) : b < w.heap.size := h.mp.lt
theorem TI.ne {w : World} {p b : Nat} {T : Tb} (h : TI w p b T) : p ≠ b := by
  intro e
  obtain ⟨es, clock, hb, _⟩ := h.mp
  rw [← e, h.blk] at hb
  cases hb
theorem TI.stays {w w' : World} {p b : Nat} {T : Tb} (h : TI w p b T) (hp : w'.heap[p]? = w.heap[p]?) (hb : w'.heap[b]? = w.heap[b]?) : TI w' p b T := by
  refine ⟨hp.trans h.blk, ?_, h.ok⟩
  obtain ⟨es, clock, h1, h2⟩ := h.mp
  exact ⟨es, clock, hb.trans h1, h2⟩
theorem TI.below {w w' : World} {p b : Nat} {T : Tb} (h : TI w p b T) (hB : Below w.heap.size w w') : TI w' p b T := h.stays (hB.block _ h.lt) (hB.block _ h.mlt)
theorem TI.al {w : World} {p b : Nat} {T : Tb} (h : TI w p b T) (o : Obj) : TI (w.alloc o) p b T := h.below (bel1 w o)
theorem TI.cells {w : World} {p b : Nat} {T : Tb} (h : TI w p b T) : w.cell? ⟨p, 0, none⟩ = some (.bool T.cl) ∧ w.cell? ⟨p, 1, none⟩ = some (.int .i64 T.lo) ∧ w.cell? ⟨p, 2, none⟩ = some (.int .i64 T.lt) ∧ w.cell? ⟨p, 3, none⟩ = some (.map (some b)) ∧ p < w.heap.size :=
  ⟨cell_blk h.blk 0, cell_blk h.blk 1, cell_blk h.blk 2, cell_blk h.blk 3, h.lt⟩

set_option maxRecDepth 100000 in
set_option maxHeartbeats 1000000 in
theorem isOdd_any (id : Int) (w : World) : Calls Tryz.prog 109 #[.int .i64 id] w fun e w' => e = .returned (.bool (odd id)) ∧ w' = w := by
  unfold odd
  go_enter Tryz.func109, Tryz.ntmps109
  go_wp2
  go_ret
  exact ⟨rfl, rfl⟩
set_option maxRecDepth 100000 in
set_option maxHeartbeats 1000000 in
theorem isStream_any (id : Int) (w : World) : Calls Tryz.prog 72 #[.int .i64 id] w fun e w' => e = .returned (.bool (isStr id)) ∧ w' = w := by
  unfold isStr
  by_cases h1 : 1 ≤ id
  · by_cases h2 : id ≤ 2147483647
    · rw [decide_eq_true h1, decide_eq_true h2]
      have e1 : decide (1 ≤ id) = true := decide_eq_true h1
      have e2 : decide (id ≤ 2147483647) = true := decide_eq_true h2
      go_enter Tryz.func72, Tryz.ntmps72
      go_wp2
      go_ret
      exact ⟨rfl, rfl⟩
    · rw [decide_eq_true h1, decide_eq_false h2]
      have e1 : decide (1 ≤ id) = true := decide_eq_true h1
      have e2 : decide (id ≤ 2147483647) = false := decide_eq_false h2
      go_enter Tryz.func72, Tryz.ntmps72
      go_wp2
      go_ret
      exact ⟨rfl, rfl⟩
  · rw [decide_eq_false h1]
    have e1 : decide (1 ≤ id) = false := decide_eq_false h1
    go_enter Tryz.func72, Tryz.ntmps72
    go_wp2
    go_ret
    exact ⟨rfl, rfl⟩
set_option maxRecDepth 100000 in
set_option maxHeartbeats 1000000 in
theorem isKind_any (k : Int) (w : World) : Calls Tryz.prog 83 #[.int .i64 k] w fun e w' => e = .returned (.bool (isK k)) ∧ w' = w := by
  unfold isK
  by_cases h1 : 1 ≤ k
  · by_cases h2 : k ≤ 8
    · rw [decide_eq_true h1, decide_eq_true h2]
      have e1 : decide (1 ≤ k) = true := decide_eq_true h1
      have e2 : decide (k ≤ 8) = true := decide_eq_true h2
      go_enter Tryz.func83, Tryz.ntmps83
      go_wp2
      go_ret
      exact ⟨rfl, rfl⟩
    · rw [decide_eq_true h1, decide_eq_false h2]
      have e1 : decide (1 ≤ k) = true := decide_eq_true h1
      have e2 : decide (k ≤ 8) = false := decide_eq_false h2
      go_enter Tryz.func83, Tryz.ntmps83
      go_wp2
      go_ret
      exact ⟨rfl, rfl⟩
  · rw [decide_eq_false h1]
    have e1 : decide (1 ≤ k) = false := decide_eq_false h1
    go_enter Tryz.func83, Tryz.ntmps83
    go_wp2
    go_ret
    exact ⟨rfl, rfl⟩
set_option maxRecDepth 100000 in
set_option maxHeartbeats 1000000 in
theorem isBirth_any (k : Int) (w : World) : Calls Tryz.prog 85 #[.int .i64 k] w fun e w' => e = .returned (.bool (isB k)) ∧ w' = w := by
  unfold isB
  cases e1 : (k == 1)
  · cases e2 : (k == 2)
    · go_enter Tryz.func85, Tryz.ntmps85
      go_wp2
      go_ret
      exact ⟨rfl, rfl⟩
    · go_enter Tryz.func85, Tryz.ntmps85
      go_wp2
      go_ret
      exact ⟨rfl, rfl⟩
  · go_enter Tryz.func85, Tryz.ntmps85
    go_wp2
    go_ret
    exact ⟨rfl, rfl⟩
set_option maxRecDepth 100000 in
set_option maxHeartbeats 1000000 in
theorem last_any (w : World) (p b : Nat) (T : Tb) (l : Bool) (h : TI w p b T) : Calls Tryz.prog 73 #[.pointer (some ⟨p, 0, none⟩), .bool l] w fun e w' => e = .returned (.int .i64 (T.last l)) ∧ w' = w := by
  obtain ⟨c0, c1, c2, c3, hp⟩ := h.cells
  clear h
  cases l
  · go_enter Tryz.func73, Tryz.ntmps73
    go_wp2
    go_ret
    exact ⟨rfl, rfl⟩
  · go_enter Tryz.func73, Tryz.ntmps73
    go_wp2
    go_ret
    exact ⟨rfl, rfl⟩
set_option maxRecDepth 100000 in
set_option maxHeartbeats 1000000 in
theorem isOurs_any (w : World) (p b : Nat) (T : Tb) (id : Int) (h : TI w p b T) : Calls Tryz.prog 74 #[.pointer (some ⟨p, 0, none⟩), .int .i64 id] w fun e w' => e = .returned (.bool (T.ours id)) ∧ Below w.heap.size w w' := by
  obtain ⟨c0, c1, c2, c3, hp⟩ := h.cells
  clear h
  unfold Tb.ours
  go_enter Tryz.func74, Tryz.ntmps74
  go_wp2
  go_quiet (first | (go_at_call 109; refine Calls.quiet_of_same (isOdd_any id _)))
  go_wp2
  go_ret
  exact ⟨rfl, rfl, rfl, rfl, Nat.le_refl _, fun _ _ => rfl⟩
end Go.Proofs.YtfmljlflnpmceaaGreatDoor
/- State, Cut, Next, mayBear, misplaced, New. -/
namespace Go.Proofs.YtfmljlflnpmceaaGreatDoor
open Go.RowKit Go.Maps
set_option linter.unusedVariables false
set_option linter.unusedSimpArgs false

/-- a number of sixty-four bits -/
def I64 (x : Int) : Prop := -9223372036854775808 ≤ x ∧ x ≤ 9223372036854775807
theorem TI.find {w : World} {p b : Nat} {T : Tb} (h : TI w p b T) {id : Int} (hid : I64 id) : (Instr.lookup 83 (.map (some b)) (.int .i64 id) false).run Tryz.prog w = .ok (.int .i64 ((look T.L id).getD 0)) w := by
  obtain ⟨c, h1, h2, _⟩ := h.mp.lookup_int law2 Tryz.underlying83 Tryz.underlying3 (zero3 w) (keyOf_int_mk Tryz.underlying2 (WalkArith.wf_i64 hid))
  rw [h1]
  rw [at_mD] at h2
  cases hl : look T.L id with
  | none => rw [hl] at h2; simp at h2; rw [← h2]; rfl
  | some v => rw [hl] at h2; simp at h2; rw [← h2]; rfl
theorem TI.find2 {w : World} {p b : Nat} {T : Tb} (h : TI w p b T) {id : Int} (hid : I64 id) : (Instr.lookup 83 (.map (some b)) (.int .i64 id) true).run Tryz.prog w = .ok (.tuple #[.int .i64 ((look T.L id).getD 0), .bool (look T.L id).isSome]) w := by
  obtain ⟨v, ps, h1, h2⟩ := h.mp.look_ok law2 Tryz.underlying83 (zero3 w) (plainElem_int (H := Unit) Tryz.underlying3 (q := .i64) (a := 0) (by decide)) (keyOf_int_mk Tryz.underlying2 (WalkArith.wf_i64 hid))
  rw [h1, has_mD]
  obtain ⟨c, rfl, hc, hwc⟩ := plainElem_int_inv Tryz.underlying3 h2
  simp only [Prod.mk.injEq] at hc
  rw [at_mD] at hc
  cases hl : look T.L id with
  | none => rw [hl] at hc; simp at hc; rw [← hc.1]; rfl
  | some v => rw [hl] at hc; simp at hc; rw [← hc.1]; rfl

set_option maxRecDepth 100000 in
set_option maxHeartbeats 1000000 in
theorem cut_any (w : World) (p b : Nat) (T : Tb) (id : Int) (h : TI w p b T) (hid : I64 id) : Calls Tryz.prog 87 #[.pointer (some ⟨p, 0, none⟩), .int .i64 id] w fun e w' => e = .returned (.bool (T.cut id)) ∧ w' = w := by
  obtain ⟨c0, c1, c2, c3, hp⟩ := h.cells
  have hf := h.find hid
  clear h
  unfold Tb.cut
  generalize (look T.L id).getD 0 = z at hf ⊢
  go_enter Tryz.func87, Tryz.ntmps87
  go_wp2
  go_ret
  exact ⟨rfl, rfl⟩

set_option maxRecDepth 100000 in
set_option maxHeartbeats 1000000 in
theorem state_any (w : World) (p b : Nat) (T : Tb) (id : Int) (h : TI w p b T) (hid : I64 id) : Calls Tryz.prog 52 #[.pointer (some ⟨p, 0, none⟩), .int .i64 id] w fun e w' => e = .returned (.int .i64 (T.st id)) ∧ Below w.heap.size w w' := by
  unfold Tb.st
  cases hs : isStr id
  · rw [if_neg (by decide)]
    go_enter Tryz.func52, Tryz.ntmps52
    go_wp2_with fail
    refine (isStream_any id _).mono ?_
    rintro e w1 ⟨rfl, rfl⟩
    rw [hs]
    go_wp2
    go_ret
    exact ⟨rfl, Below.refl _ _⟩
  · rw [if_pos rfl]
    by_cases hl : T.last (T.ours id) < id
    · rw [if_pos hl]
      have hd : decide (T.last (T.ours id) < id) = true := decide_eq_true hl
      clear hl
      go_enter Tryz.func52, Tryz.ntmps52
      go_wp2_with fail
      refine (isStream_any id _).mono ?_
      rintro e w1 ⟨rfl, rfl⟩
      rw [hs]
      go_wp2_with fail
      refine (isOurs_any _ p b T id h).mono ?_
      rintro e w1 ⟨rfl, hB⟩
      go_wp2_with fail
      refine (last_any _ p b T _ (h.below hB)).mono ?_
      rintro e w2 ⟨rfl, rfl⟩
      go_wp2
      go_ret
      exact ⟨rfl, hB⟩
    · rw [if_neg hl]
      have hd : decide (T.last (T.ours id) < id) = false := decide_eq_false hl
      clear hl
      cases hk : look T.L id with
      | none =>
        go_enter Tryz.func52, Tryz.ntmps52
        go_wp2_with fail
        refine (isStream_any id _).mono ?_
        rintro e w1 ⟨rfl, rfl⟩
        rw [hs]
        go_wp2_with fail
        refine (isOurs_any _ p b T id h).mono ?_
        rintro e w1 ⟨rfl, hB⟩
        go_wp2_with fail
        refine (last_any _ p b T _ (h.below hB)).mono ?_
        rintro e w2 ⟨rfl, rfl⟩
        obtain ⟨c0, c1, c2, c3, hp⟩ := (h.below hB).cells
        have hf := (h.below hB).find2 hid
        rw [hk] at hf
        simp only [Option.getD_none, Option.isSome_none] at hf
        clear h hk
        go_wp2
        go_ret
        exact ⟨rfl, hB⟩
      | some v =>
        go_enter Tryz.func52, Tryz.ntmps52
        go_wp2_with fail
        refine (isStream_any id _).mono ?_
        rintro e w1 ⟨rfl, rfl⟩
        rw [hs]
        go_wp2_with fail
        refine (isOurs_any _ p b T id h).mono ?_
        rintro e w1 ⟨rfl, hB⟩
        go_wp2_with fail
        refine (last_any _ p b T _ (h.below hB)).mono ?_
        rintro e w2 ⟨rfl, rfl⟩
        obtain ⟨c0, c1, c2, c3, hp⟩ := (h.below hB).cells
        have hf := (h.below hB).find2 hid
        rw [hk] at hf
        simp only [Option.getD_some, Option.isSome_some] at hf
        clear h hk
        go_wp2
        go_ret
        exact ⟨rfl, hB⟩

set_option maxRecDepth 100000 in
set_option maxHeartbeats 1000000 in
theorem mayBear_any (w : World) (p b : Nat) (T : Tb) (id : Int) (g : Bool) (k : Int) (h : TI w p b T) : Calls Tryz.prog 86 #[.pointer (some ⟨p, 0, none⟩), .int .i64 id, .agg #[.bool g, .int .i64 k]] w fun e w' => e = .returned (.bool (T.may id g k)) ∧ Below w.heap.size w w' := by
  obtain ⟨c0, c1, c2, c3, hp⟩ := (h.al (.cells #[.bool g, .int .i64 k] 119)).cells
  clear h
  unfold Tb.may
  have hod := isOdd_any id
  generalize odd id = o at hod ⊢
  generalize T.cl = c at c0 ⊢
  cases o <;> cases c <;> cases g <;> cases e5 : (k == 5) <;>
  · go_enter Tryz.func86, Tryz.ntmps86
    go_wp2
    go_quiet (fail)
    go_wp2_with (first | (go_at_call 109; refine (hod _).mono ?_; rintro e w1 ⟨rfl, rfl⟩) | go_in)
    go_ret
    exact ⟨rfl, rfl, rfl, rfl, by simp, (bel1 w _).block⟩

/-- results: a cell's -/
theorem results_c {P : Program} {fn : Func} {p : Tmp} {ty : TypeId} (h : fn.results = #[.cell p ty]) (tmps : Array Value) (w : World) (g : Nat) (t : TypeId) (cs : Array Value) (fr : Nat × Nat) (d : TypeDesc)
    (hp : tmps.getD p undef = .pointer (some ⟨g, 0, none⟩)) (hg : w.heap[g]? = some (.cells cs t fr)) (hu : P.underlying ty = some d) (hd : (match d with | .struct _ | .array _ _ => true | _ => false) = true) (hi : (P.info? ty).map (·.size) = some cs.size) :
    (results fn tmps).run P w = .ok (.agg cs) w := by
  have hp' : tmps[p]?.getD undef = .pointer (some ⟨g, 0, none⟩) := by simpa using hp
  simp [results, h, hp', asAddr, run_loadVar_row w g t ty cs fr d hg hu hd hi]
set_option maxRecDepth 100000 in
set_option maxHeartbeats 1000000 in
theorem misplaced_any (g : Bool) (k : Int) (w : World) : Calls Tryz.prog 84 #[.agg #[.bool g, .int .i64 k]] w fun e w' => e = .returned (.agg #[.int .i64 (mis g).1, .int .i64 (mis g).2]) ∧ Below w.heap.size w w' := by
  cases g
  · go_enter Tryz.func84, Tryz.ntmps84
    go_wp2
    refine bodyPost_ret (results_c (p := 2) (ty := 116) rfl _ _ (w.heap.size + 1) 116 _ (0, 0) _ rfl (fresh2 _ _ _) Tryz.underlying116 rfl (by kernel_rfl)) rfl ⟨rfl, bel2 _ _ _⟩
  · go_enter Tryz.func84, Tryz.ntmps84
    go_wp2
    refine bodyPost_ret (results_c (p := 2) (ty := 116) rfl _ _ (w.heap.size + 1) 116 _ (0, 0) _ rfl (fresh2 _ _ _) Tryz.underlying116 rfl (by kernel_rfl)) rfl ⟨rfl, bel2 _ _ _⟩

set_option maxRecDepth 100000 in
set_option maxHeartbeats 1000000 in
theorem new_any (c : Bool) (w : World) : Calls Tryz.prog 25 #[.bool c] w fun e w' => e = .returned (.pointer (some ⟨w.heap.size + 1, 0, none⟩)) ∧ TI w' (w.heap.size + 1) w.heap.size (Tb.new c) ∧ Below w.heap.size w w' ∧ w'.heap.size = w.heap.size + 2 := by
  have hmm := @run_makeMap Tryz.prog
  go_enter Tryz.func25, Tryz.ntmps25
  go_wp2
  go_ret
  refine ⟨rfl, ⟨fresh2 _ _ _, ?_, Tb.new_ok c⟩, bel2 _ _ _, by simp⟩
  exact (World.ownsMap_made w Tryz.prog 2 (plainElem Tryz.prog 3)).alloc _
end Go.Proofs.YtfmljlflnpmceaaGreatDoor
