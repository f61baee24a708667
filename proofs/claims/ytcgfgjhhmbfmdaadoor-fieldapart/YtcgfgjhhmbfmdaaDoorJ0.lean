/- Ten lists side by side. -/
import Derived.Test.YtcgfgjhhmbfmdaaDoorA8
import Derived.Test.YtcgfgjhhmbfmdaaDoorM2
import Derived.Test.YtcgfgjhhmbfmdaaDoorH1
namespace Go.Proofs.YtcgfgjhhmbfmdaaDoor
open Go.RowKit Go.Maps
set_option linter.unusedVariables false
set_option linter.unusedSimpArgs false

theorem R.setw {α : Type} {E : El α} (ok : E.Ok) {w : World} {g n c : Nat} {l : List α} {j i : Nat} {y : α} (h : R E w (.slice (some ⟨g, 0, none⟩) n c) (l.set j y)) (hj : j < l.length) (hi : i < E.sz) (u : Value) (x : α) (hx : E.enc x = (E.enc y).set i u) :
    R E (w.setCell ⟨g, j * E.sz + i, none⟩ u) (.slice (some ⟨g, 0, none⟩) n c) (l.set j x) := by
  obtain ⟨g', cap, e, _, _, _, _, _, _, q⟩ := h.setc ok j i (by rw [List.length_set]; exact hj) hi
  injection e with e1 e2 e3
  injection e1 with e1
  injection e1 with e1
  subst e1
  have := q u x (by rw [hx]; simp)
  rw [List.set_set] at this
  exact this
theorem R.set_self {α : Type} {E : El α} {w : World} {v : Value} {l : List α} (h : R E w v l) (j : Nat) (hj : j < l.length) : R E w v (l.set j l[j]) := by
  rw [List.set_getElem_self]; exact h
/-- a field written over -/
def setFd (w : World) (g j : Nat) (f : Fd) : World := ((w.setCell ⟨g, j * 3, none⟩ (.string f.n)).setCell ⟨g, j * 3 + 1, none⟩ (.string f.v)).setCell ⟨g, j * 3 + 2, none⟩ (.bool f.nv)
theorem R.setFd {w : World} {g n c : Nat} {l : List Fd} (h : R EFd w (.slice (some ⟨g, 0, none⟩) n c) l) (j : Nat) (hj : j < l.length) (f : Fd) : R EFd (setFd w g j f) (.slice (some ⟨g, 0, none⟩) n c) (l.set j f) := by
  have h0 := h.set_self j hj
  obtain ⟨X, hX⟩ : ∃ X, l[j] = X := ⟨_, rfl⟩
  rw [hX] at h0
  have h1 := h0.setw okFd hj (i := 0) (by decide) (.string f.n) ⟨f.n, X.v, X.nv⟩ rfl
  have h2 := h1.setw okFd hj (i := 1) (by decide) (.string f.v) ⟨f.n, f.v, X.nv⟩ rfl
  have h3 := h2.setw okFd hj (i := 2) (by decide) (.bool f.nv) f rfl
  exact h3
theorem setFd_ks (A : Nat → Prop) (w : World) (g j : Nat) (f : Fd) (h : A g) : Ks A w (Go.Proofs.YtcgfgjhhmbfmdaaDoor.setFd w g j f) :=
  ((Ks.setCell A w g _ _ h).trans (Ks.setCell A _ g _ _ h) (fun _ _ h => h) fun _ _ h => h).trans (Ks.setCell A _ g _ _ h) (fun _ _ h => h) fun _ _ h => h

def EI : El Int := ⟨50, 3, 1, 8, fun n => [.int .i64 n]⟩
theorem okI : EI.Ok := ⟨Tryd.underlying50, by kernel_rfl, by decide, by decide, fun _ => rfl, fun a u hu => by
  simp only [EI, List.mem_cons, List.not_mem_nil, or_false] at hu
  rcases hu with rfl; rfl⟩

/-- The lists that lie in block g, each in a row of its own; the row of their sizes; what O names is as it was in W0. -/
structure Ls (B : Nat) (O : Nat → Prop) (W0 : World) (g : Nat) (vs : List SV) (ls : List (List Fd)) (z : SV) (ns : List Int) (W : World) : Prop where
  blk : W.heap[g]? = some (.cells (vs.map sv).toArray 24 (0, 0))
  vl : vs.length = 10
  ll : ls.length = 10
  row : ∀ i (h1 : i < vs.length) (h2 : i < ls.length), R EFd W (sv vs[i]) ls[i]
  apart : ∀ i j (h1 : i < vs.length) (h2 : j < vs.length), i ≠ j → ∀ k, (sv vs[i]).ownBlock = some k → (sv vs[j]).ownBlock ≠ some k
  free : ∀ i (h : i < vs.length) k, (sv vs[i]).ownBlock = some k → k ≠ g ∧ ¬ O k ∧ B ≤ k ∧ (sv z).ownBlock ≠ some k
  freeg : ¬ O g ∧ B ≤ g
  zr : R EI W (sv z) ns
  zf : ∀ k, (sv z).ownBlock = some k → k ≠ g ∧ ¬ O k ∧ B ≤ k
  low : ∀ k, O k → k < W0.heap.size
  old : ∀ k, O k → W.heap[k]? = W0.heap[k]?
  b0 : B ≤ W0.heap.size
  bel : Below B W0 W

theorem Ls.below {B : Nat} {O : Nat → Prop} {W0 : World} {g : Nat} {vs : List SV} {ls : List (List Fd)} {z : SV} {ns : List Int} {W W' : World} (h : Ls B O W0 g vs ls z ns W) (hb : Below W.heap.size W W') : Ls B O W0 g vs ls z ns W' :=
  ⟨(hb.block _ (heap_lt h.blk)).trans h.blk, h.vl, h.ll, fun i h1 h2 => (h.row i h1 h2).below hb, h.apart, h.free, h.freeg, h.zr.below hb, h.zf, h.low, fun k hk => (hb.block k (Nat.lt_of_lt_of_le (h.low k hk) h.bel.size)).trans (h.old k hk), h.b0, h.bel.trans (hb.mono (Nat.le_trans h.b0 h.bel.size))⟩

theorem Ls.at {B : Nat} {O : Nat → Prop} {W0 : World} {g : Nat} {vs : List SV} {ls : List (List Fd)} {z : SV} {ns : List Int} {W : World} (h : Ls B O W0 g vs ls z ns W) (i : Nat) (hi : i < 10) : ∃ (h1 : i < vs.length) (h2 : i < ls.length), W.cell? ⟨g, i, none⟩ = some (sv vs[i]) ∧ W.frozen? ⟨g, i, none⟩ = false ∧ g < W.heap.size ∧ vs[i].2.1 = ls[i].length ∧ ls[i].length ≤ vs[i].2.2 ∧ vs[i].2.2 ≤ 9223372036854775807 := by
  have h1 : i < vs.length := by rw [h.vl]; exact hi
  have h2 : i < ls.length := by rw [h.ll]; exact hi
  have hr := h.row i h1 h2
  refine ⟨h1, h2, ?_, frozen_blk h.blk _, heap_lt h.blk, ?_⟩
  · rw [cell_blk h.blk]; simp [h1]
  · obtain ⟨b, c, e, q1, q2⟩ := hr.slice
    simp only [sv] at e
    injection e with e1 e2 e3
    rw [e2, e3]
    exact ⟨rfl, q1, q2⟩

/-- a field of the list i, read -/
theorem Ls.fd {B : Nat} {O : Nat → Prop} {W0 : World} {g : Nat} {vs : List SV} {ls : List (List Fd)} {z : SV} {ns : List Int} {W : World} (h : Ls B O W0 g vs ls z ns W) (i : Nat) (h1 : i < vs.length) (h2 : i < ls.length) (k : Nat) (hk : k < ls[i].length) :
    ∃ r c, vs[i] = (some ⟨r, 0, none⟩, ls[i].length, c) ∧ r < W.heap.size ∧ r ≠ g ∧ B ≤ r ∧ (∀ o, W.frozen? ⟨r, o, none⟩ = false) ∧ W.cell? ⟨r, k * 3, none⟩ = some (.string ls[i][k].n) ∧ W.cell? ⟨r, k * 3 + 1, none⟩ = some (.string ls[i][k].v) ∧ W.cell? ⟨r, k * 3 + 2, none⟩ = some (.bool ls[i][k].nv) ∧ (sv vs[i]).ownBlock = some r := by
  have hr := h.row i h1 h2
  obtain ⟨r, c, e, _, _, hlt, hown, hc, hf, _⟩ := R.setc okFd hr k 0 hk (by decide)
  have hfr := h.free i h1 r hown
  refine ⟨r, c, ?_, hlt, hfr.1, hfr.2.2.1, hf, hc 0 _ rfl, hc 1 _ rfl, hc 2 _ rfl, hown⟩
  simp only [sv] at e
  injection e with e1 e2 e3
  exact Prod.ext e1 (Prod.ext e2 e3)

theorem ns_set {α : Type} {l : List (List α)} {i j : Nat} {x : List α} (h : j < (l.set i x).length) (hij : i ≠ j) : (l.set i x)[j] = l[j]'(by simpa using h) := by
  rw [List.getElem_set_ne hij]

/-- a field of the list i, written -/
theorem Ls.mark {B : Nat} {O : Nat → Prop} {W0 : World} {g : Nat} {vs : List SV} {ls : List (List Fd)} {z : SV} {ns : List Int} {W : World} (h : Ls B O W0 g vs ls z ns W) (i : Nat) (h1 : i < vs.length) (h2 : i < ls.length) (k : Nat) (hk : k < ls[i].length) (r : Nat) (hr : (sv vs[i]).ownBlock = some r) (f : Fd) :
    Ls B O W0 g vs (ls.set i (ls[i].set k f)) z ns (setFd W r k f) := by
  have hfr := h.free i h1 r hr
  have hks := setFd_ks (fun x => x = r) W r k f rfl
  have hst : ∀ x, x < W.heap.size → x ≠ r → (setFd W r k f).heap[x]? = W.heap[x]? := fun x hx hne => hks.block x hx hne
  refine ⟨(hst g (heap_lt h.blk) (Ne.symm hfr.1)).trans h.blk, h.vl, by simpa using h.ll, fun j q1 q2 => ?_, h.apart, h.free, h.freeg, h.zr.stays fun x hx hlt => hst x hlt (fun e => hfr.2.2.2 (by rw [hx, e])), h.zf, h.low, fun x hx => (hst x (Nat.lt_of_lt_of_le (h.low x hx) h.bel.size) (fun e => hfr.2.1 (by rw [← e]; exact hx))).trans (h.old x hx), h.b0, h.bel.trans (hks.below (Nat.le_trans h.b0 h.bel.size) fun x hx e => by have := hfr.2.2.1; omega)⟩
  by_cases hij : i = j
  · subst hij
    have hh := h.row i h1 h2
    obtain ⟨r', c, e, _⟩ := R.setc okFd hh k 0 hk (by decide)
    rw [e] at hr ⊢
    simp only [Value.ownBlock, Option.some.injEq] at hr
    subst hr
    rw [e] at hh
    rw [List.getElem_set_self]
    exact hh.setFd k hk f
  · rw [ns_set q2 hij]
    refine (h.row j q1 (by simpa using q2)).stays fun x hx hlt => hst x hlt (fun e => ?_)
    exact h.apart i j h1 q1 hij r hr (by rw [hx, e])

/-- a field laid behind the list i -/
theorem Ls.app {B : Nat} {O : Nat → Prop} {W0 : World} {g : Nat} {vs : List SV} {ls : List (List Fd)} {z : SV} {ns : List Int} {W : World} (h : Ls B O W0 g vs ls z ns W) (i : Nat) (h1 : i < vs.length) (h2 : i < ls.length) (hl : ls[i].length ≤ 100) (f : Fd) (x : Nat) (hx : In EFd W (.slice (some ⟨x, 0, none⟩) 1 1) [f]) :
    ∃ b c W', (Builtin.append_ #[24, 24] 24 #[sv vs[i], .slice (some ⟨x, 0, none⟩) 1 1]).run Tryd.prog W = .ok (.slice b (ls[i].length + 1) c) W' ∧ W'.cell? ⟨g, i, none⟩ = some (sv vs[i]) ∧ W'.frozen? ⟨g, i, none⟩ = false ∧ g < W'.heap.size ∧
      Ls B O W0 g (vs.set i (b, ls[i].length + 1, c)) (ls.set i (ls[i] ++ [f])) z ns (W'.setCell ⟨g, i, none⟩ (.slice b (ls[i].length + 1) c)) := by
  have hR := h.row i h1 h2
  obtain ⟨b, c, W', e1, e2, e3⟩ := Go.Proofs.YtcgfgjhhmbfmdaaDoor.app okFd W _ _ hR _ _ hx (by simp only [EFd, List.length_singleton]; omega)
  simp only [List.length_singleton] at e1 e2 e3
  have hst : ∀ y, y < W.heap.size → (sv vs[i]).ownBlock ≠ some y → W'.heap[y]? = W.heap[y]? := e3.block
  have hg0 : (sv vs[i]).ownBlock ≠ some g := fun e => (h.free i h1 g e).1 rfl
  have hblk : W'.heap[g]? = some (.cells (vs.map sv).toArray 24 (0, 0)) := (hst g (heap_lt h.blk) hg0).trans h.blk
  have hset : ∀ y, y ≠ g → (W'.setCell ⟨g, i, none⟩ (.slice b (ls[i].length + 1) c)).heap[y]? = W'.heap[y]? := fun y hy => setCell_other _ _ _ _ _ hy
  have hnew : ∀ k, (Value.slice b (ls[i].length + 1) c).ownBlock = some k → ((sv vs[i]).ownBlock = some k ∨ W.heap.size ≤ k) := e3.own
  have hOn : ∀ k, W.heap.size ≤ k → ¬ O k := fun k hk ho => by have := h.low k ho; have := h.bel.size; omega
  refine ⟨b, c, W', e1, ?_, frozen_blk hblk _, heap_lt hblk, ?_⟩
  · rw [cell_blk hblk]; simp [h1]
  refine ⟨?_, by simpa using h.vl, by simpa using h.ll, fun j q1 q2 => ?_, fun p q p1 q1 hpq k hk => ?_, fun p p1 k hk => ?_, h.freeg, h.zr.stays fun y hy hlt => ?_, h.zf, h.low, fun y hy => ?_, h.b0, ?_⟩
  · rw [setCell_block _ _ _ _ _ _ _ hblk]
    simp [List.map_set, sv]
  · by_cases hij : i = j
    · subst hij
      rw [List.getElem_set_self, List.getElem_set_self]
      refine R.stays e2 fun k hk hlt => hset k fun e => ?_
      rcases hnew k hk with q | q
      · exact hg0 (by rw [q, e])
      · have := heap_lt h.blk; omega
    · rw [ns_set q2 hij, List.getElem_set_ne hij]
      have q1' : j < vs.length := by simpa using q1
      have hr := h.row j q1' (by simpa using q2)
      refine hr.stays fun k hk hlt => ?_
      rw [hset k (h.free j q1' k hk).1]
      exact hst k hlt fun e => h.apart i j h1 q1' hij k e hk
  · have p1' : p < vs.length := by simpa using p1
    have q1' : q < vs.length := by simpa using q1
    by_cases hip : i = p
    · subst hip
      rw [List.getElem_set_self] at hk
      rw [List.getElem_set_ne hpq]
      intro hq
      rcases hnew k hk with e | e
      · exact h.apart i q h1 q1' hpq k e hq
      · have := R.lt (h.row q q1' (by rw [h.ll, ← h.vl]; exact q1')) k hq
        omega
    · rw [List.getElem_set_ne hip] at hk
      by_cases hiq : i = q
      · subst hiq
        rw [List.getElem_set_self]
        intro hq
        rcases hnew k hq with e | e
        · exact h.apart i p h1 p1' (fun e' => hip e') k e hk
        · have := R.lt (h.row p p1' (by rw [h.ll, ← h.vl]; exact p1')) k hk
          omega
      · rw [List.getElem_set_ne hiq]
        exact h.apart p q p1' q1' hpq k hk
  · have p1' : p < vs.length := by simpa using p1
    by_cases hip : i = p
    · subst hip
      rw [List.getElem_set_self] at hk
      rcases hnew k hk with e | e
      · exact h.free i h1 k e
      · have hgl := heap_lt h.blk
        refine ⟨by omega, hOn k e, by have := h.b0; have := h.bel.size; omega, fun hz => ?_⟩
        have := R.lt h.zr k hz
        omega
    · rw [List.getElem_set_ne hip] at hk
      exact h.free p p1' k hk
  · rw [hset y (h.zf y hy).1]
    exact hst y hlt fun e => (h.free i h1 y e).2.2.2 hy
  · rw [hset y (fun e => h.freeg.1 (by rw [← e]; exact hy))]
    exact (hst y (Nat.lt_of_lt_of_le (h.low y hy) h.bel.size) fun e => (h.free i h1 y e).2.1 hy).trans (h.old y hy)
  · have k1 : Below B W W' := e3.belowB (Nat.le_trans h.b0 h.bel.size) fun k hk => (h.free i h1 k hk).2.2.1
    exact (h.bel.trans k1).setCell (p := ⟨g, i, none⟩) h.freeg.2 _

/-- a size noted -/
theorem Ls.size {B : Nat} {O : Nat → Prop} {W0 : World} {g : Nat} {vs : List SV} {ls : List (List Fd)} {z : SV} {ns : List Int} {W : World} (h : Ls B O W0 g vs ls z ns W) (hl : ns.length ≤ 100) (n : Int) (x : Nat) (hx : In EI W (.slice (some ⟨x, 0, none⟩) 1 1) [n]) :
    ∃ b c W', (Builtin.append_ #[50, 50] 50 #[sv z, .slice (some ⟨x, 0, none⟩) 1 1]).run Tryd.prog W = .ok (.slice b (ns.length + 1) c) W' ∧ Ls B O W0 g vs ls (b, ns.length + 1, c) (ns ++ [n]) W' := by
  obtain ⟨b, c, W', e1, e2, e3⟩ := Go.Proofs.YtcgfgjhhmbfmdaaDoor.app okI W _ _ h.zr _ _ hx (by simp only [EI, List.length_singleton]; omega)
  simp only [List.length_singleton] at e1 e2 e3
  have hst : ∀ y, y < W.heap.size → (sv z).ownBlock ≠ some y → W'.heap[y]? = W.heap[y]? := e3.block
  have hnew : ∀ k, (Value.slice b (ns.length + 1) c).ownBlock = some k → ((sv z).ownBlock = some k ∨ W.heap.size ≤ k) := e3.own
  have hOn : ∀ k, W.heap.size ≤ k → ¬ O k := fun k hk ho => by have := h.low k ho; have := h.bel.size; omega
  refine ⟨b, c, W', e1, (hst g (heap_lt h.blk) fun e => (h.zf g e).1 rfl).trans h.blk, h.vl, h.ll, fun i h1 h2 => (h.row i h1 h2).stays fun k hk hlt => hst k hlt (h.free i h1 k hk).2.2.2, h.apart, fun i h1 k hk => ?_, h.freeg, e2, fun k hk => ?_, h.low, fun k hk => (hst k (Nat.lt_of_lt_of_le (h.low k hk) h.bel.size) fun e => (h.zf k e).2.1 hk).trans (h.old k hk), h.b0, h.bel.trans (e3.belowB (Nat.le_trans h.b0 h.bel.size) fun k hk => (h.zf k hk).2.2)⟩
  · have q := h.free i h1 k hk
    refine ⟨q.1, q.2.1, q.2.2.1, fun e => ?_⟩
    rcases hnew k e with e | e
    · exact q.2.2.2 e
    · have := R.lt (h.row i h1 (by rw [h.ll, ← h.vl]; exact h1)) k hk
      omega
  · rcases hnew k hk with e | e
    · exact h.zf k e
    · have hgl := heap_lt h.blk
      exact ⟨by omega, hOn k e, by have := h.b0; have := h.bel.size; omega⟩
end Go.Proofs.YtcgfgjhhmbfmdaaDoor
