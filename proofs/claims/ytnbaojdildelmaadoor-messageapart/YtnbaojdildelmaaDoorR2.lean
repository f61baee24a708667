/- MessageApart: what lies in memory while it runs. -/
import Derived.Test.YtnbaojdildelmaaDoorR1
namespace Go.Proofs.YtnbaojdildelmaaDoor
open Go.RowKit Go.Maps
set_option linter.unusedVariables false
set_option linter.unusedSimpArgs false
theorem R.setw {α : Type} {E : El α} (ok : E.Ok) {w : World} {g n c : Nat} {l : List α} {j i : Nat} {y : α} (h : R E w (.slice (some ⟨g, 0, none⟩) n c) (l.set j y)) (hj : j < l.length) (hi : i < E.sz) (u : Value) (x : α) (hx : E.enc x = (E.enc y).set i u) :
    R E (w.setCell ⟨g, j * E.sz + i, none⟩ u) (.slice (some ⟨g, 0, none⟩) n c) (l.set j x) := by
  obtain ⟨g', cap, e, _, _, _, _, _, _, q⟩ := h.setc ok j i (by rw [List.length_set]; exact hj) hi
  injection e with e1 e2 e3
  injection e1 with e1
  injection e1 with e1
  subst e1
  have := q u x (by rw [hx]; simp)
  rw [List.set_set] at this
  exact this
theorem R.set_self {α : Type} {E : El α} {w : World} {v : Value} {l : List α} (h : R E w v l) (j : Nat) (hj : j < l.length) : R E w v (l.set j l[j]) := by
  rw [List.set_getElem_self]; exact h
/-- a field written over -/
def setFd (w : World) (g j : Nat) (f : Fd) : World := ((w.setCell ⟨g, j * 3, none⟩ (.string f.n)).setCell ⟨g, j * 3 + 1, none⟩ (.string f.v)).setCell ⟨g, j * 3 + 2, none⟩ (.bool f.nv)
theorem R.setFd {w : World} {g n c : Nat} {l : List Fd} (h : R EFd w (.slice (some ⟨g, 0, none⟩) n c) l) (j : Nat) (hj : j < l.length) (f : Fd) : R EFd (setFd w g j f) (.slice (some ⟨g, 0, none⟩) n c) (l.set j f) := by
  have h0 := h.set_self j hj
  obtain ⟨X, hX⟩ : ∃ X, l[j] = X := ⟨_, rfl⟩
  rw [hX] at h0
  have h1 := h0.setw okFd hj (i := 0) (by decide) (.string f.n) ⟨f.n, X.v, X.nv⟩ rfl
  have h2 := h1.setw okFd hj (i := 1) (by decide) (.string f.v) ⟨f.n, f.v, X.nv⟩ rfl
  have h3 := h2.setw okFd hj (i := 2) (by decide) (.bool f.nv) f rfl
  exact h3
theorem setFd_ks (A : Nat → Prop) (w : World) (g j : Nat) (f : Fd) (h : A g) : Ks A w (Go.Proofs.YtnbaojdildelmaaDoor.setFd w g j f) :=
  ((Ks.setCell A w g _ _ h).trans (Ks.setCell A _ g _ _ h) (fun _ _ h => h) fun _ _ h => h).trans (Ks.setCell A _ g _ _ h) (fun _ _ h => h) fun _ _ h => h


theorem Msg.keepK {W W' : World} {A : Nat → Prop} {g : Nat} {x : Mg} {body : List UInt8} {fl ql : List Fd} (h : Msg W g x body fl ql) (k : Ks A W W') (h0 : ¬ A g) (h1 : ∀ j, (sv x.bs).ownBlock = some j → ¬ A j) (h2 : ∀ j, (sv x.ry).ownBlock = some j → ¬ A j) (h3 : ∀ j, (sv x.qy).ownBlock = some j → ¬ A j) : Msg W' g x body fl ql :=
  ⟨(k.block g (heap_lt h.bx) h0).trans h.bx, R.stays h.rb fun j hj hl => k.block j hl (h1 j hj), R.stays h.rf fun j hj hl => k.block j hl (h2 j hj), R.stays h.qf fun j hj hl => k.block j hl (h3 j hj)⟩
/-- the message, made since w; its rows lie below Bd -/
structure Ma (w W : World) (Bd g : Nat) (x : Mg) (k : Nat) : Prop where
  ms : Msg W g x [] (xs k) []
  og : w.heap.size ≤ g
  gb : g < Bd
  nb : x.bs = (none, 0, 0)
  nq : x.qy = (none, 0, 0)
  rq : x.rq = false
  ry : ∀ j, (sv x.ry).ownBlock = some j → j < Bd
  bel : Below w.heap.size w W
  bd : Bd ≤ W.heap.size
theorem Ma.below {w W W' : World} {Bd g k : Nat} {x : Mg} (h : Ma w W Bd g x k) (hb : Below W.heap.size W W') : Ma w W' Bd g x k := ⟨h.ms.below hb, h.og, h.gb, h.nb, h.nq, h.rq, h.ry, h.bel.trans (hb.mono h.bel.size), Nat.le_trans h.bd hb.size⟩
/-- what lies from Bd on may change -/
theorem Ma.keep {w W W' : World} {Bd g k : Nat} {x : Mg} {A : Nat → Prop} (h : Ma w W Bd g x k) (hk : Ks A W W') (hA : ∀ j, A j → Bd ≤ j) : Ma w W' Bd g x k := by
  have hw : w.heap.size ≤ Bd := Nat.le_trans h.og (Nat.le_of_lt h.gb)
  refine ⟨h.ms.keepK hk (fun a => by have := hA _ a; have := h.gb; omega) (fun j hj => by rw [h.nb] at hj; simp [sv, Value.ownBlock] at hj) (fun j hj a => by have := hA _ a; have := h.ry j hj; omega) (fun j hj => by rw [h.nq] at hj; simp [sv, Value.ownBlock] at hj), h.og, h.gb, h.nb, h.nq, h.rq, h.ry, h.bel.trans (hk.below h.bel.size fun i hi a => by have := hA i a; omega), Nat.le_trans h.bd hk.size⟩
/-- a row of the law's own from Bd on -/
structure Rw (W : World) (Bd : Nat) (b : Option Addr) (n c : Nat) (l : List Fd) : Prop where
  row : R EFd W (.slice b n c) l
  own : ∀ j, (Value.slice b n c).ownBlock = some j → Bd ≤ j
theorem Rw.below {W W' : World} {Bd n c : Nat} {b : Option Addr} {l : List Fd} (h : Rw W Bd b n c l) (hb : Below W.heap.size W W') : Rw W' Bd b n c l := ⟨R.below h.row hb, h.own⟩
theorem Rw.keep {W W' : World} {Bd n c : Nat} {b : Option Addr} {l : List Fd} {A : Nat → Prop} (h : Rw W Bd b n c l) (hk : Ks A W W') (hA : ∀ j, (Value.slice b n c).ownBlock = some j → ¬ A j) : Rw W' Bd b n c l := ⟨R.stays h.row fun j hj hl => hk.block j hl (hA j hj), h.own⟩
/-- one of its fields written over -/
theorem Rw.write {W : World} {Bd n c : Nat} {b : Option Addr} {l : List Fd} (h : Rw W Bd b n c l) (i : Nat) (hi : i < l.length) : ∃ g, b = some ⟨g, 0, none⟩ ∧ n = l.length ∧ l.length ≤ c ∧ c ≤ 9223372036854775807 ∧ Bd ≤ g ∧ g < W.heap.size ∧ (∀ o, W.frozen? ⟨g, o, none⟩ = false) ∧ W.cell? ⟨g, i * 3, none⟩ = some (.string l[i].n) ∧ W.cell? ⟨g, i * 3 + 1, none⟩ = some (.string l[i].v) ∧ W.cell? ⟨g, i * 3 + 2, none⟩ = some (.bool l[i].nv) ∧
    ∀ f, Rw (setFd W g i f) Bd b n c (l.set i f) ∧ Ks (fun j => j = g) W (setFd W g i f) := by
  obtain ⟨g, cap, e, c1, c2, rl, ro, cs, fz, _⟩ := R.setc okFd h.row i 0 hi (by decide)
  injection e with e1 e2 e3
  subst e1 e3
  refine ⟨g, rfl, e2, c1, c2, h.own g ro, rl, fz, cs 0 _ rfl, cs 1 _ rfl, cs 2 _ rfl, fun f => ⟨⟨R.setFd h.row i hi f, h.own⟩, setFd_ks _ W g i f rfl⟩⟩
/-- one more behind -/
theorem Rw.more {W : World} {Bd n c : Nat} {b : Option Addr} {l : List Fd} (h : Rw W Bd b n c l) (hl : l.length ≤ 1000) (hB : Bd ≤ W.heap.size) (f : Fd) : ∃ b' c' W', (Builtin.append_ #[24, 24] 24 #[.slice b n c, .slice (some ⟨W.heap.size, 0, none⟩) 1 1]).run Tryd.prog (W.alloc (.cells (fdv f) 28)) = .ok (.slice b' (l.length + 1) c') W' ∧ Rw W' Bd b' (l.length + 1) c' (l ++ [f]) ∧ Ks (fun j => (Value.slice b n c).ownBlock = some j) W W' ∧ (∀ j, (Value.slice b' (l.length + 1) c').ownBlock = some j → (Value.slice b n c).ownBlock = some j ∨ W.heap.size ≤ j) := by
  have bm := bel1 W (.cells (fdv f) 28)
  obtain ⟨b', c', W', h1, h2, h3⟩ := app okFd (W.alloc (.cells (fdv f) 28)) _ _ (R.below h.row bm) (.slice (some ⟨W.heap.size, 0, none⟩) 1 1) [f] (in_one (x := f) _ _ (fdv f) 28 (0, 0) (by rw [heap_al, if_pos rfl]) rfl) (by simp only [EFd, List.length_singleton]; omega)
  simp only [List.length_singleton] at h1 h2 h3
  have hsz : (W.alloc (.cells (fdv f) 28)).heap.size = W.heap.size + 1 := size_al _ _
  refine ⟨b', c', W', h1, ⟨h2, fun j hj => ?_⟩, (Ks.of_below bm).trans (Ks.of_gr h3) (fun _ _ h => h) (fun _ _ h => h), fun j hj => ?_⟩
  · rcases h3.own j hj with e | e
    · exact h.own j e
    · omega
  · rcases h3.own j hj with e | e
    · exact .inl e
    · exact .inr (by omega)
end Go.Proofs.YtnbaojdildelmaaDoor
