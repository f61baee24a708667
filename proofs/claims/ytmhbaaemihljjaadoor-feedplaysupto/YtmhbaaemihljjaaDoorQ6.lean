/- FeedPlays: two feeds and the document's two, side by side. -/
import Derived.Test.YtmhbaaemihljjaaDoorQ4
import Derived.Test.YtmhbaaemihljjaaDoorQ5
import Derived.Test.YtmhbaaemihljjaaDoorN4
namespace Go.Proofs.YtmhbaaemihljjaaDoor
open Go.RowKit
set_option linter.unusedVariables false
set_option linter.unusedSimpArgs false

def upd {α : Type} (f : Nat → α) (i : Nat) (x : α) : Nat → α := fun j => if j = i then x else f j
theorem upd_self {α : Type} (f : Nat → α) (i : Nat) (x : α) : upd f i x i = x := if_pos rfl

def fedL (G : Nat → Nat) (V : Nat → Value) (S : Nat → St) : List Fed := [(G 0, V 0, S 0), (G 1, V 1, S 1)]
theorem fedL_get (G : Nat → Nat) (V : Nat → Value) (S : Nat → St) (i : Nat) (h : i < 2) : (fedL G V S)[i]? = some (G i, V i, S i) := by
  have : i = 0 ∨ i = 1 := by omega
  rcases this with rfl | rfl <;> rfl
theorem fedL_set (G : Nat → Nat) (V : Nat → Value) (S : Nat → St) (i : Nat) (h : i < 2) (v : Value) (T : St) : (fedL G V S).set i (G i, v, T) = fedL G (upd V i v) (upd S i T) := by
  have : i = 0 ∨ i = 1 := by omega
  rcases this with rfl | rfl <;> rfl

structure Pl (w W : World) (a7 a8 : Nat) (G H : Nat → Nat) (V : Nat → Value) (S : Nat → St) (R : Nat → Rs) : Prop where
  all : All w W (fedL G V S)
  l : W.heap[a7]? = some (.cells #[.pointer (some ⟨G 0, 0, none⟩), .pointer (some ⟨G 1, 0, none⟩)] 60 (0, 0))
  r : W.heap[a8]? = some (.cells #[.pointer (some ⟨H 0, 0, none⟩), .pointer (some ⟨H 1, 0, none⟩)] 62 (0, 0))
  rf : ∀ i, i < 2 → RF W (H i) (R i)
  ne : H 0 ≠ H 1
  new : ∀ i, i < 2 → w.heap.size ≤ H i
  rel : ∀ i, i < 2 → Rel (S i) (R i)

/-- the document's feed turned -/
theorem All.kp {w W W' : World} {fs : List Fed} (h : All w W fs) {g : Nat} {R : Rs} (hR : RF W g R) (hg : w.heap.size ≤ g) (hk : Kp g W W') : All w W' fs := by
  have hR' : W.heap[g]? = some (.cells (rfv R) 76 (0, 0)) := hR
  have hlt : ∀ (k : Nat) (cs : Array Value) (t : TypeId), W.heap[k]? = some (.cells cs t (0, 0)) → t ≠ 76 → W'.heap[k]? = W.heap[k]? := fun k cs t hc ht => by
    refine hk.block k (Array.getElem?_eq_some_iff.1 hc).1 fun e => ?_
    rw [e, hR'] at hc
    simp at hc
    exact ht hc.2.symm
  refine ⟨h.kin, h.pos, ⟨hk.os.trans h.bel.os, hk.tape.trans h.bel.tape, hk.output.trans h.bel.output, Nat.le_trans h.bel.size hk.size, fun k hk' => ?_⟩, fun s hs => (h.fd s hs).same (hlt _ _ _ (h.fd s hs).blk (by decide)) (fun k hkk => ?_), h.new, h.apart⟩
  · rw [hk.block k (Nat.lt_of_lt_of_le hk' h.bel.size) (by omega)]
    exact h.bel.block k hk'
  · obtain ⟨cur, hc⟩ := (h.fd s hs).rowType k hkk
    exact hlt _ _ _ hc (by decide)

theorem Pl.later {w W W' : World} {a7 a8 : Nat} {G H : Nat → Nat} {V : Nat → Value} {S : Nat → St} {R : Nat → Rs} (h : Pl w W a7 a8 G H V S R) (hb : Below W.heap.size W W') : Pl w W' a7 a8 G H V S R := by
  have hk := Kt.below hb
  exact ⟨h.all.later hb, hk _ _ _ h.l (by decide) (by decide), hk _ _ _ h.r (by decide) (by decide), fun i hi => hk _ _ _ (h.rf i hi) (by decide) (by decide), h.ne, h.new, h.rel⟩
theorem Pl.drew {w W : World} {a7 a8 : Nat} {G H : Nat → Nat} {V : Nat → Value} {S : Nat → St} {R : Nat → Rs} (h : Pl w W a7 a8 G H V S R) : Pl w W.drew a7 a8 G H V S R := h.later (Below.refl _ W).drew
theorem Pl.alloc {w W : World} {a7 a8 : Nat} {G H : Nat → Nat} {V : Nat → Value} {S : Nat → St} {R : Nat → Rs} (h : Pl w W a7 a8 G H V S R) (o : Obj) : Pl w (W.alloc o) a7 a8 G H V S R := h.later ((Below.refl _ W).alloc (Nat.le_refl _) o)

/-- both turned, the program's first -/
theorem Pl.step {w W W1 W2 : World} {a7 a8 : Nat} {G H : Nat → Nat} {V : Nat → Value} {S : Nat → St} {R : Nat → Rs} (h : Pl w W a7 a8 G H V S R) (i : Nat) (hi : i < 2) {v' : Value} {S' : St} {R' : Rs} (hA : All w W1 ((fedL G V S).set i (G i, v', S'))) (hk : Kt W W1)
    (hR : RF W2 (H i) R') (hp : Kp (H i) W1 W2) (hrel : Rel S' R') : Pl w W2 a7 a8 G H (upd V i v') (upd S i S') (upd R i R') := by
  rw [fedL_set _ _ _ _ hi] at hA
  have hR1 : ∀ j, j < 2 → RF W1 (H j) (R j) := fun j hj => hk _ _ _ (h.rf j hj) (by decide) (by decide)
  have hRi : W1.heap[H i]? = some (.cells (rfv (R i)) 76 (0, 0)) := hR1 i hi
  have hlt : ∀ (k : Nat) (cs : Array Value) (t : TypeId), W1.heap[k]? = some (.cells cs t (0, 0)) → t ≠ 76 → W2.heap[k]? = some (.cells cs t (0, 0)) := fun k cs t hc ht => by
    refine (hp.block k (Array.getElem?_eq_some_iff.1 hc).1 fun e => ?_).trans hc
    rw [e, hRi] at hc
    simp at hc
    exact ht hc.2.symm
  refine ⟨hA.kp (hR1 i hi) (h.new i hi) hp, hlt _ _ _ (hk _ _ _ h.l (by decide) (by decide)) (by decide), hlt _ _ _ (hk _ _ _ h.r (by decide) (by decide)) (by decide), fun j hj => ?_, h.ne, h.new, fun j hj => ?_⟩
  · unfold upd
    by_cases e : j = i
    · rw [if_pos e, e]; exact hR
    · rw [if_neg e]
      have hne : H j ≠ H i := by
        have h01 := h.ne
        have hc : (j = 0 ∧ i = 1) ∨ (j = 1 ∧ i = 0) := by omega
        rcases hc with ⟨rfl, rfl⟩ | ⟨rfl, rfl⟩
        · exact h01
        · exact Ne.symm h01
      exact (hp.block _ (hR1 j hj).lt hne).trans (hR1 j hj)
  · unfold upd
    by_cases e : j = i
    · rw [if_pos e, if_pos e]; exact hrel
    · rw [if_neg e, if_neg e]; exact h.rel j hj

theorem Pl.cells {w W : World} {a7 a8 : Nat} {G H : Nat → Nat} {V : Nat → Value} {S : Nat → St} {R : Nat → Rs} (h : Pl w W a7 a8 G H V S R) (i : Nat) (hi : i < 2) : W.cell? ⟨a7, i, none⟩ = some (.pointer (some ⟨G i, 0, none⟩)) ∧ W.cell? ⟨a8, i, none⟩ = some (.pointer (some ⟨H i, 0, none⟩)) := by
  have : i = 0 ∨ i = 1 := by omega
  rcases this with rfl | rfl
  all_goals
    exact ⟨by rw [cell_of_row _ _ _ _ _ _ h.l]; rfl, by rw [cell_of_row _ _ _ _ _ _ h.r]; rfl⟩
end Go.Proofs.YtmhbaaemihljjaaDoor
