/- plays: what Send's walk needs. -/
import Derived.Test.YtfkimdgbkfogcaaDoorJ7
import Derived.Test.YtfkimdgbkfogcaaDoorD7
namespace Go.Proofs.YtfkimdgbkfogcaaDoor
open Go.RowKit
set_option linter.unusedVariables false
set_option linter.unusedSimpArgs false

theorem R.room {w : World} {g n cap : Nat} {l : List (Int × Int)} (h : R EP w (.slice (some ⟨g, 0, none⟩) n cap) l) : ∃ cur : Array Value, w.heap[g]? = some (.cells cur 46 (0, 0)) ∧ l.length * 2 ≤ cur.size := by
  rcases h.2 with ⟨hv, h0⟩ | ⟨g', cap', cur, hv, hb, hg, hn, hm, hs, ht⟩
  · cases hv
  · injection hv with e1 e2 e3
    injection e1 with e1
    injection e1 with e1 e4 e5
    subst e1
    refine ⟨cur, hg, ?_⟩
    simp only [EP] at hs
    omega
theorem Bk.other {w w' : World} {b : Nat} {c : Bool} {s : St} {v : Value} {L : List St} (h : Bk w b c s v L) (hk : Ks (Own b v) w w') {k : Nat} {cs : Array Value} {t : TypeId} (hc : w.heap[k]? = some (.cells cs t (0, 0))) (h1 : t ≠ 61) (h2 : t ≠ 27) : w'.heap[k]? = w.heap[k]? :=
  hk.block k (heap_lt hc) fun e => by
    obtain ⟨cs', t', e1, e2⟩ := h.ty k e
    rw [hc] at e1
    injection e1 with e1
    injection e1 with _ e1 _
    subst e1
    rcases e2 with ⟨e, _⟩ | ⟨e, _⟩
    · exact h1 e
    · exact h2 e
theorem Rb.other {w w' : World} {r : Nat} {c : Bool} {sx : SV} {xs : List SV} {ls : List (List (Int × Int))} {d : Nat} (h : Rb w r c sx xs ls d) (hk : Ks (Owr r sx) w w') {k : Nat} {cs : Array Value} {t : TypeId} (hc : w.heap[k]? = some (.cells cs t (0, 0))) (h1 : t ≠ 72) (h2 : t ≠ 30) : w'.heap[k]? = w.heap[k]? :=
  hk.block k (heap_lt hc) fun e => by
    obtain ⟨cs', t', e1, e2⟩ := h.ty k e
    rw [hc] at e1
    injection e1 with e1
    injection e1 with _ e1 _
    subst e1
    rcases e2 with ⟨e, _⟩ | ⟨e, _⟩
    · exact h1 e
    · exact h2 e

/-- Pz, and the lent list's block g, which is none of the pair's -/
def Gz (w : World) (A : Nat → Prop) (b r : Nat) (c : Bool) (v : Value) (sx : SV) (n : Nat) (s : St) (m : Nat) (g q : Nat) (W : World) : Prop := ∃ v' sx' xs' ls' d', Pr W b r c s v' sx' xs' ls' d' ∧ Ks A w W ∧ ls'.length - d' = m ∧ (∀ k, v'.ownBlock = some k → v.ownBlock = some k ∨ w.heap.size ≤ k) ∧ (∀ k, (sv sx').ownBlock = some k → (sv sx).ownBlock = some k ∨ w.heap.size ≤ k) ∧ ls'.length ≤ n + 1 ∧ (∀ i (h : i < xs'.length), (sv xs'[i]).ownBlock ≠ some g) ∧ w.heap.size ≤ g ∧ ∃ cur : Array Value, W.heap[g]? = some (.cells cur 46 (0, 0)) ∧ q * 2 ≤ cur.size
section
variable {w W W' : World} {A : Nat → Prop} {b r : Nat} {c : Bool} {s : St} {v : Value} {sx : SV} {n m g q : Nat}
theorem Gz.pz (h : Gz w A b r c v sx n s m g q W) : Pz w A b r c v sx n s m W := by
  obtain ⟨v', sx', xs', ls', d', h1, h2, h3, h4, h5, h6, _⟩ := h
  exact ⟨v', sx', xs', ls', d', h1, h2, h3, h4, h5, h6⟩
theorem Gz.below (h : Gz w A b r c v sx n s m g q W) (hb : Below W.heap.size W W') : Gz w A b r c v sx n s m g q W' := by
  obtain ⟨v', sx', xs', ls', d', h1, h2, h3, h4, h5, h6, h7, h8, cur, h9, h10⟩ := h
  exact ⟨v', sx', xs', ls', d', h1.below hb, h2.thenBelow hb, h3, h4, h5, h6, h7, h8, cur, (hb.block _ (heap_lt h9)).trans h9, h10⟩
theorem Gz.set (h : Gz w A b r c v sx n s m g q W) (i : Nat) (u : Value) : Gz w A b r c v sx n s m g q (W.setCell ⟨g, i, none⟩ u) := by
  obtain ⟨v', sx', xs', ls', d', h1, h2, h3, h4, h5, h6, h7, h8, cur, h9, h10⟩ := h
  have hk : Ks (fun k => k = g) W (W.setCell ⟨g, i, none⟩ u) := Ks.setCell _ W g i u rfl
  have hty : ∀ k cs (t : TypeId), W.heap[k]? = some (.cells cs t (0, 0)) → t ≠ 46 → k ≠ g := fun k cs t hk ht e => by
    rw [e, h9] at hk
    injection hk with hk
    injection hk with _ hk _
    exact ht hk.symm
  refine ⟨v', sx', xs', ls', d', ⟨h1.bk.keep hk fun k ho e => ?_, ⟨(hk.block _ h1.rb.lt (hty _ _ _ h1.rb.blk (by decide))).trans h1.rb.blk, h1.rb.row.stays fun k e hl => hk.block k hl fun e2 => ?_, h1.rb.len, fun i hi => (h1.rb.lists i hi).stays fun k e hl => hk.block k hl fun e2 => h7 i hi (e2 ▸ e), h1.rb.done⟩, h1.eq⟩, h2.trans hk (fun _ _ e => e) (fun j hj e => absurd e (by omega)), h3, h4, h5, h6, h7, h8, cur.setIfInBounds i u, setCell_block _ _ _ _ _ _ _ h9, by simpa using h10⟩
  · obtain ⟨cs, t, e1, e2⟩ := h1.bk.ty k ho
    refine hty k cs t e1 ?_ e
    rcases e2 with ⟨rfl, _⟩ | ⟨rfl, _⟩ <;> decide
  · obtain ⟨cs, hc⟩ := h1.rb.row.ty k e
    exact hty k cs _ hc (by simp [EL]) e2
theorem Gz.cell (h : Gz w A b r c v sx n s m g q W) (i : Nat) (hi : i < q * 2) : (∃ x, W.cell? ⟨g, i, none⟩ = some x) ∧ W.frozen? ⟨g, i, none⟩ = false := by
  obtain ⟨v', sx', xs', ls', d', h1, h2, h3, h4, h5, h6, h7, h8, cur, h9, h10⟩ := h
  have hc : i < cur.size := by omega
  exact ⟨⟨cur[i], by rw [cell_blk h9 i]; exact Array.getElem?_eq_getElem hc⟩, frozen_blk h9 i⟩
end

/-- after the list was lent -/
def S1 (w : World) (b r : Nat) (c : Bool) (s : St) (v : Value) (sx : SV) (xs : List SV) (ls : List (List (Int × Int))) (d : Nat) (l : List (Int × Int)) (o2 : Bool) (l1 : Option Addr) (l3 : Nat) (g cap : Nat) (W : World) : Prop := Pr W b r c s v sx xs ls d ∧ Ks (Opr b r v sx) w W ∧ R EP W (.slice (some ⟨g, 0, none⟩) (l.length + 2) cap) (l ++ marks) ∧ w.heap.size < g ∧ W.heap[w.heap.size]? = some (.cells #[.int .i64 1, .bool o2, .slice l1 l.length l3] 32 (0, 0))
/-- after the program's Send -/
def S2 (w : World) (b r : Nat) (c : Bool) (s : St) (v : Value) (sx : SV) (xs : List SV) (ls : List (List (Int × Int))) (d : Nat) (l : List (Int × Int)) (o2 : Bool) (l1 : Option Addr) (l3 : Nat) (g cap : Nat) (W : World) : Prop := ∃ v', Bk W b c s v' (sendL c s (chain c s (ls.drop d)) l) ∧ (∀ k, v'.ownBlock = some k → v.ownBlock = some k ∨ w.heap.size ≤ k) ∧ Rb W r c sx xs ls d ∧ Ks (Opr b r v sx) w W ∧ R EP W (.slice (some ⟨g, 0, none⟩) (l.length + 2) cap) (l ++ marks) ∧ w.heap.size < g ∧ W.heap[w.heap.size]? = some (.cells #[.int .i64 1, .bool o2, .slice l1 l.length l3] 32 (0, 0))

end Go.Proofs.YtfkimdgbkfogcaaDoor
