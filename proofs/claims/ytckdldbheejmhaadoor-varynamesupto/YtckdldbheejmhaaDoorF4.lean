/- VaryMatches: what lies in memory while it runs. -/
import Derived.Test.YtckdldbheejmhaaDoorF2
import Derived.Test.YtckdldbheejmhaaDoorF3
namespace Go.Proofs.YtckdldbheejmhaaDoor
open Go.RowKit
set_option linter.unusedVariables false
set_option linter.unusedSimpArgs false

def mkS : ByteArray := ⟨#[109, 97, 114, 107]⟩
structure Vm (w3 : World) (g1 n c1 g2 k c2 g3 m c3 : Nat) (x y : Rq) (P1 Q1 : List Fd) (l1 : List ByteArray) (W : World) : Prop where
  bx : RqB W w3.heap.size x
  bY : RqB W (w3.heap.size + 1) y
  rx : R EFd W (.slice (some ⟨g1, 0, none⟩) (n + 1) c1) (P1 ++ [mkF])
  ry : R EFd W (.slice (some ⟨g2, 0, none⟩) (k + 1) c2) (Q1 ++ [mkF])
  rl : R ES W (.slice (some ⟨g3, 0, none⟩) (m + 1) c3) (l1 ++ [mkS])
  bel : Below w3.heap.size w3 W
  o1 : w3.heap.size ≤ g1
  o3 : w3.heap.size ≤ g3
  d12 : g1 ≠ g2
theorem own_some {g n c : Nat} : (Value.slice (some ⟨g, 0, none⟩) n c).ownBlock = some g := rfl
theorem Vm.below {w3 : World} {g1 n c1 g2 k c2 g3 m c3 : Nat} {x y : Rq} {P1 Q1 : List Fd} {l1 : List ByteArray} {W W' : World} (h : Vm w3 g1 n c1 g2 k c2 g3 m c3 x y P1 Q1 l1 W) (hb : Below W.heap.size W W') : Vm w3 g1 n c1 g2 k c2 g3 m c3 x y P1 Q1 l1 W' :=
  ⟨h.bx.below hb, h.bY.below hb, R.below h.rx hb, R.below h.ry hb, R.below h.rl hb, h.bel.trans (hb.mono h.bel.size), h.o1, h.o3, h.d12⟩
theorem row_ne_box {W : World} {g g' n c : Nat} {x : Rq} {L : List Fd} (h : R EFd W (.slice (some ⟨g, 0, none⟩) n c) L) (hb : RqB W g' x) : g ≠ g' := fun e => by
  obtain ⟨u, hu⟩ := R.ty h g rfl
  unfold RqB at hb
  rw [e, hb] at hu
  simp [EFd] at hu
theorem strs_ne_box {W : World} {g g' n c : Nat} {x : Rq} {L : List ByteArray} (h : R ES W (.slice (some ⟨g, 0, none⟩) n c) L) (hb : RqB W g' x) : g ≠ g' := fun e => by
  obtain ⟨u, hu⟩ := R.ty h g rfl
  unfold RqB at hb
  rw [e, hb] at hu
  simp [ES] at hu
theorem strs_ne_row {W : World} {g g' n c n' c' : Nat} {l : List ByteArray} {L : List Fd} (h : R ES W (.slice (some ⟨g, 0, none⟩) n c) l) (hb : R EFd W (.slice (some ⟨g', 0, none⟩) n' c') L) : g ≠ g' := fun e => by
  obtain ⟨u, hu⟩ := R.ty h g rfl
  obtain ⟨v, hv⟩ := R.ty hb g' rfl
  rw [e, hv] at hu
  simp [ES, EFd] at hu
/-- one value of the lent fields -/
theorem Vm.value {w3 : World} {g1 n c1 g2 k c2 g3 m c3 : Nat} {x y : Rq} {P1 Q1 : List Fd} {l1 : List ByteArray} {W : World} (h : Vm w3 g1 n c1 g2 k c2 g3 m c3 x y P1 Q1 l1 W) (i : Nat) (hi : i < P1.length) :
    W.cell? ⟨g1, i * 3 + 1, none⟩ = some (.string P1[i].v) ∧ W.frozen? ⟨g1, i * 3 + 1, none⟩ = false ∧ g1 < W.heap.size ∧ ∀ s, Vm w3 g1 n c1 g2 k c2 g3 m c3 x y (P1.set i ⟨P1[i].n, s, P1[i].nv⟩) Q1 l1 (W.setCell ⟨g1, i * 3 + 1, none⟩ (.string s)) := by
  have hj : i < (P1 ++ [mkF]).length := by simp; omega
  obtain ⟨g, c, e, c1, c2, rl, ro, cs, fz, s1⟩ := R.setc okFd h.rx i 1 hj (by decide)
  obtain rfl : g1 = g := by simpa [Value.ownBlock] using ro
  rw [List.getElem_append_left hi] at cs s1
  have hf : ∀ o u b, b ≠ g1 → (W.setCell ⟨g1, o, none⟩ u).heap[b]? = W.heap[b]? := fun o u b hb => setCell_other _ _ _ _ _ hb
  have d3 := strs_ne_row h.rl h.rx
  refine ⟨cs 1 _ rfl, fz _, rl, fun s => ⟨(hf _ _ _ (row_ne_box h.rx h.bx).symm).trans h.bx, (hf _ _ _ (row_ne_box h.rx h.bY).symm).trans h.bY, ?_, R.stays h.ry fun b hb _ => hf _ _ _ ?_, R.stays h.rl fun b hb _ => hf _ _ _ ?_, h.bel.setCell (p := ⟨g1, i * 3 + 1, none⟩) h.o1 _, h.o1, h.o3, h.d12⟩⟩
  · have := s1 (.string s) ⟨P1[i].n, s, P1[i].nv⟩ rfl
    rw [List.set_append_left _ _ hi] at this
    exact this
  · have : g2 = b := by simpa [Value.ownBlock] using hb
    rw [← this]
    exact h.d12.symm
  · have : g3 = b := by simpa [Value.ownBlock] using hb
    rw [← this]
    exact d3
/-- one of the lent names -/
theorem Vm.name {w3 : World} {g1 n c1 g2 k c2 g3 m c3 : Nat} {x y : Rq} {P1 Q1 : List Fd} {l1 : List ByteArray} {W : World} (h : Vm w3 g1 n c1 g2 k c2 g3 m c3 x y P1 Q1 l1 W) (i : Nat) (hi : i < l1.length) :
    W.cell? ⟨g3, i, none⟩ = some (.string l1[i]) ∧ W.frozen? ⟨g3, i, none⟩ = false ∧ g3 < W.heap.size ∧ ∀ s, Vm w3 g1 n c1 g2 k c2 g3 m c3 x y P1 Q1 (l1.set i s) (W.setCell ⟨g3, i, none⟩ (.string s)) := by
  have hj : i < (l1 ++ [mkS]).length := by simp; omega
  obtain ⟨g, c, e, c1, c2, rl, ro, cs, fz, s1⟩ := R.setc okS h.rl i 0 hj (by decide)
  obtain rfl : g3 = g := by simpa [Value.ownBlock] using ro
  rw [List.getElem_append_left hi] at cs s1
  have e1 : i * ES.sz + 0 = i := by simp [ES]
  have hf : ∀ o u b, b ≠ g3 → (W.setCell ⟨g3, o, none⟩ u).heap[b]? = W.heap[b]? := fun o u b hb => setCell_other _ _ _ _ _ hb
  have d1 := strs_ne_row h.rl h.rx
  have d2 := strs_ne_row h.rl h.ry
  have c0 := cs 0 _ rfl
  rw [e1] at c0
  refine ⟨c0, fz _, rl, fun s => ⟨(hf _ _ _ (strs_ne_box h.rl h.bx).symm).trans h.bx, (hf _ _ _ (strs_ne_box h.rl h.bY).symm).trans h.bY, R.stays h.rx fun b hb _ => hf _ _ _ ?_, R.stays h.ry fun b hb _ => hf _ _ _ ?_, ?_, h.bel.setCell (p := ⟨g3, i, none⟩) h.o3 _, h.o1, h.o3, h.d12⟩⟩
  · have : g1 = b := by simpa [Value.ownBlock] using hb
    rw [← this]
    exact d1.symm
  · have : g2 = b := by simpa [Value.ownBlock] using hb
    rw [← this]
    exact d2.symm
  · have := s1 (.string s) s rfl
    rw [List.set_append_left _ _ hi, e1] at this
    exact this
/-- what lies ahead of the mark -/
theorem In.ahead {α : Type} {E : El α} {W : World} {b : Option Addr} {n c : Nat} {L : List α} {x : α} (h : In E W (.slice b (n + 1) c) (L ++ [x])) (hn : L.length = n) : In E W (.slice b n c) L := by
  have := in_front h n (by simp; omega)
  rw [← hn, List.take_left] at this
  rw [← hn]
  exact this
end Go.Proofs.YtckdldbheejmhaaDoor
