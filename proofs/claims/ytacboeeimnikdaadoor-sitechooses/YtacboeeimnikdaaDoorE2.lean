/- site: a version more. -/
import Derived.Test.YtacboeeimnikdaaDoorE1
namespace Go.Proofs.YtacboeeimnikdaaDoor
open Go.RowKit Go.Maps
open Go.Shelf
set_option linter.unusedVariables false
set_option linter.unusedSimpArgs false

theorem Sr.keeps {w w' : World} {lo : Nat} {L : List Te} (h : Sr w lo L) (hk : ∀ (k : Nat) (c : Array Value) (t : TypeId), w.heap[k]? = some (Obj.cells c t (0, 0)) → t ≠ 79 → w'.heap[k]? = w.heap[k]?) : Sr w' lo L :=
  ⟨fun r hr => ⟨(h.rows r hr).1.stays fun k hk' hl => by obtain ⟨c, hc⟩ := (h.rows r hr).1.ty k hk'; exact hk k c _ hc (by simp [EEd]), (h.rows r hr).2⟩, h.apart, fun r hr e he => ⟨(h.ch r hr e he).1.stays fun k hk' hl => by obtain ⟨c, hc⟩ := (h.ch r hr e he).1.ty k hk'; exact hk k c _ hc (by simp [ECh]), (h.ch r hr e he).2⟩, h.z⟩
/-- the newest version's number set anew -/
theorem Si.bump {w : World} {lo g b N : Nat} {nv : Int} {L : List Te} (h : Si w lo g b N nv L) (n' : Int) : Si (w.setCell ⟨g, 0, none⟩ (.int .i64 n')) lo g b N n' L ∧ Below lo w (w.setCell ⟨g, 0, none⟩ (.int .i64 n')) := by
  have hg' := setCell_block w g 0 (.int .i64 n') _ _ _ h.hg
  have ho : ∀ k : Nat, k ≠ g → (w.setCell ⟨g, 0, none⟩ (.int .i64 n')).heap[k]? = w.heap[k]? := fun k hk => by simp [World.setCell, Array.getElem?_modify, Ne.symm hk]
  obtain ⟨n, D, h1, ⟨es, clock, h2, h2'⟩, h3⟩ := h.own
  have hbg : b ≠ g := fun e => by have := h.hg; rw [← e, h2] at this; cases this
  refine ⟨⟨?_, ⟨n, D, h1, ⟨es, clock, (ho b hbg).trans h2, h2'⟩, h3⟩, h.sr.keeps fun k c t hk ht => ho k fun e => ?_, h.lg⟩, (Below.refl lo w).setCell (p := ⟨g, 0, none⟩) h.lg.1 _⟩
  · rw [hg']; rfl
  · rw [e, h.hg] at hk
    injection hk with hk
    injection hk with _ hk
    exact ht hk.symm
end Go.Proofs.YtacboeeimnikdaaDoor
