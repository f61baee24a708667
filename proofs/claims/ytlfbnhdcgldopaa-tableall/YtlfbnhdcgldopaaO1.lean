/- TableAll's script: the steps in memory. -/
import Derived.Test.YtlfbnhdcgldopaaC2
namespace Go.Proofs.Ytlfbnhdcgldopaa
open Go.RowKit

structure OpT where
  kind : Int
  two : Bool
  n : ByteArray
  x : ByteArray
  m : Int

/-- The slice v holds the steps l. -/
def Opers (W : World) (v : Value) (l : List OpT) : Prop :=
  l.length ≤ 9223372036854775807 ∧ ∃ base cap, v = .slice base l.length cap ∧ ∀ k (hk : k < l.length), ∃ g off, base = some ⟨g, off, none⟩ ∧ l.length ≤ cap ∧ cap ≤ 9223372036854775807 ∧
    W.cell? ⟨g, off + k * 5, none⟩ = some (.int .i64 l[k].kind) ∧ W.cell? ⟨g, off + k * 5 + 1, none⟩ = some (.bool l[k].two) ∧ W.cell? ⟨g, off + k * 5 + 2, none⟩ = some (.string l[k].n) ∧
    W.cell? ⟨g, off + k * 5 + 3, none⟩ = some (.string l[k].x) ∧ W.cell? ⟨g, off + k * 5 + 4, none⟩ = some (.int .i64 l[k].m)

def FineO (l : List OpT) : Prop := ∀ o ∈ l, o.n.size + o.x.size + 32 ≤ 4611686018427387904

theorem opers_round {w : World} {base : Option Addr} {cap : Nat} {l : List OpT} (h : Opers w (.slice base l.length cap) l) (hf : FineO l) (k : Nat) (hk : k < l.length) :
    ∃ (kind : Int) (two : Bool) (n x : ByteArray) (m : Int) (g off : Nat), n.size + x.size + 32 ≤ 4611686018427387904 ∧ base = some ⟨g, off, none⟩ ∧ l.length ≤ cap ∧ cap ≤ 9223372036854775807 ∧ ∀ W, Below w.heap.size w W →
      W.cell? ⟨g, off + k * 5, none⟩ = some (.int .i64 kind) ∧ W.cell? ⟨g, off + k * 5 + 1, none⟩ = some (.bool two) ∧ W.cell? ⟨g, off + k * 5 + 2, none⟩ = some (.string n) ∧
      W.cell? ⟨g, off + k * 5 + 3, none⟩ = some (.string x) ∧ W.cell? ⟨g, off + k * 5 + 4, none⟩ = some (.int .i64 m) := by
  obtain ⟨_, base', cap', e, hall⟩ := h
  cases e
  obtain ⟨g, off, h1, h2, h3, c0, c1, c2, c3, c4⟩ := hall k hk
  have st : ∀ {W : World} {p : Addr} {u : Value}, Below w.heap.size w W → w.cell? p = some u → W.cell? p = some u := fun hW hu => (hW.cell (World.block_lt_of_cell? _ _ hu)).trans hu
  exact ⟨_, _, _, _, _, g, off, hf _ (List.getElem_mem hk), h1, h2, h3, fun W hW => ⟨st hW c0, st hW c1, st hW c2, st hW c3, st hW c4⟩⟩

end Go.Proofs.Ytlfbnhdcgldopaa
