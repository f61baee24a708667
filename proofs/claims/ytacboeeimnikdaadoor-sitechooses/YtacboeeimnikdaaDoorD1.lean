/- site: a map from targets; rows of editions. -/
import Derived.Test.YtacboeeimnikdaaDoorC2
import Derived.Maps.Own
import Derived.Maps.OwnOps
import Derived.Maps.OwnSet
import Derived.DeepKeys5
import Derived.Deep.WholeRow
namespace Go.Proofs.YtacboeeimnikdaaDoor
open Go.RowKit Go.Maps
open Go.Shelf
set_option linter.unusedVariables false
set_option linter.unusedSimpArgs false

/-- a target: its authority and its path -/
abbrev Tg := ByteArray × ByteArray
def tgv (t : Tg) : Array Value := #[.string t.1, .string t.2]
/-- both texts are not too long -/
def tz (t : Tg) : Prop := t.1.size ≤ 281474976710656 ∧ t.2.size ≤ 281474976710656
def EEd : El Ed := ⟨108, 83, 4, 56, fun e => (edv e).toList⟩
theorem okEd : EEd.Ok := ⟨Tryd.underlying108, by kernel_rfl, by decide, by decide, fun _ => rfl, fun a u hu => by
  simp only [EEd, edv, List.mem_cons, List.not_mem_nil, or_false] at hu
  rcases hu with rfl | rfl | rfl | rfl <;> rfl⟩
theorem snocRec {α : Type} {P : List α → Prop} (nil : P []) (snoc : ∀ l a, P l → P (l ++ [a])) (l : List α) : P l := by
  rw [← List.reverse_reverse l]
  induction l.reverse with
  | nil => exact nil
  | cons a r ih => rw [List.reverse_cons]; exact snoc _ _ ih
def klT (t : Tg) : Lit := .string (keyBytes [.string t.1.data.toList, .string t.2.data.toList])
theorem laid17 : laidOutB Tryd.prog = true := by kernel_rfl
theorem KT : Keyed Tryd.prog 87 := Keyed.of_law (deep_law_gate laid17 (of_decide_eq_true (by kernel_rfl)) (of_decide_eq_true (by kernel_rfl)) (by kernel_rfl) (by kernel_rfl))
theorem keyLits_struct (P : Program) (d : Nat) (t : TypeId) (fs : Array Field) (cs : List Value) (h : P.underlying t = some (.struct fs)) : P.keyLits (d + 1) t cs = if cs.length = P.cellsOf t ∧ fs.all (·.name != "_") = true then (fs.toList.mapM fun f => P.keyLits d f.type ((cs.drop f.offset).take (P.cellsOf f.type))).map List.flatten else none := by
  simp only [Program.keyLits, h]
theorem keyLits_string (P : Program) (d : Nat) (t : TypeId) (s : ByteArray) (h : P.underlying t = some .string) (hs : s.size ≤ maxLen) : P.keyLits (d + 1) t [.string s] = some [.string s.data.toList] := by
  simp only [Program.keyLits, h, hs, if_true]
theorem key_of (t : Tg) (hz : tz t) : keyOf Tryd.prog 87 (.agg (tgv t)) = some (klT t) := by
  obtain ⟨a, p⟩ := t
  have h1 : a.size ≤ maxLen := by have := hz.1; simp only at this; unfold maxLen; omega
  have h2 : p.size ≤ maxLen := by have := hz.2; simp only at this; unfold maxLen; omega
  unfold keyOf
  rw [Tryd.underlying87]
  have hf : (Tryd.prog.keyType 87 && (Value.agg (tgv (a, p))).formed Tryd.prog 87) = true := by kernel_rfl
  have ht : Tryd.prog.types.size + 1 = 180 + 1 + 1 := by kernel_rfl
  have hc87 : Tryd.prog.cellsOf 87 = 2 := by kernel_rfl
  have hc9 : Tryd.prog.cellsOf 9 = 1 := by kernel_rfl
  simp only [hf, if_true]
  rw [ht]
  rw [keyLits_struct _ _ _ _ _ Tryd.underlying87]
  have hcl : (Value.agg (tgv (a, p))).cells.toList = [.string a, .string p] := by first | rfl | simp [tgv, Value.cells]
  rw [hcl, hc87, if_pos ⟨rfl, by kernel_rfl⟩]
  have k1 := keyLits_string Tryd.prog 180 9 a Tryd.underlying9 h1
  have k2 := keyLits_string Tryd.prog 180 9 p Tryd.underlying9 h2
  simp only [List.mapM_cons, List.mapM_nil, hc9, List.drop_zero, List.drop_succ_cons, List.take_succ_cons, List.take_zero]
  rw [k1, k2]
  rfl
theorem klT_inj {t u : Tg} (ht : tz t) (hu : tz u) (h : klT t = klT u) : t = u := by
  have := KT.inj (key_of t ht) (by rw [h]; exact key_of u hu)
  obtain ⟨a, p⟩ := t
  obtain ⟨b, q⟩ := u
  simp [tgv] at this
  rw [this.1, this.2]
theorem klT_key {t : Tg} (ht : tz t) : WideAt.IsKeyLit (klT t) := KT.key (key_of t ht)

/-- an element is told as it is -/
def hd (v : Value) : Option (DataW Value × List MemPlace) := some (.held v, [])
end Go.Proofs.YtacboeeimnikdaaDoor
