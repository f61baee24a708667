/- The names of a response: which pieces are told. -/
import Derived.Test.YtfponcdhaefkdaaDoorB3
import Derived.Maps.Own
import Derived.Maps.OwnOps
import Derived.Maps.OwnSet
import Derived.Maps.OwnIn
namespace Go.Proofs.YtfponcdhaefkdaaDoor
open Go.RowKit Go.Shelf Go.Maps
set_option linter.unusedVariables false
set_option linter.unusedSimpArgs false

def noS : ByteArray := ⟨#[]⟩
def starS : ByteArray := ⟨#[42]⟩
def varyS : ByteArray := ⟨#[118, 97, 114, 121]⟩
/-- how often a piece stands there -/
def cnt (ps : List ByteArray) (p : ByteArray) : Nat := ps.countP fun x => decide (x = p)
/-- those that are told of the rest, behind those that stood -/
def nmG : List ByteArray → List ByteArray → List ByteArray
  | _, [] => []
  | seen, p :: r => (if cnt seen p ≠ 0 ∨ p = noS ∨ p = starS then [] else [p]) ++ nmG (seen ++ [p]) r
theorem nmG_app : ∀ (a b seen : List ByteArray), nmG seen (a ++ b) = nmG seen a ++ nmG (seen ++ a) b
  | [], b, seen => by simp [nmG]
  | p :: r, b, seen => by
    rw [List.cons_append, nmG, nmG, nmG_app r b, List.append_assoc, List.append_assoc]
    rfl
def nmL (ps : List ByteArray) : List ByteArray := nmG [] ps
theorem nmL_snoc (ps : List ByteArray) (p : ByteArray) : nmL (ps ++ [p]) = nmL ps ++ (if cnt ps p ≠ 0 ∨ p = noS ∨ p = starS then [] else [p]) := by
  unfold nmL
  rw [nmG_app]
  simp [nmG]
theorem nmG_len : ∀ (r seen : List ByteArray), (nmG seen r).length ≤ r.length
  | [], _ => Nat.le_refl _
  | p :: r, seen => by
    rw [nmG, List.length_append, List.length_cons]
    have := nmG_len r (seen ++ [p])
    split <;> simp <;> omega
theorem nmL_len (ps : List ByteArray) : (nmL ps).length ≤ ps.length := nmG_len ps []
/-- a piece as it is told -/
def pcS (x : ByteArray) : ByteArray := smS ⟨(Lib.trimS x.data.toList [32, 9]).toArray⟩
def allP (vs : List ByteArray) : List ByteArray := vs.flatMap fun v => (cutS v).map pcS
theorem allP_succ (vs : List ByteArray) (k : Nat) (h : k < vs.length) : allP (vs.take (k + 1)) = allP (vs.take k) ++ (cutS vs[k]).map pcS := by
  unfold allP
  rw [List.take_succ_eq_append_getElem h, List.flatMap_append]
  simp

theorem cnt_snoc (ps : List ByteArray) (p q : ByteArray) : cnt (ps ++ [p]) q = cnt ps q + (if p = q then 1 else 0) := by
  unfold cnt
  rw [List.countP_append]
  by_cases h : p = q <;> simp [h]
theorem cnt_le (ps : List ByteArray) (p : ByteArray) : cnt ps p ≤ ps.length := List.countP_le_length
theorem cnt_zero (ps : List ByteArray) (p : ByteArray) : cnt ps p = 0 ↔ p ∉ ps := by
  unfold cnt
  rw [List.countP_eq_zero]
  constructor
  · intro h hp
    exact h p hp (by simp)
  · intro h x hx e
    exact h (by have : x = p := by simpa using e
                rw [← this]; exact hx)
/-- how often each piece stood -/
structure Mc (wr : World) (b : Nat) (ps : List ByteArray) : Prop where
  ex : ∃ (n : Nat) (D : DataW Unit), wr.ownsMap Tryd.prog 9 (plainElem Tryd.prog 3) b n D ∧ n ≤ ps.length ∧ ∀ s z, D.atKey (.string s) z = if cnt ps ⟨s.toArray⟩ = 0 then z else .lit (.int .i64 (cnt ps ⟨s.toArray⟩ : Int))
theorem law9 : Keyed Tryd.prog 9 := string_keyed Tryd.underlying9
theorem zero3 (w : World) : (zeroValue 3).run Tryd.prog w = .ok (.int .i64 0) w := by kernel_rfl
theorem Mc.start (w : World) : Mc (w.alloc (.map #[] 0)) w.heap.size [] := ⟨0, .map [], World.ownsMap_made w _ _ _, Nat.le_refl _, fun s z => rfl⟩
theorem Mc.lt {wr : World} {b : Nat} {ps : List ByteArray} (h : Mc wr b ps) : b < wr.heap.size := by obtain ⟨n, D, h1, _⟩ := h.ex; exact h1.lt
theorem Mc.stays {wr w' : World} {b : Nat} {ps : List ByteArray} (h : Mc wr b ps) (hb : w'.heap[b]? = wr.heap[b]?) : Mc w' b ps := by
  obtain ⟨n, D, h1, h2⟩ := h.ex
  obtain ⟨es, clock, h3, h4⟩ := h1
  exact ⟨n, D, ⟨es, clock, hb.trans h3, h4⟩, h2⟩
theorem arr_list (s : ByteArray) : (⟨s.data.toList.toArray⟩ : ByteArray) = s := by cases s; simp
theorem Mc.find {wr : World} {b : Nat} {ps : List ByteArray} (h : Mc wr b ps) (s : ByteArray) (hs : s.size ≤ maxLen) : (Instr.lookup 72 (.map (some b)) (.string s) false).run Tryd.prog wr = .ok (.int .i64 (cnt ps s : Int)) wr := by
  obtain ⟨n, D, h1, h2, h3⟩ := h.ex
  have h3' := h3 s.data.toList
  rw [arr_list] at h3'
  obtain ⟨c, hrun, hat, hwc⟩ := h1.lookup_int law9 Tryd.underlying72 Tryd.underlying3 (zero3 wr) (WideMaps.keyOf_string_mk Tryd.underlying9 hs)
  rw [hrun]
  rw [h3'] at hat
  by_cases hc : cnt ps s = 0
  · rw [if_pos hc] at hat
    simp at hat
    rw [hc, ← hat]
    rfl
  · rw [if_neg hc] at hat
    simp at hat
    rw [hat]
set_option maxRecDepth 100000 in
theorem Mc.put {wr : World} {b : Nat} {ps : List ByteArray} (h : Mc wr b ps) (s : ByteArray) (hs : s.size ≤ maxLen) (hl : ps.length < 4611686018427387904) :
    ∃ w' u, (Instr.mapUpdate 72 (.map (some b)) (.string s) (.int .i64 ((cnt ps s : Int) + 1))).run Tryd.prog wr = .ok u w' ∧ Mc w' b (ps ++ [s]) ∧ wr.grownBy w' (some b) := by
  obtain ⟨n, D, h1, h2, h3⟩ := h.ex
  have hc := cnt_le ps s
  obtain ⟨w', hrun, r1, r2⟩ := h1.update law9 Tryd.underlying72 (by unfold maxLen; omega) (WideMaps.keyOf_string_mk Tryd.underlying9 hs) (plainElem_int (H := Unit) Tryd.underlying3 (q := .i64) (a := (cnt ps s : Int) + 1) (by simp [Lit.wf, IntKind.min, IntKind.max, IntKind.bits, IntKind.signed]; omega))
  refine ⟨w', _, hrun, ⟨n + 1, _, r1, by simp; omega, fun t z => ?_⟩, r2⟩
  rw [cnt_snoc]
  by_cases he : s.data.toList = t
  · subst he
    rw [atKey_put_same h1.isMap (by trivial), arr_list, if_pos rfl, if_neg (by omega)]
    rfl
  · have hne : s ≠ ⟨t.toArray⟩ := fun e => he (by rw [e])
    rw [atKey_put_other (fun e => he (by injection e with e; exact e.symm)), h3, if_neg hne, Nat.add_zero]
end Go.Proofs.YtfponcdhaefkdaaDoor
