/- read: where the pseudo fields stand. -/
import Derived.Test.YtcadlpmopplkeaaDoorA8
import Derived.Maps.Own
import Derived.Maps.OwnOps
import Derived.Maps.OwnSet
namespace Go.Proofs.YtcadlpmopplkeaaDoor
open Go.RowKit Go.Maps
set_option linter.unusedVariables false
set_option linter.unusedSimpArgs false

/-- the place of a name among the first k fields: the last one -/
def plc (l : List Fd) : Nat → ByteArray → Option Nat
  | 0, _ => none
  | k + 1, s => if ((l[k]?).map (fun f => decide (f.n.data.toList = s.data.toList))) = some true then some k else plc l k s
theorem plc_lt {l : List Fd} {s : ByteArray} : ∀ {k i : Nat}, plc l k s = some i → i < k
  | 0, i, h => by cases h
  | k + 1, i, h => by
    unfold plc at h
    split at h
    · cases h; omega
    · have := plc_lt h; omega
theorem plc_succ {l : List Fd} {k : Nat} (hk : k < l.length) (s : ByteArray) : plc l (k + 1) s = if l[k].n.data.toList = s.data.toList then some k else plc l k s := by
  conv => lhs; unfold plc
  rw [List.getElem?_eq_getElem hk]
  simp only [Option.map_some, Option.some.injEq, decide_eq_true_eq]

/-- what a map of places tells -/
structure Mp (wr : World) (b : Nat) (l : List Fd) (k : Nat) : Prop where
  ex : ∃ (n : Nat) (D : DataW Unit), wr.ownsMap Tryd.prog 9 (plainElem Tryd.prog 3) b n D ∧ n ≤ k ∧ ∀ s z, D.atKey (.string s) z = match plc l k ⟨s.toArray⟩ with | some i => .lit (.int .i64 (i : Int)) | none => z
theorem law9 : Keyed Tryd.prog 9 := string_keyed Tryd.underlying9
theorem zero3 (w : World) : (zeroValue 3).run Tryd.prog w = .ok (.int .i64 0) w := by kernel_rfl
theorem Mp.start (w : World) (l : List Fd) : Mp (w.alloc (.map #[] 0)) w.heap.size l 0 := ⟨0, .map [], World.ownsMap_made w _ _ _, Nat.le_refl _, fun s z => rfl⟩
theorem Mp.lt {wr : World} {b : Nat} {l : List Fd} {k : Nat} (h : Mp wr b l k) : b < wr.heap.size := by obtain ⟨n, D, h1, _⟩ := h.ex; exact h1.lt
theorem Mp.stays {wr w' : World} {b : Nat} {l : List Fd} {k : Nat} (h : Mp wr b l k) (hb : w'.heap[b]? = wr.heap[b]?) : Mp w' b l k := by
  obtain ⟨n, D, h1, h2⟩ := h.ex
  obtain ⟨es, clock, h3, h4⟩ := h1
  exact ⟨n, D, ⟨es, clock, hb.trans h3, h4⟩, h2⟩
theorem Mp.below {wr w' : World} {b : Nat} {l : List Fd} {k : Nat} (h : Mp wr b l k) (hb : Below wr.heap.size wr w') : Mp w' b l k := h.stays (hb.block b h.lt)
theorem arr_list (s : ByteArray) : (⟨s.data.toList.toArray⟩ : ByteArray) = s := by cases s; simp
theorem Mp.find {wr : World} {b : Nat} {l : List Fd} {k : Nat} (h : Mp wr b l k) (s : ByteArray) (hs : s.size ≤ maxLen) : (Instr.lookup 128 (.map (some b)) (.string s) true).run Tryd.prog wr = .ok (.tuple #[.int .i64 (((plc l k s).getD 0 : Nat) : Int), .bool (plc l k s).isSome]) wr := by
  obtain ⟨n, D, h1, h2, h3⟩ := h.ex
  have h3' := h3 s.data.toList
  rw [arr_list] at h3'
  obtain ⟨v, ps, e1, e2⟩ := h1.look_ok law9 Tryd.underlying128 (zero3 wr) (plainElem_int (H := Unit) Tryd.underlying3 (q := .i64) (a := 0) (by decide)) (WideMaps.keyOf_string_mk Tryd.underlying9 hs)
  rw [e1]
  obtain ⟨c, rfl, hc, hwc⟩ := plainElem_int_inv Tryd.underlying3 e2
  simp only [Prod.mk.injEq] at hc
  rw [h3'] at hc
  cases hp : plc l k s with
  | none =>
    rw [hp] at hc h3'
    simp at hc
    rw [← hc.1, has_false_of_atKey h3']
    rfl
  | some i =>
    rw [hp] at hc h3'
    simp at hc
    rw [← hc.1, has_true_of_atKey h3']
    rfl
theorem Mp.put {wr w' : World} {b : Nat} {l : List Fd} {k n : Nat} {D : DataW Unit} (hk : k < l.length) (h1 : wr.ownsMap Tryd.prog 9 (plainElem Tryd.prog 3) b n D) (h2 : n ≤ k) (h3 : ∀ s z, D.atKey (.string s) z = match plc l k ⟨s.toArray⟩ with | some i => .lit (.int .i64 (i : Int)) | none => z)
    (h4 : w'.ownsMap Tryd.prog 9 (plainElem Tryd.prog 3) b (n + 1) (D.put (.string l[k].n.data.toList) (.lit (.int .i64 (k : Int))))) : Mp w' b l (k + 1) := by
  refine ⟨n + 1, _, h4, by omega, fun s z => ?_⟩
  rw [plc_succ hk]
  by_cases he : l[k].n.data.toList = s
  · subst he
    rw [atKey_put_same h1.isMap (by trivial), if_pos (by simp)]
  · rw [atKey_put_other (fun e => he (by injection e with e; exact e.symm)), h3, if_neg (by simpa using he)]
end Go.Proofs.YtcadlpmopplkeaaDoor
