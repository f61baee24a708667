/- A table in memory; the small functions. -/
import Derived.Test.YtaaocgppniflcaaS
import Derived.Maps.Own
import Derived.Maps.OwnOps
import Derived.Maps.OwnSet
import Derived.Maps.RangeWalk
import Derived.Deep.RegionHeld3
import Derived.Deep.RegionWith
import Derived.Deep.QuietTactic
import Derived.BigQuiet
namespace Go.Proofs.Ytaaocgppniflcaa
open Go.RowKit Go.Maps
set_option linter.unusedVariables false
set_option linter.unusedSimpArgs false

def mD (L : Mp) : DataW Unit := .map (L.map fun p => (.int .i64 p.1, .lit (.int .i64 p.2)))
theorem same_int (a b : Int) : (Lit.int .i64 a).sameKey (.int .i64 b) = (a == b) := by
  simp only [Lit.sameKey, true_and]
  by_cases h : a = b <;> simp [h]
theorem filter_mD (L : Mp) (k : Int) : ((L.map fun p => ((Lit.int .i64 p.1, (DataW.lit (.int .i64 p.2) : DataW Unit)))).filter fun p => !p.1.sameKey (.int .i64 k)) = (dele L k).map fun p => (.int .i64 p.1, .lit (.int .i64 p.2)) := by
  unfold dele
  rw [List.filter_map]
  congr 1
  exact List.filter_congr fun p _ => by simp [same_int]
theorem insert_mD (k v : Int) : ∀ L : Mp, DataW.insert (.int .i64 k, (.lit (.int .i64 v) : DataW Unit)) (L.map fun p => (.int .i64 p.1, .lit (.int .i64 p.2))) = (ins k v L).map fun p => (.int .i64 p.1, .lit (.int .i64 p.2))
  | [] => rfl
  | y :: r => by
    simp only [List.map_cons, DataW.insert, ins, Lit.before, decide_eq_true_eq]
    split
    · rfl
    · simp only [List.map_cons]
      rw [insert_mD k v r]
theorem put_mD (L : Mp) (k v : Int) : (mD L).put (.int .i64 k) (.lit (.int .i64 v)) = mD (putm L k v) := by
  unfold mD putm DataW.put
  simp only
  rw [filter_mD, insert_mD]
theorem del_mD (L : Mp) (k : Int) : (mD L).del (.int .i64 k) = mD (dele L k) := by
  unfold mD DataW.del
  simp only
  rw [filter_mD]
theorem at_mD (L : Mp) (k : Int) (z : DataW Unit) : (mD L).atKey (.int .i64 k) z = match look L k with | some v => .lit (.int .i64 v) | none => z := by
  unfold mD DataW.atKey look
  simp only
  rw [List.find?_map]
  have : ((fun p : Lit × DataW Unit => p.1.sameKey (.int .i64 k)) ∘ fun p : Int × Int => (Lit.int .i64 p.1, (DataW.lit (.int .i64 p.2) : DataW Unit))) = fun p => p.1 == k := by
    funext p
    simp [same_int]
  rw [this]
  cases L.find? (fun p => p.1 == k) <;> rfl
theorem has_mD (L : Mp) (k : Int) : Maps.has (mD L) (.int .i64 k) = (look L k).isSome := by
  cases h : look L k with
  | none =>
    refine Maps.has_false_of_atKey fun z => ?_
    rw [at_mD, h]
  | some v =>
    refine Maps.has_true_of_atKey (y := .lit (.int .i64 v)) fun z => ?_
    rw [at_mD, h]
theorem size_mD (L : Mp) : Maps.size (mD L) = L.length := by simp [mD, Maps.size]

theorem law2 : Keyed Try.prog 2 := int_keyed Try.underlying2
theorem zero3 (w : World) : (zeroValue 3).run Try.prog w = .ok (.int .i64 0) w := by kernel_rfl

/-- a table in memory: its block, and its map's -/
structure TI (w : World) (p b : Nat) (T : Tb) : Prop where
  blk : w.heap[p]? = some (.cells #[.bool T.cl, .int .i64 T.lo, .int .i64 T.lt, .map (some b)] 61)
  mp : w.ownsMap Try.prog 2 (plainElem Try.prog 3) b T.L.length (mD T.L)
  ok : T.Ok
theorem TI.lt {w : World} {p b : Nat} {T : Tb} (h : TI w p b T) : p < w.heap.size := heap_lt h.blk
theorem TI.mlt {w : World} {p b : Nat} {T : Tb} (h : TI w p b T) : b < w.heap.size := h.mp.lt
theorem TI.ne {w : World} {p b : Nat} {T : Tb} (h : TI w p b T) : p ≠ b := by
  intro e
  obtain ⟨es, clock, hb, _⟩ := h.mp
  rw [← e, h.blk] at hb
  cases hb
theorem TI.stays {w w' : World} {p b : Nat} {T : Tb} (h : TI w p b T) (hp : w'.heap[p]? = w.heap[p]?) (hb : w'.heap[b]? = w.heap[b]?) : TI w' p b T := by
  refine ⟨hp.trans h.blk, ?_, h.ok⟩
  obtain ⟨es, clock, h1, h2⟩ := h.mp
  exact ⟨es, clock, hb.trans h1, h2⟩
theorem TI.below {w w' : World} {p b : Nat} {T : Tb} (h : TI w p b T) (hB : Below w.heap.size w w') : TI w' p b T := h.stays (hB.block _ h.lt) (hB.block _ h.mlt)
theorem TI.al {w : World} {p b : Nat} {T : Tb} (h : TI w p b T) (o : Obj) : TI (w.alloc o) p b T := h.below (bel1 w o)
theorem TI.cells {w : World} {p b : Nat} {T : Tb} (h : TI w p b T) : w.cell? ⟨p, 0, none⟩ = some (.bool T.cl) ∧ w.cell? ⟨p, 1, none⟩ = some (.int .i64 T.lo) ∧ w.cell? ⟨p, 2, none⟩ = some (.int .i64 T.lt) ∧ w.cell? ⟨p, 3, none⟩ = some (.map (some b)) ∧ p < w.heap.size :=
  ⟨cell_blk h.blk 0, cell_blk h.blk 1, cell_blk h.blk 2, cell_blk h.blk 3, h.lt⟩

set_option maxRecDepth 100000 in
set_option maxHeartbeats 1000000 in
theorem isOdd_any (id : Int) (w : World) : Calls Try.prog 49 #[.int .i64 id] w fun e w' => e = .returned (.bool (odd id)) ∧ w' = w := by
  unfold odd
  go_enter Try.func49, Try.ntmps49
  go_wp2
  go_ret
  exact ⟨rfl, rfl⟩
set_option maxRecDepth 100000 in
set_option maxHeartbeats 1000000 in
theorem isStream_any (id : Int) (w : World) : Calls Try.prog 30 #[.int .i64 id] w fun e w' => e = .returned (.bool (isStr id)) ∧ w' = w := by
  unfold isStr
  by_cases h1 : 1 ≤ id
  · by_cases h2 : id ≤ 2147483647
    · rw [decide_eq_true h1, decide_eq_true h2]
      have e1 : decide (1 ≤ id) = true := decide_eq_true h1
      have e2 : decide (id ≤ 2147483647) = true := decide_eq_true h2
      go_enter Try.func30, Try.ntmps30
      go_wp2
      go_ret
      exact ⟨rfl, rfl⟩
    · rw [decide_eq_true h1, decide_eq_false h2]
      have e1 : decide (1 ≤ id) = true := decide_eq_true h1
      have e2 : decide (id ≤ 2147483647) = false := decide_eq_false h2
      go_enter Try.func30, Try.ntmps30
      go_wp2
      go_ret
      exact ⟨rfl, rfl⟩
  · rw [decide_eq_false h1]
    have e1 : decide (1 ≤ id) = false := decide_eq_false h1
    go_enter Try.func30, Try.ntmps30
    go_wp2
    go_ret
    exact ⟨rfl, rfl⟩
set_option maxRecDepth 100000 in
set_option maxHeartbeats 1000000 in
theorem isKind_any (k : Int) (w : World) : Calls Try.prog 32 #[.int .i64 k] w fun e w' => e = .returned (.bool (isK k)) ∧ w' = w := by
  unfold isK
  by_cases h1 : 1 ≤ k
  · by_cases h2 : k ≤ 8
    · rw [decide_eq_true h1, decide_eq_true h2]
      have e1 : decide (1 ≤ k) = true := decide_eq_true h1
      have e2 : decide (k ≤ 8) = true := decide_eq_true h2
      go_enter Try.func32, Try.ntmps32
      go_wp2
      go_ret
      exact ⟨rfl, rfl⟩
    · rw [decide_eq_true h1, decide_eq_false h2]
      have e1 : decide (1 ≤ k) = true := decide_eq_true h1
      have e2 : decide (k ≤ 8) = false := decide_eq_false h2
      go_enter Try.func32, Try.ntmps32
      go_wp2
      go_ret
      exact ⟨rfl, rfl⟩
  · rw [decide_eq_false h1]
    have e1 : decide (1 ≤ k) = false := decide_eq_false h1
    go_enter Try.func32, Try.ntmps32
    go_wp2
    go_ret
    exact ⟨rfl, rfl⟩
set_option maxRecDepth 100000 in
set_option maxHeartbeats 1000000 in
theorem isBirth_any (k : Int) (w : World) : Calls Try.prog 34 #[.int .i64 k] w fun e w' => e = .returned (.bool (isB k)) ∧ w' = w := by
  unfold isB
  cases e1 : (k == 1)
  · cases e2 : (k == 2)
    · go_enter Try.func34, Try.ntmps34
      go_wp2
      go_ret
      exact ⟨rfl, rfl⟩
    · go_enter Try.func34, Try.ntmps34
      go_wp2
      go_ret
      exact ⟨rfl, rfl⟩
  · go_enter Try.func34, Try.ntmps34
    go_wp2
    go_ret
    exact ⟨rfl, rfl⟩
set_option maxRecDepth 100000 in
set_option maxHeartbeats 1000000 in
theorem last_any (w : World) (p b : Nat) (T : Tb) (l : Bool) (h : TI w p b T) : Calls Try.prog 13 #[.pointer (some ⟨p, 0, none⟩), .bool l] w fun e w' => e = .returned (.int .i64 (T.last l)) ∧ w' = w := by
  obtain ⟨c0, c1, c2, c3, hp⟩ := h.cells
  clear h
  cases l
  · go_enter Try.func13, Try.ntmps13
    go_wp2
    go_ret
    exact ⟨rfl, rfl⟩
  · go_enter Try.func13, Try.ntmps13
    go_wp2
    go_ret
    exact ⟨rfl, rfl⟩
set_option maxRecDepth 100000 in
set_option maxHeartbeats 1000000 in
theorem isOurs_any (w : World) (p b : Nat) (T : Tb) (id : Int) (h : TI w p b T) : Calls Try.prog 31 #[.pointer (some ⟨p, 0, none⟩), .int .i64 id] w fun e w' => e = .returned (.bool (T.ours id)) ∧ Below w.heap.size w w' := by
  obtain ⟨c0, c1, c2, c3, hp⟩ := h.cells
  clear h
  unfold Tb.ours
  go_enter Try.func31, Try.ntmps31
  go_wp2
  go_quiet (first | (go_at_call 49; refine Calls.quiet_of_same (isOdd_any id _)))
  go_wp2
  go_ret
  exact ⟨rfl, rfl, rfl, rfl, Nat.le_refl _, fun _ _ => rfl⟩
end Go.Proofs.Ytaaocgppniflcaa
