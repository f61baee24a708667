/- The document's table in memory; its small functions. -/
import Derived.Test.YtaaocgppniflcaaK6
namespace Go.Proofs.Ytaaocgppniflcaa
open Go.RowKit Go.Maps
set_option linter.unusedVariables false
set_option linter.unusedSimpArgs false

/-- a stream that was born: its number, its state, cut or not -/
abbrev O1 := Int × Int × Bool
def E1 : El O1 := ⟨69, 77, 3, 24, fun x => [.int .i64 x.1, .int .i64 x.2.1, .bool x.2.2]⟩
theorem ok1 : E1.Ok := ⟨Try.underlying69, by kernel_rfl, by decide, by decide, fun _ => rfl, fun a u hu => by
  simp only [E1, List.mem_cons, List.not_mem_nil, or_false] at hu
  rcases hu with rfl | rfl | rfl <;> rfl⟩
theorem In.one {w : World} {v : Value} {l : List O1} (h : In E1 w v l) (k : Nat) (hk : k < l.length) : ∃ B off cap, v = .slice (some ⟨B, off, none⟩) l.length cap ∧ B < w.heap.size ∧ w.cell? ⟨B, off + k * 3, none⟩ = some (.int .i64 l[k].1) ∧ w.cell? ⟨B, off + k * 3 + 1, none⟩ = some (.int .i64 l[k].2.1) ∧ w.cell? ⟨B, off + k * 3 + 2, none⟩ = some (.bool l[k].2.2) := by
  obtain ⟨B, off, cap, h1, h2, h3⟩ := h.get ok1 k hk
  exact ⟨B, off, cap, h1, h2, h3 0 _ rfl, h3 1 _ rfl, h3 2 _ rfl⟩
/-- the document's table: its block, its row -/
structure RT (w : World) (p : Nat) (c : Bool) (v : Value) (l : List O1) : Prop where
  blk : w.heap[p]? = some (.cells #[.bool c, v] 71)
  row : R E1 w v l
theorem RT.lt {w : World} {p : Nat} {c : Bool} {v : Value} {l : List O1} (h : RT w p c v l) : p < w.heap.size := heap_lt h.blk
theorem RT.below {w w' : World} {p : Nat} {c : Bool} {v : Value} {l : List O1} (h : RT w p c v l) (hB : Below w.heap.size w w') : RT w' p c v l := ⟨(hB.block _ h.lt).trans h.blk, h.row.below hB⟩
def findS (l : List O1) (id : Int) : Int := match l.findIdx? (fun x => x.1 == id) with | some i => (i : Int) | none => -1

set_option maxRecDepth 100000 in
set_option maxHeartbeats 1000000 in
theorem rnew_any (c : Bool) (w : World) : Calls Try.prog 22 #[.bool c] w fun e w' => e = .returned (.pointer (some ⟨w.heap.size, 0, none⟩)) ∧ RT w' w.heap.size c (.slice none 0 0) [] ∧ Below w.heap.size w w' := by
  go_enter Try.func22, Try.ntmps22
  go_wp2
  go_ret
  exact ⟨rfl, ⟨heap_alloc_new _ _, R.nil E1 _⟩, bel1 _ _⟩

set_option maxRecDepth 100000 in
set_option maxHeartbeats 2000000 in
theorem find_any (w : World) (p : Nat) (c : Bool) (v : Value) (l : List O1) (id : Int) (h : RT w p c v l) : Calls Try.prog 41 #[.pointer (some ⟨p, 0, none⟩), .int .i64 id] w fun e w' => e = .returned (.int .i64 (findS l id)) ∧ w' = w := by
  have c0 := cell_blk h.blk 0
  have c1 := cell_blk h.blk 1
  have hp := h.lt
  simp only [List.getElem?_toArray, List.getElem?_cons_zero, List.getElem?_cons_succ] at c0 c1
  have HR : Hid (R E1 w v l) := h.row
  obtain ⟨vb, vc, rfl, hv1, hv2⟩ := h.row.slice
  clear h
  obtain ⟨n, hn⟩ : ∃ n, l.length = n := ⟨_, rfl⟩
  have HN : Hid (l.length = n) := hn
  rw [hn] at HR hv1 c1
  clear hn
  obtain ⟨r, hr⟩ : ∃ r, findS l id = r := ⟨_, rfl⟩
  have HF : Hid (findS l id = r) := hr
  rw [hr]
  clear hr
  go_enter Try.func41, Try.ntmps41
  go_wp2
  go_loopw [5] (fun x wr => ∃ k : Nat, k ≤ n ∧ x = .int .i64 (k : Int) ∧ wr = w ∧ Hid (∀ i (hi : i < k) (hl : i < l.length), l[i].1 ≠ id)) (fun x _ => n - (intOf x).toNat)
  case atStart => exact ⟨0, by omega, rfl, rfl, fun i hi _ => by omega⟩
  case round =>
    obtain ⟨k, hk, hi, hw, hno⟩ := hrel
    subst hi hw
    by_cases hlt : k < n
    · have hl := HN.out
      obtain ⟨B, off, cap, e, hBl, d0, d1, d2⟩ := HR.out.isIn.one k (by omega)
      injection e with e1 e2 e3
      subst e1
      clear e2 e3
      have hfi : l[k]'(by omega) = l[k]'(by omega) := rfl
      obtain ⟨y, hy⟩ : ∃ y, (l[k]'(by omega)).1 = y := ⟨_, rfl⟩
      rw [hy] at d0
      have HY : Hid (∀ hk' : k < l.length, l[k].1 = y) := fun _ => hy
      clear hy hl d1 d2 hfi
      by_cases hxy : y = id
      · subst hxy
        have hr : r = (k : Int) := by
          rw [← HF.out]
          unfold findS
          have : l.findIdx? (fun x => x.1 == y) = some k := by
            rw [List.findIdx?_eq_some_iff_getElem]
            refine ⟨by have := HN.out; omega, by simp [HY.out (by have := HN.out; omega)], fun j hj => ?_⟩
            have := hno.out j hj (by have := HN.out; omega)
            simpa using this
          rw [this]
        subst hr
        clear HY
        go_wp2
        go_ret
        exact ⟨rfl, rfl⟩
      · have e1 : (y == id) = false := beq_eq_false_iff_ne.2 hxy
        have HX : Hid (¬ y = id) := hxy
        clear hxy
        go_wp2_with fail
        go_roundw
        case rel =>
          refine ⟨k + 1, by omega, by simp, by first | rfl | trivial, fun i hi hl => ?_⟩
          by_cases hik : i = k
          · subst hik
            rw [HY.out hl]
            exact HX.out
          · exact hno.out i (by omega) hl
        case measure => simp [intOf]; omega
    · obtain rfl : k = n := by omega
      have hr : r = -1 := by
        rw [← HF.out]
        unfold findS
        have : l.findIdx? (fun x => x.1 == id) = none := by
          rw [List.findIdx?_eq_none_iff]
          intro x hx
          obtain ⟨i, hi, rfl⟩ := List.getElem_of_mem hx
          have := hno.out i (by have := HN.out; omega) hi
          simpa using this
        rw [this]
      subst hr
      go_wp2
      go_ret
      exact ⟨rfl, rfl⟩

/-- the greatest born of the kind that id is -/
def topS (l : List O1) (r : Int) : Int := l.foldl (fun n x => if (x.1.tmod 2 == r) = true then max n x.1 else n) 0
set_option maxRecDepth 100000 in
set_option maxHeartbeats 2000000 in
theorem top_any (w : World) (p : Nat) (c : Bool) (v : Value) (l : List O1) (id : Int) (h : RT w p c v l) : Calls Try.prog 42 #[.pointer (some ⟨p, 0, none⟩), .int .i64 id] w fun e w' => e = .returned (.int .i64 (topS l (id.tmod 2))) ∧ w' = w := by
  have c0 := cell_blk h.blk 0
  have c1 := cell_blk h.blk 1
  have hp := h.lt
  simp only [List.getElem?_toArray, List.getElem?_cons_zero, List.getElem?_cons_succ] at c0 c1
  have HR : Hid (R E1 w v l) := h.row
  obtain ⟨vb, vc, rfl, hv1, hv2⟩ := h.row.slice
  clear h
  obtain ⟨n, hn⟩ : ∃ n, l.length = n := ⟨_, rfl⟩
  have HN : Hid (l.length = n) := hn
  rw [hn] at HR hv1 c1
  clear hn
  obtain ⟨r, hr⟩ : ∃ r, topS l (id.tmod 2) = r := ⟨_, rfl⟩
  have HF : Hid (topS l (id.tmod 2) = r) := hr
  rw [hr]
  clear hr
  go_enter Try.func42, Try.ntmps42
  go_wp2
  go_loopw [5, 6] (fun a x wr => ∃ (k : Nat) (m : Int), k ≤ n ∧ x = .int .i64 (k : Int) ∧ a = .int .i64 m ∧ wr = w ∧ Hid (topS (l.take k) (id.tmod 2) = m)) (fun _ x _ => n - (intOf x).toNat)
  case atStart => exact ⟨0, 0, by omega, rfl, rfl, rfl, by show topS (l.take 0) _ = 0; rfl⟩
  case round =>
    obtain ⟨k, m, hk, hi, ha, hw, hm⟩ := hrel
    subst hi ha hw
    by_cases hlt : k < n
    · have hl := HN.out
      obtain ⟨B, off, cap, e, hBl, d0, d1, d2⟩ := HR.out.isIn.one k (by omega)
      injection e with e1 e2 e3
      subst e1
      clear e2 e3
      have hst : topS (l.take (k + 1)) (id.tmod 2) = if ((l[k]'(by omega)).1.tmod 2 == id.tmod 2) = true then max m (l[k]'(by omega)).1 else m := by
        rw [List.take_succ_eq_append_getElem (by omega)]
        unfold topS
        rw [List.foldl_append]
        have := hm.out
        unfold topS at this
        rw [this]
        rfl
      obtain ⟨y, hy⟩ : ∃ y, (l[k]'(by omega)).1 = y := ⟨_, rfl⟩
      rw [hy] at d0 hst
      have HST : Hid _ := hst
      clear hy hl d1 d2 hst
      cases e1 : (y.tmod 2 == id.tmod 2)
      · go_wp2_with fail
        go_roundw
        case rel => exact ⟨k + 1, m, by omega, by simp, by first | rfl | trivial, by first | rfl | trivial, HST.out.trans (by rw [if_neg (by rw [e1]; decide)])⟩
        case measure => simp [intOf]; omega
      · go_wp2_with fail
        go_roundw
        case rel => exact ⟨k + 1, max m y, by omega, by simp, by first | rfl | trivial, by first | rfl | trivial, HST.out.trans (by rw [if_pos e1])⟩
        case measure => simp [intOf]; omega
    · obtain rfl : k = n := by omega
      have hr : r = m := by
        rw [← hm.out, ← HF.out, List.take_of_length_le (by rw [HN.out]; exact Nat.le_refl _)]
      subst hr
      go_wp2
      go_ret
      exact ⟨rfl, rfl⟩
end Go.Proofs.Ytaaocgppniflcaa
