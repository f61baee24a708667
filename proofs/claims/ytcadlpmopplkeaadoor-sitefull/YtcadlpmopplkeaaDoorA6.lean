/- strings.IndexAny of any text, at chars of ASCII bytes. -/
import Derived.Test.YtcadlpmopplkeaaDoorA5
import Derived.Shelf.Strings.SlTrimAscii
namespace Go.Proofs.YtcadlpmopplkeaaDoor
open Go.RowKit
open Go.Shelf
set_option linter.unusedVariables false
set_option linter.unusedSimpArgs false

set_option maxHeartbeats 4000000 in
theorem decode_cont (s : ByteArray) (pos : Nat) (h : pos < s.size) (ha : 128 ≤ (s[pos]'h).toNat) (j : Nat) (h0 : 0 < j) (h1 : j < (Utf8.decode s pos).2) : 128 ≤ (s.get! (pos + j)).toNat := by
  have hn : ¬ (s[pos]'h).toNat < 128 := by omega
  revert h1
  simp only [Utf8.decode, get_at s pos h, hn, if_false]
  repeat' split
  all_goals
    intro h1
    simp only at h1
    first
      | omega
      | (have hj : j = 1 ∨ j = 2 ∨ j = 3 := by omega
         rcases hj with rfl | rfl | rfl <;> simp_all <;> omega)

/-- the iterator in block b set -/
def setIt (W : World) (b : Nat) (s : ByteArray) (p : Nat) : World := { W with heap := W.heap.setIfInBounds b (.stringIter s p) }
theorem next_at (W : World) (b : Nat) (s : ByteArray) (pos : Nat) (ty : TypeId) (hb : W.heap[b]? = some (.stringIter s pos)) (h : pos < s.size) :
    (Instr.next (.pointer (some ⟨b, 0, none⟩)) true ty).run Tryd.prog W = .ok (.tuple #[.bool true, .int .i64 (pos : Int), .int .i32 ((Utf8.decode s pos).1 : Int)]) (setIt W b s (pos + (Utf8.decode s pos).2)) := by
  simp only [Instr.next, getObj, setObj, Sem.run_bind, Sem.run, hb, Result.andThen, h, if_true]
  simp [goInt, setIt]
theorem next_at_end (W : World) (b : Nat) (s : ByteArray) (pos : Nat) (ty : TypeId) (hb : W.heap[b]? = some (.stringIter s pos)) (h : ¬ pos < s.size) :
    (Instr.next (.pointer (some ⟨b, 0, none⟩)) true ty).run Tryd.prog W = .ok (.tuple #[.bool false]) W := by
  simp [Instr.next, getObj, Sem.run, hb, h]
/-- an iterator over s at i, made since w -/
structure It (w : World) (s : ByteArray) (i : Nat) (W : World) : Prop where
  at' : W.heap[w.heap.size]? = some (.stringIter s i)
  bel : Below w.heap.size w W
theorem It.start (w : World) (s : ByteArray) : It w s 0 (w.iter s 0) := ⟨World.iter_heap _ _ _, iter_bel _ _ _⟩
theorem It.step {w W : World} {s : ByteArray} {i : Nat} (h : It w s i W) (k : Nat) : It w s k (setIt W w.heap.size s k) := by
  have hl := heap_lt h.at'
  refine ⟨?_, h.bel.trans ⟨rfl, rfl, rfl, by simp [setIt], fun j hj => ?_⟩⟩
  · simp [setIt, Array.getElem?_setIfInBounds, hl]
  · simp [setIt, Array.getElem?_setIfInBounds, show w.heap.size ≠ j by omega]
theorem It.below {w W W' : World} {s : ByteArray} {i : Nat} (h : It w s i W) (hb : Below W.heap.size W W') : It w s i W' :=
  ⟨(hb.block _ (heap_lt h.at')).trans h.at', h.bel.trans (hb.mono h.bel.size)⟩

theorem contains_high {l : List UInt8} (h : ∀ b ∈ l, b.toNat < 128) {x : UInt8} (hx : 128 ≤ x.toNat) : l.contains x = false := by
  cases e : l.contains x
  · rfl
  · have := h x (by simpa using e)
    omega
theorem asc_mem {s : ByteArray} (h : Asc s) : ∀ b ∈ s.data.toList, b.toNat < 128 := fun b hb => by
  obtain ⟨j, hj, e⟩ := List.getElem_of_mem hb
  rw [← e]
  exact h j (by simpa using hj)
theorem asc_get {s : ByteArray} (h : Asc s) : ∀ (j : Nat) b, s.data.toList[j]? = some b → b.toNat < 128 := fun j b hb => asc_mem h b (List.mem_of_getElem? hb)
theorem get_bang {s : ByteArray} {j : Nat} {b : UInt8} (h : s.data.toList[j]? = some b) : s.get! j = b := by
  have hj : j < s.data.toList.length := (List.getElem?_eq_some_iff.1 h).1
  have hj' : j < s.size := by simpa using hj
  have : s.get! j = s[j]'hj' := by simpa using get_at s j hj'
  rw [this]
  rw [List.getElem?_eq_getElem hj] at h
  have := Option.some.inj h
  rw [← this]
  rfl

set_option maxHeartbeats 4000000 in
set_option maxRecDepth 100000 in
theorem indexAny_short (s chars : ByteArray) (w : World) (h2 : 2 ≤ chars.size) (hcz : chars.size ≤ 1000000) (ha : Asc chars) (h8 : s.size ≤ 8) :
    Calls Tryd.prog 100 #[.string s, .string chars] w fun e w' => e = .returned (.int .i64 (Lib.indexAny s.data.toList chars.data.toList)) ∧ Below w.heap.size w w' := by
  have HA : Hid (Asc chars) := ha
  have hemp : chars.toList.isEmpty = false := by
    rw [Lib.toList_data]
    cases h : chars.data.toList with
    | nil => have := Lib.size_eq chars; rw [h, List.length_nil] at this; omega
    | cons _ _ => rfl
  have hn1 : ((chars.size : Int) == 1) = false := beq_eq_false_iff_ne.2 (by omega)
  have h8z : decide ((8 : Int) < (s.size : Int)) = false := decide_eq_false (by omega)
  have hU : Hid (∀ W, Calls Tryd.prog 110 #[.int .i64 (s.size : Int)] W fun e w' => e = .returned (.bool false) ∧ w' = W) := fun W => by
    have := Tryd.strings_shouldUseASCIISet (s.size : Int) W
    rw [h8z] at this
    exact this
  clear ha h8z h8
  go_enter Tryd.func100, Tryd.ntmps100
  go_wp2_with (go_at_call 110; refine (hU.out _).mono ?_; rintro e w' ⟨rfl, hw⟩; rw [hw])
  go_loopg [9, 10] s.size (fun g _ _ wx => ∃ i : Nat, g = s.size - i ∧ Hid (i ≤ s.size → Lib.NoAny s.data.toList chars.data.toList i) ∧ Hid (s.size ≤ i → Lib.NoAny s.data.toList chars.data.toList s.size) ∧ Hid (It w s i wx))
  case atStart => exact ⟨0, by omega, fun _ => Lib.NoAny.zero _ _, fun h j b hj _ => absurd hj (by omega), It.start w s⟩
  case round =>
    obtain ⟨i, hig, hno, hno2, hit⟩ := hrel
    by_cases hi : i < s.size
    · obtain ⟨x, hx⟩ : ∃ x : UInt8, s[i]'hi = x := ⟨_, rfl⟩
      have hxl : s.data.toList[i]? = some x := by rw [← hx]; exact Lib.data_getElem? s i hi
      have hnx := fun ty => next_at wr w.heap.size s i ty hit.out.at' hi
      by_cases hx128 : x.toNat < 128
      · rw [decode_ascii s i hi (by rw [hx]; exact hx128), hx] at hnx
        simp only at hnx
        have Hx : Hid (s.data.toList[i]? = some x) := hxl
        have hstep : Hid (It w s (i + 1) (setIt wr w.heap.size s (i + 1))) := hit.out.step (i + 1)
        have hC : Hid (∀ W, Calls Tryd.prog 109 #[.string chars, .int .i32 (x.toNat : Int)] W fun e w' => e = .returned (.int .i64 (Lib.indexByte chars.data.toList x)) ∧ w' = W) := fun W => by
          have := Tryd.strings_IndexRune_ascii chars (x.toNat : Int) W (by omega) (by omega)
          rw [show ((x.toNat : Int)).toNat.toUInt8 = x by simp] at this
          exact this
        have hcon := Lib.contains_iff_indexByte chars.data.toList x
        clear hxl hx hit
        cases hin : chars.data.toList.contains x
        · rw [hin] at hcon
          have hlt : ¬ ((0 : Int) ≤ Lib.indexByte chars.data.toList x) := of_decide_eq_false hcon.symm
          have HIN : Hid (chars.data.toList.contains x = false) := hin
          clear hcon hin
          go_wp2_with (go_at_call 109; refine (hC.out _).mono ?_; rintro e w' ⟨rfl, hw⟩; rw [hw])
          go_roundg (s.size - (i + 1))
          case measure => omega
          case rel =>
            have := (hno.out (by omega)).succ Hx.out HIN.out
            exact ⟨i + 1, rfl, fun _ => this, fun h => by rw [show s.size = i + 1 by omega]; exact this, hstep.out⟩
        · rw [hin] at hcon
          have hge : (0 : Int) ≤ Lib.indexByte chars.data.toList x := of_decide_eq_true hcon.symm
          have HIN : Hid (chars.data.toList.contains x = true) := hin
          clear hcon hin
          go_wp2_with (go_at_call 109; refine (hC.out _).mono ?_; rintro e w' ⟨rfl, hw⟩; rw [hw])
          go_ret
          exact ⟨by rw [Lib.indexAny_hit (hno.out (by omega)) Hx.out HIN.out]; rfl, hstep.out.bel⟩
      · have hd := decode_high s i hi (by rw [hx]; omega)
        have hcont := fun j => decode_cont s i hi (by rw [hx]; omega) j
        obtain ⟨D, hD⟩ : ∃ D, Utf8.decode s i = D := ⟨_, rfl⟩
        rw [hD] at hnx hd hcont
        obtain ⟨r, k⟩ := D
        simp only at hnx hd hcont
        have hstep : Hid (It w s (i + k) (setIt wr w.heap.size s (i + k))) := hit.out.step (i + k)
        have hC : Hid (∀ W, Calls Tryd.prog 109 #[.string chars, .int .i32 (r : Int)] W fun e w' => e = .returned (.int .i64 (-1)) ∧ Below W.heap.size W w') := fun W => indexRune_high chars (r : Int) W (by have := hd.1; omega) HA.out hcz
        have hk1 : 1 ≤ k := hd.2
        have hnx2 : Hid (∀ j b, j < i + k → s.data.toList[j]? = some b → chars.data.toList.contains b = false) := fun j b hj hb => by
          by_cases h1 : j < i
          · exact hno.out (by omega) j b h1 hb
          · refine contains_high (asc_mem HA.out) ?_
            by_cases h3 : j = i
            · subst h3
              rw [hxl] at hb
              have := Option.some.inj hb
              rw [← this]
              omega
            · have := hcont (j - i) (by omega) (by omega)
              rw [show i + (j - i) = j by omega, get_bang hb] at this
              exact this
        clear hD hd hcont hxl hx hit hno hno2
        go_wp2_with (go_at_call 109; refine (hC.out _).mono ?_; rintro e w' ⟨rfl, hb⟩)
        go_roundg (s.size - (i + k))
        case measure => omega
        case rel => exact ⟨i + k, rfl, fun _ => hnx2.out, fun h j b hj hb' => hnx2.out j b (by omega) hb', hstep.out.below hb⟩
    · have hnx := fun ty => next_at_end wr w.heap.size s i ty hit.out.at' hi
      go_wp2_with fail
      go_ret
      exact ⟨by rw [Lib.indexAny_none (by rw [← Lib.size_eq]; exact hno2.out (by omega))]; rfl, hit.out.bel⟩
end Go.Proofs.YtcadlpmopplkeaaDoor
