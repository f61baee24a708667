/- Texts and targets that are right. -/
import Derived.Test.YtldnibkgdpeocaaM
import Derived.Laws.RangeAny
import Derived.Lib.Strings
import Derived.Deep.LoopGhost
import Derived.Shelf.Abstract
namespace Go.Proofs.Ytldnibkgdpeocaa
open Go.RowKit
open Go.Shelf
set_option linter.unusedVariables false
set_option linter.unusedSimpArgs false

def visB (r : Int) : Bool := decide (33 ≤ r) && decide (r ≤ 126)
/-- all bytes are of a kind -/
def allB (s : ByteArray) : Bool := s.data.toList.all fun x => visB (x.toNat : Int)
def consB (most : Int) (s : ByteArray) : Bool := decide (1 ≤ s.size) && decide ((s.size : Int) ≤ most) && allB s
/-- the first i bytes are of a kind -/
def frontB (s : ByteArray) (i : Nat) : Prop := ∀ j (h : j < s.size), j < i → visB ((s[j]'h).toNat : Int) = true
theorem frontB.all {s : ByteArray} (h : frontB s s.size) : allB s = true := by
  unfold allB
  rw [List.all_eq_true]
  intro x hx
  obtain ⟨j, hj, e⟩ := List.getElem_of_mem hx
  have hj' : j < s.size := by simpa using hj
  have := h j hj' hj'
  rw [← e]
  exact this
theorem all_false {s : ByteArray} {i : Nat} (hi : i < s.size) (h : visB ((s[i]'hi).toNat : Int) = false) : allB s = false := by
  cases e : allB s
  · rfl
  · unfold allB at e
    rw [List.all_eq_true] at e
    have := e (s[i]'hi) (by simp [ByteArray.getElem_eq_getElem_data])
    rw [h] at this
    exact absurd this (by simp)
theorem iter_bel (w : World) (s : ByteArray) (i : Nat) : Below w.heap.size w (w.iter s i) := bel1 w _

set_option maxHeartbeats 1000000 in
theorem isUnseen_any (r : Int) (w : World) : Calls Try.prog 42 #[.int .i32 r] w fun e w' => e = .returned (.bool (!visB r)) ∧ w' = w := by
  unfold visB
  by_cases h : 33 ≤ r
  · have h1 : ¬ r < 33 := by omega
    by_cases h2 : r ≤ 126
    · have h3 : ¬ 126 < r := by omega
      rw [decide_eq_true h, decide_eq_true h2]
      clear h h2
      go_enter Try.func42, Try.ntmps42
      go_wp2_with fail
      go_ret
      exact ⟨rfl, rfl⟩
    · have h3 : 126 < r := by omega
      rw [decide_eq_true h, decide_eq_false h2]
      clear h h2
      go_enter Try.func42, Try.ntmps42
      go_wp2_with fail
      go_ret
      exact ⟨rfl, rfl⟩
  · have h1 : r < 33 := by omega
    rw [decide_eq_false h]
    clear h
    go_enter Try.func42, Try.ntmps42
    go_wp2_with fail
    go_ret
    exact ⟨rfl, rfl⟩
theorem en42 : ∀ args W, (callFunc 42 args).run Try.prog W = .ok (.enter 42 args) W := enters_of Try.func42 (by kernel_rfl) rfl

set_option maxHeartbeats 4000000 in
set_option maxRecDepth 100000 in
theorem indexFunc_any (s : ByteArray) (w : World) :
    Calls Try.prog 44 #[.string s, .func (.func 42) #[] #[], .bool true] w fun e w' => ∃ n : Int, e = .returned (.int .i64 n) ∧ decide (0 ≤ n) = (!allB s) ∧ Below w.heap.size w w' := by
  have hen := en42
  go_enter Try.func44, Try.ntmps44
  go_wp2_with fail
  go_loopg [7, 8] s.size (fun g _ _ wx => ∃ i : Nat, i + g = s.size ∧ wx = w.iter s i ∧ Hid (frontB s i))
  case atStart => exact ⟨0, by omega, rfl, fun j _ h => absurd h (by omega)⟩
  case round =>
    obtain ⟨i, hig, rfl, hfr⟩ := hrel
    cases gk with
    | zero =>
      obtain rfl : i = s.size := by omega
      have hnx := run_next_end (P := Try.prog) w s s.size
      go_wp2_with fail
      go_ret
      exact ⟨-1, rfl, by rw [hfr.out.all]; rfl, iter_bel _ _ _⟩
    | succ g =>
      have hi : i < s.size := by omega
      obtain ⟨x, hx⟩ : ∃ x : UInt8, s[i]'hi = x := ⟨_, rfl⟩
      by_cases hx128 : x.toNat < 128
      · have hnx := fun ty => run_next_ascii (P := Try.prog) w s i ty hi (by rw [hx]; exact hx128)
        rw [hx] at hnx
        have HX : Hid (s[i]'hi = x) := hx
        clear hx
        have hC : Hid (∀ W, Calls Try.prog 42 #[.int .i32 (x.toNat : Int)] W fun e w' => e = .returned (.bool (!visB (x.toNat : Int))) ∧ w' = W) := fun W => isUnseen_any _ W
        cases hB : visB (x.toNat : Int)
        · rw [hB] at hC
          have hfa : Hid (allB s = false) := all_false hi (by rw [HX.out, hB])
          clear hB
          go_wp2_with fail
          refine (hC.out _).mono ?_
          rintro e w' ⟨rfl, hw⟩
          rw [hw]
          clear hw
          go_wp2_with fail
          go_ret
          exact ⟨(i : Int), rfl, by rw [hfa.out]; simp, iter_bel _ _ _⟩
        · rw [hB] at hC
          have HB : Hid (visB (x.toNat : Int) = true) := hB
          clear hB
          go_wp2_with fail
          refine (hC.out _).mono ?_
          rintro e w' ⟨rfl, hw⟩
          rw [hw]
          clear hw
          go_wp2_with fail
          go_roundg g
          case measure => omega
          case rel =>
            refine ⟨i + 1, by omega, rfl, fun j hj h => ?_⟩
            by_cases hji : j = i
            · subst hji
              rw [HX.out, HB.out]
            · exact hfr.out j hj (by omega)
      · have hd := decode_high s i hi (by rw [hx]; omega)
        have hnx := fun ty => run_next_any (P := Try.prog) w s i ty hi
        have hfa : Hid (allB s = false) := all_false hi (by rw [hx]; unfold visB; simp only [Bool.and_eq_false_iff, decide_eq_false_iff_not]; omega)
        clear hx
        obtain ⟨D, hD⟩ : ∃ D, Utf8.decode s i = D := ⟨_, rfl⟩
        rw [hD] at hnx hd
        obtain ⟨r, k⟩ := D
        simp only at hnx hd
        have hv : visB r = false := by unfold visB; simp only [Bool.and_eq_false_iff, decide_eq_false_iff_not]; omega
        have hC : Hid (∀ W, Calls Try.prog 42 #[.int .i32 r] W fun e w' => e = .returned (.bool true) ∧ w' = W) := fun W => by have := isUnseen_any r W; rw [hv] at this; exact this
        have hbi : Hid (Below w.heap.size w (w.iter s (i + k))) := iter_bel _ _ _
        clear hD hd hv
        go_wp2_with fail
        refine (hC.out _).mono ?_
        rintro e w' ⟨rfl, hw⟩
        rw [hw]
        clear hw
        go_wp2_with fail
        go_ret
        exact ⟨(i : Int), rfl, by rw [hfa.out]; simp, hbi.out⟩

set_option maxHeartbeats 1000000 in
theorem sindexFunc_any (s : ByteArray) (w : World) :
    Calls Try.prog 43 #[.string s, .func (.func 42) #[] #[]] w fun e w' => ∃ n : Int, e = .returned (.int .i64 n) ∧ decide (0 ≤ n) = (!allB s) ∧ Below w.heap.size w w' := by
  have hX : Hid (Calls Try.prog 44 #[.string s, .func (.func 42) #[] #[], .bool true] w fun e w' => ∃ n : Int, e = .returned (.int .i64 n) ∧ decide (0 ≤ n) = (!allB s) ∧ Below w.heap.size w w') := indexFunc_any s w
  go_enter Try.func43, Try.ntmps43
  go_wp2_with fail
  go_at_call 44
  refine hX.out.mono ?_
  rintro e w1 ⟨n, rfl, hn, hb1⟩
  have HN : Hid (decide (0 ≤ n) = !allB s) := hn
  clear hn hX
  go_wp2_with fail
  go_ret
  exact ⟨n, rfl, HN.out, hb1⟩

set_option maxHeartbeats 1000000 in
theorem scontainsFunc_any (s : ByteArray) (w : World) :
    Calls Try.prog 41 #[.string s, .func (.func 42) #[] #[]] w fun e w' => e = .returned (.bool (!allB s)) ∧ Below w.heap.size w w' := by
  have hX : Hid (Calls Try.prog 43 #[.string s, .func (.func 42) #[] #[]] w fun e w' => ∃ n : Int, e = .returned (.int .i64 n) ∧ decide (0 ≤ n) = (!allB s) ∧ Below w.heap.size w w') := sindexFunc_any s w
  go_enter Try.func41, Try.ntmps41
  go_wp2_with fail
  go_at_call 43
  refine hX.out.mono ?_
  rintro e w1 ⟨n, rfl, hn, hb1⟩
  have HN : Hid (decide (0 ≤ n) = !allB s) := hn
  clear hn hX
  go_wp2_with fail
  go_ret
  exact ⟨by rw [← HN.out]; rfl, hb1⟩

set_option maxHeartbeats 2000000 in
theorem isText_any (s : ByteArray) (most : Int) (w : World) : Calls Try.prog 37 #[.string s, .int .i64 most] w fun e w' => e = .returned (.bool (consB most s)) ∧ Below w.heap.size w w' := by
  have hX : Hid (Calls Try.prog 41 #[.string s, .func (.func 42) #[] #[]] w fun e w' => e = .returned (.bool (!allB s)) ∧ Below w.heap.size w w') := scontainsFunc_any s w
  unfold consB
  by_cases h1 : 1 ≤ s.size
  · have a1 : (1 : Int) ≤ (s.size : Int) := by omega
    by_cases h2 : (s.size : Int) ≤ most
    · rw [decide_eq_true h1, decide_eq_true h2]
      clear h1
      go_enter Try.func37, Try.ntmps37
      go_wp2_with (go_at_call 41; refine hX.out.mono ?_; rintro e w' ⟨rfl, hb⟩)
      go_ret
      exact ⟨by simp, hb⟩
    · have hd : decide ((s.size : Int) ≤ most) = false := decide_eq_false h2
      rw [hd]
      clear h1 h2
      go_enter Try.func37, Try.ntmps37
      go_wp2_with fail
      go_ret
      exact ⟨by simp, Below.refl _ _⟩
  · have a1 : ¬ (1 : Int) ≤ (s.size : Int) := by omega
    rw [decide_eq_false h1]
    clear h1
    go_enter Try.func37, Try.ntmps37
    go_wp2_with fail
    go_ret
    exact ⟨by simp, Below.refl _ _⟩

/-- a target: its authority and its path -/
abbrev Tg := ByteArray × ByteArray
def tgv (t : Tg) : Array Value := #[.string t.1, .string t.2]
def first0 (s : ByteArray) : Int := ((s.get! 0).toNat : Int)
theorem first_eq {s : ByteArray} (h : 0 < s.size) : ((s[0]'h).toNat : Int) = first0 s := by
  unfold first0
  rw [show s.get! 0 = s[0]'h by simpa using get_at s 0 h]
theorem consB_size {m : Int} {s : ByteArray} (h : consB m s = true) : 0 < s.size := by
  unfold consB at h
  simp only [Bool.and_eq_true, decide_eq_true_eq] at h
  omega
/-- a right target -/
def tgB (t : Tg) : Bool := consB 255 t.1 && consB 4096 t.2 && (first0 t.2 == 47)

set_option maxHeartbeats 2000000 in
theorem isWrongTarget_any (t : Tg) (w : World) : Calls Try.prog 32 #[.agg (tgv t)] w fun e w' => e = .returned (.bool (!tgB t)) ∧ Below w.heap.size w w' := by
  obtain ⟨a, p⟩ := t
  have h1 : Hid (∀ W, Calls Try.prog 37 #[.string a, .int .i64 255] W fun e w' => e = .returned (.bool (consB 255 a)) ∧ Below W.heap.size W w') := fun W => isText_any a 255 W
  have h2 : Hid (∀ W, Calls Try.prog 37 #[.string p, .int .i64 4096] W fun e w' => e = .returned (.bool (consB 4096 p)) ∧ Below W.heap.size W w') := fun W => isText_any p 4096 W
  unfold tgv tgB
  simp only
  have hb0 : Hid (Below w.heap.size w (w.alloc (.cells #[.string a, .string p] 26))) := bel1 _ _
  cases hA : consB 255 a
  · rw [hA] at h1
    clear hA h2
    go_enter Try.func32, Try.ntmps32
    go_wp2_with fail
    go_at_call 37
    refine (h1.out _).mono ?_
    rintro e w1 ⟨rfl, hb1⟩
    have hb2 : Hid (Below w.heap.size w w1) := hb0.out.trans (hb1.mono hb0.out.size)
    clear hb1 hb0 h1
    go_wp2_with fail
    go_ret
    exact ⟨by simp, hb2.out⟩
  · rw [hA] at h1
    clear hA
    cases hP : consB 4096 p
    · rw [hP] at h2
      clear hP
      go_enter Try.func32, Try.ntmps32
      go_wp2_with fail
      go_at_call 37
      refine (h1.out _).mono ?_
      rintro e w1 ⟨rfl, hb1⟩
      have hb2 : Hid (Below w.heap.size w w1) := hb0.out.trans (hb1.mono hb0.out.size)
      have c1 : w1.cell? ⟨w.heap.size, 1, none⟩ = some (.string p) := (hb1.cell (by simp)).trans (cell_blk (c := #[.string a, .string p]) (t := 26) (by rw [heap_al, if_pos rfl]) 1)
      clear hb1 hb0 h1
      go_wp2_with fail
      go_at_call 37
      refine (h2.out _).mono ?_
      rintro e w2 ⟨rfl, hb1⟩
      have hb3 : Hid (Below w.heap.size w w2) := hb2.out.trans (hb1.mono hb2.out.size)
      clear hb1 hb2 h2
      go_wp2_with fail
      go_ret
      exact ⟨by simp, hb3.out⟩
    · rw [hP] at h2
      have hp : 0 < p.size := consB_size hP
      clear hP
      go_enter Try.func32, Try.ntmps32
      go_wp2_with fail
      go_at_call 37
      refine (h1.out _).mono ?_
      rintro e w1 ⟨rfl, hb1⟩
      have hb2 : Hid (Below w.heap.size w w1) := hb0.out.trans (hb1.mono hb0.out.size)
      have c1 : w1.cell? ⟨w.heap.size, 1, none⟩ = some (.string p) := (hb1.cell (by simp)).trans (cell_blk (c := #[.string a, .string p]) (t := 26) (by rw [heap_al, if_pos rfl]) 1)
      have hl1 : w.heap.size < w1.heap.size := World.block_lt_of_cell? _ _ c1
      clear hb1 hb0 h1
      go_wp2_with fail
      go_at_call 37
      refine (h2.out _).mono ?_
      rintro e w2 ⟨rfl, hb1⟩
      have hb3 : Hid (Below w.heap.size w w2) := hb2.out.trans (hb1.mono hb2.out.size)
      have c2 : w2.cell? ⟨w.heap.size, 1, none⟩ = some (.string p) := (hb1.cell hl1).trans c1
      clear hb1 hb2 h2 c1 hl1
      go_wp2_with fail
      go_ret
      exact ⟨by rw [← first_eq hp]; rfl, hb3.out⟩
end Go.Proofs.Ytldnibkgdpeocaa
