/- strings.Clone; slices.Contains of texts. -/
import Derived.Test.YtfponcdhaefkdaaDoorC6
import Derived.Lib.Strings
import Derived.Lib.BufferWrite
import Derived.Lib.UnsafeStr
import Derived.Laws.MakeOwn
namespace Go.Proofs.YtfponcdhaefkdaaDoor
open Go.RowKit
set_option linter.unusedVariables false
set_option linter.unusedSimpArgs false

theorem info5 : (Tryd.prog.info? 5).map (fun i => (i.zero, i.size, i.bytes)) = some (some (.int .u8 0), 1, 1) := by kernel_rfl
set_option maxHeartbeats 4000000 in
set_option maxRecDepth 100000 in
theorem slClone_any (s : ByteArray) (w : World) (hlim : s.size ≤ 281474976710656) :
    Calls Tryd.prog 81 #[.string s] w fun e w' => e = .returned (.string s) ∧ Below w.heap.size w w' := by
  by_cases h0 : s.size = 0
  · have hs : s = ⟨#[]⟩ := by
      apply ByteArray.ext
      exact Array.eq_empty_of_size_eq_zero h0
    subst hs
    go_enter Tryd.func81, Tryd.ntmps81
    go_wp2
    go_ret
    exact ⟨rfl, Below.refl _ _⟩
  · obtain ⟨i0, hi, hz0, hz1, hz2⟩ := info_parts info5
    have hinfo : (Tryd.prog.info? 5).map (·.size) = some 1 := by rw [hi]; simp [hz1]
    have hco : Tryd.prog.cellsOf 5 = 1 := by simp [Program.cellsOf, hi, hz1]
    obtain ⟨M, hM⟩ : ∃ M, M = madeCells (Value.int .u8 0).cells (((s.size : Nat) : Int).toNat * i0.size) := ⟨_, rfl⟩
    have hMs : M.size = s.size := by rw [hM, size_madeCells, hz1]; simp
    have hmk : ∀ W : World, (Instr.makeSlice 103 (.int .i64 (s.size : Int)) (.int .i64 (s.size : Int))).run Tryd.prog W = .ok (.slice (some ⟨W.heap.size, 0, none⟩) s.size s.size) (W.alloc (.cells M 5)) := fun W => by
      have h := run_make (P := Tryd.prog) W 103 5 i0 (.int .u8 0) Tryd.underlying103 hi hz0 .i64 .i64 (s.size : Int) (s.size : Int) (by omega) (by omega) (by rw [hz2]; omega) (by omega)
      rw [← hM] at h
      simpa using h
    clear hM
    have hcp := Lib.run_copy_row_string (P := Tryd.prog) (w.alloc (.cells M 5)) 103 9 3 5 w.heap.size 0 s.size s.size s M 5 Tryd.underlying103 hinfo (heap_alloc_new w _) (Nat.le_refl _) (by omega)
    obtain ⟨Y, hY⟩ : ∃ Y, Y = (M.toList.take 0 ++ Lib.byteCells s.data.toList ++ M.toList.drop (0 + s.size)).toArray := ⟨_, rfl⟩
    rw [← hY] at hcp
    have hYl : Y.toList = Lib.byteCells s.data.toList := by
      rw [hY, List.toList_toArray, List.take_zero, List.nil_append, List.drop_of_length_le (by rw [Array.length_toList]; omega), List.append_nil]
    have hYs : Y.size = s.size := by rw [← Array.length_toList, hYl, Lib.byteCells_length, ← Lib.size_eq]
    have hgY : ((w.alloc (.cells M 5)).setRow w.heap.size Y).heap[w.heap.size]? = some (.cells Y 5 (0, 0)) := setRow_heap _ _ M _ 5 (0, 0) (heap_alloc_new w _)
    have hne : s.data.toList ≠ [] := fun e => h0 (by rw [Lib.size_eq, e]; rfl)
    have hUS := Lib.run_unsafeString_row (P := Tryd.prog) ((w.alloc (.cells M 5)).setRow w.heap.size Y) 131 3 9 5 Tryd.underlying131 hco w.heap.size Y.size (by unfold World.shape?; rw [hgY]) s.data.toList hne (by rw [← Lib.size_eq]; omega) (by rw [← Lib.size_eq]; omega)
      (fun j x hx => Lib.cells_of_row hgY Y.size j _ (by rw [List.take_of_length_le (by rw [Array.length_toList]; exact Nat.le_refl _), hYl]; simp [Lib.byteCells, hx]))
    rw [← Lib.size_eq] at hUS
    clear hY
    go_enter Tryd.func81, Tryd.ntmps81
    go_wp2
    go_ret
    have hb1 : Below w.heap.size w (w.alloc (.cells M 5)) := (Below.refl _ w).alloc (Nat.le_refl _) _
    have hb2 : Below w.heap.size (w.alloc (.cells M 5)) ((w.alloc (.cells M 5)).setRow w.heap.size Y) := ⟨rfl, rfl, rfl, by simp, fun k hk => setRow_other _ _ _ _ (by omega)⟩
    exact ⟨rfl, Lib.below_freeze (hb1.trans hb2) (p := ⟨w.heap.size, 0, none⟩) (Nat.le_refl _) _⟩

set_option maxHeartbeats 400000 in
theorem sclone_any (s : ByteArray) (w : World) (hlim : s.size ≤ 281474976710656) :
    Calls Tryd.prog 65 #[.string s] w fun e w' => e = .returned (.string s) ∧ Below w.heap.size w w' := by
  go_enter Tryd.func65, Tryd.ntmps65
  go_wp2_with (go_at_call 81; refine (slClone_any s w hlim).mono ?_; rintro e w' ⟨rfl, hb⟩)
  go_ret
  exact ⟨rfl, hb⟩

/-- does it stand among them? -/
def inS (l : List ByteArray) (s : ByteArray) : Bool := l.any fun x => decide (x = s)
set_option maxHeartbeats 4000000 in
set_option maxRecDepth 100000 in
theorem index82_any (x : SV) (l : List ByteArray) (s : ByteArray) (w : World) (hI : In ES w (sv x) l) :
    Calls Tryd.prog 82 #[sv x, .string s] w fun e w' => ∃ n : Int, e = .returned (.int .i64 n) ∧ decide (0 ≤ n) = inS l s ∧ w' = w := by
  have HI : Hid (In ES w (sv x) l) := hI
  obtain ⟨b, c, e, m1, m2⟩ := hI.slice
  obtain ⟨sb, sl, sc⟩ := x
  simp only [sv] at e HI ⊢
  injection e with e1 e2 e3
  subst e1 e2 e3
  clear hI
  go_enter Tryd.func82, Tryd.ntmps82
  go_wp2_with fail
  go_loopw [5, 8] (fun _ kv wr => ∃ k : Nat, kv = .int .i64 (k : Int) ∧ k ≤ l.length ∧ Hid (∀ j (h : j < l.length), j < k → l[j] ≠ s) ∧ wr = w) (fun _ kv _ => l.length - (intOf kv).toNat)
  case atStart => exact ⟨0, rfl, by omega, fun j _ h => absurd h (by omega), rfl⟩
  case round =>
    obtain ⟨k, rfl, hk, hno, hw⟩ := hrel
    subst hw
    by_cases hlt : k < l.length
    · obtain ⟨Bk, off, cap, e, hc⟩ := HI.out.str k hlt
      injection e with e1 e2 e3
      clear e2 e3
      subst e1
      have c0 := hc wr (Below.refl _ _)
      obtain ⟨y, hy⟩ : ∃ y, l[k] = y := ⟨_, rfl⟩
      rw [hy] at c0
      have Hy : Hid (l[k]'hlt = y) := hy
      have l1 : (k : Int) < (l.length : Int) := by omega
      clear hc hy
      by_cases hB : s = y
      · have hb : (s.toList == y.toList) = true := str_eq hB
        have HB : Hid (s = y) := hB
        clear hB
        go_wp2_with fail
        go_ret
        refine ⟨(k : Int), rfl, ?_, rfl⟩
        have : inS l s = true := List.any_eq_true.2 ⟨l[k]'hlt, List.getElem_mem hlt, by rw [Hy.out, HB.out]; simp⟩
        rw [this]
        simp
      · have hb : (s.toList == y.toList) = false := str_ne hB
        have HB : Hid (¬ s = y) := hB
        clear hB
        go_wp2_with fail
        go_roundw
        case rel =>
          refine ⟨k + 1, by simp, by omega, fun j hj h => ?_, by trivial⟩
          by_cases hjk : j = k
          · subst hjk
            rw [Hy.out]
            exact fun e => HB.out e.symm
          · exact hno.out j hj (by omega)
        case measure => simp [intOf]; omega
    · have hlt' : ¬ (k : Int) < (l.length : Int) := by omega
      go_wp2_with fail
      go_ret
      refine ⟨-1, rfl, ?_, rfl⟩
      have : inS l s = false := List.any_eq_false.2 fun x hx => by
        obtain ⟨j, hj, e⟩ := List.getElem_of_mem hx
        have := hno.out j hj (by omega)
        rw [e] at this
        simp [this]
      rw [this]
      rfl
set_option maxHeartbeats 1000000 in
theorem contains66_any (x : SV) (l : List ByteArray) (s : ByteArray) (w : World) (hI : In ES w (sv x) l) :
    Calls Tryd.prog 66 #[sv x, .string s] w fun e w' => e = .returned (.bool (inS l s)) ∧ w' = w := by
  have hX : Hid (Calls Tryd.prog 82 #[sv x, .string s] w fun e w' => ∃ n : Int, e = .returned (.int .i64 n) ∧ decide (0 ≤ n) = inS l s ∧ w' = w) := index82_any x l s w hI
  obtain ⟨sb, sl, sc⟩ := x
  simp only [sv] at hX ⊢
  clear hI
  go_enter Tryd.func66, Tryd.ntmps66
  go_wp2_with fail
  go_at_call 82
  refine hX.out.mono ?_
  rintro e w1 ⟨n, rfl, hn, rfl⟩
  have HN : Hid (decide (0 ≤ n) = inS l s) := hn
  clear hn hX
  go_wp2_with fail
  go_ret
  exact ⟨by rw [← HN.out]; rfl, rfl⟩
end Go.Proofs.YtfponcdhaefkdaaDoor
