/- Frames in memory; strings.Clone; what takes a payload apart. -/
import Derived.Test.YtmhbaaemihljjaaDoorA1
import Derived.Lib.Strings
import Derived.Lib.Walk
import Derived.Lib.BufferWrite
import Derived.Lib.UnsafeStr
import Derived.Lib.Hide
import Derived.Laws.MakeOwn
namespace Go.Proofs.YtmhbaaemihljjaaDoor
open Go.RowKit
set_option linter.unusedVariables false
set_option linter.unusedSimpArgs false

/-- A frame without its params. -/
structure Fr where
  ty : Int
  fl : Int
  st : Int
  data : ByteArray
  pad : Int
  dep : Int
  excl : Bool
  wt : Int
  code : Int
  last : Int

def Fr.zero : Fr := ⟨0, 0, 0, ⟨#[]⟩, 0, 0, false, 0, 0, 0⟩

/-- its cells, with the slice of its params -/
def fv (f : Fr) (p : Value) : Array Value :=
  #[.int .i64 f.ty, .int .i64 f.fl, .int .i64 f.st, .string f.data, .int .i64 f.pad, .int .i64 f.dep, .bool f.excl, .int .i64 f.wt, .int .i64 f.code, .int .i64 f.last, p]

/-- Block g holds a frame. -/
def FB (w : World) (g : Nat) (f : Fr) (p : Value) : Prop := w.heap[g]? = some (.cells (fv f p) 28 (0, 0))

/-- All blocks but g are as they were. -/
structure Kp (g : Nat) (w w' : World) : Prop where
  os : w'.os = w.os
  tape : w'.tape = w.tape
  output : w'.output = w.output
  size : w.heap.size ≤ w'.heap.size
  block : ∀ k, k < w.heap.size → k ≠ g → w'.heap[k]? = w.heap[k]?

theorem Kp.refl (g : Nat) (w : World) : Kp g w w := ⟨rfl, rfl, rfl, Nat.le_refl _, fun _ _ _ => rfl⟩
theorem Kp.trans {g : Nat} {a b c : World} (h : Kp g a b) (k : Kp g b c) : Kp g a c :=
  ⟨k.os.trans h.os, k.tape.trans h.tape, k.output.trans h.output, Nat.le_trans h.size k.size, fun i hi hu => (k.block i (Nat.lt_of_lt_of_le hi h.size) hu).trans (h.block i hi hu)⟩
theorem Kp.of_below {g : Nat} {a b : World} (h : Below a.heap.size a b) : Kp g a b := ⟨h.os, h.tape, h.output, h.size, fun k hk _ => h.block k hk⟩
theorem Kp.below {g : Nat} {a b : World} {B : Nat} (h : Kp g a b) (hB : B ≤ a.heap.size) (hg : B ≤ g) : Below B a b :=
  ⟨h.os, h.tape, h.output, h.size, fun k hk => h.block k (Nat.lt_of_lt_of_le hk hB) (by omega)⟩

theorem setCell_block (w : World) (b off : Nat) (v : Value) (c : Array Value) (t : TypeId) (fz : Nat × Nat) (h : w.heap[b]? = some (.cells c t fz)) :
    (w.setCell ⟨b, off, none⟩ v).heap[b]? = some (.cells (c.setIfInBounds off v) t fz) := by
  simp [World.setCell, Array.getElem?_modify, h]
theorem setCell_other (w : World) (b k off : Nat) (v : Value) (h : k ≠ b) : (w.setCell ⟨b, off, none⟩ v).heap[k]? = w.heap[k]? := by
  simp [World.setCell, Array.getElem?_modify, Ne.symm h]
theorem Kp.setCell (w : World) (g off : Nat) (v : Value) : Kp g w (w.setCell ⟨g, off, none⟩ v) := ⟨rfl, rfl, rfl, by simp [World.setCell], fun k _ hk => setCell_other _ _ _ _ _ hk⟩

theorem FB.lt {w : World} {g : Nat} {f : Fr} {p : Value} (h : FB w g f p) : g < w.heap.size := (Array.getElem?_eq_some_iff.1 h).1
theorem FB.below {w w' : World} {g : Nat} {f : Fr} {p : Value} (h : FB w g f p) (hb : Below w.heap.size w w') : FB w' g f p := (hb.block g h.lt).trans h
theorem FB.cell {w : World} {g : Nat} {f : Fr} {p : Value} (h : FB w g f p) (i : Nat) : w.cell? ⟨g, i, none⟩ = (fv f p)[i]? := by
  unfold FB at h
  simp [World.cell?, h]
theorem FB.frozen {w : World} {g : Nat} {f : Fr} {p : Value} (h : FB w g f p) (i : Nat) : w.frozen? ⟨g, i, none⟩ = false := by
  unfold FB at h
  simp [World.frozen?, h]

/-- the byte with number i -/
def byteAt (b : ByteArray) (i : Nat) : Nat := if h : i < b.size then b[i].toNat else 0
theorem byteAt_eq (b : ByteArray) (i : Nat) (h : i < b.size) : byteAt b i = b[i].toNat := by simp [byteAt, h]
theorem byteAt_lt (b : ByteArray) (i : Nat) : byteAt b i < 256 := by
  unfold byteAt
  split
  · exact UInt8.toNat_lt _
  · omega
theorem numS_lt4 (b : ByteArray) (h : b.size ≤ 4) : numS b < 4294967296 := by
  have h1 := numL_lt b.data.toList
  have h2 : b.data.toList.length ≤ 4 := by simpa using h
  have h3 : 256 ^ b.data.toList.length ≤ 256 ^ 4 := Nat.pow_le_pow_right (by decide) h2
  unfold numS
  omega

/-- what the five bytes of a priority say -/
def prioS (f : Fr) (b : ByteArray) : Fr := { f with dep := ((numS (b.extract 0 4) % 2147483648 : Nat) : Int), excl := decide (2147483648 ≤ numS (b.extract 0 4)), wt := (byteAt b 4 : Int) + 1 }
def lastS (f : Fr) (b : ByteArray) : Fr := { f with last := ((numS b % 2147483648 : Nat) : Int) }
def codeS (f : Fr) (b : ByteArray) : Fr := { f with code := (numS b : Int) }
def dataS (f : Fr) (b : ByteArray) : Fr := { f with data := b }

set_option maxHeartbeats 4000000 in
set_option maxRecDepth 100000 in
theorem slClone_any (s : ByteArray) (w : World) (hlim : s.size ≤ 281474976710656) :
    Calls Tryd.prog 76 #[.string s] w fun e w' => e = .returned (.string s) ∧ Below w.heap.size w w' := by
  by_cases h0 : s.size = 0
  · have hs : s = ⟨#[]⟩ := by
      apply ByteArray.ext
      exact Array.eq_empty_of_size_eq_zero h0
    subst hs
    go_enter Tryd.func76, Tryd.ntmps76
    go_wp2
    go_ret
    exact ⟨rfl, Below.refl _ _⟩
  · obtain ⟨i0, hi, hz0, hz1, hz2⟩ := info_parts info5
    have hinfo : (Tryd.prog.info? 5).map (·.size) = some 1 := by rw [hi]; simp [hz1]
    have hco : Tryd.prog.cellsOf 5 = 1 := by simp [Program.cellsOf, hi, hz1]
    obtain ⟨M, hM⟩ : ∃ M, M = madeCells (Value.int .u8 0).cells (((s.size : Nat) : Int).toNat * i0.size) := ⟨_, rfl⟩
    have hMs : M.size = s.size := by rw [hM, size_madeCells, hz1]; simp
    have hmk : ∀ W : World, (Instr.makeSlice 34 (.int .i64 (s.size : Int)) (.int .i64 (s.size : Int))).run Tryd.prog W = .ok (.slice (some ⟨W.heap.size, 0, none⟩) s.size s.size) (W.alloc (.cells M 5)) := fun W => by
      have h := run_make (P := Tryd.prog) W 34 5 i0 (.int .u8 0) Tryd.underlying34 hi hz0 .i64 .i64 (s.size : Int) (s.size : Int) (by omega) (by omega) (by rw [hz2]; omega) (by omega)
      rw [← hM] at h
      simpa using h
    clear hM
    have hcp := Lib.run_copy_row_string (P := Tryd.prog) (w.alloc (.cells M 5)) 34 9 3 5 w.heap.size 0 s.size s.size s M 5 Tryd.underlying34 hinfo (heap_alloc_new w _) (Nat.le_refl _) (by omega)
    obtain ⟨Y, hY⟩ : ∃ Y, Y = (M.toList.take 0 ++ Lib.byteCells s.data.toList ++ M.toList.drop (0 + s.size)).toArray := ⟨_, rfl⟩
    rw [← hY] at hcp
    have hYl : Y.toList = Lib.byteCells s.data.toList := by
      rw [hY, List.toList_toArray, List.take_zero, List.nil_append, List.drop_of_length_le (by rw [Array.length_toList]; omega), List.append_nil]
    have hYs : Y.size = s.size := by rw [← Array.length_toList, hYl, Lib.byteCells_length, ← Lib.size_eq]
    have hgY : ((w.alloc (.cells M 5)).setRow w.heap.size Y).heap[w.heap.size]? = some (.cells Y 5 (0, 0)) := setRow_heap _ _ M _ 5 (0, 0) (heap_alloc_new w _)
    have hne : s.data.toList ≠ [] := fun e => h0 (by rw [Lib.size_eq, e]; rfl)
    have hUS := Lib.run_unsafeString_row (P := Tryd.prog) ((w.alloc (.cells M 5)).setRow w.heap.size Y) 103 3 9 5 Tryd.underlying103 hco w.heap.size Y.size (by unfold World.shape?; rw [hgY]) s.data.toList hne (by rw [← Lib.size_eq]; omega) (by rw [← Lib.size_eq]; omega)
      (fun j x hx => Lib.cells_of_row hgY Y.size j _ (by rw [List.take_of_length_le (by rw [Array.length_toList]; exact Nat.le_refl _), hYl]; simp [Lib.byteCells, hx]))
    rw [← Lib.size_eq] at hUS
    clear hY
    go_enter Tryd.func76, Tryd.ntmps76
    go_wp2
    go_ret
    have hb1 : Below w.heap.size w (w.alloc (.cells M 5)) := (Below.refl _ w).alloc (Nat.le_refl _) _
    have hb2 : Below w.heap.size (w.alloc (.cells M 5)) ((w.alloc (.cells M 5)).setRow w.heap.size Y) := ⟨rfl, rfl, rfl, by simp, fun k hk => setRow_other _ _ _ _ (by omega)⟩
    exact ⟨rfl, Lib.below_freeze (hb1.trans hb2) (p := ⟨w.heap.size, 0, none⟩) (Nat.le_refl _) _⟩

set_option maxHeartbeats 400000 in
theorem clone_any (s : ByteArray) (w : World) (hlim : s.size ≤ 281474976710656) :
    Calls Tryd.prog 75 #[.string s] w fun e w' => e = .returned (.string s) ∧ Below w.heap.size w w' := by
  go_enter Tryd.func75, Tryd.ntmps75
  go_wp2_with (go_at_call 76; refine (slClone_any s w hlim).mono ?_; rintro e w' ⟨rfl, hb⟩)
  go_ret
  exact ⟨rfl, hb⟩

set_option maxHeartbeats 800000 in
theorem takeData_any (w : World) (g : Nat) (f : Fr) (p : Value) (b : ByteArray) (h : FB w g f p) (hlim : b.size ≤ 281474976710656) :
    Calls Tryd.prog 63 #[.pointer (some ⟨g, 0, none⟩), .string b] w fun e w' => e = .returned (.tuple #[]) ∧ FB w' g (dataS f b) p ∧ Kp g w w' := by
  have hc : Hid (∀ w' : World, Below w.heap.size w w' → w'.cell? ⟨g, 3, none⟩ = some (.string f.data) ∧ w'.frozen? ⟨g, 3, none⟩ = false) := fun w' hb => ⟨(h.below hb).cell 3, (h.below hb).frozen 3⟩
  have hfin : Hid (∀ w' : World, Below w.heap.size w w' → FB (w'.setCell ⟨g, 3, none⟩ (.string b)) g { f with data := b } p ∧ Kp g w (w'.setCell ⟨g, 3, none⟩ (.string b))) := fun w' hb =>
    ⟨by unfold FB; rw [setCell_block _ _ _ _ _ _ _ (h.below hb)]; rfl, (Kp.of_below hb).trans (Kp.setCell _ _ _ _)⟩
  clear h
  go_enter Tryd.func63, Tryd.ntmps63
  go_wp2_with (go_at_call 75; refine (clone_any b w hlim).mono ?_; rintro e w' ⟨rfl, hb⟩; obtain ⟨hc1, hc2⟩ := hc.out w' hb)
  go_end0
  exact ⟨rfl, hfin.out _ hb⟩

set_option maxHeartbeats 800000 in
theorem takeCode_any (w : World) (g : Nat) (f : Fr) (p : Value) (b : ByteArray) (h : FB w g f p) (hs : b.size ≤ 4) :
    Calls Tryd.prog 56 #[.pointer (some ⟨g, 0, none⟩), .string b] w fun e w' => e = .returned (.tuple #[]) ∧ FB w' g (codeS f b) p ∧ Kp g w w' := by
  have hc1 := h.cell 8
  have hc2 := h.frozen 8
  simp only [fv, List.getElem?_toArray, List.getElem?_cons_succ, List.getElem?_cons_zero] at hc1
  have hfin : Hid (FB (w.setCell ⟨g, 8, none⟩ (.int .i64 (numS b : Int))) g { f with code := numS b } p ∧ Kp g w (w.setCell ⟨g, 8, none⟩ (.int .i64 (numS b : Int)))) :=
    ⟨by unfold FB; rw [setCell_block _ _ _ _ _ _ _ h]; rfl, Kp.setCell _ _ _ _⟩
  clear h
  go_enter Tryd.func56, Tryd.ntmps56
  go_wp2_with (go_at_call 40; refine (number_any b w hs).mono ?_; rintro e w' ⟨rfl, rfl⟩)
  go_end0
  exact ⟨rfl, hfin.out⟩

set_option maxHeartbeats 800000 in
theorem takeLast_any (w : World) (g : Nat) (f : Fr) (p : Value) (b : ByteArray) (h : FB w g f p) (hs : b.size ≤ 4) :
    Calls Tryd.prog 67 #[.pointer (some ⟨g, 0, none⟩), .string b] w fun e w' => e = .returned (.tuple #[]) ∧ FB w' g (lastS f b) p ∧ Kp g w w' := by
  have hc1 := h.cell 9
  have hc2 := h.frozen 9
  simp only [fv, List.getElem?_toArray, List.getElem?_cons_succ, List.getElem?_cons_zero] at hc1
  have hand := and31 (numS b : Int)
  have hfin : Hid (FB (w.setCell ⟨g, 9, none⟩ (.int .i64 ((numS b : Int) % 2147483648))) g { f with last := ((numS b % 2147483648 : Nat) : Int) } p ∧ Kp g w (w.setCell ⟨g, 9, none⟩ (.int .i64 ((numS b : Int) % 2147483648)))) :=
    ⟨by unfold FB; rw [setCell_block _ _ _ _ _ _ _ h]; rfl, Kp.setCell _ _ _ _⟩
  clear h
  go_enter Tryd.func67, Tryd.ntmps67
  go_wp2_with (go_at_call 40; refine (number_any b w hs).mono ?_; rintro e w' ⟨rfl, rfl⟩)
  go_end0
  exact ⟨rfl, hfin.out⟩

set_option maxHeartbeats 1600000 in
theorem takePriority_any (w : World) (g : Nat) (f : Fr) (p : Value) (b : ByteArray) (h : FB w g f p) (hs : b.size = 5) :
    Calls Tryd.prog 54 #[.pointer (some ⟨g, 0, none⟩), .string b] w fun e w' => e = .returned (.tuple #[]) ∧
      FB w' g (prioS f b) p ∧ Kp g w w' := by
  have hc1 := h.cell 5
  have hc2 := h.cell 6
  have hc3 := h.cell 7
  have hf1 := h.frozen 5
  have hf2 := h.frozen 6
  have hf3 := h.frozen 7
  simp only [fv, List.getElem?_toArray, List.getElem?_cons_succ, List.getElem?_cons_zero] at hc1 hc2 hc3
  have hse : (b.extract 0 4).size ≤ 4 := by rw [ByteArray.size_extract]; omega
  have hlt := numS_lt4 _ hse
  have hand := and31 (numS (b.extract 0 4) : Int)
  have hhi : (bits .and .i64 (numS (b.extract 0 4) : Int) 2147483648 != 0) = decide (2147483648 ≤ numS (b.extract 0 4)) := by
    rw [and_high _ hlt]
    split <;> simp [*]
  unfold prioS
  rw [byteAt_eq b 4 (by omega)]
  have hfin : Hid (FB (((w.setCell ⟨g, 5, none⟩ (.int .i64 ((numS (b.extract 0 4) : Int) % 2147483648))).setCell ⟨g, 6, none⟩ (.bool (decide (2147483648 ≤ numS (b.extract 0 4))))).setCell ⟨g, 7, none⟩ (.int .i64 ((b[4].toNat : Int) + 1))) g { f with dep := ((numS (b.extract 0 4) % 2147483648 : Nat) : Int), excl := decide (2147483648 ≤ numS (b.extract 0 4)), wt := (b[4].toNat : Int) + 1 } p ∧
      Kp g w (((w.setCell ⟨g, 5, none⟩ (.int .i64 ((numS (b.extract 0 4) : Int) % 2147483648))).setCell ⟨g, 6, none⟩ (.bool (decide (2147483648 ≤ numS (b.extract 0 4))))).setCell ⟨g, 7, none⟩ (.int .i64 ((b[4].toNat : Int) + 1)))) := by
    refine ⟨?_, ((Kp.setCell _ _ _ _).trans (Kp.setCell _ _ _ _)).trans (Kp.setCell _ _ _ _)⟩
    unfold FB
    rw [setCell_block _ _ _ _ _ _ _ (setCell_block _ _ _ _ _ _ _ (setCell_block _ _ _ _ _ _ _ h))]
    rfl
  clear h
  have hb : b[4].toNat < 256 := UInt8.toNat_lt _
  go_enter Tryd.func54, Tryd.ntmps54
  go_wp2_with (go_at_call 40; refine (number_any (b.extract 0 4) w hse).mono ?_; rintro e w' ⟨rfl, rfl⟩)
  go_end0
  exact ⟨rfl, hfin.out⟩

set_option maxHeartbeats 1600000 in
theorem takeHeaders_any (w : World) (g : Nat) (f : Fr) (p : Value) (b : ByteArray) (h : FB w g f p) (hs : 5 ≤ b.size) (hlim : b.size ≤ 281474976710656) :
    Calls Tryd.prog 51 #[.pointer (some ⟨g, 0, none⟩), .string b] w fun e w' => e = .returned (.tuple #[]) ∧ FB w' g (dataS (prioS f (b.extract 0 5)) (b.extract 5 b.size)) p ∧ Kp g w w' := by
  have hse : (b.extract 0 5).size = 5 := by rw [ByteArray.size_extract]; omega
  have hse2 : (b.extract 5 b.size).size ≤ 281474976710656 := by rw [ByteArray.size_extract]; omega
  go_enter Tryd.func51, Tryd.ntmps51
  go_wp2_with (first | (go_at_call 54; refine (takePriority_any w g f p (b.extract 0 5) h hse).mono ?_; rintro e w1 ⟨rfl, hF, hK⟩) | (go_at_call 63; refine (takeData_any w1 g _ p (b.extract 5 b.size) hF hse2).mono ?_; rintro e w2 ⟨rfl, hF2, hK2⟩))
  go_end0
  exact ⟨rfl, hF2, hK.trans hK2⟩

set_option maxHeartbeats 1600000 in
theorem takePromise_any (w : World) (g : Nat) (f : Fr) (p : Value) (b : ByteArray) (h : FB w g f p) (hs : 4 ≤ b.size) (hlim : b.size ≤ 281474976710656) :
    Calls Tryd.prog 61 #[.pointer (some ⟨g, 0, none⟩), .string b] w fun e w' => e = .returned (.tuple #[]) ∧ FB w' g (dataS (lastS f (b.extract 0 4)) (b.extract 4 b.size)) p ∧ Kp g w w' := by
  have hse : (b.extract 0 4).size ≤ 4 := by rw [ByteArray.size_extract]; omega
  have hse2 : (b.extract 4 b.size).size ≤ 281474976710656 := by rw [ByteArray.size_extract]; omega
  go_enter Tryd.func61, Tryd.ntmps61
  go_wp2_with (first | (go_at_call 67; refine (takeLast_any w g f p (b.extract 0 4) h hse).mono ?_; rintro e w1 ⟨rfl, hF, hK⟩) | (go_at_call 63; refine (takeData_any w1 g _ p (b.extract 4 b.size) hF hse2).mono ?_; rintro e w2 ⟨rfl, hF2, hK2⟩))
  go_end0
  exact ⟨rfl, hF2, hK.trans hK2⟩

set_option maxHeartbeats 1600000 in
theorem takeGoAway_any (w : World) (g : Nat) (f : Fr) (p : Value) (b : ByteArray) (h : FB w g f p) (hs : 8 ≤ b.size) (hlim : b.size ≤ 281474976710656) :
    Calls Tryd.prog 65 #[.pointer (some ⟨g, 0, none⟩), .string b] w fun e w' => e = .returned (.tuple #[]) ∧ FB w' g (dataS (codeS (lastS f (b.extract 0 4)) (b.extract 4 8)) (b.extract 8 b.size)) p ∧ Kp g w w' := by
  have hse : (b.extract 0 4).size ≤ 4 := by rw [ByteArray.size_extract]; omega
  have hse3 : (b.extract 4 8).size ≤ 4 := by rw [ByteArray.size_extract]; omega
  have hse2 : (b.extract 8 b.size).size ≤ 281474976710656 := by rw [ByteArray.size_extract]; omega
  go_enter Tryd.func65, Tryd.ntmps65
  go_wp2_with (first | (go_at_call 67; refine (takeLast_any w g f p (b.extract 0 4) h hse).mono ?_; rintro e w1 ⟨rfl, hF, hK⟩) | (go_at_call 56; refine (takeCode_any w1 g _ p (b.extract 4 8) hF hse3).mono ?_; rintro e w2 ⟨rfl, hF2, hK2⟩) | (go_at_call 63; refine (takeData_any w2 g _ p (b.extract 8 b.size) hF2 hse2).mono ?_; rintro e w3 ⟨rfl, hF3, hK3⟩))
  go_end0
  exact ⟨rfl, hF3, (hK.trans hK2).trans hK3⟩

end Go.Proofs.YtmhbaaemihljjaaDoor
