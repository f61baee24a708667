/- first: some answers that the document fixes. -/
import Derived.Test.YtjigjckclpccmaaDoorD1
namespace Go.Proofs.YtjigjckclpccmaaDoor
open Go.RowKit
set_option linter.unusedVariables false
set_option linter.unusedSimpArgs false

def fHi : Fr := ⟨0, 1, 1, ⟨#[104, 105]⟩, 0, 0, false, 0, 0, 0⟩
def bHi : ByteArray := ⟨#[0, 0, 2, 0, 1, 0, 0, 0, 1, 104, 105]⟩
def s1 : ByteArray := ⟨#[0, 0, 6, 4, 0, 0, 0, 0, 0, 0, 4, 0, 0, 0, 100]⟩
def s2 : ByteArray := ⟨#[0, 64, 1, 0, 0, 0, 0, 0, 1]⟩
def fSet : Fr := ⟨4, 0, 0, ⟨#[]⟩, 0, 0, false, 0, 0, 0⟩

theorem parse_hi : parseS bHi = ((fHi, []), 0, 0) := by kernel_rfl
theorem read_1 : readS s1 0 = ((fSet, [(4, 100)]), 15, 0, 0) := by kernel_rfl
theorem read_2 : readS s2 0 = ((Fr.zero, []), 0, 6, 0) := by kernel_rfl
theorem kd_hi : kd fHi.ty fHi.fl = (68, 0, 62, 63) := by kernel_rfl
theorem pad_hi : padS fHi = false := by kernel_rfl
theorem head_hi : (⟨(headS fHi 2 ++ [104, 105]).toArray⟩ : ByteArray) = bHi := by kernel_rfl

theorem write_hi (w : World) (hw : 1 ≤ w.heap.size) (hK : Kinds w) :
    Calls Tryd.prog 9 #[.agg (fv fHi (.slice none 0 0))] w fun e w' => e = .returned (.tuple #[.string bHi, .int .i64 0]) ∧ Below w.heap.size w w' := by
  refine write_ok fHi [] none 0 0 w bHi (by decide) ?_ ?_ ?_
  · intro W hb
    have h := asm_plain fHi none 0 0 W 68 0 62 63 [104, 105] kd_hi pad_hi (fun W' _ => by
      have := putData_any fHi none 0 0 W' (.slice none 0 0) [] (Row.nil _) (by decide)
      exact this) (by decide)
    refine h.mono ?_
    rintro e w' ⟨rfl, h2⟩
    exact ⟨by rw [show ([104, 105] : List UInt8).length = 2 from rfl, head_hi], h2⟩
  · intro W hb
    have h := parse_any bHi W (by decide) (Nat.le_trans hw hb.size) (hK.of_eq (hb.block 0 (by omega))) (by decide) (fun _ => by decide)
    rw [parse_hi] at h
    exact h
  · intro W qb ql qc hb hq
    obtain ⟨b', c', he⟩ := hq.slice
    injection he with h1 h2 h3
    subst h2
    exact same_eq fHi W qb 0 qc none 0 0 (fun W' _ => equal_none W' _ _ _ _)

set_option maxRecDepth 100000 in
set_option maxHeartbeats 2000000 in
theorem first_any (w : World) (hw : 1 ≤ w.heap.size) (hK : Kinds w) :
    Calls Tryd.prog 12 #[] w fun e w' => e = .returned (.bool true) ∧ Below w.heap.size w w' := by
  have hKW : Hid (∀ W : World, Below w.heap.size w W → Kinds W ∧ 1 ≤ W.heap.size) := fun W hb => ⟨hK.of_eq (hb.block 0 (by omega)), Nat.le_trans hw hb.size⟩
  have hrd2 : Hid (∀ W : World, Below w.heap.size w W → Calls Tryd.prog 13 #[.string ⟨#[0, 64, 1, 0, 0, 0, 0, 0, 1]⟩, .int .i64 0] W fun e w' => RPost W ((Fr.zero, []), 0, 6, 0) e w') := by
    intro W hb
    have h := read_any s2 0 W (hKW.out _ hb).2 (hKW.out _ hb).1
    rw [read_2] at h
    exact h
  clear hK
  go_enter Tryd.func12, Tryd.ntmps12
  go_wp2_with fail
  refine (write_hi w hw (hKW.out _ (Below.refl _ _)).1).mono ?_
  rintro e w1 ⟨rfl, hb1⟩
  unfold bHi
  go_wp2_with fail
  have h1 := read_any s1 0 w1 (hKW.out _ hb1).2 (hKW.out _ hb1).1
  rw [read_1] at h1
  refine h1.mono ?_
  rintro e w2 ⟨p, rfl, hr1, hr2, hr3⟩
  obtain ⟨pb, pc, rfl⟩ := hr1.slice
  have hb2 : Below w.heap.size w w2 := hb1.trans (hr3.mono hb1.size)
  unfold fv fSet
  clear h1
  go_wp2_with fail
  refine (hrd2.out _ ((hb2.alloc hb2.size _).alloc (by rw [size_al]; have := hb2.size; omega) _)).mono ?_
  rintro e w4 ⟨q, rfl, hs1, hs2, hs3⟩
  obtain ⟨qb, qc, rfl⟩ := hs1.slice
  have hb4 : Below w.heap.size w w4 := ((hb2.alloc hb2.size _).alloc (by rw [size_al]; have := hb2.size; omega) _).trans (hs3.mono (by simp only [size_al]; have := hb2.size; omega))
  have hF : FB w4 w2.heap.size fSet (.slice pb 1 pc) := (hs3.block _ (by simp only [size_al]; omega)).trans (by (simp only [heap_al, heap_dr, size_al, size_dr]; repeat (first | rw [if_pos trivial] | rw [if_neg (by omega)] | rw [if_pos (by omega)])); rfl)
  have hz : w4.heap[w2.heap.size + 1]? = some (.cells #[.int .i64 0, .int .i64 0] 31 (0, 0)) := (hs3.block _ (by simp only [size_al]; omega)).trans (by (simp only [heap_al, heap_dr, size_al, size_dr]; repeat (first | rw [if_pos trivial] | rw [if_neg (by omega)] | rw [if_pos (by omega)])))
  have hr4 : PRow w4 (.slice pb 1 pc) [(4, 100)] := hr1.below fun k _ hk => (hs3.block k (by simp only [size_al]; omega)).trans (by (simp only [heap_al, heap_dr, size_al, size_dr]; repeat (first | rw [if_pos trivial] | rw [if_neg (by omega)] | rw [if_pos (by omega)])))
  obtain ⟨c0, c1, c2, c3, c4, c5, c6, c7, c8, c9, c10⟩ := hF.cells
  have q0 := cell_of_row _ _ 0 _ _ _ hz
  have q1 := cell_of_row _ _ 1 _ _ _ hz
  have l0 : w2.heap.size < w4.heap.size := hF.lt
  have l1 : w2.heap.size + 1 < w4.heap.size := (Array.getElem?_eq_some_iff.1 hz).1
  simp only [fSet, List.getElem?_toArray, List.getElem?_cons_succ, List.getElem?_cons_zero] at c0 c1 c2 c3 c4 c5 c6 c7 c8 c9 c10 q0 q1
  have HR4 : Hid (PRow w4 (.slice pb 1 pc) [(4, 100)]) := hr4
  clear hF hz hr4 hs1 hs2 hs3 hr1 hr2 hr3
  unfold fv Fr.zero
  go_wp2_with fail
  refine (sameFrame_eq fSet _ pb 1 pc (some ⟨w4.heap.size + 1 + 1, 0, none⟩) 1 1 [(4, 100)] (HR4.out.below fun k _ hk => by (simp only [heap_al, heap_dr, size_al, size_dr]; repeat (first | rw [if_pos trivial] | rw [if_neg (by omega)] | rw [if_pos (by omega)]))) ⟨rfl, .inr ⟨w4.heap.size + 1 + 1, 1, #[.int .i64 4, .int .i64 100], rfl, Nat.zero_le _, by (simp only [heap_al, heap_dr, size_al, size_dr]; repeat (first | rw [if_pos trivial] | rw [if_neg (by omega)] | rw [if_pos (by omega)])), Nat.le_refl _, by decide, rfl, rfl⟩⟩).mono ?_
  rintro e w5 ⟨rfl, hb5⟩
  have hfin : Below w.heap.size w w5 := (((hb4.alloc hb4.size _).alloc (by rw [size_al]; have := hb4.size; omega) _).alloc (by rw [size_al, size_al]; have := hb4.size; omega) _).trans (hb5.mono (by simp only [size_al]; have := hb4.size; omega))
  go_wp2_with fail
  go_ret
  exact ⟨rfl, hfin⟩
end Go.Proofs.YtjigjckclpccmaaDoor
