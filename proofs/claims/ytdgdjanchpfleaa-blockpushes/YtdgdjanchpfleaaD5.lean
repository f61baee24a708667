/- The document's joiner. -/
import Derived.Test.YtdgdjanchpfleaaA7
import Derived.Test.YtdgdjanchpfleaaD1
namespace Go.Proofs.Ytdgdjanchpfleaa
open Go.RowKit
set_option linter.unusedVariables false
set_option linter.unusedSimpArgs false

/-- Block b holds the document's joiner: its frames' slice, its fault's code. -/
def RB (w : World) (b : Nat) (v : Value) (c : Int) : Prop := w.heap[b]? = some (.cells #[v, .int .i64 c, .int .i64 0] 60 (0, 0))
theorem RB.lt {w : World} {b : Nat} {v : Value} {c : Int} (h : RB w b v c) : b < w.heap.size := heap_lt h
theorem RB.below {w w' : World} {b : Nat} {v : Value} {c : Int} (h : RB w b v c) (hb : Below w.heap.size w w') : RB w' b v c := (hb.block b h.lt).trans h
theorem RB.cells {w : World} {b : Nat} {v : Value} {c : Int} (h : RB w b v c) : w.cell? ⟨b, 0, none⟩ = some v ∧ w.cell? ⟨b, 1, none⟩ = some (.int .i64 c) ∧ w.cell? ⟨b, 2, none⟩ = some (.int .i64 0) := ⟨cell_blk h 0, cell_blk h 1, cell_blk h 2⟩
theorem RB.frozens {w : World} {b : Nat} {v : Value} {c : Int} (h : RB w b v c) : w.frozen? ⟨b, 0, none⟩ = false ∧ w.frozen? ⟨b, 1, none⟩ = false ∧ w.frozen? ⟨b, 2, none⟩ = false := ⟨frozen_blk h 0, frozen_blk h 1, frozen_blk h 2⟩

set_option maxHeartbeats 1000000 in
theorem rnew_any (w : World) :
    Calls Try.prog 18 #[] w fun e w' => e = .returned (.pointer (some ⟨w.heap.size, 0, none⟩)) ∧ RB w' w.heap.size (.slice none 0 0) 0 ∧ Below w.heap.size w w' := by
  have hb : Hid (RB (w.alloc (.cells #[.slice none 0 0, .int .i64 0, .int .i64 0] 60)) w.heap.size (.slice none 0 0) 0 ∧ Below w.heap.size w (w.alloc (.cells #[.slice none 0 0, .int .i64 0, .int .i64 0] 60))) := ⟨by unfold RB; rw [heap_al, if_pos rfl], bel1 w _⟩
  go_enter Try.func18, Try.ntmps18
  go_wp2
  go_ret
  exact ⟨rfl, hb.out⟩

set_option maxHeartbeats 1000000 in
theorem rbusy_any (w : World) (b : Nat) (base : Option Addr) (n cap : Nat) (c : Int) (h : RB w b (.slice base n cap) c) :
    Calls Try.prog 20 #[.pointer (some ⟨b, 0, none⟩)] w fun e w' => e = .returned (.bool (decide (0 < n))) ∧ w' = w := by
  obtain ⟨c0, c1, c2⟩ := h.cells
  have hd : decide ((0 : Int) < (n : Int)) = decide (0 < n) := by simp
  clear h
  go_enter Try.func20, Try.ntmps20
  go_wp2
  go_ret
  exact ⟨rfl, rfl⟩

set_option maxHeartbeats 4000000 in
set_option maxRecDepth 100000 in
theorem rbroken_any (w : World) (b : Nat) (v : Value) (c0 c : Int) (h : RB w b v c0) :
    Calls Try.prog 32 #[.pointer (some ⟨b, 0, none⟩), .int .i64 c] w fun e w' => e = .returned (.tuple #[.bool false, .agg (fv Fr.zero (.slice none 0 0)), .string ⟨#[]⟩, .agg #[.int .i64 c, .int .i64 0]]) ∧ RB w' b (.slice none 0 0) c ∧ Ks (fun k => k = b) w w' := by
  have hlt := h.lt
  have hlt1 : b < w.heap.size + 1 := by omega
  obtain ⟨k0, k1, k2⟩ := h.cells
  obtain ⟨f0, f1, f2⟩ := h.frozens
  have HX : Hid (RB (sets w b [(0, .slice none 0 0), (1, .int .i64 c), (2, .int .i64 0)]) b (.slice none 0 0) c ∧ Ks (fun k => k = b) w (sets w b [(0, .slice none 0 0), (1, .int .i64 c), (2, .int .i64 0)]) ∧ (sets w b [(0, .slice none 0 0), (1, .int .i64 c), (2, .int .i64 0)]).heap.size = w.heap.size) := by
    refine ⟨?_, sets_ks (fun k => k = b) b rfl _ _, sets_size _ _ _⟩
    unfold RB
    rw [sets_block _ _ _ _ _ _ h]
    rfl
  simp only [sets, List.foldl_cons, List.foldl_nil] at HX
  clear h
  go_enter Try.func32, Try.ntmps32
  go_upto_region 3 with fail
  go_region
  all_goals
    go_wp2_with fail
    obtain ⟨x1, x2, x3⟩ := HX.out
    clear HX
    generalize ((w.setCell ⟨b, 0, none⟩ (.slice none 0 0)).setCell ⟨b, 1, none⟩ (.int .i64 c)).setCell ⟨b, 2, none⟩ (.int .i64 0) = X at x1 x2 x3 ⊢
    refine bodyPost_ret (results_tctc (r := 4) (p := 5) (ty := 24) (q := 6) (s := 7) (tz := 32) rfl _ _ w.heap.size (w.heap.size + 1) 24 32 (fv Fr.zero (.slice none 0 0)) #[.int .i64 c, .int .i64 0] (0, 0) (0, 0) _ _ rfl ?q1 Try.underlying24 rfl (by kernel_rfl) rfl ?q2 Try.underlying32 rfl (by kernel_rfl)) rfl ⟨rfl, ?q3, ?q4⟩
    case q1 =>
      simp only [heap_al, heap_dr, size_al, size_dr, x3]
      repeat (first | rw [if_pos trivial] | rw [if_neg (by omega)] | rw [if_pos (by omega)])
      rfl
    case q2 =>
      simp only [heap_al, heap_dr, size_al, size_dr, x3]
      repeat (first | rw [if_pos trivial] | rw [if_neg (by omega)] | rw [if_pos (by omega)])
    case q3 => exact x1.below (bel2 X _ _).drew
    case q4 => exact x2.trans (Ks.of_below (A := fun _ => False) (bel2 X _ _).drew) (fun _ _ h => h) (fun _ _ h => h.elim)
end Go.Proofs.Ytdgdjanchpfleaa
