/- The document's New, Resize, Size, Len, Max, Add. -/
import Derived.Test.YtlfbnhdcgldopaaF2
import Derived.Test.YtlfbnhdcgldopaaA7
namespace Go.Proofs.Ytlfbnhdcgldopaa
open Go.RowKit

theorem RTab.slice {w : World} {b mx : Nat} {es : List E} {v : Value} (h : RTab w b mx es v) : ∃ base cap, v = .slice base es.length cap := row_slice h.2.2.2

set_option maxHeartbeats 400000 in
theorem rnew_good (mx : Nat) (w : World) (h : mx ≤ 65536) :
    Calls Try.prog 35 #[.int .i64 (mx : Int)] w fun e w' => e = .returned (.tuple #[.pointer (some ⟨w.heap.size, 0, none⟩), .int .i64 0]) ∧ RTab w' w.heap.size mx [] (.slice none 0 0) ∧ Below w.heap.size w w' := by
  have hd : decide (0 ≤ (mx : Int) ∧ (mx : Int) ≤ 65536) = true := by simp; omega
  go_enter Try.func35, Try.ntmps35
  go_wp2_with (go_at_call 48; refine (good_any _ w).mono ?_; rintro e w' ⟨rfl, rfl⟩; rw [hd])
  go_ret2
  refine ⟨rfl, ⟨h, by simp [total], ?_, World.ownsRow_nil _ _ _ _⟩, (Below.refl _ _).alloc (Nat.le_refl _) _⟩
  exact heap_alloc_new _ _

set_option maxHeartbeats 400000 in
theorem rnew_bad (a : Int) (w : World) (h : ¬ (0 ≤ a ∧ a ≤ 65536)) :
    Calls Try.prog 35 #[.int .i64 a] w fun e w' => e = .returned (.tuple #[.pointer none, .int .i64 1]) ∧ w' = w := by
  have hd : decide (0 ≤ a ∧ a ≤ 65536) = false := by simpa using h
  clear h
  go_enter Try.func35, Try.ntmps35
  go_wp2_with (go_at_call 48; refine (good_any _ w).mono ?_; rintro e w' ⟨rfl, rfl⟩; rw [hd])
  go_ret2
  exact ⟨rfl, rfl⟩

set_option maxHeartbeats 400000 in
theorem rlen_any (w : World) (b mx : Nat) (es : List E) (v : Value) (h : RTab w b mx es v) :
    Calls Try.prog 41 #[.pointer (some ⟨b, 0, none⟩)] w fun e w' => e = .returned (.int .i64 (es.length : Int)) ∧ w' = w := by
  obtain ⟨base, cap, rfl⟩ := h.slice
  obtain ⟨_, h2, _⟩ := rtab_cells h.2.2.1
  clear h
  go_enter Try.func41, Try.ntmps41
  go_wp2
  go_ret
  exact ⟨rfl, rfl⟩

set_option maxHeartbeats 400000 in
theorem rmax_any (w : World) (b mx : Nat) (es : List E) (v : Value) (h : RTab w b mx es v) :
    Calls Try.prog 42 #[.pointer (some ⟨b, 0, none⟩)] w fun e w' => e = .returned (.int .i64 (mx : Int)) ∧ w' = w := by
  obtain ⟨h2, _⟩ := rtab_cells h.2.2.1
  clear h
  go_enter Try.func42, Try.ntmps42
  go_wp2
  go_ret
  exact ⟨rfl, rfl⟩

set_option maxHeartbeats 400000 in
theorem rtsize_any (w : World) (b mx : Nat) (es : List E) (v : Value) (h : RTab w b mx es v) :
    Calls Try.prog 40 #[.pointer (some ⟨b, 0, none⟩)] w fun e w' => e = .returned (.int .i64 (total es : Int)) ∧ Below w.heap.size w w' := by
  obtain ⟨_, h2, _⟩ := rtab_cells h.2.2.1
  have hlen := h.len
  have htot := h.2.1
  have hs : Hid (Calls Try.prog 52 #[v] w fun e w' => e = .returned (.int .i64 (total es : Int)) ∧ Below w.heap.size w w') := rsum_any w v es (rents_of_row h.2.2.2) (by omega) (by omega)
  obtain ⟨base, cap, rfl⟩ := h.slice
  clear h
  go_enter Try.func40, Try.ntmps40
  go_wp2_with (go_at_call 52; refine hs.out.mono ?_; rintro e w' ⟨rfl, hb⟩)
  go_ret
  exact ⟨rfl, hb⟩

/-- What a call that changes the document's table in block b leaves. -/
def RChanged (w w' : World) (b mx : Nat) (es : List E) : Prop :=
  ∃ v', RTab w' b mx es v' ∧ Kept (fun j => j = b) w w' ∧ ∀ k, v'.ownBlock = some k → w.heap.size ≤ k

/-- The new row is stored. -/
theorem rstored {w W : World} {b mx : Nat} {es : List E} {x y : Value} {bb : Option Addr} {n cc : Nat} (hn : n = es.length) (hmx : mx ≤ 65536) (htot : total es ≤ 65536) (hb : b < w.heap.size) (hblk : W.heap[b]? = some (.cells #[x, y] 75 (0, 0))) (hx : x = .int .i64 (mx : Int)) (hrow : W.ownsRow w.heap.size 82 2 (.slice bb n cc) n (cellsOf es)) (hk : Kept (fun j => j = b) w W) :
    RChanged w (W.setCell ⟨b, 1, none⟩ (.slice bb n cc)) b mx es := by
  subst hn hx
  refine ⟨.slice bb es.length cc, ⟨hmx, htot, ?_, ?_⟩, hk.trans (Kept.setCell (S := fun j => j = b) _ _ rfl), fun k hk' => (hrow.lt k hk').1⟩
  · rw [setCell_block _ _ _ _ _ _ _ hblk]; rfl
  · refine row_stays (show W.ownsRow 0 82 2 _ _ _ from ⟨hrow.1, hrow.2.imp id fun ⟨g, c, cu, h1, _, h3⟩ => ⟨g, c, cu, h1, Nat.zero_le _, h3⟩⟩) fun j hj _ => setCell_other _ _ _ _ _ fun e => ?_
    have := (hrow.lt j hj).1
    omega

set_option maxRecDepth 100000 in
set_option maxHeartbeats 1000000 in
theorem rresize_good (w : World) (b mx : Nat) (es : List E) (v : Value) (h : RTab w b mx es v) (m : Nat) (hm : m ≤ 65536) :
    Calls Try.prog 37 #[.pointer (some ⟨b, 0, none⟩), .int .i64 (m : Int)] w fun e w' => e = .returned (.int .i64 0) ∧ RChanged w w' b m (keep m es) := by
  have hd : decide (0 ≤ (m : Int) ∧ (m : Int) ≤ 65536) = true := by simp; omega
  obtain ⟨c0, c1, f0, f1⟩ := rtab_cells h.2.2.1
  have hlen := h.len
  have htot := h.2.1
  have hb := h.lt
  have hblk : (w.setCell ⟨b, 0, none⟩ (.int .i64 (m : Int))).heap[b]? = some (.cells #[.int .i64 (m : Int), v] 75 (0, 0)) := by rw [setCell_block _ _ _ _ _ _ _ h.2.2.1]; rfl
  have hE : REnts (w.setCell ⟨b, 0, none⟩ (.int .i64 (m : Int))) v es := rents_of_row (row_stays h.2.2.2 fun j hj _ => setCell_other _ _ _ _ _ (h.row_ne j hj))
  have hsh : Hid (Calls Try.prog 50 #[v, .int .i64 (m : Int)] (w.setCell ⟨b, 0, none⟩ (.int .i64 (m : Int))) fun e w' => ∃ bb cc, e = .returned (.slice bb (keep m es).length cc) ∧ w'.cell? ⟨b, 1, none⟩ = some v ∧ w'.frozen? ⟨b, 1, none⟩ = false ∧ Hid (RChanged w (w'.setCell ⟨b, 1, none⟩ (.slice bb (keep m es).length cc)) b m (keep m es))) := by
    refine (shrunk_any _ v es hE (by omega) (by omega) m hm).mono ?_
    rintro e w' ⟨bb, cc, rfl, hrow, hb'⟩
    have hbl : w'.heap[b]? = _ := (hb'.block b (by simpa [World.setCell] using hb)).trans hblk
    obtain ⟨_, d1, _, g1⟩ := rtab_cells hbl
    refine ⟨bb, cc, rfl, d1, g1, rstored rfl hm (Nat.le_trans (total_keep m es) (by omega)) hb hbl rfl ?_ ((Kept.setCell (S := fun j => j = b) _ _ rfl).trans (Kept.of_below hb'))⟩
    have e : (w.setCell ⟨b, 0, none⟩ (.int .i64 (m : Int))).heap.size = w.heap.size := by simp [World.setCell]
    rw [← e]
    exact hrow
  obtain ⟨base, cap, rfl⟩ := h.slice
  clear h hblk hE
  go_enter Try.func37, Try.ntmps37
  go_wp2_with (first | (go_at_call 48; refine (good_any _ _).mono ?_; rintro e w' ⟨rfl, rfl⟩; rw [hd]) | (go_at_call 50; refine hsh.out.mono ?_; rintro e w' ⟨bb, cc, rfl, d1, g1, hc⟩))
  go_ret
  exact ⟨rfl, hc.out⟩

set_option maxHeartbeats 400000 in
theorem rresize_bad (w : World) (b : Nat) (a : Int) (h : ¬ (0 ≤ a ∧ a ≤ 65536)) :
    Calls Try.prog 37 #[.pointer (some ⟨b, 0, none⟩), .int .i64 a] w fun e w' => e = .returned (.int .i64 1) ∧ w' = w := by
  have hd : decide (0 ≤ a ∧ a ≤ 65536) = false := by simpa using h
  clear h
  go_enter Try.func37, Try.ntmps37
  go_wp2_with (go_at_call 48; refine (good_any _ _).mono ?_; rintro e w' ⟨rfl, rfl⟩; rw [hd])
  go_ret
  exact ⟨rfl, rfl⟩

end Go.Proofs.Ytlfbnhdcgldopaa
