/- the law's page and get. -/
import Derived.Test.YtacboeeimnikdaaDoorF1
namespace Go.Proofs.YtacboeeimnikdaaDoor
open Go.RowKit Go.Maps
open Go.Shelf
set_option linter.unusedVariables false
set_option linter.unusedSimpArgs false

def aTest : ByteArray := ⟨#[97, 46, 116, 101, 115, 116]⟩
def getS : ByteArray := ⟨#[71, 69, 84]⟩
def httpsS : ByteArray := ⟨#[104, 116, 116, 112, 115]⟩
def e0S : ByteArray := ⟨#[]⟩
set_option maxHeartbeats 2000000 in
theorem page_any (p b : ByteArray) (w : World) : Calls Tryd.prog 13 #[.string p, .string b] w fun e w' => ∃ y : SV, e = .returned (.agg (pgv ⟨aTest, p, 200, e0S, y⟩)) ∧ Below w.heap.size w w' ∧ R ECh w' (sv y) [⟨e0S, b⟩] ∧ ∀ k, (sv y).ownBlock = some k → w.heap.size ≤ k := by
  go_enter Tryd.func13, Tryd.ntmps13
  go_wp2_with fail
  refine bodyPost_ret (results_cell_row (p := 4) (ty := 26) rfl _ _ w.heap.size 26 _ (0, 0) _ rfl (by rw [heap_al, if_neg (by simp), heap_al, if_pos rfl]) Tryd.underlying26 rfl (by kernel_rfl)) rfl ?_
  refine ⟨(some ⟨w.heap.size + 1, 0, none⟩, 1, 1), by simp [pgv, sv, aTest, e0S], bel2 _ _ _, R.one okCh _ (by rw [fresh2]; rfl) rfl, fun k hk => by simp [sv, Value.ownBlock] at hk; omega⟩
set_option maxHeartbeats 2000000 in
theorem get_any (p : ByteArray) (f : SV) (w : World) : Calls Tryd.prog 12 #[.string p, sv f] w fun e w' => e = .returned (.agg (rqv getS httpsS aTest p (sv f) e0S)) ∧ Below w.heap.size w w' := by
  obtain ⟨fb, fl, fc⟩ := f
  simp only [sv]
  go_enter Tryd.func12, Tryd.ntmps12
  go_wp2_with fail
  refine bodyPost_ret (results_cell_row (p := 4) (ty := 41) rfl _ _ w.heap.size 41 _ (0, 0) _ rfl (by rw [heap_al, if_pos rfl]) Tryd.underlying41 rfl (by kernel_rfl)) rfl ?_
  exact ⟨rfl, bel1 _ _⟩
theorem nwE_one {x : PC} (h : pgB x.1 x.2 = true) : nwE [x] = 0 := by
  unfold nwE
  have hw : [x].any wrB = false := by simp [wrB, h]
  rw [hw, if_neg (by simp), if_neg (by simp), if_pos (by simp)]
/-- a page in a row of one -/
theorem one_page {w : World} (p : Pg) (cs : List Ch) (h : R ECh w (sv p.ys) cs) : In EPg (w.alloc (.cells (pgv p) 26)) (sv (some ⟨w.heap.size, 0, none⟩, 1, 1)) [(p, cs)] ∧ ChIn (w.alloc (.cells (pgv p) 26)) [(p, cs)] :=
  ⟨in_one (E := EPg) _ _ (p, cs) (pgv p) 26 (0, 0) (by rw [heap_al, if_pos rfl]) rfl, fun x hx => by rw [List.mem_singleton.1 hx]; exact (h.below (bel1 _ _)).isIn⟩
/-- New of one page that may be -/
theorem new_one {w : World} (p : Pg) (cs : List Ch) (h : R ECh w (sv p.ys) cs) (hp : pgB p cs = true) :
    Calls Tryd.prog 10 #[.slice (some ⟨w.heap.size, 0, none⟩) 1 1] (w.alloc (.cells (pgv p) 26)) fun e w' => Below w.heap.size w w' ∧ ∃ g, w.heap.size ≤ g ∧ e = .returned (.tuple #[.pointer (some ⟨g, 0, none⟩), .int .i64 0]) ∧ Sx w' (w.heap.size + 1) g 1 1 (Fk [(p, cs)]) [(p.a, p.p)] := by
  obtain ⟨h1, h2⟩ := one_page p cs h
  refine (new_any _ _ _ h1 h2).mono ?_
  rintro e w' ⟨hB, he⟩
  rw [size_al] at hB he
  refine ⟨(bel1 _ _).trans (hB.mono (Nat.le_succ _)), ?_⟩
  rcases he with ⟨q, _⟩ | ⟨_, g, hg, q1, q2⟩
  · exact absurd (nwE_one hp) q
  · exact ⟨g, by omega, q1, q2⟩
end Go.Proofs.YtacboeeimnikdaaDoor
