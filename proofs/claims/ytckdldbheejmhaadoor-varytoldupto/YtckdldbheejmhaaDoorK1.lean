/- VaryNames: what lies in memory while it runs. -/
import Derived.Test.YtckdldbheejmhaaDoorF2
import Derived.Test.YtckdldbheejmhaaDoorG6
namespace Go.Proofs.YtckdldbheejmhaaDoor
open Go.RowKit
set_option linter.unusedVariables false
set_option linter.unusedSimpArgs false

/-- a response's box -/
def RsB (w : World) (g : Nat) (n : Int) (y : SV) (b : ByteArray) : Prop := w.heap[g]? = some (.cells (rsv n (sv y) b) 35 (0, 0))
theorem RsB.below {w w' : World} {g : Nat} {n : Int} {y : SV} {b : ByteArray} (h : RsB w g n y b) (hb : Below w.heap.size w w') : RsB w' g n y b := (hb.block g (heap_lt h)).trans h
theorem RsB.cells {w : World} {g : Nat} {n : Int} {y : SV} {b : ByteArray} (h : RsB w g n y b) : w.cell? ⟨g, 0, none⟩ = some (.int .i64 n) ∧ w.cell? ⟨g, 1, none⟩ = some (.slice y.1 y.2.1 y.2.2) ∧ w.cell? ⟨g, 2, none⟩ = some (.string b) ∧ g < w.heap.size :=
  ⟨cell_blk h 0, cell_blk h 1, cell_blk h 2, heap_lt h⟩
theorem RsB.setY {w : World} {g : Nat} {n : Int} {y : SV} {b : ByteArray} (h : RsB w g n y b) (z : SV) : RsB (w.setCell ⟨g, 1, none⟩ (.slice z.1 z.2.1 z.2.2)) g n z b := by
  unfold RsB at *
  rw [setCell_block _ _ _ _ _ _ _ h]
  rfl
theorem own_at {g n c : Nat} : (Value.slice (some ⟨g, 0, none⟩) n c).ownBlock = some g := rfl
theorem row_ne_rs {W : World} {g g' n c : Nat} {k : Int} {y : SV} {b : ByteArray} {L : List Fd} (h : R EFd W (.slice (some ⟨g, 0, none⟩) n c) L) (hb : RsB W g' k y b) : g ≠ g' := fun e => by
  obtain ⟨u, hu⟩ := R.ty h g rfl
  unfold RsB at hb
  rw [e, hb] at hu
  simp [EFd] at hu
structure Vn (w3 : World) (g1 n c1 : Nat) (n0 : Int) (b0 : ByteArray) (P1 : List Fd) (W : World) : Prop where
  bx : RsB W w3.heap.size n0 (some ⟨g1, 0, none⟩, n, c1) b0
  rx : R EFd W (.slice (some ⟨g1, 0, none⟩) (n + 1) c1) (P1 ++ [mkF])
  bel : Below w3.heap.size w3 W
  o1 : w3.heap.size ≤ g1
theorem Vn.below {w3 : World} {g1 n c1 : Nat} {n0 : Int} {b0 : ByteArray} {P1 : List Fd} {W W' : World} (h : Vn w3 g1 n c1 n0 b0 P1 W) (hb : Below W.heap.size W W') : Vn w3 g1 n c1 n0 b0 P1 W' :=
  ⟨h.bx.below hb, R.below h.rx hb, h.bel.trans (hb.mono h.bel.size), h.o1⟩
/-- one value of the lent fields -/
theorem Vn.value {w3 : World} {g1 n c1 : Nat} {n0 : Int} {b0 : ByteArray} {P1 : List Fd} {W : World} (h : Vn w3 g1 n c1 n0 b0 P1 W) (i : Nat) (hi : i < P1.length) :
    W.cell? ⟨g1, i * 3 + 1, none⟩ = some (.string P1[i].v) ∧ W.frozen? ⟨g1, i * 3 + 1, none⟩ = false ∧ g1 < W.heap.size ∧ ∀ s, Vn w3 g1 n c1 n0 b0 (P1.set i ⟨P1[i].n, s, P1[i].nv⟩) (W.setCell ⟨g1, i * 3 + 1, none⟩ (.string s)) := by
  have hj : i < (P1 ++ [mkF]).length := by simp; omega
  obtain ⟨g, c, e, c1, c2, rl, ro, cs, fz, s1⟩ := R.setc okFd h.rx i 1 hj (by decide)
  obtain rfl : g1 = g := by simpa [Value.ownBlock] using ro
  rw [List.getElem_append_left hi] at cs s1
  have hf : ∀ o u b, b ≠ g1 → (W.setCell ⟨g1, o, none⟩ u).heap[b]? = W.heap[b]? := fun o u b hb => setCell_other _ _ _ _ _ hb
  refine ⟨cs 1 _ rfl, fz _, rl, fun s => ⟨(hf _ _ _ (row_ne_rs h.rx h.bx).symm).trans h.bx, ?_, h.bel.setCell (p := ⟨g1, i * 3 + 1, none⟩) h.o1 _, h.o1⟩⟩
  have := s1 (.string s) ⟨P1[i].n, s, P1[i].nv⟩ rfl
  rw [List.set_append_left _ _ hi] at this
  exact this
/-- all blocks but those above B as they were -/
theorem Vn.keep {w3 : World} {g1 n c1 : Nat} {n0 : Int} {b0 : ByteArray} {P1 : List Fd} {W W' : World} {B : Nat} (h : Vn w3 g1 n c1 n0 b0 P1 W) (hb : Below B W W') (h1 : w3.heap.size < B) (h2 : g1 < B) : Vn w3 g1 n c1 n0 b0 P1 W' :=
  ⟨(hb.block _ h1).trans h.bx, R.stays h.rx fun k hk _ => hb.block k (by rw [own_at] at hk; injection hk with hk; omega), h.bel.trans (hb.mono (by omega)), h.o1⟩
/-- the rows of names: the first may be written, two stay -/
structure Vr (B : Nat) (za zb zw : SV) (A L : List ByteArray) (W : World) : Prop where
  ra : R ES W (sv za) A
  rb : R ES W (sv zb) L
  rw' : R ES W (sv zw) L
  oa : ∀ k, (sv za).ownBlock = some k → B ≤ k ∧ (sv zb).ownBlock ≠ some k ∧ (sv zw).ownBlock ≠ some k
  hB : B ≤ W.heap.size
theorem Vr.below {B : Nat} {za zb zw : SV} {A L : List ByteArray} {W W' : World} (h : Vr B za zb zw A L W) (hb : Below W.heap.size W W') : Vr B za zb zw A L W' :=
  ⟨R.below h.ra hb, R.below h.rb hb, R.below h.rw' hb, h.oa, Nat.le_trans h.hB hb.size⟩
theorem Vr.write {B : Nat} {za zb zw : SV} {A L : List ByteArray} {W : World} (h : Vr B za zb zw A L W) (i : Nat) (hi : i < A.length) :
    ∃ g c, za = (some ⟨g, 0, none⟩, A.length, c) ∧ A.length ≤ c ∧ c ≤ 9223372036854775807 ∧ W.cell? ⟨g, i, none⟩ = some (.string A[i]) ∧ W.frozen? ⟨g, i, none⟩ = false ∧ g < W.heap.size ∧ B ≤ g ∧ ∀ s, Vr B za zb zw (A.set i s) L (W.setCell ⟨g, i, none⟩ (.string s)) ∧ Below B W (W.setCell ⟨g, i, none⟩ (.string s)) := by
  obtain ⟨g, c, e, c1, c2, rl, ro, cs, fz, s1⟩ := R.setc okS h.ra i 0 hi (by decide)
  obtain ⟨ab, an, ac⟩ := za
  simp only [sv] at e
  injection e with e1 e2 e3
  subst e1 e2 e3
  have e1 : i * ES.sz + 0 = i := by simp [ES]
  have c0 := cs 0 _ rfl
  rw [e1] at c0
  have ho := h.oa g ro
  refine ⟨g, _, rfl, c1, c2, c0, fz _, rl, ho.1, fun s => ⟨⟨?_, R.stays h.rb fun k hk _ => setCell_other _ _ _ _ _ (fun e => ho.2.1 (by rw [← e]; exact hk)), R.stays h.rw' fun k hk _ => setCell_other _ _ _ _ _ (fun e => ho.2.2 (by rw [← e]; exact hk)), h.oa, by simpa [World.setCell] using h.hB⟩, (Below.refl _ _).setCell (p := ⟨g, i, none⟩) ho.1 _⟩⟩
  have := s1 (.string s) s rfl
  rw [e1] at this
  exact this
/-- what Names tells, of both sides -/
def NmP (L : List ByteArray) (st : Bool) (w : World) (e : Ending) (w' : World) : Prop :=
  ∃ z : SV, e = .returned (.tuple #[sv z, .bool st]) ∧ Below w.heap.size w w' ∧ R ES w' (sv z) L ∧ ∀ k, (sv z).ownBlock = some k → w.heap.size ≤ k
theorem totV_len : ∀ l : List Fd, l.length ≤ totV l
  | [] => by simp [totV]
  | f :: r => by have := totV_len r; simp only [List.length_cons, totV]; omega
theorem totV_mem : ∀ {l : List Fd} {f : Fd}, f ∈ l → f.v.size ≤ totV l
  | g :: r, f, h => by
    rcases List.mem_cons.1 h with rfl | h
    · simp only [totV]; omega
    · have := totV_mem h; simp only [totV]; omega
theorem vsL_mem {l : List Fd} {s v : ByteArray} (h : v ∈ vsL l s) : v.size ≤ totV l := by
  unfold vsL at h
  obtain ⟨f, hf, e⟩ := List.mem_filterMap.1 h
  split at e
  · injection e with e
    rw [← e]
    exact totV_mem hf
  · cases e
theorem totV_set : ∀ (l : List Fd) (i : Nat) (h : i < l.length) (f : Fd), totV (l.set i f) + l[i].v.size = totV l + f.v.size
  | g :: r, 0, h, f => by simp only [List.set_cons_zero, totV, List.getElem_cons_zero]; omega
  | g :: r, i + 1, h, f => by
    have := totV_set r i (by simpa using h) f
    simp only [List.set_cons_succ, totV, List.getElem_cons_succ]; omega
theorem both_names (P : List Fd) (hT : totV P ≤ 8000000) : ∃ (L : List ByteArray) (st : Bool), L.length ≤ 8000000 ∧ ∀ (n0 : Int) (yb : Option Addr) (yn yc : Nat) (b0 : ByteArray) (W : World), In EFd W (.slice yb yn yc) P →
    Calls Tryd.prog 11 #[.agg #[.int .i64 n0, .slice yb yn yc, .string b0]] W (fun e w' => NmP L st W e w') ∧ Calls Tryd.prog 17 #[.agg #[.int .i64 n0, .slice yb yn yc, .string b0]] W (fun e w' => NmP L st W e w') := by
  have h1 := allP_few P varyS
  have h2 := totV_len P
  refine ⟨nmL (allP (vsL P varyS)), decide (0 < cnt (allP (vsL P varyS)) starS), ?_, fun n0 yb yn yc b0 W hI => ⟨?_, ?_⟩⟩
  · have := nmL_len (allP (vsL P varyS))
    omega
  · exact names_any n0 (yb, yn, yc) b0 P W hI (by omega) (fun v hv => by have := vsL_mem hv; omega) (by omega)
  · exact rnames_any n0 (yb, yn, yc) b0 P W hI (fun v hv => by have := vsL_mem hv; omega) (by omega)
def moS : ByteArray := ⟨#[109, 111, 114, 101]⟩
/-- one more behind the first row -/
theorem Vr.more {B : Nat} {za zb zw : SV} {A L : List ByteArray} {W : World} (h : Vr B za zb zw A L W) (hl : A.length ≤ 8000000) :
    ∃ b c w', (Builtin.append_ #[25, 25] 25 #[sv za, .slice (some ⟨W.heap.size, 0, none⟩) 1 1]).run Tryd.prog (W.alloc (.cells #[.string moS] 9)) = .ok (.slice b (A.length + 1) c) w' ∧ R ES w' (sv zb) L ∧ R ES w' (sv zw) L ∧ Below B W w' ∧ A.length + 1 ≤ c := by
  have bm := bel1 W (.cells #[.string moS] 9)
  obtain ⟨b, c, w', h1, h2, h3⟩ := app okS (W.alloc (.cells #[.string moS] 9)) _ _ (R.below h.ra bm) (.slice (some ⟨W.heap.size, 0, none⟩) 1 1) [moS] (in_one (x := moS) _ _ #[.string moS] 9 (0, 0) (by rw [heap_al, if_pos rfl]) rfl) (by simp only [ES, List.length_singleton]; omega)
  simp only [List.length_singleton] at h1 h2 h3
  have hsz : (W.alloc (.cells #[.string moS] 9)).heap.size = W.heap.size + 1 := size_al _ _
  refine ⟨b, c, w', h1, ?_, ?_, Below.trans (bm.mono h.hB) (h3.belowB (Nat.le_trans h.hB (by omega)) fun k hk => (h.oa k hk).1), ?_⟩
  · exact R.stays (R.below h.rb bm) fun k hk hlt => h3.block k hlt fun e => (h.oa k e).2.1 hk
  · exact R.stays (R.below h.rw' bm) fun k hk hlt => h3.block k hlt fun e => (h.oa k e).2.2 hk
  · obtain ⟨_, _, e, q, _⟩ := R.slice h2
    injection e with _ _ e
    rw [e]
    simpa using q
end Go.Proofs.YtckdldbheejmhaaDoor
