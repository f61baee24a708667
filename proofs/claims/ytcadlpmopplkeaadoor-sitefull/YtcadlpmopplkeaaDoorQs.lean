/- Several texts in one. -/
import Derived.Test.YtcadlpmopplkeaaDoorQr
/- SiteFull: a page of a row written over. -/
namespace Go.Proofs.YtcadlpmopplkeaaDoor
open Go.RowKit Go.Maps
open Go.Shelf
set_option linter.unusedVariables false
set_option linter.unusedSimpArgs false
theorem cut_rest {P G : Prop} (h1 : Hid P → G) (h2 : P) : G := h1 h2
/-- a page of a row, its five cells written -/
def setP (w : World) (g j : Nat) (p : Pg) : World := ((((w.setCell ⟨g, j * 5, none⟩ (.string p.a)).setCell ⟨g, j * 5 + 1, none⟩ (.string p.p)).setCell ⟨g, j * 5 + 2, none⟩ (.int .i64 p.n)).setCell ⟨g, j * 5 + 3, none⟩ (.string p.v)).setCell ⟨g, j * 5 + 4, none⟩ (sv p.ys)
theorem setP_other (w : World) (g j k : Nat) (p : Pg) (h : k ≠ g) : (setP w g j p).heap[k]? = w.heap[k]? := by
  unfold setP
  rw [setCell_other _ _ _ _ _ h, setCell_other _ _ _ _ _ h, setCell_other _ _ _ _ _ h, setCell_other _ _ _ _ _ h, setCell_other _ _ _ _ _ h]
theorem setP_below {w W : World} {g j : Nat} {p : Pg} {B : Nat} (h : Below B w W) (hg : B ≤ g) : Below B w (setP W g j p) :=
  ((((h.setCell (p := ⟨g, j * 5, none⟩) hg _).setCell (p := ⟨g, j * 5 + 1, none⟩) hg _).setCell (p := ⟨g, j * 5 + 2, none⟩) hg _).setCell (p := ⟨g, j * 5 + 3, none⟩) hg _).setCell (p := ⟨g, j * 5 + 4, none⟩) hg _
theorem R.setP {w : World} {g n c : Nat} {l : List PC} (h : R EPg w (.slice (some ⟨g, 0, none⟩) n c) l) (j : Nat) (hj : j < l.length) (x : PC) : R EPg (setP w g j x.1) (.slice (some ⟨g, 0, none⟩) n c) (l.set j x) := by
  have h0 : R EPg w (.slice (some ⟨g, 0, none⟩) n c) (l.set j l[j]) := by rw [List.set_getElem_self]; exact h
  obtain ⟨X, hX⟩ : ∃ X, l[j] = X := ⟨_, rfl⟩
  rw [hX] at h0
  have h1 := h0.setw okPg hj (i := 0) (by decide) (.string x.1.a) ((⟨x.1.a, X.1.p, X.1.n, X.1.v, X.1.ys⟩, x.2) : PC) rfl
  have h2 := h1.setw okPg hj (i := 1) (by decide) (.string x.1.p) ((⟨x.1.a, x.1.p, X.1.n, X.1.v, X.1.ys⟩, x.2) : PC) rfl
  have h3 := h2.setw okPg hj (i := 2) (by decide) (.int .i64 x.1.n) ((⟨x.1.a, x.1.p, x.1.n, X.1.v, X.1.ys⟩, x.2) : PC) rfl
  have h4 := h3.setw okPg hj (i := 3) (by decide) (.string x.1.v) ((⟨x.1.a, x.1.p, x.1.n, x.1.v, X.1.ys⟩, x.2) : PC) rfl
  exact h4.setw okPg hj (i := 4) (by decide) (sv x.1.ys) x rfl
theorem Kf.setP {w : World} {g : Nat} {c : Array Value} (j : Nat) (p : Pg) (h : w.heap[g]? = some (Obj.cells c 26 (0, 0))) : Kf w (YtcadlpmopplkeaaDoor.setP w g j p) := by
  have h1 := setCell_block w g (j * 5) (.string p.a) c 26 (0, 0) h
  have h2 := setCell_block _ g (j * 5 + 1) (.string p.p) _ 26 (0, 0) h1
  have h3 := setCell_block _ g (j * 5 + 2) (.int .i64 p.n) _ 26 (0, 0) h2
  have h4 := setCell_block _ g (j * 5 + 3) (.string p.v) _ 26 (0, 0) h3
  exact ((((Kf.set _ h (.inr rfl)).trans (Kf.set _ h1 (.inr rfl))).trans (Kf.set _ h2 (.inr rfl))).trans (Kf.set _ h3 (.inr rfl))).trans (Kf.set _ h4 (.inr rfl))
theorem Pr.setP {w W : World} {g n c : Nat} {l : List PC} (h : Pr w W (some ⟨g, 0, none⟩, n, c) l) (j : Nat) (hj : j < l.length) (x : PC) (hx : R ECh W (sv x.1.ys) x.2) : Pr w (setP W g j x.1) (some ⟨g, 0, none⟩, n, c) (l.set j x) ∧ Kf W (setP W g j x.1) := by
  obtain ⟨cc, hc⟩ := h.row.ty g rfl
  have hK := Kf.setP j x.1 hc
  refine ⟨⟨setP_below h.bel (h.new g rfl), R.setP h.row j hj x, h.new, fun z hz => ?_⟩, hK⟩
  rcases List.mem_or_eq_of_mem_set hz with hz | hz
  · exact (h.ch z hz).kf hK (by decide) (by decide)
  · rw [hz]; exact hx.kf hK (by decide) (by decide)
theorem R.cellsP {w : World} {g n c : Nat} {l : List PC} (h : R EPg w (.slice (some ⟨g, 0, none⟩) n c) l) (j : Nat) (hj : j < l.length) : w.cell? ⟨g, j * 5, none⟩ = some (.string l[j].1.a) ∧ w.cell? ⟨g, j * 5 + 1, none⟩ = some (.string l[j].1.p) ∧ w.cell? ⟨g, j * 5 + 2, none⟩ = some (.int .i64 l[j].1.n) ∧ w.cell? ⟨g, j * 5 + 3, none⟩ = some (.string l[j].1.v) ∧ w.cell? ⟨g, j * 5 + 4, none⟩ = some (sv l[j].1.ys) ∧ ∀ i, w.frozen? ⟨g, i, none⟩ = false := by
  obtain ⟨g', cap', e5, x1, x2, g2, x3, g3, g4, x4⟩ := h.setc okPg j 0 hj (by decide)
  injection e5 with e5 e6 e7
  injection e5 with e5
  injection e5 with e5
  subst e5
  obtain ⟨cc, hc⟩ := h.ty g rfl
  exact ⟨g3 0 _ rfl, g3 1 _ rfl, g3 2 _ rfl, g3 3 _ rfl, g3 4 _ rfl, fun i => frozen_blk hc i⟩
theorem R.base {α : Type} {E : El α} {w : World} {b : Option Addr} {n c : Nat} {l : List α} (ok : E.Ok) (h : R E w (.slice b n c) l) (h0 : 0 < l.length) : ∃ g, b = some ⟨g, 0, none⟩ := by
  obtain ⟨g', cap', e5, _⟩ := h.setc ok 0 0 h0 (by have := ok.pos; omega)
  injection e5 with e5 e6 e7
  exact ⟨g', e5⟩
/-- all that is kept, where rows of pages and fields alone are written, the first one not -/
theorem Fs.kf {w W W' : World} {lo g : Nat} {y : SV} {l : List PC} {K : Nat} (h : Fs w W lo g y l K) (hk : Kf W W') (hb : Below w.heap.size w W') (hap : ∀ k, (sv y).ownBlock = some k → W'.heap[k]? = W.heap[k]?) : Fs w W' lo g y l K :=
  ⟨⟨hb, h.1.row.stays fun k hk _ => hap k hk, h.1.new, fun x hx => (h.1.ch x hx).kf hk (by decide) (by decide)⟩, h.2.1.kf hk, h.2.2.1, Nat.le_trans h.2.2.2 hk.size⟩
theorem Pr.setc {w W : World} {g n c : Nat} {l : List PC} (h : Pr w W (some ⟨g, 0, none⟩, n, c) l) (j i : Nat) (hj : j < l.length) (hi : i < 5) (u : Value) (x : PC) (he : EPg.enc x = (EPg.enc l[j]).set i u) (hx : R ECh W (sv x.1.ys) x.2) : Pr w (W.setCell ⟨g, j * 5 + i, none⟩ u) (some ⟨g, 0, none⟩, n, c) (l.set j x) ∧ Kf W (W.setCell ⟨g, j * 5 + i, none⟩ u) := by
  obtain ⟨cc, hc⟩ := h.row.ty g rfl
  have hK : Kf W (W.setCell ⟨g, j * 5 + i, none⟩ u) := Kf.set u hc (.inr rfl)
  have h0 : R EPg W (.slice (some ⟨g, 0, none⟩) n c) (l.set j l[j]) := by rw [List.set_getElem_self]; exact h.row
  refine ⟨⟨h.bel.setCell (p := ⟨g, j * 5 + i, none⟩) (h.new g rfl) _, h0.setw okPg hj (i := i) hi u x he, h.new, fun z hz => ?_⟩, hK⟩
  rcases List.mem_or_eq_of_mem_set hz with hz | hz
  · exact (h.ch z hz).kf hK (by decide) (by decide)
  · rw [hz]; exact hx.kf hK (by decide) (by decide)
theorem no_pg (y : SV) : pgB ⟨aTest, ⟨#[110, 111, 32, 112, 97, 116, 104]⟩, 200, e0S, y⟩ [⟨e0S, ⟨#[120]⟩⟩] = false := by kernel_rfl
theorem y_pg (y : SV) : pgB ⟨aTest, ⟨#[47, 121]⟩, 200, e0S, y⟩ [⟨e0S, ⟨#[121]⟩⟩] = true := pg_one _ _ _ (by kernel_rfl) (by decide)
def oneX : List Ch := [⟨e0S, ⟨#[120]⟩⟩]
def twoX : List Ch := [⟨⟨#[]⟩, ⟨#[]⟩⟩, ⟨⟨#[120]⟩, ⟨#[]⟩⟩]
/-- the pages that may not be, ahead of the stores and behind them -/
def bad0 (y : Nat → SV) : List PC := [(⟨aTest, ⟨#[]⟩, 200, e0S, y 0⟩, oneX), (⟨⟨#[]⟩, ⟨#[]⟩, 0, ⟨#[]⟩, (none, 0, 0)⟩, []), (⟨aTest, ⟨#[47]⟩, 200, e0S, y 2⟩, oneX), (⟨aTest, ⟨#[47]⟩, 200, e0S, y 3⟩, oneX), (⟨aTest, ⟨#[47]⟩, 200, e0S, y 4⟩, oneX), (⟨aTest, ⟨#[47]⟩, 200, e0S, y 5⟩, oneX), (⟨aTest, ⟨#[47]⟩, 200, e0S, y 6⟩, oneX), (⟨aTest, ⟨#[47]⟩, 200, e0S, y 7⟩, oneX)]
def bad2 (y : Nat → SV) : PC := (⟨aTest, ⟨#[47]⟩, 204, e0S, y 2⟩, oneX)
def bad3 (y : Nat → SV) : PC := (⟨aTest, ⟨#[47]⟩, 600, e0S, y 3⟩, oneX)
def bad4 (y : Nat → SV) : PC := (⟨aTest, ⟨#[47]⟩, 200, e0S, (none, 0, 0)⟩, [])
def bad5 (y : Nat → SV) : PC := (⟨aTest, ⟨#[47]⟩, 200, ⟨#[65, 99, 99, 101, 112, 116]⟩, y 5⟩, oneX)
def bad6 (z : SV) : PC := (⟨aTest, ⟨#[47]⟩, 200, e0S, z⟩, twoX)
def bad7 (y : Nat → SV) : PC := (⟨⟨#[97, 32, 98]⟩, ⟨#[47]⟩, 200, e0S, y 7⟩, oneX)
def badL (y : Nat → SV) (z : SV) : List PC := [(⟨aTest, ⟨#[]⟩, 200, e0S, y 0⟩, oneX), (⟨⟨#[]⟩, ⟨#[]⟩, 0, ⟨#[]⟩, (none, 0, 0)⟩, []), bad2 y, bad3 y, bad4 y, bad5 y, bad6 z, bad7 y]
theorem one_small : ∀ c ∈ oneX, c.v.size ≤ 140737488355328 ∧ c.b.size ≤ 140737488355328 := fun c hc => by
  rw [List.mem_singleton.1 hc]; exact ⟨by decide, by decide⟩
theorem two_small : ∀ c ∈ twoX, c.v.size ≤ 140737488355328 ∧ c.b.size ≤ 140737488355328 := fun c hc => by
  simp only [twoX, List.mem_cons, List.not_mem_nil, or_false] at hc
  rcases hc with rfl | rfl <;> exact ⟨by decide, by decide⟩
theorem bad_ok (y : Nat → SV) (z : SV) : ∀ x ∈ badL y z, pgB x.1 x.2 = false ∧ (tz (x.1.a, x.1.p) ∧ x.1.v.size ≤ 281474976710656) ∧ ∀ c ∈ x.2, c.v.size ≤ 140737488355328 ∧ c.b.size ≤ 140737488355328 := fun x hx => by
  simp only [badL, List.mem_cons, List.not_mem_nil, or_false] at hx
  rcases hx with rfl | rfl | rfl | rfl | rfl | rfl | rfl | rfl
  · exact ⟨by kernel_rfl, ⟨⟨(by decide : aTest.size ≤ 281474976710656), (by decide : (⟨#[]⟩ : ByteArray).size ≤ 281474976710656)⟩, (by decide : e0S.size ≤ 281474976710656)⟩, one_small⟩
  · exact ⟨by kernel_rfl, ⟨⟨(by decide : (⟨#[]⟩ : ByteArray).size ≤ 281474976710656), (by decide : (⟨#[]⟩ : ByteArray).size ≤ 281474976710656)⟩, (by decide : (⟨#[]⟩ : ByteArray).size ≤ 281474976710656)⟩, fun c hc => by simp at hc⟩
  · exact ⟨by kernel_rfl, ⟨⟨(by decide : aTest.size ≤ 281474976710656), (by decide : (⟨#[47]⟩ : ByteArray).size ≤ 281474976710656)⟩, (by decide : e0S.size ≤ 281474976710656)⟩, one_small⟩
  · exact ⟨by kernel_rfl, ⟨⟨(by decide : aTest.size ≤ 281474976710656), (by decide : (⟨#[47]⟩ : ByteArray).size ≤ 281474976710656)⟩, (by decide : e0S.size ≤ 281474976710656)⟩, one_small⟩
  · exact ⟨by kernel_rfl, ⟨⟨(by decide : aTest.size ≤ 281474976710656), (by decide : (⟨#[47]⟩ : ByteArray).size ≤ 281474976710656)⟩, (by decide : e0S.size ≤ 281474976710656)⟩, fun c hc => by simp [bad4] at hc⟩
  · exact ⟨by kernel_rfl, ⟨⟨(by decide : aTest.size ≤ 281474976710656), (by decide : (⟨#[47]⟩ : ByteArray).size ≤ 281474976710656)⟩, (by decide : (⟨#[65, 99, 99, 101, 112, 116]⟩ : ByteArray).size ≤ 281474976710656)⟩, one_small⟩
  · exact ⟨by kernel_rfl, ⟨⟨(by decide : aTest.size ≤ 281474976710656), (by decide : (⟨#[47]⟩ : ByteArray).size ≤ 281474976710656)⟩, (by decide : e0S.size ≤ 281474976710656)⟩, two_small⟩
  · exact ⟨by kernel_rfl, ⟨⟨(by decide : (⟨#[97, 32, 98]⟩ : ByteArray).size ≤ 281474976710656), (by decide : (⟨#[47]⟩ : ByteArray).size ≤ 281474976710656)⟩, (by decide : e0S.size ≤ 281474976710656)⟩, one_small⟩
/-- a target that stands there twice -/
theorem tw_seven {bd : ByteArray} {l : List PC} (h : Fl bd l) (hb : bd.size ≤ 60000) (hl : l.length = 64) (k : Nat) (hk : k ≤ 32) (y : SV) (x0 : PC) (hx : x0 ∈ l) : nwE (l.take k ++ [x0, (⟨aTest, ⟨#[47, 121]⟩, 200, e0S, y⟩, [⟨e0S, ⟨#[121]⟩⟩])] ++ [x0]) = 7 := by
  have hr := h.right hb (by omega)
  refine nw_twice ?_ ?_ ?_
  · rw [List.any_eq_false] at hr ⊢
    intro z hz
    have hz' : z ∈ l ∨ z = (⟨aTest, ⟨#[47, 121]⟩, 200, e0S, y⟩, [⟨e0S, ⟨#[121]⟩⟩]) := by
      simp only [List.mem_append, List.mem_cons, List.not_mem_nil, or_false] at hz
      rcases hz with (hz | rfl | hz) | rfl
      · exact .inl (List.mem_of_mem_take hz)
      · exact .inl hx
      · exact .inr hz
      · exact .inl hx
    rcases hz' with hz | rfl
    · exact hr z hz
    · unfold wrB; rw [y_pg]; simp
  · simp only [List.length_append, List.length_take, List.length_cons, List.length_nil]; omega
  · intro hn
    rw [List.map_append, List.nodup_append] at hn
    exact hn.2.2 (tgP x0) (by simp) (tgP x0) (by simp) rfl
/-- what the first page is -/
theorem Fl.zero {bd : ByteArray} {l : List PC} (h : Fl bd l) (hl : l.length = 64) : ∃ zb zl zc, l[0]'(by omega) = flX bd 0 (zb, zl, zc) := by
  obtain ⟨⟨zb, zl, zc⟩, hz⟩ := h 0 (by omega)
  exact ⟨zb, zl, zc, hz⟩
end Go.Proofs.YtcadlpmopplkeaaDoor

/- SiteFull: the pages that may not be, beside all else. -/
namespace Go.Proofs.YtcadlpmopplkeaaDoor
open Go.RowKit Go.Maps
open Go.Shelf
set_option linter.unusedVariables false
set_option linter.unusedSimpArgs false
def Ysf (W : World) (L : List SV) : Prop := ∀ y ∈ L, R ECh W (sv y) oneX
theorem Ysf.nil (W : World) : Ysf W [] := fun y hy => by simp at hy
theorem Ysf.cons {W W' : World} {L : List SV} {y : SV} (h : Ysf W L) (hb : Below W.heap.size W W') (hy : R ECh W' (sv y) oneX) : Ysf W' (y :: L) := fun z hz => by
  rcases List.mem_cons.1 hz with rfl | hz
  · exact hy
  · exact (h z hz).below hb
theorem Ysf.below {W W' : World} {L : List SV} (h : Ysf W L) (hb : Below W.heap.size W W') : Ysf W' L := fun z hz => (h z hz).below hb
/-- all that is kept, and the row of bad pages -/
structure Bq (w W : World) (lo g : Nat) (gl c : Nat) (l : List PC) (K gb : Nat) (L : List PC) : Prop where
  fs : Fs w W lo g (some ⟨gl, 0, none⟩, 64, c) l K
  pr : Pr w W (some ⟨gb, 0, none⟩, 8, 8) L
  ne : gl ≠ gb
theorem Bq.below {w W W' : World} {lo g gl c K gb : Nat} {l L : List PC} (h : Bq w W lo g gl c l K gb L) (hb : Below W.heap.size W W') : Bq w W' lo g gl c l K gb L := ⟨h.fs.below hb, h.pr.below hb, h.ne⟩
theorem Bq.set {w W : World} {lo g gl c K gb : Nat} {l L : List PC} (h : Bq w W lo g gl c l K gb L) (j i : Nat) (hj : j < L.length) (hi : i < 5) (u : Value) (x : PC) (he : EPg.enc x = (EPg.enc L[j]).set i u) (hx : R ECh W (sv x.1.ys) x.2) : Bq w (W.setCell ⟨gb, j * 5 + i, none⟩ u) lo g gl c l K gb (L.set j x) := by
  obtain ⟨h1, h2⟩ := h.pr.setc j i hj hi u x he hx
  exact ⟨h.fs.kf h2 h1.bel (fun k hk => setCell_other _ _ _ _ _ (fun e => h.ne (by injection hk with hk; exact hk.trans e))), h1, h.ne⟩
theorem Bq.make {w W V : World} {lo g gl c K : Nat} {l : List PC} (h : Fs w W lo g (some ⟨gl, 0, none⟩, 64, c) l K) (y : Nat → SV) (hy : Ysf W [y 0, y 2, y 3, y 4, y 5, y 6, y 7])
    (hV : V = W.alloc (.cells (EPg.cs (bad0 y)).toArray 26)) : Bq w V lo g gl c l K W.heap.size (bad0 y) := by
  have hb : Below W.heap.size W V := by rw [hV]; exact bel1 _ _
  have hr : R EPg V (.slice (some ⟨W.heap.size, 0, none⟩) 8 8) (bad0 y) := by
    rw [hV]
    exact R.whole okPg (c := (EPg.cs (bad0 y)).toArray) (bad0 y) (by simp [bad0]) (by rw [heap_al, if_pos rfl]; rfl) (by simp)
  refine ⟨h.below hb, ⟨h.1.bel.trans (hb.mono h.1.bel.size), hr, fun k hk => by injection hk with hk; rw [← hk]; exact h.1.bel.size, fun x hx => ?_⟩, fun e => ?_⟩
  · have hy' := hy.below hb
    simp only [bad0, List.mem_cons, List.not_mem_nil, or_false] at hx
    rcases hx with rfl | rfl | rfl | rfl | rfl | rfl | rfl | rfl
    · exact hy' _ (by simp)
    · exact R.nil _ _
    · exact hy' _ (by simp)
    · exact hy' _ (by simp)
    · exact hy' _ (by simp)
    · exact hy' _ (by simp)
    · exact hy' _ (by simp)
    · exact hy' _ (by simp)
  · have := h.1.row.lt gl rfl
    omega
theorem Bq.cell {w W : World} {lo g gl c K gb : Nat} {l L : List PC} (h : Bq w W lo g gl c l K gb L) (j : Nat) (hj : j < L.length) : W.cell? ⟨gb, j * 5, none⟩ = some (.string L[j].1.a) ∧ W.cell? ⟨gb, j * 5 + 1, none⟩ = some (.string L[j].1.p) ∧ W.cell? ⟨gb, j * 5 + 2, none⟩ = some (.int .i64 L[j].1.n) ∧ W.cell? ⟨gb, j * 5 + 3, none⟩ = some (.string L[j].1.v) ∧ W.cell? ⟨gb, j * 5 + 4, none⟩ = some (sv L[j].1.ys) ∧ ∀ i, W.frozen? ⟨gb, i, none⟩ = false := R.cellsP (n := 8) (c := 8) h.pr.row j hj
theorem Bq.put {w W : World} {lo g gl c K gb : Nat} {l : List PC} {y : Nat → SV} {z : SV} (h : Bq w W lo g gl c l K gb (badL y z)) (j : Nat) (hj : j < (badL y z).length) (p : Pg) (cs : List Ch) (hp : (badL y z)[j] = (p, cs)) :
    Calls Tryd.prog 14 #[.pointer (some ⟨g, 0, none⟩), .agg (pgv p)] W fun e w' => e = .returned (.int .i64 170) ∧ Bq w w' lo g gl c l K gb (badL y z) := by
  have hm : (p, cs) ∈ badL y z := by rw [← hp]; exact List.getElem_mem _
  obtain ⟨o1, o2, o3⟩ := bad_ok y z _ hm
  refine (put_bad h.fs.2.1 h.fs.2.2.2 (by decide) p cs (h.pr.ch _ hm).isIn o1 o2 o3).mono ?_
  rintro e w' ⟨rfl, ⟨hB, hK⟩, hS⟩
  have hb : Below w.heap.size w w' := h.fs.1.bel.trans (hB.mono h.fs.2.2.1)
  exact ⟨rfl, ⟨h.fs.1.kt hK hb, hS, h.fs.2.2.1, Nat.le_trans h.fs.2.2.2 hB.size⟩, h.pr.kt hK hb, h.ne⟩
theorem bad_set (y : Nat → SV) (z : SV) : ((((((bad0 y).set 2 (bad2 y)).set 3 (bad3 y)).set 4 (bad4 y)).set 5 (bad5 y)).set 6 (bad6 z)).set 7 (bad7 y) = badL y z := rfl
end Go.Proofs.YtcadlpmopplkeaaDoor

/- A function's code from its n-th statement on. -/
namespace Go.Proofs.YtcadlpmopplkeaaDoor
open Go.RowKit
def dropS : Nat → Code → Code
  | 0, c => c
  | n + 1, .seq _ c => dropS n c
  | _ + 1, c => c
def bodyOf (f : Func) : Code := match f.body with
  | some c => c
  | none => .ret
end Go.Proofs.YtcadlpmopplkeaaDoor

/- A bad page put. -/
namespace Go.Proofs.YtcadlpmopplkeaaDoor
open Go.RowKit Go.Maps
set_option linter.unusedVariables false
set_option linter.unusedSimpArgs false
theorem badL_length (y : Nat → SV) (zz : SV) : (badL y zz).length = 8 := by
  unfold badL
  simp [bad0]
set_option maxRecDepth 100000 in
theorem Bq.step {w W : World} {lo g gl c K gb : Nat} {l : List PC} {y : Nat → SV} {zz : SV} (h : Bq w W lo g gl c l K gb (badL y zz)) (i : Nat) (hi : i < 8) : ∃ (qa qp : ByteArray) (qn : Int) (qv : ByteArray) (qb : Option Addr) (ql qc : Nat), W.cell? ⟨gb, i * 5, none⟩ = some (.string qa) ∧ W.cell? ⟨gb, i * 5 + 1, none⟩ = some (.string qp) ∧ W.cell? ⟨gb, i * 5 + 2, none⟩ = some (.int .i64 qn) ∧ W.cell? ⟨gb, i * 5 + 3, none⟩ = some (.string qv) ∧ W.cell? ⟨gb, i * 5 + 4, none⟩ = some (.slice qb ql qc) ∧ Calls Tryd.prog 14 #[.pointer (some ⟨g, 0, none⟩), .agg #[.string qa, .string qp, .int .i64 qn, .string qv, .slice qb ql qc]] W fun e w' => e = .returned (.int .i64 170) ∧ Bq w w' lo g gl c l K gb (badL y zz) := by
  have hiL : i < (badL y zz).length := by rw [badL_length]; exact hi
  have hc := h.cell i hiL
  have hp := h.put i hiL
  generalize hX : (badL y zz)[i] = x at hc hp
  obtain ⟨⟨qa, qp, qn, qv, qb, ql, qc⟩, qcs⟩ := x
  obtain ⟨p0, p1, p2, p3, p4, _⟩ := hc
  have hq := hp ⟨qa, qp, qn, qv, qb, ql, qc⟩ qcs rfl
  unfold pgv at hq
  simp only [sv] at hq p0 p1 p2 p3 p4
  exact ⟨qa, qp, qn, qv, qb, ql, qc, p0, p1, p2, p3, p4, hq⟩
end Go.Proofs.YtcadlpmopplkeaaDoor

