/- Several texts in one. -/
import Derived.Test.YtcadlpmopplkeaaDoorG0
/- SiteFull: what its pages are. -/
namespace Go.Proofs.YtcadlpmopplkeaaDoor
open Go.RowKit Go.Maps
open Go.Shelf
set_option linter.unusedVariables false
set_option linter.unusedSimpArgs false

theorem wraps_i64_63 (n : Int) (h₀ : 0 ≤ n) (h₁ : n < 2 ^ 63) : IntKind.i64.wrap n = n := by rw [IntKind.wrap_i64]; omega
/-- of any number: its lower bits -/
theorem and_any (n : Int) (p : Nat) (hp : p ≤ 62) : bits .and .i64 n ((2 ^ p - 1 : Nat) : Int) = n % ((2 ^ p : Nat) : Int) := by
  have hpp : 2 ^ p < 2 ^ 63 := Nat.pow_lt_pow_right (by decide) (by omega)
  have hpos : 0 < 2 ^ p := Nat.two_pow_pos p
  have hd : 2 ^ p ∣ 2 ^ 64 := Nat.pow_dvd_pow 2 (by omega)
  have hb : (BitVec.ofInt 64 ((2 ^ p - 1 : Nat) : Int)).toNat = 2 ^ p - 1 := by
    rw [BitVec.ofInt_natCast, BitVec.toNat_ofNat]; exact Nat.mod_eq_of_lt (by omega)
  have ha : (BitVec.ofInt 64 n).toNat = (n % ((2 ^ 64 : Nat) : Int)).toNat := BitVec.toNat_ofInt n
  have key : (n % ((2 ^ 64 : Nat) : Int)).toNat % 2 ^ p = (n % ((2 ^ p : Nat) : Int)).toNat := by
    have h1 : 0 ≤ n % ((2 ^ 64 : Nat) : Int) := Int.emod_nonneg _ (by decide)
    have h2 : 0 ≤ n % ((2 ^ p : Nat) : Int) := Int.emod_nonneg _ (by omega)
    apply Int.ofNat.inj
    show (((n % ((2 ^ 64 : Nat) : Int)).toNat % 2 ^ p : Nat) : Int) = (((n % ((2 ^ p : Nat) : Int)).toNat : Nat) : Int)
    rw [Int.natCast_emod, Int.toNat_of_nonneg h1, Int.toNat_of_nonneg h2]
    exact Int.emod_emod_of_dvd n (Int.natCast_dvd_natCast.2 hd)
  have h2 : 0 ≤ n % ((2 ^ p : Nat) : Int) := Int.emod_nonneg _ (by omega)
  have h3 : n % ((2 ^ p : Nat) : Int) < ((2 ^ p : Nat) : Int) := Int.emod_lt_of_pos _ (by omega)
  show IntKind.i64.wrap (((BitVec.ofInt 64 n) &&& (BitVec.ofInt 64 ((2 ^ p - 1 : Nat) : Int))).toNat : Int) = _
  rw [BitVec.toNat_and, ha, hb, Nat.and_two_pow_sub_one_eq_mod, key, Int.toNat_of_nonneg h2]
  exact wraps_i64_63 _ h2 (by omega)
theorem and63 (n : Int) : bits .and .i64 n 63 = n % 64 := and_any n 6 (by decide)
theorem and31 (n : Int) : bits .and .i64 n 31 = n % 32 := and_any n 5 (by decide)
/-- the path of a number -/
def flP (i : Nat) : ByteArray := (⟨#[47]⟩ : ByteArray) ++ itoaS (i : Int)
def flC (bd : ByteArray) (i : Nat) : List Ch := [⟨e0S, bd ++ itoaS (i : Int)⟩]
def flX (bd : ByteArray) (i : Nat) (z : SV) : PC := (⟨aTest, flP i, 200, e0S, z⟩, flC bd i)
theorem flP_all : (List.range 65).all (fun i => txB (flP i) && (first0 (flP i) == 47) && decide ((flP i).size ≤ 4) && decide ((itoaS (i : Int)).size ≤ 2) && (List.range i).all fun j => !((flP j).data == (flP i).data)) = true := by kernel_rfl
theorem flP_one {i : Nat} (h : i < 65) : (txB (flP i) && (first0 (flP i) == 47)) = true ∧ (flP i).size ≤ 4 ∧ (itoaS (i : Int)).size ≤ 2 ∧ ∀ j, j < i → flP j ≠ flP i := by
  have := List.all_eq_true.1 flP_all i (List.mem_range.2 h)
  simp only [Bool.and_eq_true, decide_eq_true_eq] at this
  obtain ⟨⟨⟨⟨a, b⟩, c⟩, d⟩, e⟩ := this
  refine ⟨by rw [a, b]; rfl, c, d, fun j hj he => ?_⟩
  have := List.all_eq_true.1 e j (List.mem_range.2 hj)
  rw [he] at this
  simp at this
theorem flP_inj {i j : Nat} (hi : i < 65) (hj : j < 65) (h : flP i = flP j) : i = j := by
  rcases Nat.lt_trichotomy i j with hlt | hlt | hlt
  · exact absurd h ((flP_one hj).2.2.2 i hlt)
  · exact hlt
  · exact absurd h.symm ((flP_one hi).2.2.2 j hlt)
theorem pg_one (p b : ByteArray) (y : SV) (hp : (txB p && (first0 p == 47)) = true) (hb : b.size ≤ 65536) : pgB ⟨aTest, p, 200, e0S, y⟩ [⟨e0S, b⟩] = true := by
  unfold pgB
  have e1 : txB aTest = true := by kernel_rfl
  have e3 : staB 200 = true := by kernel_rfl
  simp only
  rw [e1, hp, e3]
  simp only [Bool.true_and]
  unfold chB
  have e4 : noVary e0S = true := by kernel_rfl
  have e5 : e0S.toList.isEmpty = true := by kernel_rfl
  rw [e4, if_pos rfl]
  unfold loneB
  simp only [e5, bdB, hb, List.length_singleton, Bool.true_and, decide_true]
  rfl
theorem fl_pg {bd : ByteArray} (hb : bd.size ≤ 60000) {i : Nat} (hi : i < 65) (z : SV) : pgB (flX bd i z).1 (flX bd i z).2 = true :=
  pg_one _ _ _ (flP_one hi).1 (by have := (flP_one hi).2.2.1; rw [ByteArray.size_append]; omega)
/-- these are the first pages -/
def Fl (bd : ByteArray) (l : List PC) : Prop := ∀ i (h : i < l.length), ∃ z, l[i] = flX bd i z
theorem Fl.nil (bd : ByteArray) : Fl bd [] := fun i h => absurd h (by simp)
theorem Fl.snoc {bd : ByteArray} {l : List PC} (h : Fl bd l) (z : SV) : Fl bd (l ++ [flX bd l.length z]) := fun i hi => by
  by_cases hlt : i < l.length
  · obtain ⟨y, hy⟩ := h i hlt
    exact ⟨y, by rw [List.getElem_append_left hlt]; exact hy⟩
  · have : i = l.length := by simp at hi; omega
    subst this
    exact ⟨z, by simp⟩
theorem Fl.mem {bd : ByteArray} {l : List PC} (h : Fl bd l) {x : PC} (hx : x ∈ l) : ∃ i z, i < l.length ∧ x = flX bd i z := by
  obtain ⟨i, hi, rfl⟩ := List.getElem_of_mem hx
  obtain ⟨z, hz⟩ := h i hi
  exact ⟨i, z, hi, hz⟩
theorem Fl.right {bd : ByteArray} {l : List PC} (h : Fl bd l) (hb : bd.size ≤ 60000) (hl : l.length ≤ 65) : l.any wrB = false := List.any_eq_false.2 fun x hx => by
  obtain ⟨i, z, hi, rfl⟩ := h.mem hx
  unfold wrB
  rw [fl_pg hb (by omega)]
  simp
theorem Fl.tg {bd : ByteArray} {l : List PC} (h : Fl bd l) : l.map tgP = (List.range l.length).map fun i => (aTest, flP i) := by
  refine List.ext_getElem (by simp) fun i h1 h2 => ?_
  simp at h1
  obtain ⟨z, hz⟩ := h i h1
  simp [hz, flX, tgP]
theorem Fl.nd {bd : ByteArray} {l : List PC} (h : Fl bd l) (hl : l.length ≤ 65) : (l.map tgP).Nodup := by
  rw [h.tg, List.nodup_iff_pairwise_ne, List.pairwise_map]
  refine List.Pairwise.imp_of_mem ?_ List.pairwise_lt_range
  intro i j hi hj hij e
  have := flP_inj (by have := List.mem_range.1 hi; omega) (by have := List.mem_range.1 hj; omega) (congrArg Prod.snd e)
  omega
theorem Fl.nw {bd : ByteArray} {l : List PC} (h : Fl bd l) (hb : bd.size ≤ 60000) (hl : l.length ≤ 64) : nwE l = 0 := by
  unfold nwE
  rw [h.right hb (by omega), if_neg (by simp), if_neg (by omega), if_pos (h.nd (by omega))]
/-- one page too many -/
theorem Fl.more {bd : ByteArray} {l : List PC} (h : Fl bd l) (hb : bd.size ≤ 60000) (hl : l.length = 64) (x : PC) (hx : pgB x.1 x.2 = true) : nwE (l ++ [x]) = 6 := by
  unfold nwE
  have e : (l ++ [x]).any wrB = false := by
    rw [List.any_append, h.right hb (by omega)]
    simp [wrB, hx]
  rw [e, if_neg (by simp), if_pos (by simp; omega)]
/-- a page that may not be -/
theorem nw_bad {l : List PC} {x : PC} (hx : x ∈ l) (hp : pgB x.1 x.2 = false) : nwE l = 170 := by
  unfold nwE
  rw [if_pos (List.any_eq_true.2 ⟨x, hx, by simp [wrB, hp]⟩)]
/-- a target twice -/
theorem nw_twice {l : List PC} (hr : l.any wrB = false) (hl : l.length ≤ 64) (hn : ¬ (l.map tgP).Nodup) : nwE l = 7 := by
  unfold nwE
  rw [hr, if_neg (by simp), if_neg (by omega), if_neg hn]
theorem fk_at {ps : List PC} (hn : (ps.map tgP).Nodup) {x : PC} (hx : x ∈ ps) : Fk ps (tgP x) = [epP x] := by
  have h1 := fk_len hn (tgP x)
  have h2 : epP x ∈ Fk ps (tgP x) := List.mem_map.2 ⟨x, List.mem_filter.2 ⟨hx, by simp⟩, rfl⟩
  match hf : Fk ps (tgP x) with
  | [] => rw [hf] at h2; simp at h2
  | [a] => rw [hf] at h2; rw [List.mem_singleton.1 h2]
  | a :: b :: r => rw [hf] at h1; simp at h1
theorem Fl.fk {bd : ByteArray} {l : List PC} (h : Fl bd l) (hl : l.length ≤ 65) {k : Nat} (hk : k < l.length) : Fk l (aTest, flP k) = [⟨1, 200, e0S, flC bd k⟩] := by
  obtain ⟨z, hz⟩ := h k hk
  have := fk_at (h.nd hl) (List.getElem_mem hk)
  rw [hz] at this
  exact this
theorem Fl.key {bd : ByteArray} {l : List PC} (h : Fl bd l) (hl : l.length = 64) : (aTest, flP 64) ∉ l.map tgP := by
  rw [h.tg, hl]
  intro hm
  obtain ⟨i, hi, e⟩ := List.mem_map.1 hm
  have hi := List.mem_range.1 hi
  have := flP_inj (by omega) (by omega) (congrArg Prod.snd e)
  omega
theorem Fl.at_in {bd : ByteArray} {l : List PC} (h : Fl bd l) {k : Nat} (hk : k < l.length) : (aTest, flP k) ∈ l.map tgP := by
  rw [h.tg]
  exact List.mem_map.2 ⟨k, List.mem_range.2 hk, rfl⟩
theorem chS_one (v : Int) (n : Int) (b : ByteArray) (fs : List Fd) : chS (de ⟨v, n, e0S, [⟨e0S, b⟩]⟩) fs = ⟨e0S, b⟩ := by
  unfold chS
  have : chI (de ⟨v, n, e0S, [⟨e0S, b⟩]⟩) fs = 0 := by
    unfold chI
    split
    · rename_i h
      have := plI_lt _ _ h
      simp only [de, List.length_singleton] at this
      simp only [de]
      omega
    · rfl
  rw [this]
  rfl
/-- behind the Put -/
def flF (l : List PC) (k : Nat) : Fm := (Fk l).put (aTest, flP k) ⟨2, 200, e0S, [⟨e0S, ⟨#[111, 116, 104, 101, 114]⟩⟩]⟩
theorem flF_two {bd : ByteArray} {l : List PC} (h : Fl bd l) (hl : l.length ≤ 65) {k : Nat} (hk : k < l.length) : atE (flF l k (aTest, flP k)) 2 = some ⟨2, 200, e0S, [⟨e0S, ⟨#[111, 116, 104, 101, 114]⟩⟩]⟩ ∧ atE (flF l k (aTest, flP k)) 1 = some ⟨1, 200, e0S, flC bd k⟩ := by
  have e : flF l k (aTest, flP k) = [⟨1, 200, e0S, flC bd k⟩] ++ [⟨2, 200, e0S, [⟨e0S, ⟨#[111, 116, 104, 101, 114]⟩⟩]⟩] := by
    unfold flF Fm.put
    rw [if_pos rfl, h.fk hl hk]
  rw [e, atE_snoc, atE_snoc]
  exact ⟨rfl, rfl⟩
end Go.Proofs.YtcadlpmopplkeaaDoor

/- SiteFull: rows of pages and of fields that are written while a site is kept. -/
namespace Go.Proofs.YtcadlpmopplkeaaDoor
open Go.RowKit Go.Maps
open Go.Shelf
set_option linter.unusedVariables false
set_option linter.unusedSimpArgs false

/-- nothing is written but rows of pages and of fields -/
structure Kf (w w' : World) : Prop where
  os : w'.os = w.os
  tape : w'.tape = w.tape
  output : w'.output = w.output
  size : w.heap.size ≤ w'.heap.size
  block : ∀ (k : Nat) (o : Obj), w.heap[k]? = some o → (∀ c fz, o ≠ .cells c 44 fz) → (∀ c fz, o ≠ .cells c 26 fz) → w'.heap[k]? = some o
theorem Kf.refl (w : World) : Kf w w := ⟨rfl, rfl, rfl, Nat.le_refl _, fun _ _ h _ _ => h⟩
theorem Kf.trans {a b c : World} (h : Kf a b) (k : Kf b c) : Kf a c := ⟨k.os.trans h.os, k.tape.trans h.tape, k.output.trans h.output, Nat.le_trans h.size k.size, fun i o hi h1 h2 => k.block i o (h.block i o hi h1 h2) h1 h2⟩
theorem Kf.of {w w' : World} (h : Below w.heap.size w w') : Kf w w' := ⟨h.os, h.tape, h.output, h.size, fun k o hk _ _ => (h.block k (heap_lt hk)).trans hk⟩
theorem Kf.gr {α : Type} {E : El α} {w w' : World} {u v : Value} {l : List α} (h : R E w u l) (hG : Gr w w' u v) (ht : E.e = 44 ∨ E.e = 26) : Kf w w' :=
  ⟨hG.os, hG.tape, hG.output, hG.size, fun k o hk h1 h2 => (hG.block k (heap_lt hk) fun e => by
    obtain ⟨c, hc⟩ := h.ty k e
    rw [hk] at hc
    injection hc with hc
    rcases ht with ht | ht
    · exact h1 c (0, 0) (by rw [hc, ht])
    · exact h2 c (0, 0) (by rw [hc, ht])).trans hk⟩
theorem Kf.set {w : World} {g o : Nat} {c : Array Value} {t : TypeId} (v : Value) (h : w.heap[g]? = some (Obj.cells c t (0, 0))) (ht : t = 44 ∨ t = 26) : Kf w (w.setCell ⟨g, o, none⟩ v) :=
  ⟨rfl, rfl, rfl, by simp [World.setCell], fun k ob hk h1 h2 => (setCell_other _ _ _ _ _ fun e => by
    rw [e, h] at hk
    injection hk with hk
    rcases ht with ht | ht
    · exact h1 c (0, 0) (by rw [← hk, ht])
    · exact h2 c (0, 0) (by rw [← hk, ht])).trans hk⟩
theorem R.kf {α : Type} {E : El α} {w w' : World} {v : Value} {l : List α} (h : R E w v l) (hk : Kf w w') (h1 : E.e ≠ 44) (h2 : E.e ≠ 26) : R E w' v l := h.stays fun k hk' _ => by
  obtain ⟨c, hc⟩ := h.ty k hk'
  rw [hk.block k _ hc (fun c' fz e => by injection e with _ e; exact h1 e) (fun c' fz e => by injection e with _ e; exact h2 e), hc]
theorem Sr.kf {w w' : World} {lo : Nat} {L : List Te} (h : Sr w lo L) (hk : Kf w w') : Sr w' lo L :=
  ⟨fun r hr => ⟨(h.rows r hr).1.kf hk (by decide) (by decide), (h.rows r hr).2⟩, h.apart, fun r hr e he => ⟨(h.ch r hr e he).1.kf hk (by decide) (by decide), (h.ch r hr e he).2⟩, h.z⟩
theorem Sx.kf {w w' : World} {lo g N : Nat} {nv : Int} {F : Fm} {K : List Tg} (h : Sx w lo g N nv F K) (hk : Kf w w') : Sx w' lo g N nv F K := by
  obtain ⟨b, L, h1, h2, h3⟩ := h.si
  obtain ⟨n, D, q1, ⟨es, clock, q2, q2'⟩, q3⟩ := h1.own
  refine ⟨⟨b, L, ⟨?_, ⟨n, D, q1, ⟨es, clock, ?_, q2'⟩, q3⟩, h1.sr.kf hk, h1.lg⟩, h2, h3⟩, h.ris, h.ver, h.siz, h.len, h.key, h.bnd⟩
  · exact hk.block _ _ h1.hg (fun c fz e => by injection e with _ e; cases e) (fun c fz e => by injection e with _ e; cases e)
  · exact hk.block _ _ q2 (fun c fz e => by cases e) (fun c fz e => by cases e)
/-- a row of pages, made since w -/
structure Pr (w wr : World) (y : SV) (l : List PC) : Prop where
  bel : Below w.heap.size w wr
  row : R EPg wr (sv y) l
  new : ∀ k, (sv y).ownBlock = some k → w.heap.size ≤ k
  ch : ∀ x ∈ l, R ECh wr (sv x.1.ys) x.2
theorem Pr.below {w wx wy : World} {y : SV} {l : List PC} (h : Pr w wx y l) (hb : Below wx.heap.size wx wy) : Pr w wy y l :=
  ⟨h.bel.trans (hb.mono h.bel.size), h.row.below hb, h.new, fun x hx => (h.ch x hx).below hb⟩
theorem Pr.start (w : World) : Pr w w (none, 0, 0) [] := ⟨Below.refl _ _, R.nil _ _, fun k hk => by simp [sv, Value.ownBlock] at hk, fun x hx => by simp at hx⟩
theorem Pr.app {w W : World} {y : SV} {l : List PC} (h : Pr w W y l) (v : Value) (news : List PC) (hv : In EPg W v news) (hc : ∀ x ∈ news, R ECh W (sv x.1.ys) x.2) (hl : (l.length + news.length) * 80 ≤ 140737488355328) :
    ∃ bs c w2, (Builtin.append_ #[34, 34] 34 #[sv y, v]).run Tryd.prog W = .ok (.slice bs (l.length + news.length) c) w2 ∧ Pr w w2 (bs, l.length + news.length, c) (l ++ news) ∧ Gr W w2 (sv y) (.slice bs (l.length + news.length) c) ∧ Kf W w2 := by
  obtain ⟨bs, c, w2, hrun, hR, hG⟩ := Go.Proofs.YtcadlpmopplkeaaDoor.app okPg W (sv y) l h.row v news hv (by simpa [EPg] using hl)
  have hK : Kf W w2 := Kf.gr h.row hG (.inr rfl)
  refine ⟨bs, c, w2, hrun, ⟨h.bel.trans (hG.belowB h.bel.size h.new), hR, fun k hk => ?_, fun z hz => ?_⟩, hG, hK⟩
  · rcases hG.own k hk with h' | h'
    · exact h.new k h'
    · have := h.bel.size; omega
  · have hz' : R ECh W (sv z.1.ys) z.2 := by
      rcases List.mem_append.1 hz with hz | hz
      · exact h.ch z hz
      · exact hc z hz
    exact hz'.kf hK (by decide) (by decide)
theorem Pr.new_any {w W : World} {y : SV} {l : List PC} (h : Pr w W y l) : Calls Tryd.prog 10 #[sv y] W fun e w' => NwP l W e w' :=
  Go.Proofs.YtcadlpmopplkeaaDoor.new_any y l W h.row.isIn (fun x hx => (h.ch x hx).isIn)
theorem Pr.kt {w W W' : World} {y : SV} {l : List PC} (h : Pr w W y l) (hk : Kt W W') (hb : Below w.heap.size w W') : Pr w W' y l :=
  ⟨hb, h.row.stays fun k hk' _ => (by obtain ⟨c, hc⟩ := h.row.ty k hk'; exact hk k c _ hc (by decide) (by decide)), h.new, fun x hx => (h.ch x hx).stays fun k hk' _ => (by obtain ⟨c, hc⟩ := (h.ch x hx).ty k hk'; exact hk k c _ hc (by decide) (by decide))⟩
theorem tz_fl {i : Nat} (h : i < 65) : tz (aTest, flP i) := ⟨by show aTest.size ≤ _; decide, by show (flP i).size ≤ _; have := (flP_one h).2.1; omega⟩
theorem Fl.tl {bd : ByteArray} {l : List PC} (h : Fl bd l) (hl : l.length = 64) : (l.map tgP).length = 64 := by simp [hl]
/-- a page too many is put -/
theorem put_full {w : World} {lo g : Nat} {bd : ByteArray} {l : List PC} (h : Sx w lo g 64 1 (Fk l) (l.map tgP)) (hF : Fl bd l) (hl : l.length = 64) (hlo : lo ≤ w.heap.size) (y : SV) (hy : R ECh w (sv y) [⟨e0S, ⟨#[120]⟩⟩]) :
    Calls Tryd.prog 14 #[.pointer (some ⟨g, 0, none⟩), .agg (pgv ⟨aTest, flP 64, 200, e0S, y⟩)] w fun e w' => e = .returned (.int .i64 6) ∧ (Below lo w w' ∧ Kt w w') ∧ Sx w' lo g 64 1 (Fk l) (l.map tgP) := by
  refine (h.put ⟨aTest, flP 64, 200, e0S, y⟩ [⟨e0S, ⟨#[120]⟩⟩] hlo (by omega) hy.isIn ⟨tz_fl (by omega), (by decide : e0S.size ≤ 281474976710656)⟩ (fun c hc => by rw [List.mem_singleton.1 hc]; exact ⟨by decide, by decide⟩)).mono ?_
  rintro e w' ⟨hB, he⟩
  rcases he with ⟨q, _⟩ | ⟨_, _, _, q1, q2⟩ | ⟨_, q, _⟩
  · rw [pg_one _ _ _ (flP_one (by omega)).1 (by decide)] at q; cases q
  · exact ⟨q1, hB, q2⟩
  · rcases q with q | q
    · rw [hF.tl hl] at q; omega
    · exact absurd q (hF.key hl)
/-- a page is put anew -/
theorem put_again {w : World} {lo g : Nat} {bd : ByteArray} {l : List PC} (h : Sx w lo g 64 1 (Fk l) (l.map tgP)) (hF : Fl bd l) (hl : l.length = 64) (hlo : lo ≤ w.heap.size) {k : Nat} (hk : k < 64) (y : SV) (hy : R ECh w (sv y) [⟨e0S, ⟨#[111, 116, 104, 101, 114]⟩⟩]) :
    Calls Tryd.prog 14 #[.pointer (some ⟨g, 0, none⟩), .agg (pgv ⟨aTest, flP k, 200, e0S, y⟩)] w fun e w' => e = .returned (.int .i64 0) ∧ (Below lo w w' ∧ Kt w w') ∧ Sx w' lo g 65 2 (flF l k) (l.map tgP) := by
  refine (h.put ⟨aTest, flP k, 200, e0S, y⟩ [⟨e0S, ⟨#[111, 116, 104, 101, 114]⟩⟩] hlo (by omega) hy.isIn ⟨tz_fl (by omega), (by decide : e0S.size ≤ 281474976710656)⟩ (fun c hc => by rw [List.mem_singleton.1 hc]; exact ⟨by decide, by decide⟩)).mono ?_
  have hin := hF.at_in (k := k) (by omega)
  rintro e w' ⟨hB, he⟩
  rcases he with ⟨q, _⟩ | ⟨_, _, q, _⟩ | ⟨_, _, q1, q2⟩
  · rw [pg_one _ _ _ (flP_one (by omega)).1 (by decide)] at q; cases q
  · exact absurd hin q
  · simp only [kadd_in hin] at q2
    exact ⟨q1, hB, q2⟩
/-- a page that may not be is put -/
theorem put_bad {w : World} {lo g N : Nat} {nv : Int} {F : Fm} {K : List Tg} (h : Sx w lo g N nv F K) (hlo : lo ≤ w.heap.size) (hN : N + 1 ≤ 1099511627776) (p : Pg) (cs : List Ch) (hI : In ECh w (sv p.ys) cs) (hb : pgB p cs = false) (hz : tz (p.a, p.p) ∧ p.v.size ≤ 281474976710656) (hcz : ∀ c ∈ cs, c.v.size ≤ 140737488355328 ∧ c.b.size ≤ 140737488355328) :
    Calls Tryd.prog 14 #[.pointer (some ⟨g, 0, none⟩), .agg (pgv p)] w fun e w' => e = .returned (.int .i64 170) ∧ (Below lo w w' ∧ Kt w w') ∧ Sx w' lo g N nv F K := by
  refine (h.put p cs hlo hN hI hz hcz).mono ?_
  rintro e w' ⟨hB, he⟩
  rcases he with ⟨_, q1, q2⟩ | ⟨q, _⟩ | ⟨q, _⟩
  · exact ⟨q1, hB, q2⟩
  · rw [hb] at q; cases q
  · rw [hb] at q; cases q
theorem has_64 {w : World} {lo g : Nat} {bd : ByteArray} {l : List PC} (h : Sx w lo g 64 1 (Fk l) (l.map tgP)) (hF : Fl bd l) (hl : l.length = 64) :
    Calls Tryd.prog 16 #[.pointer (some ⟨g, 0, none⟩), .int .i64 1, .string aTest, .string (flP 64)] w fun e w' => e = .returned (.bool false) ∧ Below w.heap.size w w' := by
  have h2 := h.has 1 aTest (flP 64) (tz_fl (by omega))
  have e : Fk l (aTest, flP 64) = [] := Classical.byContradiction fun hn => hF.key hl ((h.key _).2 hn)
  rw [e, atE_nil] at h2
  exact h2
def othS : ByteArray := ⟨#[111, 116, 104, 101, 114]⟩
/-- what Serve tells of the page that was put anew -/
def Sv (b : ByteArray) (fs : List Fd → Prop) (w : World) (r : Ending) (w' : World) : Prop := Below w.heap.size w w' ∧ ∃ (y : SV) (l : List Fd), r = .returned (.tuple #[.agg (rsv 200 (sv y) b), .int .i64 0]) ∧ R EFd w' (sv y) l ∧ fs l ∧ ∀ k, (sv y).ownBlock = some k → w.heap.size ≤ k
theorem serve_2 {w : World} {lo g : Nat} {bd : ByteArray} {l : List PC} {k : Nat} (h : Sx w lo g 65 2 (flF l k) (l.map tgP)) (hF : Fl bd l) (hl : l.length = 64) (hk : k < 64) (ht : Tab w) :
    Calls Tryd.prog 11 #[.pointer (some ⟨g, 0, none⟩), .int .i64 2, .agg (rqv getS httpsS aTest (flP k) (.slice none 0 0) e0S)] w fun r w' => Sv othS (fun l => l = [szF 5]) w r w' := by
  refine (h.serve 2 getS httpsS aTest (flP k) (none, 0, 0) e0S [] (R.nil _ _).isIn ht (tz_fl (by omega))).mono ?_
  rintro r w' ⟨h1, h2⟩
  refine ⟨h1, ?_⟩
  rw [(flF_two hF (by omega) (k := k) (by omega)).1, anBd_get, anN_get, chS_one] at h2
  rcases h2 with ⟨h2, _⟩ | ⟨_, u, rfl, q, rfl, q2, q3⟩
  · simp [ivB] at h2
  · exact ⟨q, _, rfl, q2, (by show _ = _; kernel_rfl), q3⟩
theorem serve_1 {w : World} {lo g : Nat} {bd : ByteArray} {l : List PC} {k : Nat} (h : Sx w lo g 65 2 (flF l k) (l.map tgP)) (hF : Fl bd l) (hl : l.length = 64) (hk : k < 64) (ht : Tab w) :
    Calls Tryd.prog 11 #[.pointer (some ⟨g, 0, none⟩), .int .i64 1, .agg (rqv getS httpsS aTest (flP k) (.slice none 0 0) e0S)] w fun r w' => Sv (bd ++ itoaS (k : Int)) (fun _ => True) w r w' := by
  refine (h.serve 1 getS httpsS aTest (flP k) (none, 0, 0) e0S [] (R.nil _ _).isIn ht (tz_fl (by omega))).mono ?_
  rintro r w' ⟨h1, h2⟩
  refine ⟨h1, ?_⟩
  rw [(flF_two hF (by omega) (k := k) (by omega)).2, anBd_get, anN_get] at h2
  unfold flC at h2
  rw [chS_one] at h2
  rcases h2 with ⟨h2, _⟩ | ⟨_, u, rfl, q, rfl, q2, q3⟩
  · simp [ivB] at h2
  · exact ⟨q, _, rfl, q2, trivial, q3⟩
/-- a response in a box of its own -/
structure Rb (w wr : World) (q : Nat) (bd : ByteArray) (y : SV) (l : List Fd) : Prop where
  blk : wr.heap[q]? = some (.cells #[.int .i64 200, sv y, .string bd] 37 (0, 0))
  row : R EFd wr (sv y) l
  new : ∀ k, (sv y).ownBlock = some k → w.heap.size ≤ k
  hq : w.heap.size ≤ q
theorem Rb.below {w W W' : World} {q : Nat} {bd : ByteArray} {y : SV} {l : List Fd} (h : Rb w W q bd y l) (hb : Below W.heap.size W W') : Rb w W' q bd y l := ⟨(hb.block _ (heap_lt h.blk)).trans h.blk, h.row.below hb, h.new, h.hq⟩
theorem Rb.cells {w W : World} {q : Nat} {bd : ByteArray} {y : SV} {l : List Fd} (h : Rb w W q bd y l) : W.cell? ⟨q, 1, none⟩ = some (sv y) ∧ W.cell? ⟨q, 2, none⟩ = some (.string bd) := ⟨cell_blk h.blk 1, cell_blk h.blk 2⟩
/-- behind the second Put -/
def Fs (w W : World) (lo g : Nat) (y : SV) (l : List PC) (K : Nat) : Prop := Pr w W y l ∧ Sx W lo g 65 2 (flF l K) (l.map tgP) ∧ w.heap.size ≤ lo ∧ lo ≤ W.heap.size
theorem Fs.below {w W W' : World} {lo g : Nat} {y : SV} {l : List PC} {K : Nat} (h : Fs w W lo g y l K) (hb : Below W.heap.size W W') : Fs w W' lo g y l K := ⟨h.1.below hb, h.2.1.below hb, h.2.2.1, Nat.le_trans h.2.2.2 hb.size⟩
end Go.Proofs.YtcadlpmopplkeaaDoor

/- SiteFull: rows of fields that are written while all else is kept. -/
namespace Go.Proofs.YtcadlpmopplkeaaDoor
open Go.RowKit Go.Maps
open Go.Shelf
set_option linter.unusedVariables false
set_option linter.unusedSimpArgs false
/-- nothing is written but rows of fields -/
structure K4 (w w' : World) : Prop where
  os : w'.os = w.os
  tape : w'.tape = w.tape
  output : w'.output = w.output
  size : w.heap.size ≤ w'.heap.size
  block : ∀ (k : Nat) (o : Obj), w.heap[k]? = some o → (∀ c fz, o ≠ .cells c 44 fz) → w'.heap[k]? = some o
theorem K4.kf {w w' : World} (h : K4 w w') : Kf w w' := ⟨h.os, h.tape, h.output, h.size, fun k o hk h1 _ => h.block k o hk h1⟩
theorem K4.trans {a b c : World} (h : K4 a b) (k : K4 b c) : K4 a c := ⟨k.os.trans h.os, k.tape.trans h.tape, k.output.trans h.output, Nat.le_trans h.size k.size, fun i o hi h1 => k.block i o (h.block i o hi h1) h1⟩
theorem K4.of {w w' : World} (h : Below w.heap.size w w') : K4 w w' := ⟨h.os, h.tape, h.output, h.size, fun k o hk _ => (h.block k (heap_lt hk)).trans hk⟩
theorem K4.gr {w w' : World} {u v : Value} {l : List Fd} (h : R EFd w u l) (hG : Gr w w' u v) : K4 w w' :=
  ⟨hG.os, hG.tape, hG.output, hG.size, fun k o hk h1 => (hG.block k (heap_lt hk) fun e => by
    obtain ⟨c, hc⟩ := h.ty k e
    rw [hk] at hc
    injection hc with hc
    exact h1 c (0, 0) hc).trans hk⟩
theorem K4.set {w : World} {g o : Nat} {c : Array Value} (v : Value) (h : w.heap[g]? = some (Obj.cells c 44 (0, 0))) : K4 w (w.setCell ⟨g, o, none⟩ v) :=
  ⟨rfl, rfl, rfl, by simp [World.setCell], fun k ob hk h1 => (setCell_other _ _ _ _ _ fun e => by
    rw [e, h] at hk
    injection hk with hk
    exact h1 c (0, 0) hk.symm).trans hk⟩
theorem R.k4 {α : Type} {E : El α} {w w' : World} {v : Value} {l : List α} (h : R E w v l) (hk : K4 w w') (h1 : E.e ≠ 44) : R E w' v l := h.stays fun k hk' _ => by
  obtain ⟨c, hc⟩ := h.ty k hk'
  rw [hk.block k _ hc (fun c' fz e => by injection e with _ e; exact h1 e), hc]
theorem Fs.k4 {w W W' : World} {lo g : Nat} {y : SV} {l : List PC} {K : Nat} (h : Fs w W lo g y l K) (hk : K4 W W') (hb : Below w.heap.size w W') : Fs w W' lo g y l K :=
  ⟨⟨hb, h.1.row.k4 hk (by decide), h.1.new, fun x hx => (h.1.ch x hx).k4 hk (by decide)⟩, h.2.1.kf hk.kf, h.2.2.1, Nat.le_trans h.2.2.2 hk.size⟩
theorem Rb.k4 {w W W' : World} {q : Nat} {bd : ByteArray} {y : SV} {l m : List Fd} (h : Rb w W q bd y l) (hk : K4 W W') (hr : R EFd W' (sv y) m) : Rb w W' q bd y m :=
  ⟨hk.block _ _ h.blk (fun c fz e => by injection e with _ e; cases e), hr, h.new, h.hq⟩
/-- the one field of a row, written over -/
def setF (w : World) (g : Nat) (f : Fd) : World := ((w.setCell ⟨g, 0, none⟩ (.string f.n)).setCell ⟨g, 1, none⟩ (.string f.v)).setCell ⟨g, 2, none⟩ (.bool f.nv)
theorem setF_other (w : World) (g k : Nat) (f : Fd) (h : k ≠ g) : (setF w g f).heap[k]? = w.heap[k]? := by
  unfold setF
  rw [setCell_other _ _ _ _ _ h, setCell_other _ _ _ _ _ h, setCell_other _ _ _ _ _ h]
theorem setF_below {w W : World} {g : Nat} {f : Fd} {B : Nat} (h : Below B w W) (hg : B ≤ g) : Below B w (setF W g f) :=
  ((h.setCell (p := ⟨g, 0, none⟩) hg _).setCell (p := ⟨g, 1, none⟩) hg _).setCell (p := ⟨g, 2, none⟩) hg _
theorem R.one_fd {w : World} {xb : Option Addr} {xc : Nat} {f : Fd} (h : R EFd w (.slice xb 1 xc) [f]) :
    ∃ B, xb = some ⟨B, 0, none⟩ ∧ w.cell? ⟨B, 0, none⟩ = some (.string f.n) ∧ w.cell? ⟨B, 1, none⟩ = some (.string f.v) ∧ w.cell? ⟨B, 2, none⟩ = some (.bool f.nv) ∧ w.frozen? ⟨B, 0, none⟩ = false ∧ w.frozen? ⟨B, 1, none⟩ = false ∧ w.frozen? ⟨B, 2, none⟩ = false ∧ ∀ f2 : Fd, R EFd (setF w B f2) (.slice (some ⟨B, 0, none⟩) 1 xc) [f2] ∧ K4 w (setF w B f2) := by
  obtain ⟨g, cap, e, _, _, _, _, g3, g4, _⟩ := h.setc okFd 0 0 (by simp) (by decide)
  injection e with e1 e2 e3
  subst e1 e3
  refine ⟨g, rfl, g3 0 _ rfl, g3 1 _ rfl, g3 2 _ rfl, g4 _, g4 _, g4 _, fun f2 => ⟨?_, ?_⟩⟩
  · have h0 : R EFd w (.slice (some ⟨g, 0, none⟩) 1 xc) ([f].set 0 f) := h
    have h1 := h0.setw okFd (by simp) (i := 0) (by decide) (.string f2.n) ⟨f2.n, f.v, f.nv⟩ rfl
    have h2 := h1.setw okFd (by simp) (i := 1) (by decide) (.string f2.v) ⟨f2.n, f2.v, f.nv⟩ rfl
    exact h2.setw okFd (by simp) (i := 2) (by decide) (.bool f2.nv) f2 rfl
  · obtain ⟨c, hc⟩ := h.ty g rfl
    exact ((K4.set _ hc).trans (K4.set _ (setCell_block _ _ _ _ _ _ _ hc))).trans (K4.set _ (setCell_block _ _ _ _ _ _ _ (setCell_block _ _ _ _ _ _ _ hc)))
/-- a field more -/
theorem app_fd {W : World} {b : Option Addr} {k c : Nat} {l : List Fd} (h : R EFd W (.slice b k c) l) (hk : l.length = k) (hl : k ≤ 1000) (f : Fd) :
    ∃ b2 c2 w2, (Builtin.append_ #[35, 35] 35 #[.slice b k c, .slice (some ⟨W.heap.size, 0, none⟩) 1 1]).run Tryd.prog (W.alloc (.cells #[.string f.n, .string f.v, .bool f.nv] 44)) = .ok (.slice b2 (k + 1) c2) w2 ∧ R EFd w2 (.slice b2 (k + 1) c2) (l ++ [f]) ∧ K4 W w2 ∧
      (∀ i, i < W.heap.size → (Value.slice b k c).ownBlock ≠ some i → w2.heap[i]? = W.heap[i]?) ∧ (∀ i, (Value.slice b2 (k + 1) c2).ownBlock = some i → (Value.slice b k c).ownBlock = some i ∨ W.heap.size ≤ i) ∧ ∀ B, B ≤ W.heap.size → (∀ i, (Value.slice b k c).ownBlock = some i → B ≤ i) → Below B W w2 := by
  have ba := bel1 W (.cells #[.string f.n, .string f.v, .bool f.nv] 44)
  obtain ⟨b2, c2, w2, e1, e2, e3⟩ := Go.Proofs.YtcadlpmopplkeaaDoor.app okFd (W.alloc (.cells #[.string f.n, .string f.v, .bool f.nv] 44)) (.slice b k c) l (h.below ba) (.slice (some ⟨W.heap.size, 0, none⟩) 1 1) [f] (in_one (x := f) _ _ #[.string f.n, .string f.v, .bool f.nv] 44 (0, 0) (by rw [heap_al, if_pos rfl]) rfl) (by simp only [EFd, List.length_singleton]; omega)
  have el : l.length + [f].length = k + 1 := by rw [hk]; rfl
  rw [el] at e1 e2 e3
  refine ⟨b2, c2, w2, e1, e2, (K4.of ba).trans (K4.gr (h.below ba) e3), fun i hi hne => ?_, fun i hi => ?_, fun B hB hn => ?_⟩
  · rw [e3.block i (by rw [size_al]; omega) hne]
    exact ba.block i hi
  · rcases e3.own i hi with e | e
    · exact .inl e
    · exact .inr (Nat.le_trans ba.size e)
  · exact (ba.mono hB).trans (e3.belowB (Nat.le_trans hB ba.size) hn)
end Go.Proofs.YtcadlpmopplkeaaDoor

/- SiteFull: two fields of a row; a row of pages beside the first. -/
namespace Go.Proofs.YtcadlpmopplkeaaDoor
open Go.RowKit Go.Maps
open Go.Shelf
set_option linter.unusedVariables false
set_option linter.unusedSimpArgs false
theorem R.two_fd {w : World} {b : Option Addr} {c : Nat} {f1 f2 : Fd} (h : R EFd w (.slice b 2 c) [f1, f2]) :
    ∃ B, b = some ⟨B, 0, none⟩ ∧ w.cell? ⟨B, 0, none⟩ = some (.string f1.n) ∧ w.cell? ⟨B, 1, none⟩ = some (.string f1.v) ∧ w.cell? ⟨B, 3, none⟩ = some (.string f2.n) ∧ w.cell? ⟨B, 4, none⟩ = some (.string f2.v) := by
  obtain ⟨g, cap, e, _, _, _, _, g3, _, _⟩ := h.setc okFd 0 0 (by simp) (by decide)
  obtain ⟨g', cap', e', _, _, _, _, g3', _, _⟩ := h.setc okFd 1 0 (by simp) (by decide)
  injection e with e1 e2 e3
  subst e1
  injection e' with e1 e2 e3
  injection e1 with e1
  injection e1 with e1
  subst e1
  exact ⟨_, rfl, g3 0 _ rfl, g3 1 _ rfl, g3' 0 _ rfl, g3' 1 _ rfl⟩
theorem Fs.gr {w W W' : World} {lo g : Nat} {y : SV} {l : List PC} {K : Nat} (h : Fs w W lo g y l K) {u u' : Value} {m : List PC} (hm : R EPg W u m) (hG : Gr W W' u u') (hap : ∀ k, (sv y).ownBlock = some k → u.ownBlock ≠ some k) (hb : Below w.heap.size w W') : Fs w W' lo g y l K := by
  have hK : Kf W W' := Kf.gr hm hG (.inr rfl)
  exact ⟨⟨hb, h.1.row.stays fun k hk hl => hG.block k hl (hap k hk), h.1.new, fun x hx => (h.1.ch x hx).kf hK (by decide) (by decide)⟩, h.2.1.kf hK, h.2.2.1, Nat.le_trans h.2.2.2 hG.size⟩
theorem five : (szF 5).v = ⟨#[53]⟩ := by kernel_rfl
end Go.Proofs.YtcadlpmopplkeaaDoor

