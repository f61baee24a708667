/- FeedFrames: rows of frames, what waits, the state between the calls. -/
import Derived.Test.YtmhbaaemihljjaaDoorYa
import Derived.Test.YtmhbaaemihljjaaDoorV0
import Derived.Test.YtmhbaaemihljjaaDoorR3
namespace Go.Proofs.YtmhbaaemihljjaaDoor
open Go.RowKit
set_option linter.unusedVariables false
set_option linter.unusedSimpArgs false

theorem apK_right (l : List (Int × Int)) (k : Nat) : Right fSet (apK l k) := by
  have hk : kd fSet.ty fSet.fl = (74, 6, 57, 58) := by decide +kernel
  refine ⟨by decide, by decide, by decide, by decide, by decide +kernel, by decide +kernel, by decide +kernel, ?_, ?_⟩
  · have hp : padS fSet = false := by decide +kernel
    rw [hp]
    rfl
  · rw [hk]
    refine ⟨?_, ?_, ?_, ?_, ?_⟩
    · simp [fSet]
    · simp [fSet]
    · simp [fSet]
    · rw [if_pos ⟨rfl, rfl⟩]
      intro q hq
      rcases List.mem_cons.1 hq with rfl | hq
      · decide
      · obtain ⟨a, _, rfl⟩ := List.mem_map.1 hq
        simp only [mk1]
        omega
    · simp [fSet]
theorem set_whole (l : List (Int × Int)) : (wholeB fSet l).length = 6 * l.length := by
  have hk : kd fSet.ty fSet.fl = (74, 6, 57, 58) := by decide +kernel
  have hp : padS fSet = false := by decide +kernel
  rw [whole_no hk hp]
  show (parB l).length = _
  rw [parB_length]
  omega

/-- what Next tells where a right frame waits -/
theorem next_tells (f : Fr) (ps : List (Int × Int)) (h : Right f ps) (X : List UInt8) (most : Int) (hl : (wholeB f ps).length ≤ 65536) (hm : ((wholeB f ps).length : Int) ≤ min (max most 16384) 65536) :
    nextS ⟨⟨#[]⟩, (asmB f ps).data.toList ++ X, most, 0⟩ = ⟨(f, ps), true, 0, 0, ⟨⟨#[]⟩, X, most, 0⟩⟩ := by
  have hr : rdL ((asmB f ps).data.toList ++ X) most = ((f, ps), ((asmB f ps).size : Int), 0, 0) := by
    have := read_app f ps h ⟨X.toArray⟩ most hl hm
    rw [← this]
    unfold rdL
    congr 1
  have hn : nS ⟨⟨#[]⟩, (asmB f ps).data.toList ++ X, most, 0⟩ = 0 := Nat.min_eq_right (Nat.zero_le _)
  have hp : passL ⟨⟨#[]⟩, (asmB f ps).data.toList ++ X, most, 0⟩ = (true, ⟨⟨#[]⟩, (asmB f ps).data.toList ++ X, most, 0⟩) := by
    unfold passL
    rw [hn, if_neg (by simp)]
    rfl
  have hsz := asmB_size f ps
  rw [nextS_eq]
  unfold nextL
  rw [hp]
  simp only [hr, okR, rfS]
  rw [if_neg (by simp), if_neg (by simp)]
  unfold shutR
  have hd : ((asmB f ps).data.toList ++ X).drop ((asmB f ps).size : Int).toNat = X := by
    rw [Int.toNat_natCast, show (asmB f ps).size = (asmB f ps).data.toList.length by rw [Array.length_toList]; rfl, List.drop_left]
  simp [hd]
  omega
end Go.Proofs.YtmhbaaemihljjaaDoor

namespace Go.Proofs.YtmhbaaemihljjaaDoor
namespace EM
open Go.RowKit
set_option linter.unusedVariables false
set_option linter.unusedSimpArgs false

theorem cell_blk {w : World} {b : Nat} {c : Array Value} {t : TypeId} {fz : Nat × Nat} (h : w.heap[b]? = some (.cells c t fz)) (i : Nat) : w.cell? ⟨b, i, none⟩ = c[i]? := by simp [World.cell?, h]
/-- what a row's elements are -/
structure El (α : Type) where
  t : TypeId
  e : TypeId
  sz : Nat
  by' : Nat
  enc : α → List Value
structure El.Ok {α : Type} (E : El α) : Prop where
  und : Tryd.prog.underlying E.t = some (.slice E.e)
  info : (Tryd.prog.info? E.e).map (fun i => (i.zero.map (·.cells.size), i.size, i.bytes)) = some (some E.sz, E.sz, E.by')
  pos : 0 < E.sz
  bpos : 0 < E.by'
  len : ∀ a, (E.enc a).length = E.sz
  one : ∀ a, ∀ u ∈ E.enc a, u.oneCell' = true

def El.cs {α : Type} (E : El α) (l : List α) : List Value := l.flatMap E.enc
theorem El.Ok.length {α : Type} {E : El α} (ok : E.Ok) (l : List α) : (E.cs l).length = l.length * E.sz := by
  induction l with
  | nil => simp [El.cs]
  | cons a r ih => simp only [El.cs, List.flatMap_cons, List.length_append, ok.len, List.length_cons] at ih ⊢; rw [ih, Nat.succ_mul, Nat.add_comm]
theorem El.cs_append {α : Type} (E : El α) (a b : List α) : E.cs (a ++ b) = E.cs a ++ E.cs b := by simp [El.cs]
theorem El.Ok.ones {α : Type} {E : El α} (ok : E.Ok) (l : List α) : ∀ u ∈ E.cs l, u.oneCell' = true := by
  intro u hu
  obtain ⟨b, _, hb⟩ := List.mem_flatMap.1 hu
  exact ok.one b u hb
theorem El.Ok.get {α : Type} {E : El α} (ok : E.Ok) (l : List α) (k i : Nat) (hk : k < l.length) (hi : i < E.sz) : (E.cs l)[k * E.sz + i]? = (E.enc l[k])[i]? := by
  induction l generalizing k with
  | nil => exact absurd hk (by simp)
  | cons a r ih =>
    simp only [El.cs, List.flatMap_cons]
    cases k with
    | zero => simp; rw [List.getElem?_append_left (by rw [ok.len]; exact hi)]
    | succ k =>
      rw [List.getElem?_append_right (by rw [ok.len, Nat.succ_mul]; omega), ok.len, show (k + 1) * E.sz + i - E.sz = k * E.sz + i by rw [Nat.succ_mul]; omega]
      exact ih k (by simpa using hk)

/-- The slice holds these, in a row of its own from the row's beginning. -/
def R {α : Type} (E : El α) (w : World) (o : Value) (l : List α) : Prop := w.ownsRow 0 E.e E.sz o l.length (E.cs l)
/-- They can be read behind the slice. -/
def In {α : Type} (E : El α) (w : World) (v : Value) (l : List α) : Prop :=
  (v = .slice none 0 0 ∧ l = []) ∨ ∃ a cap, v = .slice (some a) l.length cap ∧ l.length ≤ cap ∧ cap ≤ 9223372036854775807 ∧ ∀ j u, (E.cs l)[j]? = some u → w.cell? (a.add j) = some u

variable {α : Type} {E : El α} {w w' : World} {o v : Value} {l : List α}

theorem R.nil (E : El α) (w : World) : R E w (.slice none 0 0) [] := World.ownsRow_nil w 0 E.e E.sz
theorem R.stays (h : R E w o l) (hb : ∀ k, o.ownBlock = some k → k < w.heap.size → w'.heap[k]? = w.heap[k]?) : R E w' o l := by
  refine ⟨h.1, ?_⟩
  rcases h.2 with hn | ⟨g, cap, cur, rfl, hbs, hgg, rest⟩
  · exact .inl hn
  · refine .inr ⟨g, cap, cur, rfl, hbs, ?_, rest⟩
    rw [hb g rfl (Array.getElem?_eq_some_iff.1 hgg).1]
    exact hgg
theorem R.below (h : R E w o l) (hb : Below w.heap.size w w') : R E w' o l := h.stays fun k _ hk => hb.block k hk
theorem R.lt (h : R E w o l) : ∀ k, o.ownBlock = some k → k < w.heap.size := fun k hk => (World.ownsRow.lt h k hk).2
theorem R.slice (h : R E w o l) : ∃ base cap, o = .slice base l.length cap ∧ l.length ≤ cap ∧ cap ≤ 9223372036854775807 := by
  rcases h.2 with ⟨rfl, hn⟩ | ⟨g, cap, cur, rfl, _, _, hn, hm, _⟩
  · exact ⟨none, 0, by rw [hn], by omega, by omega⟩
  · exact ⟨_, cap, rfl, hn, by unfold maxLen at hm; omega⟩
theorem R.ty (h : R E w o l) (k : Nat) (hk : o.ownBlock = some k) : ∃ c, w.heap[k]? = some (.cells c E.e (0, 0)) := by
  rcases h.2 with ⟨rfl, hn⟩ | ⟨g, cap, cur, rfl, _, hg, hn, hm, _⟩
  · simp [Value.ownBlock] at hk
  · simp [Value.ownBlock] at hk
    subst hk
    exact ⟨_, hg⟩
theorem R.isIn (h : R E w o l) : In E w o l := by
  have h' := h
  rcases h.2 with ⟨rfl, hn⟩ | ⟨g, cap, cur, rfl, _, _, hn, hm, _⟩
  · exact .inl ⟨rfl, List.eq_nil_of_length_eq_zero hn⟩
  · exact .inr ⟨_, cap, rfl, hn, by unfold maxLen at hm; omega, World.ownsRow.cells h' (g := g) rfl⟩
theorem In.below (h : In E w v l) (hb : Below w.heap.size w w') : In E w' v l := by
  rcases h with h | ⟨a, cap, h1, h2, h3, h5⟩
  · exact .inl h
  · refine .inr ⟨a, cap, h1, h2, h3, fun j u hu => ?_⟩
    have := h5 j u hu
    have hlt := World.block_lt_of_cell? _ _ this
    exact (hb.cell hlt).trans this
theorem In.slice (h : In E w v l) : ∃ base cap, v = .slice base l.length cap ∧ l.length ≤ cap ∧ cap ≤ 9223372036854775807 := by
  rcases h with ⟨rfl, rfl⟩ | ⟨a, cap, h1, h2, h3, h5⟩
  · exact ⟨none, 0, rfl, Nat.le_refl _, by omega⟩
  · exact ⟨_, cap, h1, h2, h3⟩
theorem spot_none {W : World} {a : Addr} {u : Value} (h : W.cell? a = some u) : a.spot = none := by
  unfold World.cell? at h
  split at h
  · split at h
    · cases h
    · rename_i h1
      simpa using h1
  · cases h
theorem In.get (h : In E w v l) (ok : E.Ok) (k : Nat) (hk : k < l.length) : ∃ B off cap, v = .slice (some ⟨B, off, none⟩) l.length cap ∧ B < w.heap.size ∧ ∀ i u, (E.enc l[k])[i]? = some u → w.cell? ⟨B, off + k * E.sz + i, none⟩ = some u := by
  rcases h with ⟨rfl, rfl⟩ | ⟨a, cap, h1, h2, h3, h5⟩
  · exact absurd hk (by simp)
  · obtain ⟨B, off, spot⟩ := a
    have h0 := ok.get l 0 0 (by omega) ok.pos
    obtain ⟨u0, hu0⟩ : ∃ u, (E.enc (l[0]'(by omega)))[0]? = some u := ⟨(E.enc (l[0]'(by omega)))[0]'(by rw [ok.len]; exact ok.pos), List.getElem?_eq_getElem _⟩
    have hc := h5 _ _ (h0.trans hu0)
    have hs := spot_none hc
    have hlt := World.block_lt_of_cell? _ _ hc
    simp [Addr.add] at hs hlt
    subst hs
    refine ⟨B, off, cap, h1, hlt, fun i u hu => ?_⟩
    have hi : i < E.sz := by
      have := (List.getElem?_eq_some_iff.1 hu).1
      rw [ok.len] at this
      exact this
    have := h5 _ _ ((ok.get l k i hk hi).trans hu)
    rw [Addr.add_lit, ← Nat.add_assoc] at this
    exact this

theorem info_z (ok : E.Ok) : ∃ i0 z, Tryd.prog.info? E.e = some i0 ∧ i0.zero = some z ∧ i0.size = E.sz ∧ i0.bytes = E.by' ∧ z.cells.size = E.sz := by
  have h := ok.info
  cases hi : Tryd.prog.info? E.e with
  | none => rw [hi] at h; simp at h
  | some i0 =>
    rw [hi] at h
    simp at h
    obtain ⟨⟨z, h1, h2⟩, h3, h4⟩ := h
    exact ⟨i0, z, rfl, h1, h3, h4, h2⟩

/-- append, whatever is appended -/
theorem app (ok : E.Ok) (w : World) (o : Value) (l : List α) (hR : R E w o l) (v : Value) (news : List α) (hv : In E w v news) (hlen : (l.length + news.length) * E.by' ≤ 140737488355328) :
    ∃ base cap w', (Builtin.append_ #[E.t, E.t] E.t #[o, v]).run Tryd.prog w = .ok (.slice base (l.length + news.length) cap) w' ∧ R E w' (.slice base (l.length + news.length) cap) (l ++ news) ∧ Gr w w' o (.slice base (l.length + news.length) cap) := by
  obtain ⟨i0, z, hi0, hz0, hz1, hz2, hz3⟩ := info_z ok
  rcases hv with ⟨rfl, rfl⟩ | ⟨a, c, rfl, hc1, hc2, hc⟩
  · obtain ⟨b, cap, rfl, _⟩ := hR.slice
    exact ⟨b, cap, w, run_append_owned_none (P := Tryd.prog) (w := w) 0 E.t E.t E.e i0 E.sz ok.und hi0 _ l.length (E.cs l) hR, by simpa using hR, Gr.refl _ _⟩
  · have hmul : l.length + news.length ≤ (l.length + news.length) * E.by' := Nat.le_mul_of_pos_right _ ok.bpos
    have hml : l.length + news.length ≤ maxLen := by unfold maxLen; omega
    obtain ⟨v', w', hrun, ho, hg, hnil⟩ := run_append_own (P := Tryd.prog) w 0 E.t E.t E.e i0 z E.sz E.by' ok.und hi0 hz0 hz1 hz2 hz3 ok.pos o l.length (E.cs l) hR a news.length c (E.cs news) (ok.length news) hc (ok.ones news) hml hlen (Nat.zero_le _)
    have hown : ∀ k, v'.ownBlock = some k → o.ownBlock = some k ∨ w.heap.size ≤ k := by
      intro k hk
      rcases hR.2 with ⟨rfl, h0⟩ | ⟨g, cap, cur, rfl, _, hgg, hnc, _, hcs, _⟩
      · by_cases hm : news.length = 0
        · rw [hnil.2 ⟨rfl, hm⟩] at hk
          simp [Value.ownBlock] at hk
        · have hb : news.length ≤ news.length * E.by' := Nat.le_mul_of_pos_right _ ok.bpos
          have hb2 : news.length * E.by' ≤ (l.length + news.length) * E.by' := Nat.mul_le_mul_right _ (by omega)
          have hr := run_append_nil (P := Tryd.prog) w E.t E.t E.e i0 z ok.und hi0 hz0 a news.length c (E.cs news) (by rw [hz1]; exact ok.length news) hc (by omega) (by omega) (by rw [hz2]; omega)
          rw [hrun] at hr
          injection hr with hr _
          subst hr
          simp [Value.ownBlock] at hk
          exact .inr (by omega)
      · by_cases hroom : l.length + news.length ≤ cap
        · have hr := run_append_room (P := Tryd.prog) w E.t E.t E.e i0 ok.und hi0 g l.length cap cur hgg a news.length c (E.cs news) (by rw [hz1]; exact ok.length news) hc (ok.ones news) hroom (by
            rw [hcs, ok.length, hz1, ← Nat.add_mul]
            exact Nat.mul_le_mul_right _ hroom)
          rw [hrun] at hr
          injection hr with hr _
          subst hr
          exact .inl hk
        · have hr := run_append_grow (P := Tryd.prog) w E.t E.t E.e i0 z ok.und hi0 hz0 ⟨g, 0, none⟩ l.length cap (E.cs l) (by rw [hz1]; exact ok.length l) (World.ownsRow.cells hR (g := g) rfl) a news.length c (E.cs news) (by rw [hz1]; exact ok.length news) hc (by omega) (by omega) (growslice_fits (by omega) (by rw [hz2]; exact hlen))
          rw [hrun] at hr
          injection hr with hr _
          subst hr
          simp [Value.ownBlock] at hk
          exact .inr (by omega)
    have hP : R E w' v' (l ++ news) := by
      unfold R
      rw [El.cs_append, List.length_append]
      exact ho
    obtain ⟨base, cap, rfl, _⟩ := hP.slice
    rw [List.length_append] at hrun hP hown
    exact ⟨base, cap, w', hrun, hP, hg.os, hg.tape, hg.output, hg.size, fun k hk hne => hg.block k hk (fun e => hne e.symm), hown⟩

/-- one element, in a block of its own, can be read behind the slice that was built -/
theorem in_one (w : World) (B : Nat) (x : α) (c : Array Value) (t : TypeId) (fz : Nat × Nat) (h : w.heap[B]? = some (.cells c t fz)) (hc : c.toList = E.enc x) : In E w (.slice (some ⟨B, 0, none⟩) 1 1) [x] := by
  refine .inr ⟨_, 1, rfl, Nat.le_refl _, by omega, fun j u hu => ?_⟩
  rw [Addr.add_lit, cell_blk h, Nat.zero_add, ← Array.getElem?_toList, hc]
  simpa [El.cs] using hu


/-- a slice's three parts -/
abbrev SV := Option Addr × Nat × Nat
def sv (x : SV) : Value := .slice x.1 x.2.1 x.2.2
/-- frames, each with the slice of its params -/
def EF : El (Fr × SV) := ⟨54, 28, 11, 112, fun x => (fv x.1 (sv x.2)).toList⟩
theorem okF : EF.Ok := ⟨Tryd.underlying54, by kernel_rfl, by decide, by decide, fun _ => rfl, fun a u hu => by
  simp only [EF, fv, List.mem_cons, List.not_mem_nil, or_false] at hu
  rcases hu with rfl | rfl | rfl | rfl | rfl | rfl | rfl | rfl | rfl | rfl | rfl <;> rfl⟩
end EM
end Go.Proofs.YtmhbaaemihljjaaDoor

namespace Go.Proofs.YtmhbaaemihljjaaDoor
open Go.RowKit
set_option linter.unusedVariables false
set_option linter.unusedSimpArgs false

def preL : List UInt8 := prefaceB.data.toList
/-- behind the preface, if there is one, Y waits -/
def Wt (S : St) (Y : List UInt8) : Prop := S.code = 0 ∧ S.most = 65536 ∧ ((S.pre = ⟨#[]⟩ ∧ S.wait = Y) ∨ (S.pre = prefaceB ∧ S.wait = preL ++ Y))
theorem Wt.push {S : St} {Y : List UInt8} (h : Wt S Y) (s : ByteArray) : Wt (pushS S s) (Y ++ s.data.toList) := by
  obtain ⟨h1, h2, h3⟩ := h
  unfold pushS
  rw [if_pos h1]
  refine ⟨h1, h2, ?_⟩
  rcases h3 with ⟨h3, h4⟩ | ⟨h3, h4⟩
  · exact .inl ⟨h3, by rw [h4]⟩
  · exact .inr ⟨h3, by rw [h4, List.append_assoc]⟩
theorem Wt.len {S : St} {Y : List UInt8} (h : Wt S Y) : S.wait.length ≤ Y.length + 24 := by
  rcases h.2.2 with ⟨_, h4⟩ | ⟨_, h4⟩
  · rw [h4]; omega
  · rw [h4, List.length_append]
    have : preL.length = 24 := by decide
    omega
/-- the preface is passed -/
theorem Wt.pass {S : St} {Y : List UInt8} (h : Wt S Y) : passL S = (true, ⟨⟨#[]⟩, Y, 65536, 0⟩) := by
  obtain ⟨pre, wait, most, code⟩ := S
  obtain ⟨h1, h2, h3⟩ := h
  simp only at h1 h2 h3
  subst h1 h2
  rcases h3 with ⟨rfl, rfl⟩ | ⟨rfl, rfl⟩
  · have hn : nS ⟨⟨#[]⟩, wait, 65536, 0⟩ = 0 := Nat.min_eq_right (Nat.zero_le _)
    unfold passL
    rw [hn, if_neg (by simp)]
    rfl
  · have hl : preL.length = 24 := by decide
    have hs : prefaceB.size = 24 := by decide
    have hn : nS ⟨prefaceB, preL ++ Y, 65536, 0⟩ = 24 := by
      unfold nS
      simp only [List.length_append, hl, hs]
      omega
    unfold passL
    rw [hn]
    simp only
    rw [List.take_append_of_le_length (by omega), List.drop_append_of_le_length (by omega), List.take_of_length_le (by omega), List.drop_of_length_le (by omega), hs]
    have e : prefaceB.data.toList.take 24 = preL := List.take_of_length_le (by show preL.length ≤ 24; omega)
    rw [e, if_neg (by simp), if_neg (by omega)]
    rfl
/-- a right frame is told -/
theorem Wt.tells {S : St} {X : List UInt8} (f : Fr) (ps : List (Int × Int)) (h : Wt S ((asmB f ps).data.toList ++ X)) (hr : Right f ps) (hl : (wholeB f ps).length ≤ 65536) : ∃ S', nextS S = ⟨(f, ps), true, 0, 0, S'⟩ ∧ Wt S' X ∧ S'.pre = ⟨#[]⟩ := by
  have ht := next_tells f ps hr X 65536 hl (by omega)
  refine ⟨⟨⟨#[]⟩, X, 65536, 0⟩, ?_, ⟨rfl, rfl, .inl ⟨rfl, rfl⟩⟩, rfl⟩
  rw [← ht]
  have h0 : Wt ⟨⟨#[]⟩, (asmB f ps).data.toList ++ X, 65536, 0⟩ ((asmB f ps).data.toList ++ X) := ⟨rfl, rfl, .inl ⟨rfl, rfl⟩⟩
  rw [nextS_eq, nextS_eq]
  unfold nextL
  rw [h.pass, h0.pass, if_neg (by simp [h.1])]
  rfl
/-- of a part nothing is told -/
theorem Wt.none {S : St} {Y : List UInt8} (h : Wt S Y) (hz : rdL Y 65536 = ((Fr.zero, []), 0, 0, 0)) : ∃ S', nextS S = ⟨(Fr.zero, []), false, 0, 0, S'⟩ ∧ Wt S' Y ∧ S'.pre = ⟨#[]⟩ := by
  refine ⟨⟨⟨#[]⟩, Y, 65536, 0⟩, ?_, ⟨rfl, rfl, .inl ⟨rfl, rfl⟩⟩, rfl⟩
  rw [nextS_eq]
  unfold nextL
  rw [h.pass, if_neg (by simp [h.1])]
  simp only [hz, okR, rfS]
  rw [if_neg (by simp)]
  unfold shutR
  simp
/-- a proper part of a frame's bytes -/
theorem part_none (f : Fr) (ps : List (Int × Int)) (c : Nat) (hc : c < (asmB f ps).size) (hl : (wholeB f ps).length ≤ 65536) : rdL ((asmB f ps).extract 0 c).data.toList 65536 = ((Fr.zero, []), 0, 0, 0) := by
  have := read_cut f ps c hc 65536 hl (by omega)
  unfold rdL
  rw [← this]
theorem empty_none : rdL [] 65536 = ((Fr.zero, []), 0, 0, 0) := by kernel_rfl
end Go.Proofs.YtmhbaaemihljjaaDoor

namespace Go.Proofs.YtmhbaaemihljjaaDoor
open Go.RowKit
open EM (SV sv EF okF)
set_option linter.unusedVariables false
set_option linter.unusedSimpArgs false

/-- a frame, its slice of params, the params -/
abbrev FP := (Fr × SV) × List (Int × Int)
def asmL (e : FP) : List UInt8 := (asmB e.1.1 e.2).data.toList
def allL (es : List FP) : List UInt8 := es.flatMap asmL
/-- a right frame whose params lie where w has them -/
def Gd (w : World) (e : FP) : Prop := PIn w (sv e.1.2) e.2 ∧ Right e.1.1 e.2 ∧ (wholeB e.1.1 e.2).length ≤ 65536
theorem asmL_len {w : World} {e : FP} (h : Gd w e) : (asmL e).length ≤ 65545 := by
  unfold asmL
  have h1 := asmB_size e.1.1 e.2
  have h2 := h.2.2
  have : (asmB e.1.1 e.2).data.toList.length = (asmB e.1.1 e.2).size := by simp
  omega
theorem allL_len {w : World} {es : List FP} (h : ∀ e ∈ es, Gd w e) : (allL es).length ≤ es.length * 65545 := by
  induction es with
  | nil => simp [allL]
  | cons e r ih =>
    have h1 := asmL_len (h e (List.mem_cons_self ..))
    have h2 := ih fun x hx => h x (List.mem_cons_of_mem _ hx)
    simp only [allL, List.flatMap_cons, List.length_append, List.length_cons] at h2 ⊢
    omega
theorem allL_app (a b : List FP) : allL (a ++ b) = allL a ++ allL b := by simp [allL]

/-- The feed, behind whose preface Y waits; the row of right frames; the last frame's box. -/
structure Ff (w : World) (g : Nat) (rv : SV) (es : List FP) (Y : List UInt8) (A : Nat) (lf : Fr) (lp : SV) (W : World) : Prop where
  fd : ∃ v S, All w W [(g, v, S)] ∧ Wt S Y
  row : EM.R EF W (sv rv) (es.map (·.1))
  rn : ∀ k, (sv rv).ownBlock = some k → w.heap.size < k
  box : FB W A lf (sv lp)
  good : ∀ e ∈ es, Gd w e
section
variable {w : World} {g : Nat} {rv : SV} {es : List FP} {Y : List UInt8} {A : Nat} {lf : Fr} {lp : SV} {W W' : World}
theorem Ff.bel (h : Ff w g rv es Y A lf lp W) : Below w.heap.size w W := by
  obtain ⟨v, S, h1, _⟩ := h.fd
  exact h1.bel
theorem Ff.below (h : Ff w g rv es Y A lf lp W) (hb : Below W.heap.size W W') : Ff w g rv es Y A lf lp W' := by
  obtain ⟨v, S, h1, h2⟩ := h.fd
  exact ⟨⟨v, S, h1.later hb, h2⟩, h.row.below hb, h.rn, h.box.below hb, h.good⟩
/-- what a feed's call leaves -/
theorem Ff.call (h : Ff w g rv es Y A lf lp W) (hk : Kt W W') {Z : List UInt8} (hf : ∃ v S, All w W' [(g, v, S)] ∧ Wt S Z) : Ff w g rv es Z A lf lp W' := by
  refine ⟨hf, h.row.stays fun k hk' hl => ?_, h.rn, hk.fb h.box, h.good⟩
  obtain ⟨c, hc⟩ := h.row.ty k hk'
  rw [hc]
  exact hk k c 28 hc (by decide) (by decide)
/-- Push -/
theorem Ff.push (h : Ff w g rv es Y A lf lp W) (s : ByteArray) (hl : Y.length + 24 + s.size ≤ 140737488355328) :
    Calls Tryd.prog 11 #[.pointer (some ⟨g, 0, none⟩), .string s] W fun e W' => e = .returned (.tuple #[]) ∧ Ff w g rv es (Y ++ s.data.toList) A lf lp W' := by
  obtain ⟨v, S, h1, h2⟩ := h.fd
  refine (push_all h1 0 (g := g) (v := v) (S := S) rfl s (by have := h2.len; omega)).mono ?_
  rintro e W' ⟨rfl, v', h3, hk⟩
  exact ⟨rfl, h.call hk ⟨v', _, h3, h2.push s⟩⟩
/-- Next, of a right frame -/
theorem Ff.next {X : List UInt8} (e : FP) (he : Gd w e) (h : Ff w g rv es (asmL e ++ X) A lf lp W) :
    Calls Tryd.prog 12 #[.pointer (some ⟨g, 0, none⟩)] W fun r W' => ∃ pb pc, r = .returned (.tuple #[.agg (fv e.1.1 (.slice pb e.2.length pc)), .bool true, .agg #[.int .i64 0, .int .i64 0]]) ∧ PRow W' (.slice pb e.2.length pc) e.2 ∧ Ff w g rv es X A lf lp W' := by
  obtain ⟨v, S, h1, h2⟩ := h.fd
  obtain ⟨S', h3, h4, _⟩ := Wt.tells e.1.1 e.2 h2 he.2.1 he.2.2
  refine (next_all h1 0 (g := g) (v := v) (S := S) rfl _ h3).mono ?_
  rintro r W' ⟨pb, pl, pc, v', rfl, hP, _, hA, hk⟩
  obtain ⟨b', c', eq⟩ := hP.slice
  injection eq with _ eq _
  subst eq
  exact ⟨pb, pc, rfl, hP, h.call hk ⟨v', S', hA, h4⟩⟩
/-- Next, where nothing is told -/
theorem Ff.next_none (hz : rdL Y 65536 = ((Fr.zero, []), 0, 0, 0)) (h : Ff w g rv es Y A lf lp W) :
    Calls Tryd.prog 12 #[.pointer (some ⟨g, 0, none⟩)] W fun r W' => ∃ pb pc, r = .returned (.tuple #[.agg (fv Fr.zero (.slice pb 0 pc)), .bool false, .agg #[.int .i64 0, .int .i64 0]]) ∧ Ff w g rv es Y A lf lp W' ∧ ∃ v S, All w W' [(g, v, S)] ∧ Wt S Y ∧ S.pre = ⟨#[]⟩ := by
  obtain ⟨v, S, h1, h2⟩ := h.fd
  obtain ⟨S', h3, h4, h5⟩ := h2.none hz
  refine (next_all h1 0 (g := g) (v := v) (S := S) rfl _ h3).mono ?_
  rintro r W' ⟨pb, pl, pc, v', rfl, hP, _, hA, hk⟩
  obtain ⟨b', c', eq⟩ := hP.slice
  injection eq with _ eq _
  subst eq
  exact ⟨pb, pc, rfl, h.call hk ⟨v', S', hA, h4⟩, v', S', hA, h4, h5⟩
end
end Go.Proofs.YtmhbaaemihljjaaDoor

namespace Go.Proofs.YtmhbaaemihljjaaDoor
open Go.RowKit
open EM (SV sv EF okF)
set_option linter.unusedVariables false
set_option linter.unusedSimpArgs false

theorem whole_len (f : Fr) (ps : List (Int × Int)) : (wholeB f ps).length ≤ 6 * ps.length + f.data.size + 300 := by
  have hd : f.data.data.toList.length = f.data.size := by simp
  have hp : ∀ k, (payB k f ps).length ≤ 6 * ps.length + f.data.size + 20 := fun k => by
    unfold payB prioB
    repeat' split
    all_goals simp only [List.length_append, be_length, parB_length, List.length_cons, List.length_nil, hd]
    all_goals omega
  unfold wholeB
  have := hp (kd f.ty f.fl).2.2.1
  split
  · simp only [List.length_append, List.length_cons, List.length_nil, List.length_replicate]
    omega
  · omega
/-- what Write answers: the frame's bytes, or none and a code -/
def Wr (f : Fr) (ps : List (Int × Int)) (s : ByteArray) (c : Int) : Prop :=
  (c = 0 ∧ s = asmB f ps ∧ Right f ps ∧ (wholeB f ps).length ≤ 65536) ∨ ((c = 3 ∨ c = 60) ∧ s = ⟨#[]⟩)
theorem write_fr (f : Fr) (ps : List (Int × Int)) (p : Value) (w : World) (hw : 1 ≤ w.heap.size) (hK : Kinds w) (hp : PIn w p ps) (hl : 6 * ps.length + f.data.size ≤ 30000000000) :
    ∃ s c, Wr f ps s c ∧ Calls Tryd.prog 18 #[.agg (fv f p)] w fun e w' => e = .returned (.tuple #[.string s, .int .i64 c]) ∧ Below w.heap.size w w' := by
  have h1 := whole_len f ps
  have h2 := asmB_size f ps
  have hC := write_in f ps p w hw hK hp (by omega)
  by_cases h : Right f ps
  · by_cases hs : (asmB f ps).size ≤ 65545
    · refine ⟨asmB f ps, 0, .inl ⟨rfl, rfl, h, by omega⟩, hC.mono ?_⟩
      rintro e w' ⟨v, rfl, hv, hb⟩
      exact ⟨by rw [hv.1 h hs], hb⟩
    · refine ⟨⟨#[]⟩, 3, .inr ⟨.inl rfl, rfl⟩, hC.mono ?_⟩
      rintro e w' ⟨v, rfl, hv, hb⟩
      exact ⟨by rw [hv.2.1 h (by omega)], hb⟩
  · refine ⟨⟨#[]⟩, 60, .inr ⟨.inr rfl, rfl⟩, hC.mono ?_⟩
    rintro e w' ⟨v, rfl, hv, hb⟩
    exact ⟨by rw [hv.2.2 h], hb⟩

section
variable {w : World} {g : Nat} {rv : SV} {es : List FP} {Y : List UInt8} {A : Nat} {lf : Fr} {lp : SV} {W W' : World}
/-- Write, between the feed's calls -/
theorem Ff.write (h : Ff w g rv es Y A lf lp W) (hw : 1 ≤ w.heap.size) (hK : Kinds w) (f : Fr) (ps : List (Int × Int)) (x : SV) (hp : PIn w (sv x) ps) (hl : 6 * ps.length + f.data.size ≤ 30000000000) :
    ∃ s c, Wr f ps s c ∧ Calls Tryd.prog 18 #[.agg (fv f (sv x))] W fun e W' => e = .returned (.tuple #[.string s, .int .i64 c]) ∧ Ff w g rv es Y A lf lp W' := by
  have hb := h.bel
  obtain ⟨s, c, h1, h2⟩ := write_fr f ps (sv x) W (Nat.le_trans hw hb.size) (hK.of_eq (hb.block 0 (by omega))) (hp.below hb) hl
  refine ⟨s, c, h1, h2.mono ?_⟩
  rintro e W' ⟨rfl, hb'⟩
  exact ⟨rfl, h.below hb'⟩
/-- append of one right frame -/
theorem Ff.grow (h : Ff w g rv es Y A lf lp W) (hA : A ≤ w.heap.size) (e : FP) (he : Gd w e) (B : Nat) (c : Array Value) (t : TypeId) (fz : Nat × Nat) (hB : W.heap[B]? = some (.cells c t fz)) (hc : c.toList = EF.enc e.1) (hl : (es.length + 1) * 112 ≤ 140737488355328) :
    ∃ base cap W', (Builtin.append_ #[54, 54] 54 #[sv rv, .slice (some ⟨B, 0, none⟩) 1 1]).run Tryd.prog W = .ok (sv (base, es.length + 1, cap)) W' ∧ Ff w g (base, es.length + 1, cap) (es ++ [e]) Y A lf lp W' := by
  have hml : (es.map (·.1)).length = es.length := List.length_map ..
  obtain ⟨base, cap, W', h1, h2, hG⟩ := EM.app (E := EF) okF W (sv rv) (es.map (·.1)) h.row _ [e.1] (EM.in_one (E := EF) W B e.1 c t fz hB hc) (by rw [hml]; exact hl)
  rw [hml] at h1 h2 hG
  refine ⟨base, cap, W', h1, ?_, by rw [List.map_append]; exact h2, fun k hk => ?_, ?_, ?_⟩
  · obtain ⟨v, S, h3, h4⟩ := h.fd
    refine ⟨v, S, ⟨h3.kin, h3.pos, h3.bel.trans ⟨hG.os, hG.tape, hG.output, hG.size, fun k hk => hG.block k (Nat.lt_of_lt_of_le hk h3.bel.size) fun e => by have := h.rn k e; omega⟩, fun t ht => ?_, h3.new, h3.apart⟩, h4⟩
    have hf := h3.fd t ht
    have oth : ∀ {k : Nat} {cs : Array Value} {t : TypeId}, W.heap[k]? = some (.cells cs t (0, 0)) → t ≠ 28 → W'.heap[k]? = W.heap[k]? := by
      intro k cs t hk ht
      refine hG.block k (Array.getElem?_eq_some_iff.1 hk).1 fun e => ?_
      obtain ⟨c, hc⟩ := h.row.ty k e
      rw [hk] at hc
      injection hc with hc
      injection hc with _ hc _
      exact ht hc
    refine hf.same (oth hf.blk (by decide)) fun k hk => ?_
    obtain ⟨cur, hc⟩ := hf.rowType k hk
    exact oth hc (by decide)
  · rcases hG.own k hk with hk | hk
    · exact h.rn k hk
    · have := h.box.lt
      have := h.bel.size
      obtain ⟨v, S, h3, h4⟩ := h.fd
      have h5 := (h3.fd _ (List.mem_singleton.2 rfl)).lt
      have h6 := (h3.new _ (List.mem_singleton.2 rfl)).1
      simp only at h5 h6
      omega
  · exact (hG.block A h.box.lt fun e => by have := h.rn A e; omega).trans h.box
  · intro x hx
    rcases List.mem_append.1 hx with hx | hx
    · exact h.good x hx
    · rw [List.mem_singleton.1 hx]; exact he
/-- Push, and what it leaves -/
theorem Ff.push' (h : Ff w g rv es Y A lf lp W) (s : ByteArray) (hl : Y.length + 24 + s.size ≤ 140737488355328) :
    Calls Tryd.prog 11 #[.pointer (some ⟨g, 0, none⟩), .string s] W fun e W' => e = .returned (.tuple #[]) ∧ Ff w g rv es (Y ++ s.data.toList) A lf lp W' ∧ Kt W W' := by
  obtain ⟨v, S, h1, h2⟩ := h.fd
  refine (push_all h1 0 (g := g) (v := v) (S := S) rfl s (by have := h2.len; omega)).mono ?_
  rintro e W' ⟨rfl, v', h3, hk⟩
  exact ⟨rfl, h.call hk ⟨v', _, h3, h2.push s⟩, hk⟩
/-- Next, of the last frame: nothing waits any more -/
theorem Ff.next' (e : FP) (he : Gd w e) (h : Ff w g rv es (asmL e) A lf lp W) :
    Calls Tryd.prog 12 #[.pointer (some ⟨g, 0, none⟩)] W fun r W' => ∃ pb pc, r = .returned (.tuple #[.agg (fv e.1.1 (.slice pb e.2.length pc)), .bool true, .agg #[.int .i64 0, .int .i64 0]]) ∧ PRow W' (.slice pb e.2.length pc) e.2 ∧ Ff w g rv es [] A lf lp W' ∧ Kt W W' ∧ ∃ v S, All w W' [(g, v, S)] ∧ S.wait.length = 0 := by
  obtain ⟨v, S, h1, h2⟩ := h.fd
  obtain ⟨S', h3, h4, h5⟩ := Wt.tells (X := []) e.1.1 e.2 (by rw [List.append_nil]; exact h2) he.2.1 he.2.2
  refine (next_all h1 0 (g := g) (v := v) (S := S) rfl _ h3).mono ?_
  rintro r W' ⟨pb, pl, pc, v', rfl, hP, _, hA, hk⟩
  obtain ⟨b', c', eq⟩ := hP.slice
  injection eq with _ eq _
  subst eq
  refine ⟨pb, pc, rfl, hP, h.call hk ⟨v', S', hA, h4⟩, hk, v', S', hA, ?_⟩
  rcases h4.2.2 with ⟨_, h⟩ | ⟨h, _⟩
  · rw [h]; rfl
  · rw [h5] at h; exact absurd h (by decide)
/-- a cell that is set to what it holds -/
theorem setCell_same (W : World) (b i : Nat) (c : Array Value) (t : TypeId) (fz : Nat × Nat) (h : W.heap[b]? = some (.cells c t fz)) (u : Value) (hu : c[i]? = some u) : W.setCell ⟨b, i, none⟩ u = W := by
  obtain ⟨h1a, h1b⟩ := Array.getElem?_eq_some_iff.1 h
  obtain ⟨h2a, h2b⟩ := Array.getElem?_eq_some_iff.1 hu
  have hs : c.setIfInBounds i u = c := by
    apply Array.ext
    · simp
    · intro k hk1 hk2
      rw [Array.getElem_setIfInBounds (by simpa using hk1)]
      split
      · rename_i e; subst e; exact h2b.symm
      · rfl
  have hm : (W.setCell ⟨b, i, none⟩ u).heap = W.heap := by
    apply Array.ext
    · simp [World.setCell]
    · intro k hk1 hk2
      simp only [World.setCell, Array.getElem_modify]
      split
      · rename_i e; subst e; simp [h1b, hs]
      · rfl
  have e : W.setCell ⟨b, i, none⟩ u = { W with heap := (W.setCell ⟨b, i, none⟩ u).heap } := rfl
  rw [e, hm]
end
end Go.Proofs.YtmhbaaemihljjaaDoor
