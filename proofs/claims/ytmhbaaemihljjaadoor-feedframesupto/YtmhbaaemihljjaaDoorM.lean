/- Rows of bytes that the calls make and append to. -/
import Derived.Test.YtmhbaaemihljjaaDoorRows
import Derived.Test.YtmhbaaemihljjaaDoorS
import Derived.WalkKit
import Derived.WalkSpells
import Derived.WalkLawsBesides
import Derived.Lib.AppendStr
import Derived.Lib.AppendZerosOnto
import Derived.Laws.AppendOwnNone
namespace Go.Proofs.YtmhbaaemihljjaaDoor
open Go.RowKit
set_option linter.unusedVariables false
set_option linter.unusedSimpArgs false

theorem info5 : (Tryd.prog.info? 5).map (fun i => (i.zero, i.size, i.bytes)) = some (some (.int .u8 0), 1, 1) := by kernel_rfl

/-- bytes, as the cells of a row -/
def bs (l : List UInt8) : List Value := l.map fun b => Value.int .u8 (b.toNat : Int)
theorem bs_append (a b : List UInt8) : bs (a ++ b) = bs a ++ bs b := by simp [bs]
theorem bs_length (a : List UInt8) : (bs a).length = a.length := by simp [bs]
theorem bs_one (a : List UInt8) : ∀ u ∈ bs a, u.oneCell' = true := by
  intro u hu
  obtain ⟨b, _, rfl⟩ := List.mem_map.1 hu
  rfl
theorem bs_str (s : ByteArray) : Lib.strCells s = bs s.data.toList := by simp [Lib.strCells, bs]

/-- The slice holds these bytes, in a row from its beginning. -/
def Row (w : World) (o : Value) (l : List UInt8) : Prop := w.ownsRow 0 5 1 o l.length (bs l)

/-- From w to w' nothing has turned but v's row, and v' is that row, or a new one. -/
structure Gr (w w' : World) (v v' : Value) : Prop where
  os : w'.os = w.os
  tape : w'.tape = w.tape
  output : w'.output = w.output
  size : w.heap.size ≤ w'.heap.size
  block : ∀ k, k < w.heap.size → v.ownBlock ≠ some k → w'.heap[k]? = w.heap[k]?
  own : ∀ k, v'.ownBlock = some k → v.ownBlock = some k ∨ w.heap.size ≤ k

theorem Gr.refl (w : World) (v : Value) : Gr w w v v := ⟨rfl, rfl, rfl, Nat.le_refl _, fun _ _ _ => rfl, fun _ h => .inl h⟩
theorem Gr.trans {a b c : World} {u v x : Value} (h : Gr a b u v) (k : Gr b c v x) : Gr a c u x :=
  ⟨k.os.trans h.os, k.tape.trans h.tape, k.output.trans h.output, Nat.le_trans h.size k.size,
    fun i hi hu => (k.block i (Nat.lt_of_lt_of_le hi h.size) (fun e => (h.own i e).elim hu fun hh => by omega)).trans (h.block i hi hu),
    fun i hi => (k.own i hi).elim (fun e => h.own i e) fun hh => .inr (Nat.le_trans h.size hh)⟩
theorem Gr.below {a b : World} (h : Below a.heap.size a b) (v : Value) : Gr a b v v :=
  ⟨h.os, h.tape, h.output, h.size, fun k hk _ => h.block k hk, fun _ h => .inl h⟩
theorem Gr.alloc (w : World) (o : Obj) (v : Value) : Gr w (w.alloc o) v v := Gr.below ((Below.refl _ w).alloc (Nat.le_refl _) o) v
theorem Gr.drew (w : World) (v : Value) : Gr w w.drew v v := Gr.below (Below.refl _ w).drew v
/-- where it began with no row, all that was there is as it was -/
theorem Gr.fresh {a b : World} {v : Value} (h : Gr a b (.slice none 0 0) v) : Below a.heap.size a b :=
  ⟨h.os, h.tape, h.output, h.size, fun k hk => h.block k hk (by simp [Value.ownBlock])⟩
theorem Gr.new {a b : World} {v : Value} (h : Gr a b (.slice none 0 0) v) : ∀ k, v.ownBlock = some k → a.heap.size ≤ k :=
  fun k hk => (h.own k hk).elim (fun e => by simp [Value.ownBlock] at e) id
theorem Gr.of_below {a b : World} {v : Value} (h : Below a.heap.size a b) (hv : ∀ k, v.ownBlock = some k → a.heap.size ≤ k) : Gr a b (.slice none 0 0) v :=
  ⟨h.os, h.tape, h.output, h.size, fun k hk _ => h.block k hk, fun k hk => .inr (hv k hk)⟩

theorem Row.below {w w' : World} {o : Value} {l : List UInt8} (h : Row w o l) (hb : Below w.heap.size w w') : Row w' o l := by
  refine ⟨h.1, ?_⟩
  rcases h.2 with hn | ⟨g, cap, cur, rfl, hbs, hgg, rest⟩
  · exact .inl hn
  · refine .inr ⟨g, cap, cur, rfl, hbs, ?_, rest⟩
    rw [hb.block g (Array.getElem?_eq_some_iff.1 hgg).1]
    exact hgg

/-- a row that another one's growth leaves alone -/
theorem Row.other {w w' : World} {o u v : Value} {l : List UInt8} (h : Row w o l) (hg : Gr w w' u v) (hne : ∀ k, o.ownBlock = some k → u.ownBlock ≠ some k) : Row w' o l := by
  refine ⟨h.1, ?_⟩
  rcases h.2 with hn | ⟨g, cap, cur, rfl, hbs, hgg, rest⟩
  · exact .inl hn
  · refine .inr ⟨g, cap, cur, rfl, hbs, ?_, rest⟩
    rw [hg.block g (Array.getElem?_eq_some_iff.1 hgg).1 (hne g rfl)]
    exact hgg

theorem Row.lt {w : World} {o : Value} {l : List UInt8} (h : Row w o l) : ∀ k, o.ownBlock = some k → k < w.heap.size := fun k hk => (World.ownsRow.lt h k hk).2
theorem Row.slice {w : World} {o : Value} {l : List UInt8} (h : Row w o l) : ∃ base cap, o = .slice base l.length cap := by
  rcases h.2 with ⟨rfl, hn⟩ | ⟨g, cap, cur, rfl, _⟩
  · exact ⟨none, 0, by rw [hn]⟩
  · exact ⟨_, cap, rfl⟩
theorem Row.nil (w : World) : Row w (.slice none 0 0) [] := World.ownsRow_nil w 0 5 1
theorem Row.alloc {w : World} {o : Value} {l : List UInt8} (h : Row w o l) (x : Obj) : Row (w.alloc x) o l := World.ownsRow.alloc h x

/-- append of a slice's bytes -/
theorem row_append (w : World) (o : Value) (l : List UInt8) (hR : Row w o l) (a : Addr) (c : Nat) (news : List UInt8) (hc : ∀ j u, (bs news)[j]? = some u → w.cell? (a.add j) = some u)
    (hlen : l.length + news.length ≤ 140737488355328) :
    ∃ o' w', (Builtin.append_ #[34, 34] 34 #[o, .slice (some a) news.length c]).run Tryd.prog w = .ok o' w' ∧ Row w' o' (l ++ news) ∧ Gr w w' o o' := by
  obtain ⟨i0, hi0, hz0, hz1, hz2⟩ := info_parts info5
  have hbl : (bs news).length = news.length * i0.size := by rw [bs_length, hz1, Nat.mul_one]
  obtain ⟨v', w', hrun, ho, hg, hnil⟩ := run_append_own (P := Tryd.prog) w 0 34 34 5 i0 _ 1 1 Tryd.underlying34 hi0 hz0 hz1 hz2 rfl (by omega) o l.length (bs l) hR a news.length c (bs news) (by rw [bs_length, Nat.mul_one]) hc (bs_one news) (by unfold maxLen; omega) (by omega) (Nat.zero_le _)
  refine ⟨v', w', hrun, by unfold Row; rw [bs_append, List.length_append]; exact ho, hg.os, hg.tape, hg.output, hg.size, fun k hk hne => hg.block k hk (fun e => hne e.symm), fun k hk => ?_⟩
  rcases hR.2 with ⟨rfl, h0⟩ | ⟨g, cap, cur, rfl, _, hgg, hnc, _, hcs, _⟩
  · by_cases hm : news.length = 0
    · rw [hnil.2 ⟨rfl, hm⟩] at hk
      simp [Value.ownBlock] at hk
    · have hr := run_append_nil (P := Tryd.prog) w 34 34 5 i0 _ Tryd.underlying34 hi0 hz0 a news.length c (bs news) hbl hc (by omega) (by omega) (by rw [hz2]; omega)
      rw [hrun] at hr
      injection hr with hr _
      subst hr
      simp [Value.ownBlock] at hk
      exact .inr (by omega)
  · by_cases hroom : l.length + news.length ≤ cap
    · have hr := run_append_room (P := Tryd.prog) w 34 34 5 i0 Tryd.underlying34 hi0 g l.length cap cur hgg a news.length c (bs news) hbl hc (bs_one news) hroom (by rw [hcs, hbl, hz1]; omega)
      rw [hrun] at hr
      injection hr with hr _
      subst hr
      exact .inl hk
    · have hr := run_append_grow (P := Tryd.prog) w 34 34 5 i0 _ Tryd.underlying34 hi0 hz0 ⟨g, 0, none⟩ l.length cap (bs l) (by rw [bs_length, hz1, Nat.mul_one]) (World.ownsRow.cells hR (g := g) rfl) a news.length c (bs news) hbl hc (by omega) (by omega) (growslice_fits (by omega) (by rw [hz2]; omega))
      rw [hrun] at hr
      injection hr with hr _
      subst hr
      simp [Value.ownBlock] at hk
      exact .inr (by omega)

theorem row_append_none (w : World) (o : Value) (l : List UInt8) (hR : Row w o l) :
    (Builtin.append_ #[34, 34] 34 #[o, .slice none 0 0]).run Tryd.prog w = .ok o w := by
  obtain ⟨i0, hi0, hz0, hz1, hz2⟩ := info_parts info5
  exact run_append_owned_none (P := Tryd.prog) (w := w) 0 34 34 5 i0 1 Tryd.underlying34 hi0 o l.length (bs l) hR

/-- append of another row -/
theorem row_append_row (w : World) (o p : Value) (l news : List UInt8) (hR : Row w o l) (hp : Row w p news) (hlen : l.length + news.length ≤ 140737488355328) :
    ∃ o' w', (Builtin.append_ #[34, 34] 34 #[o, p]).run Tryd.prog w = .ok o' w' ∧ Row w' o' (l ++ news) ∧ Gr w w' o o' := by
  have hp' := hp
  rcases hp.2 with ⟨rfl, h0⟩ | ⟨g, cap, cur, rfl, _, hgg, hnc, _, hcs, _⟩
  · obtain rfl := List.eq_nil_of_length_eq_zero h0
    exact ⟨o, w, row_append_none w o l hR, by rw [List.append_nil]; exact hR, Gr.refl _ _⟩
  · exact row_append w o l hR ⟨g, 0, none⟩ cap news (World.ownsRow.cells hp' (g := g) rfl) hlen

/-- append of a string's bytes -/
theorem row_append_str (w : World) (o : Value) (l : List UInt8) (hR : Row w o l) (s : ByteArray) (hlen : l.length + s.size ≤ 140737488355328) :
    ∃ o' w', (Builtin.append_ #[34, 9] 34 #[o, .string s]).run Tryd.prog w = .ok o' w' ∧ Row w' o' (l ++ s.data.toList) ∧ Gr w w' o o' := by
  obtain ⟨i0, hi0, hz0, hz1, hz2⟩ := info_parts info5
  have hss : s.data.toList.length = s.size := by simp
  obtain ⟨v', w', hrun, ho, hg, hnil⟩ := Lib.run_append_own_string (P := Tryd.prog) w 0 34 9 34 5 i0 Tryd.underlying34 Tryd.underlying9 hi0 hz0 hz1 hz2 o l.length (bs l) hR s (by unfold maxLen; omega) (by omega) (Nat.zero_le _)
  refine ⟨v', w', hrun, by unfold Row; rw [bs_append, List.length_append, ← bs_str, hss]; exact ho, hg.os, hg.tape, hg.output, hg.size, fun k hk hne => hg.block k hk (fun e => hne e.symm), fun k hk => ?_⟩
  rcases hR.2 with ⟨rfl, h0⟩ | ⟨g, cap, cur, rfl, _, hgg, hnc, _, hcs, _⟩
  · by_cases hm : s.size = 0
    · rw [hnil.2 ⟨rfl, hm⟩] at hk
      simp [Value.ownBlock] at hk
    · have hr := run_append_nil_string (P := Tryd.prog) w 34 9 34 5 i0 _ Tryd.underlying34 Tryd.underlying9 hi0 hz0 s (by omega) (by omega) (by rw [hz2]; omega)
      rw [hrun] at hr
      injection hr with hr _
      subst hr
      simp [Value.ownBlock] at hk
      exact .inr (by omega)
  · by_cases hroom : l.length + s.size ≤ cap
    · have hr := Lib.run_append_room_string (P := Tryd.prog) w 34 9 34 5 i0 Tryd.underlying34 Tryd.underlying9 hi0 hz1 g l.length cap cur hgg s hroom (by rw [hcs]; omega)
      rw [hrun] at hr
      injection hr with hr _
      subst hr
      exact .inl hk
    · have hr := Lib.run_append_grow_string (P := Tryd.prog) w 34 9 34 5 i0 _ Tryd.underlying34 Tryd.underlying9 hi0 hz0 ⟨g, 0, none⟩ l.length cap (bs l) (by rw [bs_length, hz1, Nat.mul_one]) (World.ownsRow.cells hR (g := g) rfl) s (by omega) (by omega) (growslice_fits (by omega) (by rw [hz2]; omega))
      rw [hrun] at hr
      injection hr with hr _
      subst hr
      simp [Value.ownBlock] at hk
      exact .inr (by omega)

theorem zeroCells_bs (k : Nat) : Builtin.zeroCells (Value.int IntKind.u8 0).cells k = (bs (List.replicate k 0)).toArray := by
  apply Array.ext'
  simp only [Builtin.zeroCells, bs, List.map_replicate]
  apply List.ext_getElem
  · simp [Value.cells]
  · intro i h1 h2
    simp [Value.cells, Nat.mod_one]

/-- append of zeros, to a row that is there -/
theorem row_append_zeros (w : World) (o : Value) (l : List UInt8) (hR : Row w o l) (hne : o ≠ .slice none 0 0) (k : Nat) (hk255 : k ≤ 255) (hlen : l.length + k ≤ 140737488355328) :
    ∃ o' w', (Builtin.append_ #[34, 5] 34 #[o, .int .u8 (k : Int)]).run Tryd.prog w = .ok o' w' ∧ Row w' o' (l ++ List.replicate k 0) ∧ Gr w w' o o' := by
  obtain ⟨i0, hi0, hz0, hz1, hz2⟩ := info_parts info5
  have hll : (l ++ List.replicate k (0 : UInt8)).length = l.length + k := by simp
  have hR' := hR
  rcases hR.2 with ⟨rfl, h0⟩ | ⟨g, cap, cur, rfl, _, hgg, hnc, hcm, hcs, htk⟩
  · exact absurd rfl hne
  · rw [Nat.mul_one] at hcs htk
    by_cases hroom : l.length + k ≤ cap
    · have hw : IntKind.i64.wrap (k : Int) = k := by rw [IntKind.wrap_i64]; omega
      have hneg : ¬ ((k : Int) < 0) := by omega
      have h48i : ¬ (281474976710656 < (k : Int) * 1) := by omega
      have hst := run_storeCells_at Tryd.prog g l.length 5 (bs (List.replicate k 0)) 0 cur w hgg (by rw [bs_length, List.length_replicate]; omega) (bs_one _)
      simp only [Nat.add_zero] at hst
      refine ⟨.slice (some ⟨g, 0, none⟩) (l.length + k) cap, w.setRow g (cur.toList.take l.length ++ bs (List.replicate k 0) ++ cur.toList.drop (l.length + (bs (List.replicate k (0 : UInt8))).length)).toArray, ?_, ?_, rfl, rfl, rfl, by simp, fun j _ hj => setRow_other w g j _ (fun e => hj (by simp [Value.ownBlock, e])), fun j hj => .inl hj⟩
      · by_cases hk0 : k = 0
        · subst hk0
          have hw0 : IntKind.i64.wrap 0 = 0 := by rw [IntKind.wrap_i64]; rfl
          simp [bs, Builtin.append_, run_underlying Tryd.underlying34, run_underlying Tryd.underlying5, sizeOf, typeInfo, zeroValue, hi0, hz0, hz1, hz2, asInt, asIntOf, hnc, storeCells, hw0] at hst ⊢
          exact hst
        · simp [Builtin.append_, run_underlying Tryd.underlying34, run_underlying Tryd.underlying5, sizeOf, typeInfo, zeroValue, hi0, hz0, hz1, hz2, asInt, asIntOf, hw, hneg, h48i, hroom, hk0, zeroCells_bs, Addr.add_lit, hst]
          intro h
          omega
      · unfold Row
        rw [hll, bs_append]
        refine ⟨by simp [bs_length], .inr ⟨g, cap, _, rfl, Nat.zero_le _, setRow_heap w g cur _ 5 _ hgg, hroom, hcm, ?_, ?_⟩⟩
        · simp only [List.size_toArray, List.length_append, List.length_take, List.length_drop, Array.length_toList, bs_length, List.length_replicate]
          omega
        · rw [htk, Nat.mul_one, List.toList_toArray, List.append_assoc, ← List.append_assoc]
          exact List.take_left' (by simp [bs_length])
    · have hold : (Builtin.firstCells i0.size l.length (.slice (some ⟨g, 0, none⟩) l.length cap)).run Tryd.prog w.drew = .ok (bs l).toArray w.drew :=
        run_firstCells_some (P := Tryd.prog) w.drew i0.size l.length ⟨g, 0, none⟩ l.length cap (bs l) (by rw [bs_length, hz1, Nat.mul_one]) (by simpa using World.ownsRow.cells hR' (g := g) rfl)
      have hr := Lib.run_append_grow_zeros (P := Tryd.prog) w 34 5 34 5 i0 _ .u8 .u8 Tryd.underlying34 Tryd.underlying5 hi0 hz0 (some ⟨g, 0, none⟩) l.length cap (bs l) hold k (by omega) (by omega) (by omega) (by omega) (by rw [hz2]; omega) (growslice_fits (by omega) (by rw [hz2]; omega))
      refine ⟨_, _, hr, ?_, rfl, rfl, rfl, by simp, fun j hj _ => heap_alloc_old w.drew _ hj, fun j hj => by simp [Value.ownBlock] at hj; exact .inr (by omega)⟩
      have hge := grownCap_ge w (l.length + k) cap 5
      have hcm' : grownCap w (l.length + k) cap 5 ≤ maxLen := grownCap_le_maxLen w (l.length + k) cap 5 (by unfold maxLen; omega)
      unfold Row
      rw [hll, bs_append]
      refine ⟨by simp [bs_length], .inr ⟨w.heap.size, _, _, rfl, Nat.zero_le _, heap_alloc_new w.drew _, hge, hcm', ?_, ?_⟩⟩
      · simp only [Array.size_append, List.size_toArray, size_zeroCells, bs_length]
        simp only [Value.cells, List.size_toArray, List.length_cons, List.length_nil]
        omega
      · rw [zeroCells_bs k]
        simp only [Array.toList_append, List.toList_toArray]
        exact List.take_left' (by simp [bs_length])

/-- append, as one step of a region that draws, by the equation of its run. -/
theorem step_append_run {P : Program} {ops : Array Oper} {o : Oper} {a : Act} {w : World} {K : Act → World → Prop} {Q : Exit → Act → World → Prop} {R : Prop}
    (hg : o.guard = none) (s x : Operand) (t tn : TypeId) (ho : o.op = .call { callee := .builtin .append, args := #[s, x], argTypes := #[t, tn] })
    {vs vx v' : Value} {w' : World} (hr : (Builtin.append_ #[t, tn] o.type #[vs, vx]).run P w = .ok v' w') (hs : a.eval s = vs) (hx : a.eval x = vx)
    (hK : K (a.put o.dst v') w') : if Region.wanted o (yielded ops a.tmps) = true then Oper.wp P o a w K Q else R := by
  have hw : Region.wanted o (yielded ops a.tmps) = true := by simp [Region.wanted, hg]
  rw [if_pos hw]
  exact Lib.wp_append_run w s x t tn ho vs vx hs hx v' w' hr hK

end Go.Proofs.YtmhbaaemihljjaaDoor
