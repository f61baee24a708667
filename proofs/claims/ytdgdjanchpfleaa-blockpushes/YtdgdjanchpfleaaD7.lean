/- The document's Push: what lies side by side. -/
import Derived.Test.YtdgdjanchpfleaaD5
import Derived.Test.YtdgdjanchpfleaaM2
import Derived.Deep.RegionLaw
namespace Go.Proofs.Ytdgdjanchpfleaa
open Go.RowKit
set_option linter.unusedVariables false
set_option linter.unusedSimpArgs false

/-- the bytes of frames, one behind the other -/
def flat (L : List (Fr × SV)) : List UInt8 := L.flatMap fun x => x.1.data.data.toList
theorem flat_app (L M : List (Fr × SV)) : flat (L ++ M) = flat L ++ flat M := by simp [flat]
theorem flat_one (f : Fr) (x : SV) : flat [(f, x)] = f.data.data.toList := by simp [flat]
theorem flat_succ (L : List (Fr × SV)) (i : Nat) (h : i < L.length) : flat (L.take (i + 1)) = flat (L.take i) ++ L[i].1.data.data.toList := by
  unfold flat
  rw [List.take_succ_eq_append_getElem h, List.flatMap_append, List.flatMap_singleton]
theorem flat_le (L : List (Fr × SV)) (i : Nat) : (flat (L.take i)).length ≤ (flat L).length := by
  have : flat L = flat (L.take i) ++ flat (L.drop i) := by rw [← flat_app, List.take_append_drop]
  rw [this, List.length_append]
  omega
theorem bt_app' (l : List UInt8) (t : ByteArray) : bt l ++ t = bt (l ++ t.data.toList) := by
  apply ByteArray.ext
  simp [bt, ByteArray.data_append]
theorem len_data' (s : ByteArray) : s.data.toList.length = s.size := by simp

/-- Within the document's Push. -/
structure Rp (w : World) (v0 : Value) (wr : World) (b : Nat) (v : Value) (L : List (Fr × SV)) (c : Int) (f : Fr) (q : Value) : Prop where
  rb : RB wr b v c
  rf : R EF wr v L
  b1 : FB wr w.heap.size f q
  b2 : FB wr (w.heap.size + 1) Fr.zero (.slice none 0 0)
  b3 : TB wr (w.heap.size + 1 + 1) 0
  ks : Ks (fun k => k = b ∨ v0.ownBlock = some k) w wr
  own : ∀ k, v.ownBlock = some k → v0.ownBlock = some k ∨ w.heap.size + 1 + 1 < k
  lt : b < w.heap.size
  old : ∀ k, v0.ownBlock = some k → k < w.heap.size
variable {w wr w' : World} {v0 v : Value} {b : Nat} {L : List (Fr × SV)} {c : Int} {f : Fr} {q : Value}

theorem Rp.start (f : Fr) (q : Value) (hb : RB w b v c) (hr : R EF w v L) :
    Rp w v (((w.alloc (.cells (fv f q) 24)).alloc (.cells (fv Fr.zero (.slice none 0 0)) 24)).alloc (.cells #[.int .i64 0, .int .i64 0] 32)) b v L c f q := by
  have hB := bel3 w (.cells (fv f q) 24) (.cells (fv Fr.zero (.slice none 0 0)) 24) (.cells #[.int .i64 0, .int .i64 0] 32)
  refine ⟨hb.below hB, hr.below hB, ?_, ?_, ?_, Ks.of_below hB, fun k hk => .inl hk, hb.lt, hr.lt⟩
  · unfold FB
    rw [heap_al, if_neg (by rw [size_al, size_al]; omega), heap_al, if_neg (by rw [size_al]; omega), heap_al, if_pos rfl]
  · unfold FB
    rw [heap_al, if_neg (by rw [size_al, size_al]; omega), heap_al, if_pos (by rw [size_al])]
  · unfold TB
    rw [heap_al, if_pos (by rw [size_al, size_al])]
theorem Rp.size (h : Rp w v0 wr b v L c f q) : w.heap.size + 1 + 1 < wr.heap.size := heap_lt h.b3
theorem Rp.below (h : Rp w v0 wr b v L c f q) (hb : Below wr.heap.size wr w') : Rp w v0 w' b v L c f q :=
  ⟨h.rb.below hb, h.rf.below hb, h.b1.below hb, h.b2.below hb, (hb.block _ (heap_lt h.b3)).trans h.b3, h.ks.trans (Ks.of_below (A := fun _ => False) hb) (fun _ _ h => h) (fun _ _ h => h.elim), h.own, h.lt, h.old⟩
theorem Rp.nown (h : Rp w v0 wr b v L c f q) (k : Nat) (hk : v.ownBlock = some k) : k < w.heap.size ∨ w.heap.size + 1 + 1 < k := by
  rcases h.own k hk with e | e
  · exact .inl (h.old k e)
  · exact .inr e
/-- the joiner broken -/
theorem Rp.brk (h : Rp w v0 wr b v L c f q) {c' : Int} (hr : RB w' b (.slice none 0 0) c') (hk : Ks (fun k => k = b) wr w') : Rp w v0 w' b (.slice none 0 0) [] c' f q := by
  have hl := h.lt
  refine ⟨hr, R.nil _ _, (hk.block _ h.b1.lt (by omega)).trans h.b1, (hk.block _ h.b2.lt (by omega)).trans h.b2, (hk.block _ (heap_lt h.b3) (by omega)).trans h.b3, h.ks.trans hk (fun _ _ e => e) (fun _ _ e => .inl e), fun k hk => by simp [Value.ownBlock] at hk, h.lt, h.old⟩
/-- one frame more -/
theorem Rp.grow (h : Rp w v0 wr b v L c f q) (x : SV) (hq : q = sv x) (hlen : (L.length + 1) * 112 ≤ 140737488355328) :
    ∃ base cap w7, (Builtin.append_ #[37, 37] 37 #[v, .slice (some ⟨wr.heap.size, 0, none⟩) 1 1]).run Try.prog (wr.drew.alloc (.cells (fv f q) 24)) = .ok (.slice base (L.length + 1) cap) w7 ∧ RB w7 b v c ∧ b < w7.heap.size ∧ Rp w v0 (w7.setCell ⟨b, 0, none⟩ (.slice base (L.length + 1) cap)) b (.slice base (L.length + 1) cap) (L ++ [(f, x)]) c f q := by
  subst hq
  have hB : Below wr.heap.size wr (wr.drew.alloc (.cells (fv f (sv x)) 24)) := ((Below.refl _ wr).drew).alloc (by simp) _
  have h1 := h.below hB
  have hin : In EF (wr.drew.alloc (.cells (fv f (sv x)) 24)) (.slice (some ⟨wr.heap.size, 0, none⟩) 1 1) [(f, x)] := in_one _ _ _ (fv f (sv x)) 24 (0, 0) (by rw [heap_al, if_pos (size_dr wr).symm]) rfl
  obtain ⟨base, cap, w7, e1, e2, e3⟩ := app okF _ v L h1.rf _ _ hin (by simpa [EF] using hlen)
  simp only [List.length_cons, List.length_nil, Nat.zero_add] at e1 e2 e3
  have nb : v.ownBlock ≠ some b := fun e => own_ne h1.rf h1.rb (by decide) b e rfl
  have l := h.lt
  have hs := h.size
  have n1 : v.ownBlock ≠ some w.heap.size := fun e => by have := h.nown _ e; omega
  have n2 : v.ownBlock ≠ some (w.heap.size + 1) := fun e => by have := h.nown _ e; omega
  have n3 : v.ownBlock ≠ some (w.heap.size + 1 + 1) := fun e => by have := h.nown _ e; omega
  have rb7 : RB w7 b v c := (e3.block _ h1.rb.lt nb).trans h1.rb
  refine ⟨base, cap, w7, e1, rb7, rb7.lt, ?_⟩
  have nb' : ∀ k, (Value.slice base (L.length + 1) cap).ownBlock = some k → k ≠ b := own_ne e2 rb7 (by decide)
  refine ⟨?_, e2.stays fun k hk _ => setCell_other _ _ _ _ _ (nb' k hk), (setCell_other _ _ _ _ _ (by omega)).trans ((e3.block _ h1.b1.lt n1).trans h1.b1), (setCell_other _ _ _ _ _ (by omega)).trans ((e3.block _ h1.b2.lt n2).trans h1.b2), (setCell_other _ _ _ _ _ (by omega)).trans ((e3.block _ (heap_lt h1.b3) n3).trans h1.b3), ?_, fun k hk => ?_, h.lt, h.old⟩
  · unfold RB
    rw [setCell_block _ _ _ _ _ _ _ rb7]
    rfl
  · refine (h1.ks.trans (Ks.of_gr e3) (C := fun k => k = b ∨ v0.ownBlock = some k) (fun _ _ e => e) (fun k hk e => ?_)).trans (Ks.setCell (fun k => k = b) w7 b 0 _ rfl) (fun _ _ e => e) (fun _ _ e => .inl e)
    rcases h.own k e with e' | e'
    · exact .inr e'
    · omega
  · rcases e3.own k hk with e | e
    · exact h.own k e
    · have : (wr.drew.alloc (.cells (fv f (sv x)) 24)).heap.size = wr.heap.size + 1 := by rw [size_al]; rfl
      exact .inr (by omega)
/-- its frames let go -/
theorem Rp.drop (h : Rp w v0 wr b v L c f q) : Rp w v0 (wr.setCell ⟨b, 0, none⟩ (.slice none 0 0)) b (.slice none 0 0) [] c f q := by
  refine h.brk ?_ (Ks.setCell (fun k => k = b) wr b 0 _ rfl)
  unfold RB
  rw [setCell_block _ _ _ _ _ _ _ h.rb]
  rfl

/-- what the document's Push leaves and tells -/
structure RuR (w : World) (v0 : Value) (w' : World) (b : Nat) (L : List (Fr × SV)) (c : Int) : Prop where
  ex : ∃ v', RB w' b v' c ∧ R EF w' v' L ∧ ∀ k, v'.ownBlock = some k → v0.ownBlock = some k ∨ w.heap.size ≤ k
  ks : Ks (fun k => k = b ∨ v0.ownBlock = some k) w w'
def RPost (w : World) (v0 : Value) (b : Nat) (L : List (Fr × SV)) (c : Int) (ok : Bool) (g : Fr) (y : SV) (t : ByteArray) (e : Ending) (w' : World) : Prop :=
  e = .returned (.tuple #[.bool ok, .agg (fv g (sv y)), .string t, .agg #[.int .i64 c, .int .i64 0]]) ∧ RuR w v0 w' b L c
/-- Push's last statement -/
theorem Rp.fin (h : Rp w v0 wr b v L c f q) (g : Fr) (y : SV) (X : World) (hX : X = (sets (sets wr (w.heap.size + 1) (fsets g (sv y))) (w.heap.size + 1 + 1) [(0, .int .i64 c), (1, .int .i64 0)])) :
    FB X (w.heap.size + 1) g (sv y) ∧ TB X (w.heap.size + 1 + 1) c ∧ RuR w v0 X b L c := by
  have a1 := FB.sets h.b2 g (sv y)
  have b3' : TB (sets wr (w.heap.size + 1) (fsets g (sv y))) (w.heap.size + 1 + 1) 0 := (sets_other _ _ (by omega) _ _).trans h.b3
  have a2 : FB X (w.heap.size + 1) g (sv y) := by
    unfold FB
    rw [hX, sets_other _ _ (by omega)]
    exact a1
  have a3 : TB X (w.heap.size + 1 + 1) c := by
    unfold TB
    rw [hX, sets_block _ _ _ _ _ _ b3']
    simp only [List.foldl_cons, List.foldl_nil, List.setIfInBounds_toArray, List.set_cons_zero, List.set_cons_succ]
  have ho : ∀ k, k ≠ w.heap.size + 1 → k ≠ w.heap.size + 1 + 1 → X.heap[k]? = wr.heap[k]? := fun k h1 h2 => by
    rw [hX, sets_other _ _ h2, sets_other _ _ h1]
  have hB : Below w.heap.size wr X := by
    rw [hX]
    exact (sets_below (w.heap.size + 1) w.heap.size (by omega) _ _).trans (sets_below (w.heap.size + 1 + 1) w.heap.size (by omega) _ _)
  have l := h.lt
  clear hX a1 b3'
  refine ⟨a2, a3, ⟨v, (ho _ (by omega) (by omega)).trans h.rb, h.rf.stays fun k hk _ => ?_, fun k hk => ?_⟩, h.ks.trans (Ks.mk hB.os hB.tape hB.output hB.size (A := fun k => w.heap.size ≤ k) fun k _ hk => hB.block k (by omega)) (fun _ _ h => h) (fun k hk e => by omega)⟩
  · have := h.nown k hk
    exact ho k (by omega) (by omega)
  · rcases h.own k hk with e | e
    · exact .inl e
    · exact .inr (by omega)
theorem RuR.below {w2 : World} (h : RuR w v0 w' b L c) (hb : Below w'.heap.size w' w2) : RuR w v0 w2 b L c := by
  obtain ⟨⟨v', h1, h2, h3⟩, h4⟩ := h
  exact ⟨⟨v', h1.below hb, h2.below hb, h3⟩, h4.trans (Ks.of_below (A := fun _ => False) hb) (fun _ _ e => e) (fun _ _ e => e.elim)⟩
end Go.Proofs.Ytdgdjanchpfleaa
