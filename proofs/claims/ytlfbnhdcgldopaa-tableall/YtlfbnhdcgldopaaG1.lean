/- The program's tables, the document's and boxes side by side. -/
import Derived.Test.YtlfbnhdcgldopaaF6
import Derived.Test.YtlfbnhdcgldopaaD5
namespace Go.Proofs.Ytlfbnhdcgldopaa
open Go.RowKit

structure Thing where
  v : (Nat × Nat × List E × Value) ⊕ (Nat × Nat × List E × Value) ⊕ (Nat × Array Value × TypeId)
abbrev Thing.p (b mx : Nat) (es : List E) (v : Value) : Thing := ⟨.inl (b, mx, es, v)⟩
abbrev Thing.r (b mx : Nat) (es : List E) (v : Value) : Thing := ⟨.inr (.inl (b, mx, es, v))⟩
abbrev Thing.box (b : Nat) (c : Array Value) (ty : TypeId) : Thing := ⟨.inr (.inr (b, c, ty))⟩

def Thing.holds (W : World) (t : Thing) : Prop :=
  match t.v with
  | .inl (b, mx, es, v) => Tab W b mx es v
  | .inr (.inl (b, mx, es, v)) => RTab W b mx es v
  | .inr (.inr (b, c, ty)) => W.heap[b]? = some (.cells c ty (0, 0))

def Thing.foot (t : Thing) (j : Nat) : Prop :=
  match t.v with
  | .inl (b, _, _, v) => Ytlfbnhdcgldopaa.foot b v j
  | .inr (.inl (b, _, _, v)) => Ytlfbnhdcgldopaa.foot b v j
  | .inr (.inr (b, _, _)) => j = b

theorem Thing.holds.stays {t : Thing} {W W' : World} {S : Nat → Prop} (h : t.holds W) (hk : Kept S W W') (hd : ∀ j, t.foot j → ¬ S j) : t.holds W' := by
  obtain ⟨⟨b, mx, es, v⟩ | ⟨b, mx, es, v⟩ | ⟨b, c, ty⟩⟩ := t
  · exact Tab.stays h hk (hd b (.inl rfl)) fun k hk => hd k (.inr hk.symm)
  · exact RTab.stays h hk (hd b (.inl rfl)) fun k hk => hd k (.inr hk.symm)
  · exact (hk.block b (Array.getElem?_eq_some_iff.1 h).1 (hd b rfl)).trans h

theorem Thing.holds.lt {t : Thing} {W : World} (h : t.holds W) : ∀ j, t.foot j → j < W.heap.size := by
  obtain ⟨⟨b, mx, es, v⟩ | ⟨b, mx, es, v⟩ | ⟨b, c, ty⟩⟩ := t
  · exact Tab.foot_lt h
  · rintro j (rfl | hj)
    · exact RTab.lt h
    · exact (h.2.2.2.lt j hj.symm).2
  · rintro j rfl; exact (Array.getElem?_eq_some_iff.1 h).1

def apart (s t : Thing) : Prop := ∀ j, s.foot j → ¬ t.foot j
theorem apart.symm {s t : Thing} (h : apart s t) : apart t s := fun j ht hs => h j hs ht

/-- They all hold in W, apart from one another, made since w. -/
def All (w : World) (ts : List Thing) (W : World) : Prop := (∀ t ∈ ts, t.holds W ∧ ∀ j, t.foot j → w.heap.size ≤ j) ∧ ts.Pairwise apart ∧ Below w.heap.size w W

theorem All.below {w : World} {ts : List Thing} {W W' : World} (h : All w ts W) (hb : Below W.heap.size W W') : All w ts W' :=
  ⟨fun t ht => ⟨(h.1 t ht).1.stays (S := fun _ => False) (Kept.of_below hb) (fun _ _ => id), (h.1 t ht).2⟩, h.2.1, h.2.2.trans (hb.mono h.2.2.size)⟩

theorem All.drew {w : World} {ts : List Thing} {W : World} (h : All w ts W) : All w ts W.drew :=
  h.below ⟨rfl, rfl, rfl, Nat.le_refl _, fun _ _ => rfl⟩

theorem All.get {w : World} {ts : List Thing} {W : World} (h : All w ts W) (A B : List Thing) (t : Thing) (e : ts = A ++ t :: B) : t.holds W :=
  (h.1 t (by rw [e]; simp)).1

theorem All.sub {w : World} {ts ts' : List Thing} {W : World} (h : All w ts W) (hs : List.Sublist ts' ts) : All w ts' W :=
  ⟨fun t ht => h.1 t (hs.subset ht), h.2.1.sublist hs, h.2.2⟩

/-- One of them is changed: the others see nothing of it. -/
theorem All.change {w : World} {W W' : World} (A B : List Thing) (t t' : Thing) (h : All w (A ++ t :: B) W) (h1 : t'.holds W') (h2 : Kept t.foot W W') (h3 : ∀ j, t'.foot j → t.foot j ∨ W.heap.size ≤ j) : All w (A ++ t' :: B) W' := by
  obtain ⟨hm, hp, hB⟩ := h
  have ht := hm t (by simp)
  have hbl : Below w.heap.size W W' := h2.below hB.size fun k hk hf => absurd (ht.2 k hf) (by omega)
  have hmt : t'.holds W' ∧ ∀ j, t'.foot j → w.heap.size ≤ j := ⟨h1, fun j hj => by
    rcases h3 j hj with h4 | h4
    · exact ht.2 j h4
    · exact Nat.le_trans hB.size h4⟩
  have hms : ∀ s : Thing, (s.holds W ∧ ∀ j, s.foot j → w.heap.size ≤ j) → apart s t → (s.holds W' ∧ ∀ j, s.foot j → w.heap.size ≤ j) ∧ apart s t' := fun s hs hst =>
    ⟨⟨hs.1.stays h2 hst, hs.2⟩, fun j hj hu => by
      rcases h3 j hu with h4 | h4
      · exact hst j hj h4
      · have := hs.1.lt j hj
        omega⟩
  rw [List.pairwise_append, List.pairwise_cons] at hp
  obtain ⟨hpA, ⟨hpt, hpB⟩, hpAB⟩ := hp
  refine ⟨fun s hs => ?_, ?_, hB.trans hbl⟩
  · rcases List.mem_append.1 hs with hs | hs
    · exact (hms s (hm s (by simp [hs])) (hpAB s hs t (by simp))).1
    · rcases List.mem_cons.1 hs with rfl | hs
      · exact hmt
      · exact (hms s (hm s (by simp [hs])) (hpt s hs).symm).1
  · rw [List.pairwise_append, List.pairwise_cons]
    refine ⟨hpA, ⟨fun s hs => (hms s (hm s (by simp [hs])) (hpt s hs).symm).2.symm, hpB⟩, fun a ha s hs => ?_⟩
    rcases List.mem_cons.1 hs with rfl | hs
    · exact (hms a (hm a (by simp [ha])) (hpAB a ha t (by simp))).2
    · exact hpAB a ha s (by simp [hs])

/-- One more. -/
theorem All.push {w : World} {ts : List Thing} {W W' : World} (h : All w ts W) (t : Thing) (ht : t.holds W') (hf : ∀ j, t.foot j → W.heap.size ≤ j) (hb : Below W.heap.size W W') : All w (t :: ts) W' := by
  have h' := h.below hb
  refine ⟨fun s hs => ?_, ?_, h'.2.2⟩
  · rcases List.mem_cons.1 hs with rfl | hs
    · exact ⟨ht, fun j hj => Nat.le_trans h.2.2.size (hf j hj)⟩
    · exact h'.1 s hs
  · rw [List.pairwise_cons]
    refine ⟨fun s hs j hj hu => ?_, h.2.1⟩
    have h1 := hf j hj
    have h2 := (h.1 s hs).1.lt j hu
    omega

/-- A box more. -/
theorem All.box {w : World} {ts : List Thing} {W : World} (h : All w ts W) (c : Array Value) (ty : TypeId) : All w (.box W.heap.size c ty :: ts) (W.alloc (.cells c ty)) :=
  h.push _ (heap_alloc_new W _) (fun _ hj => Nat.le_of_eq hj.symm) ((Below.refl _ W).alloc (Nat.le_refl _) _)

/-- A cell of a box is written. -/
theorem All.set {w : World} {W : World} (A B : List Thing) (b : Nat) (c : Array Value) (ty : TypeId) (h : All w (A ++ .box b c ty :: B) W) (o : Nat) (u : Value) : All w (A ++ .box b (c.setIfInBounds o u) ty :: B) (W.setCell ⟨b, o, none⟩ u) :=
  h.change A B (.box b c ty) _ (setCell_block _ _ _ _ _ _ _ (h.get A B _ rfl)) (Kept.setCell (S := Thing.foot (.box b c ty)) _ _ rfl) fun _ hj => .inl hj

theorem all_changed {w W W' : World} (A B : List Thing) {b mx mx' : Nat} {es es' : List E} {v : Value} (h : All w (A ++ .p b mx es v :: B) W) (hc : Changed W W' b mx' es' v) : ∃ v', All w (A ++ .p b mx' es' v' :: B) W' := by
  obtain ⟨v', h1, h2, h3⟩ := changed_foot hc
  exact ⟨v', h.change A B (.p b mx es v) (.p b mx' es' v') h1 h2 h3⟩

theorem all_rchanged {w W W' : World} (A B : List Thing) {b mx mx' : Nat} {es es' : List E} {v : Value} (h : All w (A ++ .r b mx es v :: B) W) (hc : RChanged W W' b mx' es') : ∃ v', All w (A ++ .r b mx' es' v' :: B) W' := by
  obtain ⟨v', h1, h2, h3⟩ := hc
  refine ⟨v', h.change A B (.r b mx es v) (.r b mx' es' v') h1 (h2.mono fun k _ e => .inl e) ?_⟩
  rintro j (rfl | hj)
  · exact .inl (.inl rfl)
  · exact .inr (h3 j hj.symm)

theorem all_add {w W : World} (A B : List Thing) {b mx : Nat} {es : List E} {v : Value} (h : All w (A ++ .p b mx es v :: B) W) (n x : ByteArray) (hsz : n.size + x.size + 32 ≤ 4611686018427387904) :
    Calls Try.prog 10 #[.pointer (some ⟨b, 0, none⟩), .string n, .string x] W fun e W' => e = .returned (.tuple #[]) ∧ ∃ v', All w (A ++ .p b mx (keep mx ((n, x) :: es)) v' :: B) W' := by
  refine (add_any W b mx es v (h.get A B _ rfl) n x hsz).mono ?_
  rintro e W' ⟨rfl, hc⟩
  exact ⟨rfl, all_changed A B h hc⟩

theorem all_radd {w W : World} (A B : List Thing) {b mx : Nat} {es : List E} {v : Value} (h : All w (A ++ .r b mx es v :: B) W) (n x : ByteArray) (hsz : n.size + x.size + 32 ≤ 4611686018427387904) :
    Calls Try.prog 36 #[.pointer (some ⟨b, 0, none⟩), .string n, .string x] W fun e W' => e = .returned (.tuple #[]) ∧ ∃ v', All w (A ++ .r b mx (keep mx ((n, x) :: es)) v' :: B) W' := by
  refine (radd_any W b mx es v (h.get A B _ rfl) n x hsz).mono ?_
  rintro e W' ⟨rfl, hc⟩
  exact ⟨rfl, all_rchanged A B h hc⟩

theorem all_resize {w W : World} (A B : List Thing) {b mx : Nat} {es : List E} {v : Value} (h : All w (A ++ .p b mx es v :: B) W) (m : Nat) (hm : m ≤ 65536) :
    Calls Try.prog 17 #[.pointer (some ⟨b, 0, none⟩), .int .i64 (m : Int)] W fun e W' => e = .returned (.int .i64 0) ∧ ∃ v', All w (A ++ .p b m (keep m es) v' :: B) W' := by
  refine (resize_good W b mx es v (h.get A B _ rfl) m hm).mono ?_
  rintro e W' ⟨rfl, hc⟩
  exact ⟨rfl, all_changed A B h hc⟩

theorem all_rresize {w W : World} (A B : List Thing) {b mx : Nat} {es : List E} {v : Value} (h : All w (A ++ .r b mx es v :: B) W) (m : Nat) (hm : m ≤ 65536) :
    Calls Try.prog 37 #[.pointer (some ⟨b, 0, none⟩), .int .i64 (m : Int)] W fun e W' => e = .returned (.int .i64 0) ∧ ∃ v', All w (A ++ .r b m (keep m es) v' :: B) W' := by
  refine (rresize_good W b mx es v (h.get A B _ rfl) m hm).mono ?_
  rintro e W' ⟨rfl, hc⟩
  exact ⟨rfl, all_rchanged A B h hc⟩

theorem all_copy {w W : World} {ts : List Thing} (A B : List Thing) {b mx : Nat} {es : List E} {v : Value} (h : All w ts W) (e : ts = A ++ .p b mx es v :: B) :
    Calls Try.prog 20 #[.pointer (some ⟨b, 0, none⟩)] W fun e W' => ∃ c v', e = .returned (.pointer (some ⟨c, 0, none⟩)) ∧ All w (.p c mx es v' :: ts) W' := by
  refine (copy_any W b mx es v (h.get A B _ e)).mono ?_
  rintro e W' ⟨c, v', rfl, hc, ht, hk, hb⟩
  refine ⟨c, v', rfl, h.push _ ht ?_ hb⟩
  rintro j (rfl | hj)
  · exact hc
  · exact hk j hj.symm

theorem all_rcopy {w W : World} {ts : List Thing} (A B : List Thing) {b mx : Nat} {es : List E} {v : Value} (h : All w ts W) (e : ts = A ++ .r b mx es v :: B) :
    Calls Try.prog 22 #[.pointer (some ⟨b, 0, none⟩)] W fun e W' => ∃ c v', e = .returned (.pointer (some ⟨c, 0, none⟩)) ∧ All w (.r c mx es v' :: ts) W' := by
  refine (rcopy_any W b mx es v (h.get A B _ e)).mono ?_
  rintro e W' ⟨c, v', rfl, hc, ht, hk, hb⟩
  refine ⟨c, v', rfl, h.push _ ht ?_ hb⟩
  rintro j (rfl | hj)
  · exact hc
  · exact hk j hj.symm

theorem all_new {w W : World} {ts : List Thing} (h : All w ts W) (mx : Nat) (hmx : mx ≤ 65536) :
    Calls Try.prog 9 #[.int .i64 (mx : Int)] W fun e W' => e = .returned (.tuple #[.pointer (some ⟨W.heap.size, 0, none⟩), .int .i64 0]) ∧ All w (.p W.heap.size mx [] (.slice none 0 0) :: ts) W' := by
  refine (new_good mx W hmx).mono ?_
  rintro e W' ⟨rfl, ht, hb⟩
  refine ⟨rfl, h.push _ ht ?_ hb⟩
  rintro j (rfl | hj)
  · exact Nat.le_refl _
  · cases hj

theorem all_rnew {w W : World} {ts : List Thing} (h : All w ts W) (mx : Nat) (hmx : mx ≤ 65536) :
    Calls Try.prog 35 #[.int .i64 (mx : Int)] W fun e W' => e = .returned (.tuple #[.pointer (some ⟨W.heap.size, 0, none⟩), .int .i64 0]) ∧ All w (.r W.heap.size mx [] (.slice none 0 0) :: ts) W' := by
  refine (rnew_good mx W hmx).mono ?_
  rintro e W' ⟨rfl, ht, hb⟩
  refine ⟨rfl, h.push _ ht ?_ hb⟩
  rintro j (rfl | hj)
  · exact Nat.le_refl _
  · cases hj

end Go.Proofs.Ytlfbnhdcgldopaa
