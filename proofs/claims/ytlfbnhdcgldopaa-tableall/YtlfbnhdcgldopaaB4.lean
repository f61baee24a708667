/- Find. -/
import Derived.Test.YtlfbnhdcgldopaaB3
namespace Go.Proofs.Ytlfbnhdcgldopaa
open Go.RowKit Go.Shelf

attribute [local go_sem] Oper.semAt_some

def hit (n v : ByteArray) (x : Item) : Bool := decide (x.1.2.1 = n) && decide (x.1.2.2 = v)
/-- The first index with the name, 0 where there is none. -/
def named (n : ByteArray) (l : List Item) : Nat := match l.find? (fun x => decide (x.1.2.1 = n)) with | some x => x.1.1 | none => 0

theorem named_snoc_same (n : ByteArray) (l : List Item) (y : Item) (h : ¬ y.1.2.1 = n) : named n (l ++ [y]) = named n l := by
  simp [named, List.find?_append, h]

theorem named_zero (n : ByteArray) (l : List Item) (h : named n l = 0) : l.find? (fun x => decide (x.1.2.1 = n)) = none := by
  unfold named at h
  split at h
  · rename_i y hy
    have := y.2.1
    omega
  · assumption

theorem named_snoc_first (n : ByteArray) (l : List Item) (y : Item) (h : y.1.2.1 = n) (h0 : named n l = 0) : named n (l ++ [y]) = y.1.1 := by
  have := named_zero n l h0
  simp [named, List.find?_append, h, this]

theorem named_snoc_later (n : ByteArray) (l : List Item) (y : Item) (h0 : ¬ named n l = 0) : named n (l ++ [y]) = named n l := by
  unfold named at h0 ⊢
  rw [List.find?_append]
  split at h0
  · rename_i z hz
    simp [hz]
  · exact absurd rfl h0

theorem named_le (n : ByteArray) (l : List Item) : named n l ≤ 10000 := by
  unfold named
  split
  · rename_i y hy; exact y.2.2
  · omega

/-- What Find has in its boxes between two rounds. -/
def FindI (w : World) (n x : ByteArray) (pre : List Item) (W : World) : Prop :=
  (Boxed W w.heap.size 9 (.string n) ∧ Boxed W (w.heap.size + 1) 9 (.string x) ∧ Boxed W (w.heap.size + 1 + 1) 3 (.int .i64 0) ∧ Boxed W (w.heap.size + 1 + 1 + 1) 4 (.bool false) ∧
    Boxed W (w.heap.size + 1 + 1 + 1 + 1) 3 (.int .i64 (named n pre : Int))) ∧ pre.find? (hit n x) = none ∧ Below w.heap.size w W
/-- .. and where a round has left by its return. -/
def FindX (w : World) (n x : ByteArray) (pre : List Item) (W : World) : Prop :=
  ∃ y, (Boxed W (w.heap.size + 1 + 1) 3 (.int .i64 (y.1.1 : Int)) ∧ Boxed W (w.heap.size + 1 + 1 + 1) 4 (.bool true)) ∧ pre.find? (hit n x) = some y ∧ Below w.heap.size w W

theorem boxed_grown {W W' : World} {row : Option Nat} {B : Nat} {t : TypeId} {v : Value} (h : Boxed W B t v) (hg : W.grownBy W' row) (hr : ∀ r, row = some r → ∃ o : Obj, W.heap[r]? = some o ∧ o.isCells = false) : Boxed W' B t v :=
  h.kept hg fun e => by
    obtain ⟨o, ho, hc⟩ := hr B e.symm
    rw [show W.heap[B]? = _ from h] at ho
    cases ho
    cases hc

theorem boxed_stays {W W' : World} {L B : Nat} {t : TypeId} {v : Value} (h : Boxed W B t v) (hk : Kept (fun k => k = L ∨ k = L + 1) W W') (hB : B < L) : Boxed W' B t v :=
  (hk.block B h.lt (by omega)).trans h

theorem findI_own {w : World} {n x : ByteArray} {L : Nat} (hL : w.heap.size + 4 < L) (pre : List Item) : Abiding L (FindI w n x pre) := by
  rintro W W' ⟨⟨h1, h2, h3, h4, h5⟩, h6, h7⟩ hk
  exact ⟨⟨boxed_stays h1 hk (by omega), boxed_stays h2 hk (by omega), boxed_stays h3 hk (by omega), boxed_stays h4 hk (by omega), boxed_stays h5 hk (by omega)⟩, h6, h7.trans (hk.below h7.size fun k hk' => by omega)⟩

theorem findX_own {w : World} {n x : ByteArray} {L : Nat} (hL : w.heap.size + 4 < L) (pre : List Item) : Abiding L (FindX w n x pre) := by
  rintro W W' ⟨y, ⟨h1, h2⟩, h6, h7⟩ hk
  exact ⟨y, ⟨boxed_stays h1 hk (by omega), boxed_stays h2 hk (by omega)⟩, h6, h7.trans (hk.below h7.size fun k hk' => by omega)⟩

/-- The loop's second variable lies in a block of its own. -/
def FindA (w : World) (b : Nat) (n x : ByteArray) (L : Nat) (y : Item) (a' : Act) (W : World) : Prop :=
  ∃ Bx, L + 1 < Bx ∧ W.heap[Bx]? = some (.cells #[.string y.1.2.1, .string y.1.2.2] 64 (0, 0)) ∧
    a' = { tmps := #[.pointer (some ⟨b, 0, none⟩), .string n, .string x, undef, .pointer (some ⟨w.heap.size, 0, none⟩), .pointer (some ⟨w.heap.size + 1, 0, none⟩), .pointer (some ⟨w.heap.size + 1 + 1, 0, none⟩), .pointer (some ⟨w.heap.size + 1 + 1 + 1, 0, none⟩), .pointer (some ⟨w.heap.size + 1 + 1 + 1 + 1, 0, none⟩),
      .int .i64 (y.1.1 : Int), .pointer (some ⟨Bx, 0, none⟩), .pointer (some ⟨b, 0, none⟩), .func (.func 31) #[.pointer (some ⟨b, 0, none⟩)] #[], .int .i64 (y.1.1 : Int), .agg #[.string y.1.2.1, .string y.1.2.2], undef, undef, undef, undef, undef, undef, undef, undef, undef, undef, undef, undef, undef], defers := [] }

theorem findA_own {w : World} {b : Nat} {n x : ByteArray} {L : Nat} (y : Item) (a' : Act) : Abiding L (FindA w b n x L y a') := by
  rintro W W' ⟨Bx, h1, h2, h3⟩ hk
  exact ⟨Bx, h1, (hk.block Bx (Array.getElem?_eq_some_iff.1 h2).1 (by omega)).trans h2, h3⟩

theorem toList_eq_true {a b : ByteArray} (h : a = b) : (a.toList == b.toList) = true := by simp [h]
theorem toList_eq_false {a b : ByteArray} (h : ¬ a = b) : (a.toList == b.toList) = false := by
  rw [beq_eq_false_iff_ne]
  intro e
  rw [ByteArray.toList_eq, ByteArray.toList_eq] at e
  exact h (ByteArray.ext (Array.toList_inj.1 e))

/-- What Find answers. -/
def findS (l : List E) (k : Nat) (n x : ByteArray) : Nat × Bool :=
  match (upto l k).find? (hit n x) with
  | some y => (y.1.1, true)
  | none => (named n (upto l k), false)

theorem upto_prefix (l : List E) (k m : Nat) (h : k ≤ m) : upto l k <+: upto l m := by
  obtain ⟨d, rfl⟩ : ∃ d, m = k + d := ⟨m - k, by omega⟩
  exact ⟨_, by rw [upto, upto, List.range_add, List.map_append]⟩

set_option maxRecDepth 100000 in
set_option maxHeartbeats 1000000 in
theorem find_in (w : World) (b mx : Nat) (es : List E) (v : Value) (hT : Tab w b mx es v) (n x : ByteArray) :
    CallsIn Fence.wide 3 Try.prog 11 #[.pointer (some ⟨b, 0, none⟩), .string n, .string x] w fun e w' => e = .returned (.tuple #[.int .i64 ((findS (fixedL ++ es) (61 + es.length) n x).1 : Int), .bool (findS (fixedL ++ es) (61 + es.length) n x).2]) ∧ Below w.heap.size w w' := by
  refine callsIn_of_wp_marks Try.func11 rfl trivial ?_ rfl
  simp only [Try.ntmps11, List.size_toArray, List.length_cons, List.length_nil, Nat.reduceAdd, Nat.reduceSub, Array.replicate_succ, Array.replicate_zero, List.push_toArray, List.append_toArray, List.nil_append, List.cons_append]
  gi_wp2
  have hI0 : FindI w n x [] (((((w.alloc (Obj.cells #[Value.string n] 9)).alloc (Obj.cells #[Value.string x] 9)).alloc (Obj.cells #[Value.int IntKind.i64 0] 3)).alloc (Obj.cells #[Value.bool false] 4)).alloc (Obj.cells #[Value.int IntKind.i64 0] 3)) := by
    refine ⟨⟨?_, ?_, ?_, ?_, ?_⟩, rfl, ?_⟩
    · exact ((((Boxed.new w 9 _).alloc _).alloc _).alloc _).alloc _
    · have := ((((Boxed.new (w.alloc (Obj.cells #[Value.string n] 9)) 9 (.string x)).alloc (Obj.cells #[Value.int IntKind.i64 0] 3)).alloc (Obj.cells #[Value.bool false] 4)).alloc (Obj.cells #[Value.int IntKind.i64 0] 3)); simpa using this
    · have := (((Boxed.new ((w.alloc (Obj.cells #[Value.string n] 9)).alloc (Obj.cells #[Value.string x] 9)) 3 (.int .i64 0)).alloc (Obj.cells #[Value.bool false] 4)).alloc (Obj.cells #[Value.int IntKind.i64 0] 3)); simpa using this
    · have := ((Boxed.new (((w.alloc (Obj.cells #[Value.string n] 9)).alloc (Obj.cells #[Value.string x] 9)).alloc (Obj.cells #[Value.int IntKind.i64 0] 3)) 4 (.bool false)).alloc (Obj.cells #[Value.int IntKind.i64 0] 3)); simpa using this
    · have := Boxed.new ((((w.alloc (Obj.cells #[Value.string n] 9)).alloc (Obj.cells #[Value.string x] 9)).alloc (Obj.cells #[Value.int IntKind.i64 0] 3)).alloc (Obj.cells #[Value.bool false] 4)) 3 (.int .i64 0); simpa [named] using this
    · exact (((((Below.refl _ w).alloc (Nat.le_refl _) _).alloc (by simp) _).alloc (by simp; omega) _).alloc (by simp; omega) _).alloc (by simp; omega) _
  obtain ⟨W0, hW0⟩ : ∃ W0, W0 = (((((w.alloc (Obj.cells #[Value.string n] 9)).alloc (Obj.cells #[Value.string x] 9)).alloc (Obj.cells #[Value.int IntKind.i64 0] 3)).alloc (Obj.cells #[Value.bool false] 4)).alloc (Obj.cells #[Value.int IntKind.i64 0] 3)) := ⟨_, rfl⟩
  have hsz : W0.heap.size = w.heap.size + 5 := by rw [hW0]; simp
  rw [← hW0] at hI0 ⊢
  clear hW0
  refine range_entries rfl (by omega) hI0.2.2 (entries_gives b mx es v w W0 hT hI0.2.2) (FindI w n x) (FindX w n x) (FindA w b n x W0.heap.size) (findI_own (by omega)) (findX_own (by omega)) (fun y a' => findA_own y a') hI0 ?assign ?body ?done ?stop
  case assign =>
    intro l pre y W K hi hlt hK
    simp only [encI]
    gi_wp2
    exact hK _ _ ((Below.refl _ W).alloc (Nat.le_refl _) _) ⟨W.heap.size, hlt, World.alloc_heap_new W _, rfl⟩
  case body =>
    rintro l pre y a' W ⟨⟨b0, b1, b2, b3, b4⟩, hno, hB⟩ ⟨Bx, hBx, hx, rfl⟩
    have c0 := b0.cell
    have c1 := b1.cell
    have c2 := b2.cell
    have c3 := b3.cell
    have c4 := b4.cell
    have f2 := b2.frozen
    have f3 := b3.frozen
    have f4 := b4.frozen
    have d0 : W.cell? ⟨Bx, 0, none⟩ = some (.string y.1.2.1) := by rw [cell_of_row _ _ _ _ _ _ hx]; rfl
    have d1 : W.cell? ⟨Bx, 1, none⟩ = some (.string y.1.2.2) := by rw [cell_of_row _ _ _ _ _ _ hx]; rfl
    have hno' : ¬ (hit n x y = true) → (pre ++ [y]).find? (hit n x) = none := fun h => by simp [List.find?_append, hno, h]
    by_cases hn : y.1.2.1 = n
    · by_cases hv : y.1.2.2 = x
      · have hhit : hit n x y = true := by simp [hit, hn, hv]
        have hfin : Hid ((pre ++ [y]).find? (hit n x) = some y) := (by simp [List.find?_append, hno, hhit] : (pre ++ [y]).find? (hit n x) = some y)
        have e1 := toList_eq_true hn
        have e2 := toList_eq_true hv
        clear hn hv hhit
        gi_wp2
        refine ⟨⟨((Below.refl _ W).setCell (p := ⟨_, 0, none⟩) (by show _ ≤ w.heap.size + 1 + 1; omega) _).setCell (p := ⟨_, 0, none⟩) (by show _ ≤ w.heap.size + 1 + 1 + 1; omega) _, (setCell_other _ _ _ _ _ (by omega)).trans (setCell_other _ _ _ _ _ (by omega)), (setCell_other _ _ _ _ _ (by omega)).trans (setCell_other _ _ _ _ _ (by omega))⟩, y, ⟨(b2.set _).other (by omega) _, (b3.other (by omega) _).set _⟩, hfin.out, (hB.setCell (p := ⟨_, 0, none⟩) (by show _ ≤ w.heap.size + 1 + 1; omega) _).setCell (p := ⟨_, 0, none⟩) (by show _ ≤ w.heap.size + 1 + 1 + 1; omega) _⟩
      · have hfin : Hid ((pre ++ [y]).find? (hit n x) = none) := hno' (by simp [hit, hv])
        have e1 := toList_eq_true hn
        have e2 := toList_eq_false hv
        by_cases hz : named n pre = 0
        · have hnm : Hid (named n (pre ++ [y]) = y.1.1) := named_snoc_first n pre y hn hz
          have hz' : ((named n pre : Int) == 0) = true := by simp [hz]
          clear hn hv hz
          gi_wp2
          refine ⟨⟨(Below.refl _ W).setCell (p := ⟨_, 0, none⟩) (by show _ ≤ w.heap.size + 1 + 1 + 1 + 1; omega) _, setCell_other _ _ _ _ _ (by omega), setCell_other _ _ _ _ _ (by omega)⟩, ⟨⟨b0.other (by omega) _, b1.other (by omega) _, b2.other (by omega) _, b3.other (by omega) _, ?_⟩, hfin.out, hB.setCell (p := ⟨_, 0, none⟩) (by show _ ≤ w.heap.size + 1 + 1 + 1 + 1; omega) _⟩⟩
          rw [hnm.out]
          exact b4.set _
        · have hnm : Hid (named n (pre ++ [y]) = named n pre) := named_snoc_later n pre y hz
          have hz' : ((named n pre : Int) == 0) = false := by simp; omega
          clear hn hv hz
          gi_wp2
          exact ⟨⟨Below.refl _ _, rfl, rfl⟩, ⟨b0, b1, b2, b3, by rw [hnm.out]; exact b4⟩, hfin.out, hB⟩
    · have hfin : Hid ((pre ++ [y]).find? (hit n x) = none) := hno' (by simp [hit, hn])
      have hnm : Hid (named n (pre ++ [y]) = named n pre) := named_snoc_same n pre y hn
      have e1 := toList_eq_false hn
      clear hn
      gi_wp2
      exact ⟨⟨Below.refl _ _, rfl, rfl⟩, ⟨b0, b1, b2, b3, by rw [hnm.out]; exact b4⟩, hfin.out, hB⟩
  case done =>
    rintro W ⟨⟨b0, b1, b2, b3, b4⟩, hno, hB⟩ hK
    have hD : w.heap.size ≤ W0.heap.size := by omega
    generalize W0.heap.size = D at hK hD ⊢
    have c2 := b2.cell
    have c3 := b3.cell
    have c4 := b4.cell
    have f2 := b2.frozen
    have f3 := b3.frozen
    have hS : findS (fixedL ++ es) (61 + es.length) n x = (named n (upto (fixedL ++ es) (61 + es.length)), false) := by unfold findS; rw [hno]
    clear hno
    generalize named n (upto (fixedL ++ es) (61 + es.length)) = m at c4 b4 hS
    replace hS : Hid (findS (fixedL ++ es) (61 + es.length) n x = (m, false)) := hS
    gi_wp2
    have hK' := ((KeepsOthers.setCell W ⟨w.heap.size + 1 + 1, 0, none⟩ (.int .i64 (m : Int))).trans (KeepsOthers.setCell _ ⟨w.heap.size + 1 + 1 + 1, 0, none⟩ (.bool false))).same D _ hK rfl
    have hB' := (hB.setCell (p := ⟨w.heap.size + 1 + 1, 0, none⟩) (by show _ ≤ w.heap.size + 1 + 1; omega) (.int .i64 (m : Int))).setCell (p := ⟨w.heap.size + 1 + 1 + 1, 0, none⟩) (by show _ ≤ w.heap.size + 1 + 1 + 1; omega) (.bool false)
    have d2 := ((b2.set (.int .i64 (m : Int))).other (B' := w.heap.size + 1 + 1 + 1) (by omega) (.bool false))
    have d3 := ((b3.other (B' := w.heap.size + 1 + 1) (by omega) (.int .i64 (m : Int))).set (.bool false))
    refine ⟨by simp, .inl ⟨_, _, rfl, run_takeDeferred hK', ?_⟩⟩
    have g2 := (boxed_grown d2 (grownBy_putObj' _ D (.deferred none)) (fun r e => by cases e; exact ⟨_, hK', rfl⟩)).cell
    have g3 := (boxed_grown d3 (grownBy_putObj' _ D (.deferred none)) (fun r e => by cases e; exact ⟨_, hK', rfl⟩)).cell
    refine ⟨.tuple #[.int .i64 (m : Int), .bool false], ?_, by rw [hS.out], hB'.trans (belowK_b (w := w) (Nat.le_refl _) _ D _ _ (by omega) hK' rfl rfl)⟩
    simp [results, Try.f11, go_sem, g2, g3]
  case stop =>
    rintro k W hk ⟨y, ⟨b2, b3⟩, hfi, hB⟩ hK
    have hD : w.heap.size ≤ W0.heap.size := by omega
    generalize W0.heap.size = D at hK hD ⊢
    rw [upto_take _ _ _ hk] at hfi
    have c2 := b2.cell
    have c3 := b3.cell
    have hS : findS (fixedL ++ es) (61 + es.length) n x = (y.1.1, true) := by
      obtain ⟨t, ht⟩ := upto_prefix (fixedL ++ es) k (61 + es.length) hk
      unfold findS
      rw [← ht, List.find?_append, hfi]
      rfl
    replace hS : Hid (findS (fixedL ++ es) (61 + es.length) n x = (y.1.1, true)) := hS
    clear hfi
    gi_wp2
    refine ⟨by simp, .inl ⟨_, _, rfl, run_takeDeferred hK, ?_⟩⟩
    have g2 := (boxed_grown b2 (grownBy_putObj' _ D (.deferred none)) (fun r e => by cases e; exact ⟨_, hK, rfl⟩)).cell
    have g3 := (boxed_grown b3 (grownBy_putObj' _ D (.deferred none)) (fun r e => by cases e; exact ⟨_, hK, rfl⟩)).cell
    refine ⟨.tuple #[.int .i64 (y.1.1 : Int), .bool true], ?_, by rw [hS.out], hB.trans (belowK_b (w := w) (Nat.le_refl _) _ D _ _ (by omega) hK rfl rfl)⟩
    simp [results, Try.f11, go_sem, g2, g3]

theorem find_any (w : World) (b mx : Nat) (es : List E) (v : Value) (hT : Tab w b mx es v) (n x : ByteArray) :
    Calls Try.prog 11 #[.pointer (some ⟨b, 0, none⟩), .string n, .string x] w fun e w' => e = .returned (.tuple #[.int .i64 ((findS (fixedL ++ es) (61 + es.length) n x).1 : Int), .bool (findS (fixedL ++ es) (61 + es.length) n x).2]) ∧ Below w.heap.size w w' :=
  callsIn_wide.1 (find_in w b mx es v hT n x)

end Go.Proofs.Ytlfbnhdcgldopaa
