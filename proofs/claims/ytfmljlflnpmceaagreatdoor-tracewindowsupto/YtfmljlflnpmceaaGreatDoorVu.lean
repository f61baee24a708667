import Derived.Test.YtfmljlflnpmceaaGreatDoorFC3
import Derived.Test.YtfmljlflnpmceaaGreatDoorVr
/- What writes a priority, and headers. -/
namespace Go.Proofs.YtfmljlflnpmceaaGreatDoor.Fm
open Go.RowKit
set_option linter.unusedVariables false
set_option linter.unusedSimpArgs false

/-- the first four bytes of a priority, as a number -/
def depS (f : Fr) : Int := f.dep % 2147483648 + (if f.excl then 2147483648 else 0)
/-- the bytes of a priority -/
def prioB (f : Fr) : List UInt8 := be 4 (depS f) ++ [b8 (f.wt - 1)]

/-- one byte more, out of a row that was made ahead -/
theorem put_made {w : World} {o : Value} {l : List UInt8} (hR : Row w o l) (x : UInt8) (B : Nat) (t : TypeId) (hB : w.heap[B]? = some (.cells #[.int .u8 (x.toNat : Int)] t (0, 0))) (hl : l.length + 1 ≤ 140737488355328) :
    ∃ o' w', (Builtin.append_ #[49, 49] 49 #[o, .slice (some ⟨B, 0, none⟩) 1 1]).run Tryz.prog w = .ok o' w' ∧ Row w' o' (l ++ [x]) ∧ Gr w w' o o' := by
  have h := row_append w o l hR ⟨B, 0, none⟩ 1 [x] (by
    intro j u hj
    rw [Addr.add_lit, cell_of_row _ _ _ _ _ _ hB, Nat.zero_add]
    match j, hj with
    | 0, hj => simpa [bs] using hj) (by simp; omega)
  exact h

set_option maxRecDepth 100000 in
set_option maxHeartbeats 2000000 in
theorem puts_prioT (f : Fr) (pb : Option Addr) (pl pc : Nat) (he : f.excl = true) : Puts 94 f (.slice pb pl pc) (prioB f) := by
  intro w o l hR hl
  have hl4 : l.length + 5 ≤ 140737488355328 := by simp [prioB, be_length] at hl; omega
  have hlo : ∀ k, o.ownBlock = some k → k < w.heap.size := fun k hk => hR.lt k hk
  have hand := and31 f.dep
  obtain ⟨d, hd⟩ : ∃ d : Nat, f.dep % 2147483648 = (d : Int) := ⟨(f.dep % 2147483648).toNat, by omega⟩
  have hor := or_high d (by omega)
  obtain ⟨x, hx⟩ : ∃ x, x = b8 (f.wt - 1) := ⟨_, rfl⟩
  have hP : prioB f = be 4 ((d : Int) + 2147483648) ++ [x] := by
    unfold prioB depS
    rw [hd, he, hx]
    simp
  have hwb : IntKind.u8.wrap (IntKind.i64.wrap (f.wt - 1)) = (x.toNat : Int) := by
    rw [hx]
    unfold b8
    rw [u8_int, IntKind.wrap_i64, IntKind.wrap_u8]
    omega
  rw [hd] at hand
  rw [hP]
  clear hd hP hx
  have hcom : ∀ V : World, Below w.heap.size w V → FB V w.heap.size f (.slice pb pl pc) → Calls Tryz.prog 68 #[o, .int .i64 ((d : Int) + 2147483648), .int .i64 4] V fun e w' => ∃ o', e = .returned o' ∧ FB w' w.heap.size f (.slice pb pl pc) ∧ Row w' o' (l ++ be 4 ((d : Int) + 2147483648)) ∧ Gr w w' o o' ∧ Gr V w' o o' := by
    intro V hV hF
    refine (putNumber4 V o l _ (hR.below hV) (by omega)).mono ?_
    rintro e w' ⟨o', rfl, h1, h2⟩
    exact ⟨o', rfl, (h2.block _ hF.lt (fun e => by have := hlo _ e; omega)).trans hF, h1, (Gr.below hV o).trans h2, h2⟩
  have CA : Hid (Calls Tryz.prog 68 #[o, .int .i64 ((d : Int) + 2147483648), .int .i64 4] (w.alloc (.cells (fv f (.slice pb pl pc)) 31)).drew fun e w' => ∃ o', e = .returned o' ∧ FB w' w.heap.size f (.slice pb pl pc) ∧ Hid (∃ o2 w2, (Builtin.append_ #[49, 49] 49 #[o', .slice (some ⟨w'.heap.size, 0, none⟩) 1 1]).run Tryz.prog (w'.alloc (.cells #[.int .u8 (x.toNat : Int)] 5)) = .ok o2 w2 ∧ Row w2 o2 (l ++ (be 4 ((d : Int) + 2147483648) ++ [x])) ∧ Gr w w2 o o2)) := by
    refine (hcom _ ((Below.refl _ w).alloc (Nat.le_refl _) _).drew (heap_alloc_new w _)).mono ?_
    rintro e w' ⟨o', rfl, h1, h2, h3, _⟩
    exact ⟨o', rfl, h1, put_one h2 h3 x (by rw [be_length]; omega)⟩
  have CB : Hid (Calls Tryz.prog 68 #[o, .int .i64 ((d : Int) + 2147483648), .int .i64 4] ((w.alloc (.cells (fv f (.slice pb pl pc)) 31)).drew.alloc (.cells #[.int .u8 (x.toNat : Int)] 5)) fun e w' => ∃ o', e = .returned o' ∧ FB w' w.heap.size f (.slice pb pl pc) ∧ Hid (∃ o2 w2, (Builtin.append_ #[49, 49] 49 #[o', .slice (some ⟨w.heap.size + 1, 0, none⟩) 1 1]).run Tryz.prog w' = .ok o2 w2 ∧ Row w2 o2 (l ++ (be 4 ((d : Int) + 2147483648) ++ [x])) ∧ Gr w w2 o o2)) := by
    have hs : (w.alloc (.cells (fv f (.slice pb pl pc)) 31)).drew.heap.size = w.heap.size + 1 := by simp only [size_dr, size_al]
    have hb0 := ((Below.refl _ w).alloc (Nat.le_refl _) (.cells (fv f (.slice pb pl pc)) 31)).drew
    have hF0 : FB (w.alloc (.cells (fv f (.slice pb pl pc)) 31)).drew w.heap.size f (.slice pb pl pc) := heap_alloc_new w _
    have hx1 := heap_alloc_new (w.alloc (.cells (fv f (.slice pb pl pc)) 31)).drew (.cells #[.int .u8 (x.toNat : Int)] 5)
    rw [hs] at hx1
    refine (hcom _ (hb0.alloc (by omega) _) (hF0.below ((Below.refl _ _).alloc (Nat.le_refl _) _))).mono ?_
    rintro e w' ⟨o', rfl, h1, h2, h3, h4⟩
    have hx2 := (h4.block (w.heap.size + 1) (by simp only [size_al, size_dr]; omega) (fun e => by have := hlo _ e; omega)).trans hx1
    obtain ⟨o2, w2, k1, k2, k3⟩ := put_made h2 x _ _ hx2 (by rw [List.length_append, be_length]; omega)
    exact ⟨o', rfl, h1, o2, w2, k1, by rw [← List.append_assoc]; exact k2, h3.trans k3⟩
  clear hcom hR hl hlo hl4
  unfold fv at *
  simp only [he] at CA CB ⊢
  go_enter Tryz.func94, Tryz.ntmps94
  go_wp2_with fail
  go_region_law (first
    | (refine step_value 68 _ _ rfl ?_; go_simp; go_wp2_with (go_at_call 68; first | (refine CA.out.mono ?_; rintro e w1 ⟨o1, rfl, f1, ⟨o2, w2, hrun, r2, g2⟩⟩; obtain ⟨c0, c1, c2, c3, c4, c5, c6, c7, c8, c9, c10⟩ := f1.cells; replace hrun : Hid _ := hrun) | (refine CB.out.mono ?_; rintro e w1 ⟨o1, rfl, f1, ⟨o2, w2, hrun, r2, g2⟩⟩; replace hrun : Hid _ := hrun)))
    | (refine step_append_run rfl (.tmp 15) (.tmp 20) 49 49 rfl hrun.out (by simp [Act.eval]) (by simp [Act.eval]) ?_))
  all_goals
    go_wp2_with fail
    go_ret
    exact ⟨_, rfl, r2, g2⟩

set_option maxRecDepth 100000 in
set_option maxHeartbeats 2000000 in
theorem puts_prioF (f : Fr) (pb : Option Addr) (pl pc : Nat) (he : f.excl = false) : Puts 94 f (.slice pb pl pc) (prioB f) := by
  intro w o l hR hl
  have hl4 : l.length + 5 ≤ 140737488355328 := by simp [prioB, be_length] at hl; omega
  have hlo : ∀ k, o.ownBlock = some k → k < w.heap.size := fun k hk => hR.lt k hk
  have hand := and31 f.dep
  obtain ⟨d, hd⟩ : ∃ d : Nat, f.dep % 2147483648 = (d : Int) := ⟨(f.dep % 2147483648).toNat, by omega⟩
  have hor := or_high d (by omega)
  obtain ⟨x, hx⟩ : ∃ x, x = b8 (f.wt - 1) := ⟨_, rfl⟩
  have hP : prioB f = be 4 (d : Int) ++ [x] := by
    unfold prioB depS
    rw [hd, he, hx]
    simp
  have hwb : IntKind.u8.wrap (IntKind.i64.wrap (f.wt - 1)) = (x.toNat : Int) := by
    rw [hx]
    unfold b8
    rw [u8_int, IntKind.wrap_i64, IntKind.wrap_u8]
    omega
  rw [hd] at hand
  rw [hP]
  clear hd hP hx
  have hcom : ∀ V : World, Below w.heap.size w V → FB V w.heap.size f (.slice pb pl pc) → Calls Tryz.prog 68 #[o, .int .i64 (d : Int), .int .i64 4] V fun e w' => ∃ o', e = .returned o' ∧ FB w' w.heap.size f (.slice pb pl pc) ∧ Row w' o' (l ++ be 4 (d : Int)) ∧ Gr w w' o o' ∧ Gr V w' o o' := by
    intro V hV hF
    refine (putNumber4 V o l _ (hR.below hV) (by omega)).mono ?_
    rintro e w' ⟨o', rfl, h1, h2⟩
    exact ⟨o', rfl, (h2.block _ hF.lt (fun e => by have := hlo _ e; omega)).trans hF, h1, (Gr.below hV o).trans h2, h2⟩
  have CA : Hid (Calls Tryz.prog 68 #[o, .int .i64 (d : Int), .int .i64 4] (w.alloc (.cells (fv f (.slice pb pl pc)) 31)).drew fun e w' => ∃ o', e = .returned o' ∧ FB w' w.heap.size f (.slice pb pl pc) ∧ Hid (∃ o2 w2, (Builtin.append_ #[49, 49] 49 #[o', .slice (some ⟨w'.heap.size, 0, none⟩) 1 1]).run Tryz.prog (w'.alloc (.cells #[.int .u8 (x.toNat : Int)] 5)) = .ok o2 w2 ∧ Row w2 o2 (l ++ (be 4 (d : Int) ++ [x])) ∧ Gr w w2 o o2)) := by
    refine (hcom _ ((Below.refl _ w).alloc (Nat.le_refl _) _).drew (heap_alloc_new w _)).mono ?_
    rintro e w' ⟨o', rfl, h1, h2, h3, _⟩
    exact ⟨o', rfl, h1, put_one h2 h3 x (by rw [be_length]; omega)⟩
  have CB : Hid (Calls Tryz.prog 68 #[o, .int .i64 (d : Int), .int .i64 4] ((w.alloc (.cells (fv f (.slice pb pl pc)) 31)).drew.alloc (.cells #[.int .u8 (x.toNat : Int)] 5)) fun e w' => ∃ o', e = .returned o' ∧ FB w' w.heap.size f (.slice pb pl pc) ∧ Hid (∃ o2 w2, (Builtin.append_ #[49, 49] 49 #[o', .slice (some ⟨w.heap.size + 1, 0, none⟩) 1 1]).run Tryz.prog w' = .ok o2 w2 ∧ Row w2 o2 (l ++ (be 4 (d : Int) ++ [x])) ∧ Gr w w2 o o2)) := by
    have hs : (w.alloc (.cells (fv f (.slice pb pl pc)) 31)).drew.heap.size = w.heap.size + 1 := by simp only [size_dr, size_al]
    have hb0 := ((Below.refl _ w).alloc (Nat.le_refl _) (.cells (fv f (.slice pb pl pc)) 31)).drew
    have hF0 : FB (w.alloc (.cells (fv f (.slice pb pl pc)) 31)).drew w.heap.size f (.slice pb pl pc) := heap_alloc_new w _
    have hx1 := heap_alloc_new (w.alloc (.cells (fv f (.slice pb pl pc)) 31)).drew (.cells #[.int .u8 (x.toNat : Int)] 5)
    rw [hs] at hx1
    refine (hcom _ (hb0.alloc (by omega) _) (hF0.below ((Below.refl _ _).alloc (Nat.le_refl _) _))).mono ?_
    rintro e w' ⟨o', rfl, h1, h2, h3, h4⟩
    have hx2 := (h4.block (w.heap.size + 1) (by simp only [size_al, size_dr]; omega) (fun e => by have := hlo _ e; omega)).trans hx1
    obtain ⟨o2, w2, k1, k2, k3⟩ := put_made h2 x _ _ hx2 (by rw [List.length_append, be_length]; omega)
    exact ⟨o', rfl, h1, o2, w2, k1, by rw [← List.append_assoc]; exact k2, h3.trans k3⟩
  clear hcom hR hl hlo hl4
  unfold fv at *
  simp only [he] at CA CB ⊢
  go_enter Tryz.func94, Tryz.ntmps94
  go_wp2_with fail
  go_region_law (first
    | (refine step_value 68 _ _ rfl ?_; go_simp; go_wp2_with (go_at_call 68; first | (refine CA.out.mono ?_; rintro e w1 ⟨o1, rfl, f1, ⟨o2, w2, hrun, r2, g2⟩⟩; obtain ⟨c0, c1, c2, c3, c4, c5, c6, c7, c8, c9, c10⟩ := f1.cells; replace hrun : Hid _ := hrun) | (refine CB.out.mono ?_; rintro e w1 ⟨o1, rfl, f1, ⟨o2, w2, hrun, r2, g2⟩⟩; replace hrun : Hid _ := hrun)))
    | (refine step_append_run rfl (.tmp 15) (.tmp 20) 49 49 rfl hrun.out (by simp [Act.eval]) (by simp [Act.eval]) ?_))
  all_goals
    go_wp2_with fail
    go_ret
    exact ⟨_, rfl, r2, g2⟩

theorem puts_prio (f : Fr) (pb : Option Addr) (pl pc : Nat) : Puts 94 f (.slice pb pl pc) (prioB f) := by
  cases he : f.excl with
  | true => exact puts_prioT f pb pl pc he
  | false => exact puts_prioF f pb pl pc he

set_option maxRecDepth 100000 in
set_option maxHeartbeats 2000000 in
theorem puts_headers (f : Fr) (pb : Option Addr) (pl pc : Nat) : Puts 91 f (.slice pb pl pc) (prioB f ++ f.data.data.toList) := by
  intro w o l hR hl
  have hlo : ∀ k, o.ownBlock = some k → k ≠ w.heap.size := fun k hk => by have := hR.lt k hk; omega
  have hF0 : FB (w.alloc (.cells (fv f (.slice pb pl pc)) 31)).drew w.heap.size f (.slice pb pl pc) := heap_alloc_new w _
  have hG0 : Gr w (w.alloc (.cells (fv f (.slice pb pl pc)) 31)).drew o o := (Gr.alloc w _ o).trans (Gr.drew _ o)
  have hR0 : Row (w.alloc (.cells (fv f (.slice pb pl pc)) 31)).drew o l := (hR.alloc _).below (Below.refl _ _).drew
  have C0 : Hid (Puts 94 f (.slice pb pl pc) (prioB f)) := puts_prio f pb pl pc
  have C1 : Hid (Puts 103 f (.slice pb pl pc) (f.data.data.toList)) := puts_data f pb pl pc
  have hlen : Hid (l.length + (prioB f ++ f.data.data.toList).length + 100 ≤ 140737488355328) := hl
  clear hR hl
  unfold fv at *
  go_enter Tryz.func91, Tryz.ntmps91
  go_wp2_with fail
  go_region_law (go_simp; go_wp2_with (first
    | (go_at_call 94; refine (C0.out.boxed w o _ w.heap.size _ _ hF0 hG0 hR0 hlo (by have := hlen.out; simp at this ⊢; omega)).mono ?_; rintro e w1 ⟨o1, rfl, r1, g1, f1, n1⟩; obtain ⟨c0, c1, c2, c3, c4, c5, c6, c7, c8, c9, c10⟩ := f1.cells)
    | (go_at_call 103; refine (C1.out.boxed w o _ w.heap.size _ _ f1 g1 r1 n1 (by have := hlen.out; simp at this ⊢; omega)).mono ?_; rintro e w2 ⟨o2, rfl, r2, g2, f2, n2⟩; obtain ⟨c0, c1, c2, c3, c4, c5, c6, c7, c8, c9, c10⟩ := f2.cells)
    ))
  all_goals
    go_wp2_with fail
    go_ret
    exact ⟨_, rfl, by first | exact r2 | (rw [← List.append_assoc]; exact r2) | (rw [← List.append_assoc, ← List.append_assoc]; exact r2), g2⟩

end Go.Proofs.YtfmljlflnpmceaaGreatDoor.Fm
/- What writes params. -/
namespace Go.Proofs.YtfmljlflnpmceaaGreatDoor.Fm
open Go.RowKit
set_option linter.unusedVariables false
set_option linter.unusedSimpArgs false

/-- the bytes of params -/
def parB (ps : List (Int × Int)) : List UInt8 := ps.flatMap fun q => be 2 q.1 ++ be 4 q.2
theorem parB_length (ps : List (Int × Int)) : (parB ps).length = ps.length * 6 := by
  induction ps with
  | nil => rfl
  | cons q r ih => simp only [parB, List.flatMap_cons, List.length_append, be_length, List.length_cons] at *; omega
theorem parB_take (ps : List (Int × Int)) (k : Nat) (h : k < ps.length) : parB (ps.take (k + 1)) = parB (ps.take k) ++ be 2 ps[k].1 ++ be 4 ps[k].2 := by
  rw [List.take_succ_eq_append_getElem h, parB, List.flatMap_append, List.append_assoc]
  congr 1

theorem cell_second {w : World} {B : Nat} {x y : Value} {t : TypeId} (h : w.heap[B]? = some (.cells #[x, y] t (0, 0))) : w.cell? ⟨B, 1, none⟩ = some y := by
  rw [cell_of_row _ _ _ _ _ _ h]
  rfl
theorem cell_same {w w' : World} {g : Nat} (h : w'.heap[g]? = w.heap[g]?) (i : Nat) : w'.cell? ⟨g, i, none⟩ = w.cell? ⟨g, i, none⟩ := by
  simp only [World.cell?, h]

/-- a number put behind a row, one block kept -/
theorem num_in (n : Nat) (hn : n = 2 ∨ n = 3 ∨ n = 4) (w V : World) (o0 o : Value) (B : Nat) (c : Obj) (l : List UInt8) (v : Int) (hB : V.heap[B]? = some c) (hG : Gr w V o0 o) (hR : Row V o l) (hne : ∀ k, o.ownBlock = some k → k ≠ B) (hl : l.length + 4 ≤ 140737488355328) :
    Calls Tryz.prog 68 #[o, .int .i64 v, .int .i64 (n : Int)] V fun e w' => ∃ o', e = .returned o' ∧ Row w' o' (l ++ be n v) ∧ Gr w w' o0 o' ∧ w'.heap[B]? = some c ∧ ∀ k, o'.ownBlock = some k → k ≠ B := by
  refine (putNumber_any V o l v n hn hR hl).mono ?_
  rintro e w' ⟨o', rfl, h1, h2⟩
  have hlt : B < V.heap.size := (Array.getElem?_eq_some_iff.1 hB).1
  refine ⟨o', rfl, h1, hG.trans h2, (h2.block B hlt (fun e => hne B e rfl)).trans hB, fun k hk => (h2.own k hk).elim (hne k) fun hh => ?_⟩
  omega

set_option maxRecDepth 100000 in
set_option maxHeartbeats 2000000 in
theorem puts_params (f : Fr) (ps : List (Int × Int)) (p : Value) (w : World) (o : Value) (l : List UInt8) (hR : Row w o l) (hp : PRow w p ps) (hne : ∀ k, p.ownBlock = some k → o.ownBlock ≠ some k) (hl : l.length + (parB ps).length + 100 ≤ 140737488355328) :
    Calls Tryz.prog 98 #[o, .agg (fv f p)] w fun e w' => ∃ o', e = .returned o' ∧ Row w' o' (l ++ parB ps) ∧ Gr w w' o o' := by
  obtain ⟨pb, pc, rfl⟩ := hp.slice
  have HP : Hid (PRow w (.slice pb ps.length pc) ps) := hp
  have HR : Hid (Row w o l) := hR
  have HL : Hid (l.length + (parB ps).length + 100 ≤ 140737488355328) := hl
  have HE : Hid (∀ k, (Value.slice pb ps.length pc).ownBlock = some k → o.ownBlock ≠ some k) := hne
  clear hp hR hl hne
  obtain ⟨n, hn⟩ : ∃ n, ps.length = n := ⟨_, rfl⟩
  have HN : Hid (ps.length = n) := hn
  rw [hn] at HP HE ⊢
  clear hn
  unfold fv
  go_enter Tryz.func98, Tryz.ntmps98
  go_wp2
  go_loopw [0, 10] (fun x i wr => ∃ k : Nat, k ≤ n ∧ i = .int .i64 (k : Int) ∧ Hid (Row wr x (l ++ parB (ps.take k)) ∧ Gr w wr o x)) (fun _ i _ => n - (intOf i).toNat)
  case atStart => exact ⟨0, by omega, rfl, by simpa [parB] using HR.out.alloc _, Gr.alloc _ _ _⟩
  case round =>
    obtain ⟨k, hk, rfl, hrow⟩ := hrel
    by_cases hlt : k < n
    · have hl := HN.out
      have hparB := parB_length ps
      have hkl : k < ps.length := by omega
      have hL := HL.out
      have hlk : (parB (ps.take k)).length + 6 ≤ (parB ps).length := by
        rw [parB_length, parB_length, List.length_take]
        omega
      obtain ⟨hRow, hG⟩ := hrow.out
      obtain ⟨x, y, g, hpb, h1, h2, d1, d2, hnext⟩ : ∃ (x y : Int) (g : Nat), pb = some ⟨g, 0, none⟩ ∧ n ≤ pc ∧ pc ≤ 9223372036854775807 ∧
          wr.cell? ⟨g, k * 2, none⟩ = some (.int .i64 x) ∧ wr.cell? ⟨g, k * 2 + 1, none⟩ = some (.int .i64 y) ∧ Hid (parB (ps.take (k + 1)) = parB (ps.take k) ++ be 2 x ++ be 4 y) := by
        have hP := HP.out
        rw [← hl] at hP
        obtain ⟨g, cap, e, h1, h2, d1, d2⟩ := hP.at k (by omega)
        cases e
        have hb : wr.heap[g]? = w.heap[g]? := hG.block g (World.block_lt_of_cell? _ _ d1) (HE.out g rfl)
        exact ⟨_, _, g, rfl, by omega, h2, (cell_same hb _).trans d1, (cell_same hb _).trans d2, parB_take ps k hkl⟩
      subst hpb
      have hB : (wr.alloc (.cells #[.int .i64 x, .int .i64 y] 42)).drew.heap[wr.heap.size]? = some (.cells #[.int .i64 x, .int .i64 y] 42 (0, 0)) := heap_alloc_new wr _
      have hb1 : Below wr.heap.size wr (wr.alloc (.cells #[.int .i64 x, .int .i64 y] 42)).drew := ((Below.refl _ wr).alloc (Nat.le_refl _) _).drew
      have hG1 := hG.trans (Gr.below hb1 _)
      have hR1 := hRow.below hb1
      have hne1 : ∀ j, u0.ownBlock = some j → j ≠ wr.heap.size := fun j hj => by have := hRow.lt j hj; omega
      have C0 : Hid (Calls Tryz.prog 68 #[u0, .int .i64 x, .int .i64 2] (wr.alloc (.cells #[.int .i64 x, .int .i64 y] 42)).drew fun e w' => ∃ o', e = .returned o' ∧ Row w' o' (l ++ parB (ps.take k) ++ be 2 x) ∧ Gr w w' o o' ∧ w'.heap[wr.heap.size]? = some (.cells #[.int .i64 x, .int .i64 y] 42 (0, 0)) ∧ ∀ j, o'.ownBlock = some j → j ≠ wr.heap.size) :=
        num_in 2 (.inl rfl) w _ o u0 wr.heap.size _ _ x hB hG1 hR1 hne1 (by rw [List.length_append]; omega)
      have C1 : Hid (∀ (V : World) (o1 : Value), Row V o1 (l ++ parB (ps.take k) ++ be 2 x) → Gr w V o o1 → V.heap[wr.heap.size]? = some (.cells #[.int .i64 x, .int .i64 y] 42 (0, 0)) → (∀ j, o1.ownBlock = some j → j ≠ wr.heap.size) → Calls Tryz.prog 68 #[o1, .int .i64 y, .int .i64 4] V fun e w' => ∃ o', e = .returned o' ∧ Hid (Row w' o' (l ++ parB (ps.take (k + 1))) ∧ Gr w w' o o')) := by
        intro V o1 a1 a2 a3 a4
        refine (num_in 4 (.inr (.inr rfl)) w V o o1 wr.heap.size _ _ y a3 a2 a1 a4 (by rw [List.length_append, List.length_append, be_length]; omega)).mono ?_
        rintro e w' ⟨o', rfl, h1, h2, _, _⟩
        refine ⟨o', rfl, ?_, h2⟩
        rw [hnext.out, ← List.append_assoc, ← List.append_assoc]
        exact h1
      clear hl hparB hkl hL hlk hRow hG hnext hB hb1 hG1 hR1 hne1
      go_wp2_with fail
      go_region_law (first
        | (refine step_value 68 #[.tmp 14, .tmp 16, .const (.int .i64 2)] _ rfl ?_; go_simp; go_wp2_with (go_at_call 68; refine C0.out.mono ?_; rintro e w1 ⟨o1, rfl, r1, g1, b1, n1⟩; have q1 := cell_second b1))
        | (refine step_value 68 #[.tmp 17, .tmp 19, .const (.int .i64 4)] _ rfl ?_; go_simp; go_wp2_with (go_at_call 68; refine (C1.out _ _ r1 g1 b1 n1).mono ?_; rintro e w2 ⟨o2, rfl, r2⟩)))
      all_goals
        go_wp2_with fail
        go_roundw
        case rel => exact ⟨k + 1, by omega, by simp, r2⟩
        case measure => simp [intOf]; omega
    · obtain rfl : k = n := by omega
      have hl := HN.out
      have hrow' := hrow.out
      rw [List.take_of_length_le (by omega)] at hrow'
      go_wp2
      go_ret
      exact ⟨_, rfl, hrow'⟩

end Go.Proofs.YtfmljlflnpmceaaGreatDoor.Fm
