/- What writes params. -/
import Derived.Test.YtmhbaaemihljjaaDoorC4
namespace Go.Proofs.YtmhbaaemihljjaaDoor
open Go.RowKit
set_option linter.unusedVariables false
set_option linter.unusedSimpArgs false

/-- the bytes of params -/
def parB (ps : List (Int × Int)) : List UInt8 := ps.flatMap fun q => be 2 q.1 ++ be 4 q.2
theorem parB_length (ps : List (Int × Int)) : (parB ps).length = ps.length * 6 := by
  induction ps with
  | nil => rfl
  | cons q r ih => simp only [parB, List.flatMap_cons, List.length_append, be_length, List.length_cons] at *; omega
theorem parB_take (ps : List (Int × Int)) (k : Nat) (h : k < ps.length) : parB (ps.take (k + 1)) = parB (ps.take k) ++ be 2 ps[k].1 ++ be 4 ps[k].2 := by
  rw [List.take_succ_eq_append_getElem h, parB, List.flatMap_append, List.append_assoc]
  congr 1

theorem cell_second {w : World} {B : Nat} {x y : Value} {t : TypeId} (h : w.heap[B]? = some (.cells #[x, y] t (0, 0))) : w.cell? ⟨B, 1, none⟩ = some y := by
  rw [cell_of_row _ _ _ _ _ _ h]
  rfl
theorem cell_same {w w' : World} {g : Nat} (h : w'.heap[g]? = w.heap[g]?) (i : Nat) : w'.cell? ⟨g, i, none⟩ = w.cell? ⟨g, i, none⟩ := by
  simp only [World.cell?, h]

/-- a number put behind a row, one block kept -/
theorem num_in (n : Nat) (hn : n = 2 ∨ n = 3 ∨ n = 4) (w V : World) (o0 o : Value) (B : Nat) (c : Obj) (l : List UInt8) (v : Int) (hB : V.heap[B]? = some c) (hG : Gr w V o0 o) (hR : Row V o l) (hne : ∀ k, o.ownBlock = some k → k ≠ B) (hl : l.length + 4 ≤ 140737488355328) :
    Calls Tryd.prog 39 #[o, .int .i64 v, .int .i64 (n : Int)] V fun e w' => ∃ o', e = .returned o' ∧ Row w' o' (l ++ be n v) ∧ Gr w w' o0 o' ∧ w'.heap[B]? = some c ∧ ∀ k, o'.ownBlock = some k → k ≠ B := by
  refine (putNumber_any V o l v n hn hR hl).mono ?_
  rintro e w' ⟨o', rfl, h1, h2⟩
  have hlt : B < V.heap.size := (Array.getElem?_eq_some_iff.1 hB).1
  refine ⟨o', rfl, h1, hG.trans h2, (h2.block B hlt (fun e => hne B e rfl)).trans hB, fun k hk => (h2.own k hk).elim (hne k) fun hh => ?_⟩
  omega

set_option maxRecDepth 100000 in
set_option maxHeartbeats 2000000 in
theorem puts_params (f : Fr) (ps : List (Int × Int)) (p : Value) (w : World) (o : Value) (l : List UInt8) (hR : Row w o l) (hp : PRow w p ps) (hne : ∀ k, p.ownBlock = some k → o.ownBlock ≠ some k) (hl : l.length + (parB ps).length + 100 ≤ 140737488355328) :
    Calls Tryd.prog 57 #[o, .agg (fv f p)] w fun e w' => ∃ o', e = .returned o' ∧ Row w' o' (l ++ parB ps) ∧ Gr w w' o o' := by
  obtain ⟨pb, pc, rfl⟩ := hp.slice
  have HP : Hid (PRow w (.slice pb ps.length pc) ps) := hp
  have HR : Hid (Row w o l) := hR
  have HL : Hid (l.length + (parB ps).length + 100 ≤ 140737488355328) := hl
  have HE : Hid (∀ k, (Value.slice pb ps.length pc).ownBlock = some k → o.ownBlock ≠ some k) := hne
  clear hp hR hl hne
  obtain ⟨n, hn⟩ : ∃ n, ps.length = n := ⟨_, rfl⟩
  have HN : Hid (ps.length = n) := hn
  rw [hn] at HP HE ⊢
  clear hn
  unfold fv
  go_enter Tryd.func57, Tryd.ntmps57
  go_wp2
  go_loopw [0, 10] (fun x i wr => ∃ k : Nat, k ≤ n ∧ i = .int .i64 (k : Int) ∧ Hid (Row wr x (l ++ parB (ps.take k)) ∧ Gr w wr o x)) (fun _ i _ => n - (intOf i).toNat)
  case atStart => exact ⟨0, by omega, rfl, by simpa [parB] using HR.out.alloc _, Gr.alloc _ _ _⟩
  case round =>
    obtain ⟨k, hk, rfl, hrow⟩ := hrel
    by_cases hlt : k < n
    · have hl := HN.out
      have hparB := parB_length ps
      have hkl : k < ps.length := by omega
      have hL := HL.out
      have hlk : (parB (ps.take k)).length + 6 ≤ (parB ps).length := by
        rw [parB_length, parB_length, List.length_take]
        omega
      obtain ⟨hRow, hG⟩ := hrow.out
      obtain ⟨x, y, g, hpb, h1, h2, d1, d2, hnext⟩ : ∃ (x y : Int) (g : Nat), pb = some ⟨g, 0, none⟩ ∧ n ≤ pc ∧ pc ≤ 9223372036854775807 ∧
          wr.cell? ⟨g, k * 2, none⟩ = some (.int .i64 x) ∧ wr.cell? ⟨g, k * 2 + 1, none⟩ = some (.int .i64 y) ∧ Hid (parB (ps.take (k + 1)) = parB (ps.take k) ++ be 2 x ++ be 4 y) := by
        have hP := HP.out
        rw [← hl] at hP
        obtain ⟨g, cap, e, h1, h2, d1, d2⟩ := hP.at k (by omega)
        cases e
        have hb : wr.heap[g]? = w.heap[g]? := hG.block g (World.block_lt_of_cell? _ _ d1) (HE.out g rfl)
        exact ⟨_, _, g, rfl, by omega, h2, (cell_same hb _).trans d1, (cell_same hb _).trans d2, parB_take ps k hkl⟩
      subst hpb
      have hB : (wr.alloc (.cells #[.int .i64 x, .int .i64 y] 49)).drew.heap[wr.heap.size]? = some (.cells #[.int .i64 x, .int .i64 y] 49 (0, 0)) := heap_alloc_new wr _
      have hb1 : Below wr.heap.size wr (wr.alloc (.cells #[.int .i64 x, .int .i64 y] 49)).drew := ((Below.refl _ wr).alloc (Nat.le_refl _) _).drew
      have hG1 := hG.trans (Gr.below hb1 _)
      have hR1 := hRow.below hb1
      have hne1 : ∀ j, u0.ownBlock = some j → j ≠ wr.heap.size := fun j hj => by have := hRow.lt j hj; omega
      have C0 : Hid (Calls Tryd.prog 39 #[u0, .int .i64 x, .int .i64 2] (wr.alloc (.cells #[.int .i64 x, .int .i64 y] 49)).drew fun e w' => ∃ o', e = .returned o' ∧ Row w' o' (l ++ parB (ps.take k) ++ be 2 x) ∧ Gr w w' o o' ∧ w'.heap[wr.heap.size]? = some (.cells #[.int .i64 x, .int .i64 y] 49 (0, 0)) ∧ ∀ j, o'.ownBlock = some j → j ≠ wr.heap.size) :=
        num_in 2 (.inl rfl) w _ o u0 wr.heap.size _ _ x hB hG1 hR1 hne1 (by rw [List.length_append]; omega)
      have C1 : Hid (∀ (V : World) (o1 : Value), Row V o1 (l ++ parB (ps.take k) ++ be 2 x) → Gr w V o o1 → V.heap[wr.heap.size]? = some (.cells #[.int .i64 x, .int .i64 y] 49 (0, 0)) → (∀ j, o1.ownBlock = some j → j ≠ wr.heap.size) → Calls Tryd.prog 39 #[o1, .int .i64 y, .int .i64 4] V fun e w' => ∃ o', e = .returned o' ∧ Hid (Row w' o' (l ++ parB (ps.take (k + 1))) ∧ Gr w w' o o')) := by
        intro V o1 a1 a2 a3 a4
        refine (num_in 4 (.inr (.inr rfl)) w V o o1 wr.heap.size _ _ y a3 a2 a1 a4 (by rw [List.length_append, List.length_append, be_length]; omega)).mono ?_
        rintro e w' ⟨o', rfl, h1, h2, _, _⟩
        refine ⟨o', rfl, ?_, h2⟩
        rw [hnext.out, ← List.append_assoc, ← List.append_assoc]
        exact h1
      clear hl hparB hkl hL hlk hRow hG hnext hB hb1 hG1 hR1 hne1
      go_wp2_with fail
      go_region_law (first
        | (refine step_value 39 #[.tmp 14, .tmp 16, .const (.int .i64 2)] _ rfl ?_; go_simp; go_wp2_with (go_at_call 39; refine C0.out.mono ?_; rintro e w1 ⟨o1, rfl, r1, g1, b1, n1⟩; have q1 := cell_second b1))
        | (refine step_value 39 #[.tmp 17, .tmp 19, .const (.int .i64 4)] _ rfl ?_; go_simp; go_wp2_with (go_at_call 39; refine (C1.out _ _ r1 g1 b1 n1).mono ?_; rintro e w2 ⟨o2, rfl, r2⟩)))
      all_goals
        go_wp2_with fail
        go_roundw
        case rel => exact ⟨k + 1, by omega, by simp, r2⟩
        case measure => simp [intOf]; omega
    · obtain rfl : k = n := by omega
      have hl := HN.out
      have hrow' := hrow.out
      rw [List.take_of_length_le (by omega)] at hrow'
      go_wp2
      go_ret
      exact ⟨_, rfl, hrow'⟩

end Go.Proofs.YtmhbaaemihljjaaDoor
