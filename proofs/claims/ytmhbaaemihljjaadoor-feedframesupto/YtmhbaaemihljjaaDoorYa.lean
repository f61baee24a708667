/- Write and Same of frames that are read alone. -/
import Derived.Test.YtmhbaaemihljjaaDoorV0
import Derived.Test.YtmhbaaemihljjaaDoorW1
namespace Go.Proofs.YtmhbaaemihljjaaDoor
open Go.RowKit
set_option linter.unusedVariables false
set_option linter.unusedSimpArgs false

theorem PIn.sl {w : World} {v : Value} {l : List (Int × Int)} (h : PIn w v l) : ∃ b c, v = .slice b l.length c := by
  rcases h with ⟨b, cap, rfl, rfl⟩ | ⟨B, off, cap, rfl, _⟩
  · exact ⟨b, cap, rfl⟩
  · exact ⟨_, cap, rfl⟩
theorem PIn.get {w : World} {b : Option Addr} {n c : Nat} {l : List (Int × Int)} (h : PIn w (.slice b n c) l) (k : Nat) (hk : k < l.length) : ∃ B off, b = some ⟨B, off, none⟩ ∧ n = l.length ∧ n ≤ c ∧ c ≤ 9223372036854775807 ∧ B < w.heap.size ∧ w.cell? ⟨B, off + k * 2, none⟩ = some (.int .i64 l[k].1) ∧ w.cell? ⟨B, off + k * 2 + 1, none⟩ = some (.int .i64 l[k].2) := by
  rcases h with ⟨_, _, e, rfl⟩ | ⟨B, off, cap, e, h1, h2, h3, h4⟩
  · simp at hk
  · injection e with e1 e2 e3
    have := h4 k hk
    exact ⟨B, off, e1, e2, by omega, by omega, h3, this.1, this.2⟩

theorem PIn.base {w : World} {v : Value} {l : List (Int × Int)} (h : PIn w v l) (h0 : 0 < l.length) (a : Addr) (n c : Nat) (e : v = .slice (some a) n c) : a.block < w.heap.size := by
  subst e
  obtain ⟨B, off, e, _, _, _, hB, _⟩ := h.get 0 h0
  injection e with e
  rw [e]
  exact hB

set_option maxRecDepth 100000 in
set_option maxHeartbeats 2000000 in
theorem puts_params_in (f : Fr) (ps : List (Int × Int)) (p : Value) (w : World) (o : Value) (l : List UInt8) (hR : Row w o l) (hp : PIn w p ps) (hne : 0 < ps.length → ∀ a n c, p = .slice (some a) n c → o.ownBlock ≠ some a.block) (hl : l.length + (parB ps).length + 100 ≤ 140737488355328) :
    Calls Tryd.prog 57 #[o, .agg (fv f p)] w fun e w' => ∃ o', e = .returned o' ∧ Row w' o' (l ++ parB ps) ∧ Gr w w' o o' := by
  obtain ⟨pb, pc, rfl⟩ := hp.sl
  have HP : Hid (PIn w (.slice pb ps.length pc) ps) := hp
  have HR : Hid (Row w o l) := hR
  have HL : Hid (l.length + (parB ps).length + 100 ≤ 140737488355328) := hl
  have HE : Hid (0 < ps.length → ∀ a n c, Value.slice pb ps.length pc = .slice (some a) n c → o.ownBlock ≠ some a.block) := hne
  clear hp hR hl hne
  obtain ⟨n, hn⟩ : ∃ n, ps.length = n := ⟨_, rfl⟩
  have HN : Hid (ps.length = n) := hn
  rw [hn] at HP HE ⊢
  clear hn
  unfold fv
  go_enter Tryd.func57, Tryd.ntmps57
  go_wp2
  go_loopw [0, 10] (fun x i wr => ∃ k : Nat, k ≤ n ∧ i = .int .i64 (k : Int) ∧ Hid (Row wr x (l ++ parB (ps.take k)) ∧ Gr w wr o x)) (fun _ i _ => n - (intOf i).toNat)
  case atStart => exact ⟨0, by omega, rfl, by simpa [parB] using HR.out.alloc _, Gr.alloc _ _ _⟩
  case round =>
    obtain ⟨k, hk, rfl, hrow⟩ := hrel
    by_cases hlt : k < n
    · have hl := HN.out
      have hparB := parB_length ps
      have hkl : k < ps.length := by omega
      have hL := HL.out
      have hlk : (parB (ps.take k)).length + 6 ≤ (parB ps).length := by
        rw [parB_length, parB_length, List.length_take]
        omega
      obtain ⟨hRow, hG⟩ := hrow.out
      obtain ⟨x, y, g, off, hpb, h1, h2, d1, d2, hnext⟩ : ∃ (x y : Int) (g off : Nat), pb = some ⟨g, off, none⟩ ∧ n ≤ pc ∧ pc ≤ 9223372036854775807 ∧
          wr.cell? ⟨g, off + k * 2, none⟩ = some (.int .i64 x) ∧ wr.cell? ⟨g, off + k * 2 + 1, none⟩ = some (.int .i64 y) ∧ Hid (parB (ps.take (k + 1)) = parB (ps.take k) ++ be 2 x ++ be 4 y) := by
        obtain ⟨g, off, e, _, h1, h2, hBl, d1, d2⟩ := HP.out.get k (by omega)
        have hb : wr.heap[g]? = w.heap[g]? := hG.block g hBl (HE.out (by omega) ⟨g, off, none⟩ n pc (by rw [e]))
        exact ⟨_, _, g, off, e, by omega, h2, (cell_same hb _).trans d1, (cell_same hb _).trans d2, parB_take ps k hkl⟩
      subst hpb
      have hB : (wr.alloc (.cells #[.int .i64 x, .int .i64 y] 49)).drew.heap[wr.heap.size]? = some (.cells #[.int .i64 x, .int .i64 y] 49 (0, 0)) := heap_alloc_new wr _
      have hb1 : Below wr.heap.size wr (wr.alloc (.cells #[.int .i64 x, .int .i64 y] 49)).drew := ((Below.refl _ wr).alloc (Nat.le_refl _) _).drew
      have hG1 := hG.trans (Gr.below hb1 _)
      have hR1 := hRow.below hb1
      have hne1 : ∀ j, u0.ownBlock = some j → j ≠ wr.heap.size := fun j hj => by have := hRow.lt j hj; omega
      have C0 : Hid (Calls Tryd.prog 39 #[u0, .int .i64 x, .int .i64 2] (wr.alloc (.cells #[.int .i64 x, .int .i64 y] 49)).drew fun e w' => ∃ o', e = .returned o' ∧ Row w' o' (l ++ parB (ps.take k) ++ be 2 x) ∧ Gr w w' o o' ∧ w'.heap[wr.heap.size]? = some (.cells #[.int .i64 x, .int .i64 y] 49 (0, 0)) ∧ ∀ j, o'.ownBlock = some j → j ≠ wr.heap.size) :=
        num_in 2 (.inl rfl) w _ o u0 wr.heap.size _ _ x hB hG1 hR1 hne1 (by rw [List.length_append]; omega)
      have C1 : Hid (∀ (V : World) (o1 : Value), Row V o1 (l ++ parB (ps.take k) ++ be 2 x) → Gr w V o o1 → V.heap[wr.heap.size]? = some (.cells #[.int .i64 x, .int .i64 y] 49 (0, 0)) → (∀ j, o1.ownBlock = some j → j ≠ wr.heap.size) → Calls Tryd.prog 39 #[o1, .int .i64 y, .int .i64 4] V fun e w' => ∃ o', e = .returned o' ∧ Hid (Row w' o' (l ++ parB (ps.take (k + 1))) ∧ Gr w w' o o')) := by
        intro V o1 a1 a2 a3 a4
        refine (num_in 4 (.inr (.inr rfl)) w V o o1 wr.heap.size _ _ y a3 a2 a1 a4 (by rw [List.length_append, List.length_append, be_length]; omega)).mono ?_
        rintro e w' ⟨o', rfl, h1, h2, _, _⟩
        refine ⟨o', rfl, ?_, h2⟩
        rw [hnext.out, ← List.append_assoc, ← List.append_assoc]
        exact h1
      clear hl hparB hkl hL hlk hRow hG hnext hB hb1 hG1 hR1 hne1
      go_wp2_with fail
      go_region_law (first
        | (refine step_value 39 #[.tmp 14, .tmp 16, .const (.int .i64 2)] _ rfl ?_; go_simp; go_wp2_with (go_at_call 39; refine C0.out.mono ?_; rintro e w1 ⟨o1, rfl, r1, g1, b1, n1⟩; have q1 := cell_second b1))
        | (refine step_value 39 #[.tmp 17, .tmp 19, .const (.int .i64 4)] _ rfl ?_; go_simp; go_wp2_with (go_at_call 39; refine (C1.out _ _ r1 g1 b1 n1).mono ?_; rintro e w2 ⟨o2, rfl, r2⟩)))
      all_goals
        go_wp2_with fail
        go_roundw
        case rel => exact ⟨k + 1, by omega, by simp, r2⟩
        case measure => simp [intOf]; omega
    · obtain rfl : k = n := by omega
      have hl := HN.out
      have hrow' := hrow.out
      rw [List.take_of_length_le (by omega)] at hrow'
      go_wp2
      go_ret
      exact ⟨_, rfl, hrow'⟩


theorem put_in {f : Fr} {k1 : Nat} {k2 : Int} {k3 k4 : Nat} (h : kd f.ty f.fl = (k1, k2, k3, k4)) (ps : List (Int × Int)) (p : Value) (w : World) (o : Value) (l : List UInt8) (hR : Row w o l) (hp : PIn w p ps) (hne : 0 < ps.length → ∀ a n c, p = .slice (some a) n c → o.ownBlock ≠ some a.block) (hl : l.length + (payB k3 f ps).length + 100 ≤ 140737488355328) :
    Calls Tryd.prog k3 #[o, .agg (fv f p)] w fun e w' => ∃ o', e = .returned o' ∧ Row w' o' (l ++ payB k3 f ps) ∧ Gr w w' o o' := by
  obtain ⟨pb, pc, hps⟩ := hp.sl
  rcases kd_cases f.ty f.fl with hk | hk | hk | hk | hk | hk | hk | hk | hk | hk
  all_goals
    rw [hk] at h
    cases h
    first
      | exact puts_params_in f ps p w o l hR hp hne hl
      | (subst hps
         first
          | exact puts_headers f pb _ pc w o l hR hl
          | exact puts_prio f pb _ pc w o l hR hl
          | exact puts_code f pb _ pc w o l hR hl
          | exact puts_promise f pb _ pc w o l hR hl
          | exact puts_data f pb _ pc w o l hR hl
          | exact puts_goaway f pb _ pc w o l hR hl
          | exact puts_last f pb _ pc w o l hR hl)


theorem asm_in (f : Fr) (ps : List (Int × Int)) (p : Value) (w : World) (hp : PIn w p ps) (hl : (payB (kd f.ty f.fl).2.2.1 f ps).length + 400 ≤ 140737488355328) :
    Calls Tryd.prog 30 #[.agg (fv f p)] w fun e w' => e = .returned (.string (asmB f ps)) ∧ Below w.heap.size w w' := by
  have hbl := fun h0 => hp.base h0
  obtain ⟨pb, pc, rfl⟩ := hp.sl
  obtain ⟨⟨k1, k2, k3, k4⟩, hkd⟩ : ∃ q, kd f.ty f.fl = q := ⟨_, rfl⟩
  have hk3 : (kd f.ty f.fl).2.2.1 = k3 := by rw [hkd]
  unfold asmB
  cases hpd : padS f with
  | false =>
    have hw : wholeB f ps = payB k3 f ps := by unfold wholeB; rw [hpd, hk3]; rfl
    rw [hw]
    rw [hk3] at hl
    refine asm_plain f pb _ pc w k1 k2 k3 k4 _ hkd hpd (fun W hW => ?_) (by omega)
    have h := put_in hkd ps _ W (.slice none 0 0) [] (Row.nil W) (hp.below hW) (fun _ a n c _ => by simp [Value.ownBlock]) (by simp; omega)
    simpa using h
  | true =>
    have hw : wholeB f ps = [b8 f.pad] ++ payB k3 f ps ++ List.replicate (f.pad % 256).toNat 0 := by unfold wholeB; rw [hpd, hk3]; rfl
    rw [hk3] at hl
    refine asm_pad f pb _ pc w k1 k2 k3 k4 (payB k3 f ps) hkd hpd (fun W o hW hRo hfr => ?_) hl _ hw
    exact put_in hkd ps _ W o _ hRo (hp.below hW) (fun h0 a n c e1 e => by have := hbl h0 a n c e1; have := hfr _ e; omega) (by simp; omega)


set_option maxRecDepth 100000 in
set_option maxHeartbeats 2000000 in
theorem equal_in (w : World) (p q : Value) (a b : List (Int × Int)) (hp : PRow w p a) (hq : PIn w q b) :
    Calls Tryd.prog 42 #[p, q] w fun e w' => e = .returned (.bool (decide (a = b))) ∧ Below w.heap.size w w' := by
  obtain ⟨pb, pc, rfl⟩ := hp.slice
  obtain ⟨qb, qc, rfl⟩ := hq.sl
  have HP : Hid (PRow w (.slice pb a.length pc) a) := hp
  have HQ : Hid (PIn w (.slice qb b.length qc) b) := hq
  clear hp hq
  obtain ⟨n, hn⟩ : ∃ n, a.length = n := ⟨_, rfl⟩
  obtain ⟨m, hm⟩ : ∃ m, b.length = m := ⟨_, rfl⟩
  have HN : Hid (a.length = n) := hn
  have HM : Hid (b.length = m) := hm
  rw [hn] at HP ⊢
  rw [hm] at HQ ⊢
  clear hn hm
  obtain ⟨r, hr⟩ : ∃ r, decide (a = b) = r := ⟨_, rfl⟩
  rw [hr]
  have HD : Hid (decide (a = b) = r) := hr
  clear hr
  by_cases hnm : n = m
  · subst hnm
    go_enter Tryd.func42, Tryd.ntmps42
    go_wp2
    go_loopw [13] (fun i wr => ∃ k : Nat, k ≤ n ∧ i = .int .i64 (k : Int) ∧ Hid (a.take k = b.take k) ∧ Below w.heap.size w wr) (fun i _ => n - (intOf i).toNat)
    case atStart => exact ⟨0, by omega, rfl, by simp [Hid], Below.refl _ _⟩
    case round =>
      obtain ⟨k, hk, rfl, htk, hb⟩ := hrel
      by_cases hlt : k < n
      · obtain ⟨x, y, x', y', g, g', off, hpb, hqb, h1, h2, h3, h4, d1, d2, e1, e2, hyes, hno⟩ : ∃ (x y x' y' : Int) (g g' off : Nat), pb = some ⟨g, 0, none⟩ ∧ qb = some ⟨g', off, none⟩ ∧ n ≤ pc ∧ pc ≤ 9223372036854775807 ∧ n ≤ qc ∧ qc ≤ 9223372036854775807 ∧
            wr.cell? ⟨g, k * 2, none⟩ = some (.int .i64 x) ∧ wr.cell? ⟨g, k * 2 + 1, none⟩ = some (.int .i64 y) ∧ wr.cell? ⟨g', off + k * 2, none⟩ = some (.int .i64 x') ∧ wr.cell? ⟨g', off + k * 2 + 1, none⟩ = some (.int .i64 y') ∧
            Hid (x = x' → y = y' → a.take (k + 1) = b.take (k + 1)) ∧ Hid (¬ (x = x' ∧ y = y') → r = false) := by
          have hl := HN.out
          have hl' := HM.out
          obtain ⟨g, cap, e, h1, h2, d1, d2⟩ := (show PRow w (.slice pb a.length pc) a by rw [hl]; exact HP.out).at k (by omega)
          obtain ⟨g', off, e', _, h1', h2', _, d1', d2'⟩ := HQ.out.get k (by omega)
          cases e
          refine ⟨_, _, _, _, g, g', off, rfl, e', by omega, h2, by omega, h2', (hb.cell (World.block_lt_of_cell? _ _ d1)).trans d1, (hb.cell (World.block_lt_of_cell? _ _ d2)).trans d2, (hb.cell (World.block_lt_of_cell? _ _ d1')).trans d1', (hb.cell (World.block_lt_of_cell? _ _ d2')).trans d2', ?_, ?_⟩
          · intro u v
            rw [List.take_succ_eq_append_getElem (by omega), List.take_succ_eq_append_getElem (by omega), htk.out, Prod.ext u v]
          · intro u
            rw [← HD.out]
            refine decide_eq_false fun e => u ?_
            subst e
            exact ⟨rfl, rfl⟩
        subst hpb
        subst hqb
        by_cases hx : x = x'
        · by_cases hy : y = y'
          · subst hx
            subst hy
            have hnext := hyes.out rfl rfl
            replace hnext : Hid _ := hnext
            go_wp2_with fail
            go_region
            all_goals
              go_wp2_with fail
              go_roundw
              case rel => exact ⟨k + 1, by omega, by simp, hnext, hb.drew⟩
              case measure => simp [intOf]; omega
          · have hr : r = false := hno.out fun h => hy h.2
            subst hr
            subst hx
            have hyb : (y == y') = false := beq_eq_false_iff_ne.2 hy
            go_wp2_with fail
            go_region
            all_goals
              go_wp2_with fail
              go_ret
              exact ⟨rfl, hb.drew⟩
        · have hr : r = false := hno.out fun h => hx h.1
          subst hr
          have hxb : (x == x') = false := beq_eq_false_iff_ne.2 hx
          go_wp2_with fail
          go_region
          all_goals
            go_wp2_with fail
            go_ret
            exact ⟨rfl, hb.drew⟩
      · obtain rfl : k = n := by omega
        have hr : r = true := by
          rw [← HD.out]
          have h := htk.out
          have h1 := HN.out
          have h2 := HM.out
          rw [List.take_of_length_le (by omega), List.take_of_length_le (by omega)] at h
          exact decide_eq_true h
        subst hr
        go_wp2
        go_ret
        exact ⟨rfl, hb⟩
  · have hr : r = false := by
      rw [← HD.out]
      refine decide_eq_false fun e => hnm ?_
      rw [← HN.out, ← HM.out, e]
    subst hr
    have hnmb : ((n : Int) == (m : Int)) = false := beq_eq_false_iff_ne.2 (by omega)
    go_enter Tryd.func42, Tryd.ntmps42
    go_wp2
    go_ret
    exact ⟨rfl, Below.refl _ _⟩


theorem same_in (f g : Fr) (a b : List (Int × Int)) (p q : Value) (w : World) (hp : PRow w p a) (hq : PIn w q b) :
    Calls Tryd.prog 32 #[.agg (fv f p), .agg (fv g q)] w fun e w' => ∃ r, e = .returned (.bool r) ∧ (r = true ↔ f = g ∧ a = b) ∧ Below w.heap.size w w' := by
  obtain ⟨pb, pc, rfl⟩ := hp.slice
  obtain ⟨qb, qc, rfl⟩ := hq.sl
  by_cases hfg : f = g
  · subst hfg
    refine (same_same f w pb _ pc qb _ qc (decide (a = b)) fun W hW => ?_).mono ?_
    · refine (equal_in W _ _ a b (hp.below fun k _ hk => hW.block k hk) (hq.below hW)).mono ?_
      rintro e w' ⟨rfl, h⟩
      exact ⟨rfl, hW.trans (h.mono hW.size)⟩
    · rintro e w' ⟨rfl, h⟩
      exact ⟨_, rfl, by simp, h⟩
  · have hno : ∀ e w', (e = Ending.returned (.bool false) ∧ Below w.heap.size w w') → ∃ r, e = .returned (.bool r) ∧ (r = true ↔ f = g ∧ a = b) ∧ Below w.heap.size w w' := by
      rintro e w' ⟨rfl, h⟩
      exact ⟨false, rfl, ⟨fun h => (by cases h), fun h => absurd h.1 hfg⟩, h⟩
    obtain ⟨a0, a1, a2, a3, a4, a5, a6, a7, a8, a9⟩ := f
    obtain ⟨b0, b1, b2, b3, b4, b5, b6, b7, b8, b9⟩ := g
    by_cases h0 : a0 = b0
    rotate_left
    · exact (same_ne0 a0 a1 a2 a3 a4 a5 a6 a7 a8 a9 b0 b1 b2 b3 b4 b5 b6 b7 b8 b9 w pb _ pc qb _ qc h0).mono hno
    subst h0
    by_cases h1 : a1 = b1
    rotate_left
    · exact (same_ne1 a0 a1 a2 a3 a4 a5 a6 a7 a8 a9 b1 b2 b3 b4 b5 b6 b7 b8 b9 w pb _ pc qb _ qc h1).mono hno
    subst h1
    by_cases h2 : a2 = b2
    rotate_left
    · exact (same_ne2 a0 a1 a2 a3 a4 a5 a6 a7 a8 a9 b2 b3 b4 b5 b6 b7 b8 b9 w pb _ pc qb _ qc h2).mono hno
    subst h2
    by_cases h3 : a3 = b3
    rotate_left
    · exact (same_ne3 a0 a1 a2 a3 a4 a5 a6 a7 a8 a9 b3 b4 b5 b6 b7 b8 b9 w pb _ pc qb _ qc h3).mono hno
    subst h3
    by_cases h4 : a4 = b4
    rotate_left
    · exact (same_ne4 a0 a1 a2 a3 a4 a5 a6 a7 a8 a9 b4 b5 b6 b7 b8 b9 w pb _ pc qb _ qc h4).mono hno
    subst h4
    by_cases h5 : a5 = b5
    rotate_left
    · exact (same_ne5 a0 a1 a2 a3 a4 a5 a6 a7 a8 a9 b5 b6 b7 b8 b9 w pb _ pc qb _ qc h5).mono hno
    subst h5
    by_cases h6 : a6 = b6
    rotate_left
    · exact (same_ne6 a0 a1 a2 a3 a4 a5 a6 a7 a8 a9 b6 b7 b8 b9 w pb _ pc qb _ qc h6).mono hno
    subst h6
    by_cases h7 : a7 = b7
    rotate_left
    · exact (same_ne7 a0 a1 a2 a3 a4 a5 a6 a7 a8 a9 b7 b8 b9 w pb _ pc qb _ qc h7).mono hno
    subst h7
    by_cases h8 : a8 = b8
    rotate_left
    · exact (same_ne8 a0 a1 a2 a3 a4 a5 a6 a7 a8 a9 b8 b9 w pb _ pc qb _ qc h8).mono hno
    subst h8
    by_cases h9 : a9 = b9
    rotate_left
    · exact (same_ne9 a0 a1 a2 a3 a4 a5 a6 a7 a8 a9 b9 w pb _ pc qb _ qc h9).mono hno
    subst h9
    exact absurd rfl hfg

theorem write_in (f : Fr) (ps : List (Int × Int)) (p : Value) (w : World) (hw : 1 ≤ w.heap.size) (hK : Kinds w) (hp : PIn w p ps) (hl : (asmB f ps).size * 3 + 2000 ≤ 140737488355328) :
    Calls Tryd.prog 18 #[.agg (fv f p)] w fun e w' => ∃ v, e = .returned v ∧ writeV f ps v ∧ Below w.heap.size w w' := by
  obtain ⟨pb, pc, rfl⟩ := hp.sl
  obtain ⟨⟨⟨g, qs⟩, c, x⟩, hr⟩ : ∃ q, parseS (asmB f ps) = q := ⟨_, rfl⟩
  have h9 : 9 ≤ (asmB f ps).size := by rw [asmB_size]; omega
  have hpl : (payB (kd f.ty f.fl).2.2.1 f ps).length + 400 ≤ 140737488355328 := by
    rw [asmB_size] at hl
    have : (payB (kd f.ty f.fl).2.2.1 f ps).length ≤ (wholeB f ps).length := by
      unfold wholeB
      split
      · simp; omega
      · exact Nat.le_refl _
    omega
  have hx : c = 0 → x = 0 := by have := parse_fault (asmB f ps); rw [hr] at this; exact this
  have hasm : ∀ W : World, Below w.heap.size w W → Calls Tryd.prog 30 #[.agg (fv f (.slice pb ps.length pc))] W fun e w' => e = .returned (.string (asmB f ps)) ∧ Below W.heap.size W w' := fun W hW =>
    asm_in f ps _ W (hp.below hW) hpl
  have hparse : ∀ W : World, Below w.heap.size w W → Calls Tryd.prog 31 #[.string (asmB f ps)] W fun e w' => PPost W ((g, qs), c, x) e w' := fun W hW => by
    rw [← hr]
    exact parse_any (asmB f ps) W h9 (Nat.le_trans hw hW.size) (hK.of_eq (hW.block 0 (by omega))) (by omega) (fun _ => by omega)
  by_cases hs : g = f ∧ qs = ps
  · obtain ⟨rfl, rfl⟩ := hs
    refine (write_gen g g qs pb _ pc w (asmB g qs) c x true hx hasm hparse fun W qb ql qc hW hq => ?_).mono ?_
    · refine (same_in g g qs qs _ _ W hq (hp.below hW)).mono ?_
      rintro e w' ⟨r, rfl, h1, h2⟩
      exact ⟨by rw [h1.2 ⟨rfl, rfl⟩], h2⟩
    · rintro e w' ⟨rfl, hb⟩
      refine ⟨_, rfl, ?_, hb⟩
      by_cases hc : c = 0
      · have hx0 := hx hc
        subst hc
        subst hx0
        have hR := (parse_right _ _ _ h9 hr).1
        refine ⟨fun _ hsz => ?_, fun _ hsz => ?_, fun hn => absurd hR hn⟩
        · unfold wrS; rw [if_neg (by simp), if_neg (by omega)]
        · unfold wrS; rw [if_neg (by simp), if_pos (by omega)]
      · have hno : ¬ Right g qs := fun hR => by
          have := parse_asm g qs hR
          rw [hr] at this
          simp at this
          exact hc this.1
        refine ⟨fun h => absurd h hno, fun h => absurd h hno, fun _ => ?_⟩
        unfold wrS; rw [if_pos (.inl hc)]
  · have hno : ¬ Right f ps := fun hR => by
      have := parse_asm f ps hR
      rw [hr] at this
      simp at this
      exact hs this.1
    refine (write_gen f g qs pb _ pc w (asmB f ps) c x false hx hasm hparse fun W qb ql qc hW hq => ?_).mono ?_
    · refine (same_in g f qs ps _ _ W hq (hp.below hW)).mono ?_
      rintro e w' ⟨r, rfl, h1, h2⟩
      have hrf : r = false := by
        cases r
        · rfl
        · exact absurd (h1.1 rfl) hs
      exact ⟨by rw [hrf], h2⟩
    · rintro e w' ⟨rfl, hb⟩
      refine ⟨_, rfl, ⟨fun h => absurd h hno, fun h => absurd h hno, fun _ => ?_⟩, hb⟩
      unfold wrS; rw [if_pos (.inr rfl)]
end Go.Proofs.YtmhbaaemihljjaaDoor

namespace Go.Proofs.YtmhbaaemihljjaaDoor
open Go.RowKit
set_option linter.unusedVariables false
set_option linter.unusedSimpArgs false

set_option maxRecDepth 100000 in
set_option maxHeartbeats 4000000 in
theorem same_eq_in (f : Fr) (w : World) (pb : Option Addr) (pl pc : Nat) (qb : Option Addr) (ql qc : Nat) (l : List (Int × Int)) (hp : PRow w (.slice pb pl pc) l) (hq : PIn w (.slice qb ql qc) l) :
    Calls Tryd.prog 19 #[.agg (fv f (.slice pb pl pc)), .agg (fv f (.slice qb ql qc))] w fun e w' => e = .returned (.bool true) ∧ Below w.heap.size w w' := by
  obtain ⟨pb', pc', e1⟩ := hp.slice
  obtain ⟨qb', qc', e2⟩ := hq.sl
  cases e1
  cases e2
  obtain ⟨n, hn⟩ : ∃ n, l.length = n := ⟨_, rfl⟩
  have HN : Hid (l.length = n) := hn
  have HP : Hid (PRow w (.slice pb n pc) l) := by rw [← hn]; exact hp
  have HQ : Hid (PIn w (.slice qb n qc) l) := by rw [← hn]; exact hq
  rw [hn]
  clear hp hq hn
  have hnl : (n : Int) ≤ 9223372036854775807 := by
    by_cases h0 : n = 0
    · omega
    · have hl := HN.out
      obtain ⟨g, cap, e, h1, h2, -⟩ := HP.out.at 0 (by omega)
      omega
  obtain ⟨W0, hW0⟩ : ∃ W0, W0 = (w.alloc (.cells (fv f (.slice pb n pc)) 28)).alloc (.cells (fv f (.slice qb n qc)) 28) := ⟨_, rfl⟩
  have b2 : FB W0 w.heap.size f (.slice pb n pc) := by
    rw [hW0]
    unfold FB
    simp only [heap_al, size_al]
    rw [if_neg (by omega), if_pos trivial]
  have b3 : FB W0 (w.heap.size + 1) f (.slice qb n qc) := by
    rw [hW0]
    unfold FB
    simp only [heap_al, size_al]
    rw [if_pos trivial]
  have hbel : Below w.heap.size w W0 := by rw [hW0]; exact ((Below.refl _ w).alloc (Nat.le_refl _) _).alloc (by simp) _
  have B2 : Hid (FB W0 w.heap.size f (.slice pb n pc)) := b2
  have B3 : Hid (FB W0 (w.heap.size + 1) f (.slice qb n qc)) := b3
  have HB : Hid (Below w.heap.size w W0) := hbel
  have HW : Hid _ := hW0
  unfold fv
  clear b2 b3 hbel hW0
  go_enter Tryd.func19, Tryd.ntmps19
  go_wp2_with fail
  go_loopw [5] (fun i wr => ∃ k : Nat, k ≤ n ∧ i = .int .i64 (k : Int) ∧ Hid (Below W0.heap.size W0 wr)) (fun i _ => n - (intOf i).toNat)
  case atStart => exact ⟨0, by omega, rfl, by rw [HW.out]; exact Below.refl _ _⟩
  case round =>
    obtain ⟨k, hk, rfl, hb⟩ := hrel
    have c2 := (B2.out.below hb.out).cell 10
    have c3 := (B3.out.below hb.out).cell 10
    simp only [fv, List.getElem?_toArray, List.getElem?_cons_succ, List.getElem?_cons_zero] at c2 c3
    by_cases hlt : k < n
    · obtain ⟨x, y, g, g', off, hpb, hqb, h1, h2, h3, h4, d1, d2, e1, e2⟩ : ∃ (x y : Int) (g g' off : Nat), pb = some ⟨g, 0, none⟩ ∧ qb = some ⟨g', off, none⟩ ∧ n ≤ pc ∧ pc ≤ 9223372036854775807 ∧ n ≤ qc ∧ qc ≤ 9223372036854775807 ∧
          wr.cell? ⟨g, k * 2, none⟩ = some (.int .i64 x) ∧ wr.cell? ⟨g, k * 2 + 1, none⟩ = some (.int .i64 y) ∧ wr.cell? ⟨g', off + k * 2, none⟩ = some (.int .i64 x) ∧ wr.cell? ⟨g', off + k * 2 + 1, none⟩ = some (.int .i64 y) := by
        have hl := HN.out
        have hbw : Below w.heap.size w wr := HB.out.trans (hb.out.mono HB.out.size)
        obtain ⟨g, cap, e, h1, h2, d1, d2⟩ := HP.out.at k (by omega)
        obtain ⟨g', off, e', _, h1', h2', _, d1', d2'⟩ := HQ.out.get k (by omega)
        cases e
        exact ⟨_, _, g, g', off, rfl, e', by omega, h2, by omega, h2', (hbw.cell (World.block_lt_of_cell? _ _ d1)).trans d1, (hbw.cell (World.block_lt_of_cell? _ _ d2)).trans d2, (hbw.cell (World.block_lt_of_cell? _ _ d1')).trans d1', (hbw.cell (World.block_lt_of_cell? _ _ d2')).trans d2'⟩
      subst hpb
      subst hqb
      go_wp2_with fail
      go_region
      all_goals
        go_wp2_with fail
        go_roundw
        case rel => exact ⟨k + 1, by omega, by simp, hb.out.drew⟩
        case measure => simp [intOf]; omega
    · obtain rfl : k = n := by omega
      go_wp2_with fail
      go_ret
      exact ⟨rfl, HB.out.trans (hb.out.mono HB.out.size)⟩
end Go.Proofs.YtmhbaaemihljjaaDoor
