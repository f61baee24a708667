/- The document's Send. -/
import Derived.Test.YtfkimdgbkfogcaaDoorJ3
namespace Go.Proofs.YtfkimdgbkfogcaaDoor
open Go.RowKit
set_option linter.unusedVariables false
set_option linter.unusedSimpArgs false

def rsendC (c : Bool) (ls : List (List (Int × Int))) (d : Nat) (l : List (Int × Int)) : Int := if l.any (fun q => validS q c != 0) then 1 else if 64 ≤ ls.length - d then 6 else 0
/-- what a book's own memory is, the document's -/
def Owr (r : Nat) (sx : SV) (k : Nat) : Prop := k = r ∨ (sv sx).ownBlock = some k

set_option maxRecDepth 100000 in
set_option maxHeartbeats 8000000 in
theorem rsend_any (w : World) (r : Nat) (c : Bool) (sx : SV) (xs : List SV) (ls : List (List (Int × Int))) (d : Nat) (h : Rb w r c sx xs ls d) (lv : Value) (l : List (Int × Int)) (hl : In EP w lv l) (hn0 : l.length * 16 ≤ 140737488355328) (hx0 : (xs.length + 1) * 24 ≤ 140737488355328) :
    Calls Tryd.prog 44 #[.pointer (some ⟨r, 0, none⟩), lv] w fun e w' => e = .returned (.int .i64 (rsendC c ls d l)) ∧ (rsendC c ls d l ≠ 0 → Below w.heap.size w w') ∧ (rsendC c ls d l = 0 → ∃ sx' x, Rb w' r c sx' (xs ++ [x]) (ls ++ [l]) d ∧ Ks (Owr r sx) w w' ∧ (∀ k, (sv sx').ownBlock = some k → (sv sx).ownBlock = some k ∨ w.heap.size ≤ k) ∧ (∀ k, (sv x).ownBlock = some k → w.heap.size ≤ k)) := by
  have HR : Hid (Rb w r c sx xs ls d) := h
  have HL : Hid (In EP w lv l) := hl
  obtain ⟨lb, lc, rfl, hl1, hl2⟩ := hl.slice
  obtain ⟨n, hn⟩ : ∃ n, l.length = n := ⟨_, rfl⟩
  have HN : Hid (l.length = n) := hn
  rw [hn] at HL hl1 hn0 ⊢
  have hrl := h.lt
  obtain ⟨c0, c1, c2⟩ := h.cells
  obtain ⟨sb, scap, rfl, hs1, hs2⟩ := h.slice
  have hdn := h.done
  have hlen := h.len
  obtain ⟨N, hN⟩ : ∃ N, xs.length = N := ⟨_, rfl⟩
  rw [hN] at HR c1 hs1 hx0 ⊢
  have HNx : Hid (xs.length = N) := hN
  have hlsN : ls.length = N := by omega
  have HLN : Hid (ls.length = N) := hlsN
  rw [hlsN] at hdn
  simp only [sv] at c1
  obtain ⟨C, hC⟩ : ∃ C, rsendC c ls d l = C := ⟨_, rfl⟩
  have HC : Hid (rsendC c ls d l = C) := hC
  rw [hC]
  clear h hl hn hN hC hlen hlsN
  go_enter Tryd.func44, Tryd.ntmps44
  go_wp2
  go_loopw [5] (fun i wr => ∃ k : Nat, k ≤ n ∧ i = .int .i64 (k : Int) ∧ Hid ((l.take k).any (fun q => validS q c != 0) = false ∧ Below w.heap.size w wr)) (fun i _ => n - (intOf i).toNat)
  case atStart => exact ⟨0, Nat.zero_le _, rfl, by simp, Below.refl _ _⟩
  case round =>
    obtain ⟨k, hk, rfl, HP⟩ := hrel
    obtain ⟨hv, hB⟩ := HP.out
    have hlen := HN.out
    by_cases hlt : k < n
    · obtain ⟨Bk, off, cap', hvb, hBl, d1, d2⟩ := HL.out.par k (by omega)
      injection hvb with e1 e2 e3
      subst e1
      clear e2 e3
      obtain ⟨x, y, hq⟩ : ∃ x y, l[k]'(by omega) = (x, y) := ⟨_, _, rfl⟩
      have hany : (l.take (k + 1)).any (fun q => validS q c != 0) = (validS (x, y) c != 0) := by
        rw [List.take_succ_eq_append_getElem (by omega), List.any_append, hv, hq]
        simp
      have hall : validS (x, y) c ≠ 0 → l.any (fun q => validS q c != 0) = true := fun hz => by
        rw [List.any_eq_true]
        exact ⟨l[k]'(by omega), List.getElem_mem _, by rw [hq]; simpa using hz⟩
      rw [hq] at d1 d2
      simp only at d1 d2
      have hlti : (k : Int) < (n : Int) := by omega
      have hfull : Hid (∀ W, Below w.heap.size w W → W.cell? ⟨Bk, off + k * 2, none⟩ = some (.int .i64 x) ∧ W.cell? ⟨Bk, off + k * 2 + 1, none⟩ = some (.int .i64 y) ∧ W.cell? ⟨r, 0, none⟩ = some (.bool c)) := fun W hW => ⟨(hW.cell hBl).trans d1, (hW.cell hBl).trans d2, (hW.cell hrl).trans c0⟩
      have HV : Hid (validS (x, y) c ≠ 0 → C = 1) := fun hz => by
        have := HC.out
        unfold rsendC at this
        rw [if_pos (hall hz)] at this
        exact this.symm
      obtain ⟨V, hV⟩ : ∃ V, validS (x, y) c = V := ⟨_, rfl⟩
      rw [hV] at hany HV
      have HVE : Hid (validS (x, y) c = V) := hV
      have HA : Hid _ := hany
      clear hany hall hv HP hq hlen d1 d2 hV
      by_cases hz : V = 0
      · subst hz
        go_wp2_with fail
        have hIW : Below w.heap.size w wr.drew := hB.drew
        refine wp_region_held_drew (S := (fun W => W.cell? ⟨Bk, off + k * 2, none⟩ = some (.int .i64 x) ∧ W.cell? ⟨Bk, off + k * 2 + 1, none⟩ = some (.int .i64 y) ∧ W.cell? ⟨r, 0, none⟩ = some (.bool c))) (by kernel_rfl) (hfull.out _ hIW) (fun hHeld => ?_)
        generalize hWg : World.drew _ = W at hIW hHeld ⊢
        clear hWg
        refine wpAnyH_take (i := 0) (oi := { dst := some 12, op := Op.move (Operand.tmp 1), type := 30, pos := "ref.go:127", after := #[], guard := none }) (v := ?vv1) rfl (by kernel_rfl) (by kernel_rfl) (by kernel_rfl) (fun _ _ _ h => h) (Or.inl ⟨by rfl, ?hy1⟩) (by assumption) ?_
        case hy1 => (intro w hSw; (try dsimp only at hSw); go_simp; all_goals with_reducible rfl)
        try simp only [Act.put, List.setIfInBounds_toArray, List.set_cons_zero, List.set_cons_succ]
        refine wpAnyH_take (i := 1) (oi := { dst := some 13, op := Op.move (Operand.tmp 5), type := 3, pos := "ref.go:127", after := #[], guard := none }) (v := ?vv2) rfl (by kernel_rfl) (by kernel_rfl) (by kernel_rfl) (fun _ _ _ h => h) (Or.inl ⟨by rfl, ?hy2⟩) (by assumption) ?_
        case hy2 => (intro w hSw; (try dsimp only at hSw); go_simp; all_goals with_reducible rfl)
        try simp only [Act.put, List.setIfInBounds_toArray, List.set_cons_zero, List.set_cons_succ]
        refine wpAnyH_take (i := 2) (oi := { dst := some 14, op := Op.indexAddr 30 (Operand.tmp 12) (Operand.tmp 13), type := 0, pos := "ref.go:127", after := #[{ on := 0, ground := Ground.data }, { on := 1, ground := Ground.data }], guard := none }) (v := ?vv3) rfl (by kernel_rfl) (by kernel_rfl) (by kernel_rfl) (fun _ _ _ h => h) (Or.inl ⟨by rfl, ?hy3⟩) (by assumption) ?_
        case hy3 => (intro w hSw; (try dsimp only at hSw); go_simp; all_goals with_reducible rfl)
        try simp only [Act.put, List.setIfInBounds_toArray, List.set_cons_zero, List.set_cons_succ]
        refine wpAnyH_take (i := 3) (oi := { dst := some 15, op := Op.load 46 (Operand.tmp 14), type := 46, pos := "ref.go:127", after := #[{ on := 2, ground := Ground.data }], guard := none }) (v := ?vv4) rfl (by kernel_rfl) (by kernel_rfl) (by kernel_rfl) (fun _ _ _ h => h) (Or.inl ⟨by rfl, ?hy4⟩) (by assumption) ?_
        case hy4 => (intro w hSw; (try dsimp only at hSw); go_simp; all_goals with_reducible rfl)
        try simp only [Act.put, List.setIfInBounds_toArray, List.set_cons_zero, List.set_cons_succ]
        refine wpAnyH_take (i := 4) (oi := { dst := some 16, op := Op.move (Operand.tmp 0), type := 55, pos := "ref.go:127", after := #[], guard := none }) (v := ?vv5) rfl (by kernel_rfl) (by kernel_rfl) (by kernel_rfl) (fun _ _ _ h => h) (Or.inl ⟨by rfl, ?hy5⟩) (by assumption) ?_
        case hy5 => (intro w hSw; (try dsimp only at hSw); go_simp; all_goals with_reducible rfl)
        try simp only [Act.put, List.setIfInBounds_toArray, List.set_cons_zero, List.set_cons_succ]
        refine wpAnyH_take (i := 5) (oi := { dst := some 17, op := Op.nilCheck (Operand.tmp 16), type := 0, pos := "ref.go:127", after := #[{ on := 4, ground := Ground.data }], guard := none }) (v := ?vv6) rfl (by kernel_rfl) (by kernel_rfl) (by kernel_rfl) (fun _ _ _ h => h) (Or.inl ⟨by rfl, ?hy6⟩) (by assumption) ?_
        case hy6 => (intro w hSw; (try dsimp only at hSw); go_simp; all_goals with_reducible rfl)
        try simp only [Act.put, List.setIfInBounds_toArray, List.set_cons_zero, List.set_cons_succ]
        refine wpAnyH_take (i := 6) (oi := { dst := some 18, op := Op.fieldAddr 72 (Operand.tmp 17) 0, type := 0, pos := "ref.go:127", after := #[{ on := 5, ground := Ground.data }], guard := none }) (v := ?vv7) rfl (by kernel_rfl) (by kernel_rfl) (by kernel_rfl) (fun _ _ _ h => h) (Or.inl ⟨by rfl, ?hy7⟩) (by assumption) ?_
        case hy7 => (intro w hSw; (try dsimp only at hSw); go_simp; all_goals with_reducible rfl)
        try simp only [Act.put, List.setIfInBounds_toArray, List.set_cons_zero, List.set_cons_succ]
        refine wpAnyH_take (i := 7) (oi := { dst := some 19, op := Op.load 4 (Operand.tmp 18), type := 4, pos := "ref.go:127", after := #[{ on := 6, ground := Ground.data }], guard := none }) (v := ?vv8) rfl (by kernel_rfl) (by kernel_rfl) (by kernel_rfl) (fun _ _ _ h => h) (Or.inl ⟨by rfl, ?hy8⟩) (by assumption) ?_
        case hy8 => (intro w hSw; (try dsimp only at hSw); go_simp; all_goals with_reducible rfl)
        try simp only [Act.put, List.setIfInBounds_toArray, List.set_cons_zero, List.set_cons_succ]
        refine wpAnyH_ready (rs := [8]) (by kernel_rfl) (by simp) ?_
        refine AllReadyH.cons (o := { dst := some 20, op := Op.call { callee := Callee.value (Operand.func 23), args := #[Operand.tmp 15, Operand.tmp 19], argTypes := #[46, 4] }, type := 2, pos := "ref.go:127", after := #[{ on := 3, ground := Ground.data }, { on := 7, ground := Ground.data }], guard := none }) rfl (fun K hK => ?_) AllReadyH.nil
        go_simp
        refine (rvalid_any x y c W).mono ?_
        rintro e' Wx ⟨rfl, hb⟩
        rw [HVE.out]
        have hIWx := hIW.trans (hb.mono hIW.size)
        go_wp2_with fail
        refine hK.out _ _ (hfull.out _ hIWx) (fun hHeld => ?_)
        clear hK K hb hIW
        try simp only [Act.put, List.setIfInBounds_toArray, List.set_cons_zero, List.set_cons_succ]
        refine wpAnyH_take (i := 9) (oi := { dst := some 21, op := Op.binOp BinOp.neq 2 (Operand.tmp 20) (Operand.const (Value.int IntKind.i64 0)) 2, type := 4, pos := "ref.go:127", after := #[{ on := 8, ground := Ground.data }], guard := none }) (v := ?vv9) rfl (by kernel_rfl) (by kernel_rfl) (by kernel_rfl) (fun _ _ _ h => h) (Or.inl ⟨by rfl, ?hy9⟩) (by assumption) ?_
        case hy9 => (intro w hSw; (try dsimp only at hSw); go_simp; all_goals with_reducible rfl)
        try simp only [Act.put, List.setIfInBounds_toArray, List.set_cons_zero, List.set_cons_succ]
        refine wpAnyH_done (by kernel_rfl) ?_ _
        go_wp2_with fail
        go_roundw
        case rel => exact ⟨k + 1, by omega, by simp, by rw [HA.out]; rfl, hIWx⟩
        case measure => simp [intOf]; omega
      · have hzb : (V != 0) = true := by simpa using hz
        have hC1 : Hid (C = 1) := HV.out hz
        go_wp2_with fail
        have hIW : Below w.heap.size w wr.drew := hB.drew
        refine wp_region_held_drew (S := (fun W => W.cell? ⟨Bk, off + k * 2, none⟩ = some (.int .i64 x) ∧ W.cell? ⟨Bk, off + k * 2 + 1, none⟩ = some (.int .i64 y) ∧ W.cell? ⟨r, 0, none⟩ = some (.bool c))) (by kernel_rfl) (hfull.out _ hIW) (fun hHeld => ?_)
        generalize hWg : World.drew _ = W at hIW hHeld ⊢
        clear hWg
        refine wpAnyH_take (i := 0) (oi := { dst := some 12, op := Op.move (Operand.tmp 1), type := 30, pos := "ref.go:127", after := #[], guard := none }) (v := ?vv10) rfl (by kernel_rfl) (by kernel_rfl) (by kernel_rfl) (fun _ _ _ h => h) (Or.inl ⟨by rfl, ?hy10⟩) (by assumption) ?_
        case hy10 => (intro w hSw; (try dsimp only at hSw); go_simp; all_goals with_reducible rfl)
        try simp only [Act.put, List.setIfInBounds_toArray, List.set_cons_zero, List.set_cons_succ]
        refine wpAnyH_take (i := 1) (oi := { dst := some 13, op := Op.move (Operand.tmp 5), type := 3, pos := "ref.go:127", after := #[], guard := none }) (v := ?vv11) rfl (by kernel_rfl) (by kernel_rfl) (by kernel_rfl) (fun _ _ _ h => h) (Or.inl ⟨by rfl, ?hy11⟩) (by assumption) ?_
        case hy11 => (intro w hSw; (try dsimp only at hSw); go_simp; all_goals with_reducible rfl)
        try simp only [Act.put, List.setIfInBounds_toArray, List.set_cons_zero, List.set_cons_succ]
        refine wpAnyH_take (i := 2) (oi := { dst := some 14, op := Op.indexAddr 30 (Operand.tmp 12) (Operand.tmp 13), type := 0, pos := "ref.go:127", after := #[{ on := 0, ground := Ground.data }, { on := 1, ground := Ground.data }], guard := none }) (v := ?vv12) rfl (by kernel_rfl) (by kernel_rfl) (by kernel_rfl) (fun _ _ _ h => h) (Or.inl ⟨by rfl, ?hy12⟩) (by assumption) ?_
        case hy12 => (intro w hSw; (try dsimp only at hSw); go_simp; all_goals with_reducible rfl)
        try simp only [Act.put, List.setIfInBounds_toArray, List.set_cons_zero, List.set_cons_succ]
        refine wpAnyH_take (i := 3) (oi := { dst := some 15, op := Op.load 46 (Operand.tmp 14), type := 46, pos := "ref.go:127", after := #[{ on := 2, ground := Ground.data }], guard := none }) (v := ?vv13) rfl (by kernel_rfl) (by kernel_rfl) (by kernel_rfl) (fun _ _ _ h => h) (Or.inl ⟨by rfl, ?hy13⟩) (by assumption) ?_
        case hy13 => (intro w hSw; (try dsimp only at hSw); go_simp; all_goals with_reducible rfl)
        try simp only [Act.put, List.setIfInBounds_toArray, List.set_cons_zero, List.set_cons_succ]
        refine wpAnyH_take (i := 4) (oi := { dst := some 16, op := Op.move (Operand.tmp 0), type := 55, pos := "ref.go:127", after := #[], guard := none }) (v := ?vv14) rfl (by kernel_rfl) (by kernel_rfl) (by kernel_rfl) (fun _ _ _ h => h) (Or.inl ⟨by rfl, ?hy14⟩) (by assumption) ?_
        case hy14 => (intro w hSw; (try dsimp only at hSw); go_simp; all_goals with_reducible rfl)
        try simp only [Act.put, List.setIfInBounds_toArray, List.set_cons_zero, List.set_cons_succ]
        refine wpAnyH_take (i := 5) (oi := { dst := some 17, op := Op.nilCheck (Operand.tmp 16), type := 0, pos := "ref.go:127", after := #[{ on := 4, ground := Ground.data }], guard := none }) (v := ?vv15) rfl (by kernel_rfl) (by kernel_rfl) (by kernel_rfl) (fun _ _ _ h => h) (Or.inl ⟨by rfl, ?hy15⟩) (by assumption) ?_
        case hy15 => (intro w hSw; (try dsimp only at hSw); go_simp; all_goals with_reducible rfl)
        try simp only [Act.put, List.setIfInBounds_toArray, List.set_cons_zero, List.set_cons_succ]
        refine wpAnyH_take (i := 6) (oi := { dst := some 18, op := Op.fieldAddr 72 (Operand.tmp 17) 0, type := 0, pos := "ref.go:127", after := #[{ on := 5, ground := Ground.data }], guard := none }) (v := ?vv16) rfl (by kernel_rfl) (by kernel_rfl) (by kernel_rfl) (fun _ _ _ h => h) (Or.inl ⟨by rfl, ?hy16⟩) (by assumption) ?_
        case hy16 => (intro w hSw; (try dsimp only at hSw); go_simp; all_goals with_reducible rfl)
        try simp only [Act.put, List.setIfInBounds_toArray, List.set_cons_zero, List.set_cons_succ]
        refine wpAnyH_take (i := 7) (oi := { dst := some 19, op := Op.load 4 (Operand.tmp 18), type := 4, pos := "ref.go:127", after := #[{ on := 6, ground := Ground.data }], guard := none }) (v := ?vv17) rfl (by kernel_rfl) (by kernel_rfl) (by kernel_rfl) (fun _ _ _ h => h) (Or.inl ⟨by rfl, ?hy17⟩) (by assumption) ?_
        case hy17 => (intro w hSw; (try dsimp only at hSw); go_simp; all_goals with_reducible rfl)
        try simp only [Act.put, List.setIfInBounds_toArray, List.set_cons_zero, List.set_cons_succ]
        refine wpAnyH_ready (rs := [8]) (by kernel_rfl) (by simp) ?_
        refine AllReadyH.cons (o := { dst := some 20, op := Op.call { callee := Callee.value (Operand.func 23), args := #[Operand.tmp 15, Operand.tmp 19], argTypes := #[46, 4] }, type := 2, pos := "ref.go:127", after := #[{ on := 3, ground := Ground.data }, { on := 7, ground := Ground.data }], guard := none }) rfl (fun K hK => ?_) AllReadyH.nil
        go_simp
        refine (rvalid_any x y c W).mono ?_
        rintro e' Wx ⟨rfl, hb⟩
        rw [HVE.out]
        have hIWx := hIW.trans (hb.mono hIW.size)
        go_wp2_with fail
        refine hK.out _ _ (hfull.out _ hIWx) (fun hHeld => ?_)
        clear hK K hb hIW
        try simp only [Act.put, List.setIfInBounds_toArray, List.set_cons_zero, List.set_cons_succ]
        refine wpAnyH_take (i := 9) (oi := { dst := some 21, op := Op.binOp BinOp.neq 2 (Operand.tmp 20) (Operand.const (Value.int IntKind.i64 0)) 2, type := 4, pos := "ref.go:127", after := #[{ on := 8, ground := Ground.data }], guard := none }) (v := ?vv18) rfl (by kernel_rfl) (by kernel_rfl) (by kernel_rfl) (fun _ _ _ h => h) (Or.inl ⟨by rfl, ?hy18⟩) (by assumption) ?_
        case hy18 => (intro w hSw; (try dsimp only at hSw); go_simp; all_goals with_reducible rfl)
        try simp only [Act.put, List.setIfInBounds_toArray, List.set_cons_zero, List.set_cons_succ]
        refine wpAnyH_done (by kernel_rfl) ?_ _
        go_wp2_with fail
        go_ret
        exact ⟨by rw [hC1.out]; rfl, fun _ => hIWx, fun h => by rw [hC1.out] at h; exact absurd h (by decide)⟩
    · obtain rfl : k = n := by omega
      rw [List.take_of_length_le (by omega)] at hv
      have e0 := (hB.cell hrl).trans c0
      have e1 := (hB.cell hrl).trans c1
      have e2 := (hB.cell hrl).trans c2
      have hrw : r < wr.heap.size := Nat.lt_of_lt_of_le hrl hB.size
      obtain ⟨m, hm⟩ : ∃ m, N - d = m := ⟨_, rfl⟩
      have hsub : (N : Int) - (d : Int) = (m : Int) := by omega
      by_cases h64 : 64 ≤ m
      · have hC6 : Hid (C = 6) := by
          have := HC.out
          unfold rsendC at this
          rw [hv, if_neg (by simp), HLN.out, hm, if_pos h64] at this
          exact this.symm
        have hdb : decide ((64 : Int) ≤ (m : Int)) = true := by simp; omega
        have h64i : (64 : Int) ≤ (m : Int) := by omega
        clear HP hv hm hlen
        go_wp2_with fail
        go_region
        all_goals
          go_wp2_with fail
          go_ret
          exact ⟨by rw [hC6.out]; rfl, fun _ => hB.drew, fun h => by rw [hC6.out] at h; exact absurd h (by decide)⟩
      · have hC0 : Hid (C = 0) := by
          have := HC.out
          unfold rsendC at this
          rw [hv, if_neg (by simp), HLN.out, hm, if_neg h64] at this
          exact this.symm
        have hdb : decide ((64 : Int) ≤ (m : Int)) = false := by simp; omega
        have h64i : ¬ (64 : Int) ≤ (m : Int) := by omega
        have hb := HR.out.below hB
        have hbd := hb.below (Below.refl _ wr).drew
        have hbdd := hbd.below (Below.refl _ wr.drew).drew
        obtain ⟨zb, zc, v1, hr1, hR1, hG1⟩ := app okP wr.drew.drew (.slice none 0 0) [] (R.nil _ _) _ l (HL.out.below (hB.drew).drew) (by simp only [EP, List.length_nil]; omega)
        simp only [List.length_nil, Nat.zero_add, List.nil_append, hlen] at hr1 hR1
        have hbel1 := hG1.fresh
        have hnew1 := hG1.new
        have hb1 := hbdd.below hbel1
        have hba := bel1 v1 (.cells #[.slice zb k zc] 30)
        have hb2 := hb1.below hba
        have hR2 := hR1.below hba
        obtain ⟨tb, tc, v2, hr2, hR3, hG3⟩ := app okL _ _ xs hb2.row _ _ (in_one (E := EL) (v1.alloc (.cells #[.slice zb k zc] 30)) v1.heap.size (zb, k, zc) _ 30 (0, 0) (heap_alloc_new _ _) rfl) (by simp only [EL, List.length_cons, List.length_nil]; rw [HNx.out]; omega)
        simp only [List.length_cons, List.length_nil, Nat.zero_add, HNx.out] at hr2 hR3 hG3
        have hrne : (sv (sb, N, scap)).ownBlock ≠ some r := fun e => by
          obtain ⟨cs, hc⟩ := hb2.row.ty r e
          rw [hb2.blk] at hc
          simp [EL] at hc
        have hblk3 : v2.heap[r]? = some (.cells #[.bool c, .slice sb N scap, .int .i64 (d : Int)] 72 (0, 0)) := (hG3.block r hb2.lt hrne).trans hb2.blk
        have hsz1 : wr.heap.size ≤ v1.heap.size := hbel1.size
        have hfin : Hid (∃ sx' x, Rb (v2.setCell ⟨r, 1, none⟩ (.slice tb (N + 1) tc)) r c sx' (xs ++ [x]) (ls ++ [l]) d ∧ Ks (Owr r (sb, N, scap)) w (v2.setCell ⟨r, 1, none⟩ (.slice tb (N + 1) tc)) ∧ (∀ k, (sv sx').ownBlock = some k → (sv (sb, N, scap)).ownBlock = some k ∨ w.heap.size ≤ k) ∧ (∀ k, (sv x).ownBlock = some k → w.heap.size ≤ k)) := by
          have hks : Ks (fun k => k = r) v2 (v2.setCell ⟨r, 1, none⟩ (.slice tb (N + 1) tc)) := Ks.setCell _ v2 r 1 _ rfl
          have hown : ∀ k, (sv (tb, N + 1, tc)).ownBlock = some k → (sv (sb, N, scap)).ownBlock = some k ∨ w.heap.size ≤ k := fun k hk => (hG3.own k hk).imp id fun hh => by
            rw [size_al] at hh
            have := hB.size
            omega
          have hner : ∀ k cs (t : TypeId), v2.heap[k]? = some (.cells cs t (0, 0)) → t ≠ 72 → k ≠ r := fun k cs t hk ht e => by
            rw [e, hblk3] at hk
            injection hk with hk
            injection hk with _ hk _
            exact ht hk.symm
          have hstay : ∀ (v : Value) (q : List (Int × Int)), R EP (v1.alloc (.cells #[.slice zb k zc] 30)) v q → R EP (v2.setCell ⟨r, 1, none⟩ (.slice tb (N + 1) tc)) v q := fun v q hq => by
            have h2 : R EP v2 v q := hq.stays fun i e hl => hG3.block i hl fun e2 => by
              obtain ⟨cs, hc⟩ := hq.ty i e
              obtain ⟨cs2, hc2⟩ := hb2.row.ty i e2
              rw [hc] at hc2
              simp [EL, EP] at hc2
            exact h2.stays fun i e hl => hks.block i hl fun e2 => by
              obtain ⟨cs, hc⟩ := h2.ty i e
              exact hner i cs _ hc (by simp [EP]) e2
          refine ⟨(tb, N + 1, tc), (zb, k, zc), ⟨setCell_block _ _ _ _ _ _ _ hblk3, ?_, by rw [List.length_append, List.length_append, hb.len]; rfl, fun i hi => ?_, by rw [List.length_append, HLN.out]; omega⟩, ?_, hown, fun j hj => ?_⟩
          · have : R EL v2 (sv (tb, N + 1, tc)) (xs ++ [(zb, k, zc)]) := hR3
            exact this.stays fun i e hl => hks.block i hl fun e2 => by
              obtain ⟨cs, hc⟩ := this.ty i e
              exact hner i cs _ hc (by simp [EL]) e2
          · by_cases hix : i < xs.length
            · have e1 : (xs ++ [(zb, k, zc)])[i] = xs[i] := List.getElem_append_left hix
              have e2 : (ls ++ [l])[i]'(by rw [List.length_append]; have := hb.len; omega) = ls[i]'(by have := hb.len; omega) := List.getElem_append_left (by have := hb.len; omega)
              rw [e1, e2]
              exact hstay _ _ (hb2.lists i hix)
            · have hi2 : i = xs.length := by rw [List.length_append] at hi; simp at hi; omega
              subst hi2
              have e1 : (xs ++ [(zb, k, zc)])[xs.length] = (zb, k, zc) := by simp
              have e2 : (ls ++ [l])[xs.length]'(by rw [List.length_append]; have := hb.len; simp; omega) = l := by
                rw [List.getElem_append_right (by have := hb.len; omega)]
                simp
              rw [e1, e2]
              exact hstay _ _ hR2
          · have hbw : Below w.heap.size w (v1.alloc (.cells #[.slice zb k zc] 30)) := (hB.drew).drew.trans ((hbel1.trans (hba.mono hbel1.size)).mono hB.size)
            exact (Ks.of_below (A := Owr r (sb, N, scap)) hbw).trans ((Ks.of_gr hG3).trans hks (C := Owr r (sb, N, scap)) (fun _ _ e => .inr e) (fun _ _ e => .inl e)) (fun _ _ e => e) (fun _ _ e => e)
          · have h1 := hnew1 j (by simp only [List.length_nil, Nat.zero_add, hlen]; exact hj)
            have h2 : wr.drew.drew.heap.size = wr.heap.size := rfl
            have h3 := hB.size
            omega
        have g1 : v1.cell? ⟨r, 1, none⟩ = some (.slice sb N scap) := cell_blk hb1.blk 1
        have g2 : v2.cell? ⟨r, 1, none⟩ = some (.slice sb N scap) := cell_blk hblk3 1
        have gf := frozen_blk hblk3 1
        have hrv : r < v1.heap.size := hb1.lt
        simp only [EP, EL, sv] at hr1 hr2
        obtain ⟨N1, hN1⟩ : ∃ N1, N + 1 = N1 := ⟨_, rfl⟩
        rw [hN1] at hr2 hfin
        replace hr1 : Hid _ := hr1
        replace hr2 : Hid _ := hr2
        clear HP hv hm hlen hb hbd hbdd hR1 hG1 hbel1 hnew1 hb1 hba hb2 hR2 hR3 hG3 hrne hblk3 hsz1 hN1
        go_wp2_with fail
        go_region
        all_goals
          go_wp2_with fail
          go_region_law (first | refine step_append_run rfl (.const (.slice none 0 0)) (.tmp 38) 30 30 rfl hr1.out (by first | (simp [Act.eval]; done) | rfl | kernel_rfl) (by first | (simp [Act.eval]; done) | rfl | kernel_rfl) ?_ | refine step_append_run rfl (.tmp 37) (.tmp 40) 29 29 rfl hr2.out (by first | (simp [Act.eval]; done) | rfl | kernel_rfl) (by first | (simp [Act.eval]; done) | rfl | kernel_rfl) ?_)
          all_goals
            go_wp2_with fail
            go_ret
            exact ⟨by rw [hC0.out]; rfl, fun h => absurd hC0.out h, fun _ => hfin.out⟩
end Go.Proofs.YtfkimdgbkfogcaaDoor
