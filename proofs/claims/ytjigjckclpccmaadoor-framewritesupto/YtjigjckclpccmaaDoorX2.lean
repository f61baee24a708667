/- The document's lists. -/
import Derived.Test.YtjigjckclpccmaaDoorX1
namespace Go.Proofs.YtjigjckclpccmaaDoor
open Go.RowKit
set_option linter.unusedVariables false
set_option linter.unusedSimpArgs false

def okQ (q : Int × Int) : Bool := wiS q.1 65535 && wiS q.2 4294967295
def liT (f : Fr) : Bool := if f.ty = 2 ∨ f.ty = 3 ∨ f.ty = 4 ∨ f.ty = 8 then f.data.toList.isEmpty else if f.ty = 6 then decide (f.data.size = 8) else true
def liB (f : Fr) (ps : List (Int × Int)) : Bool := !(decide (0 < ps.length) && (decide (f.ty ≠ 4) || decide (f.fl ≠ 0))) && ps.all okQ && liT f

theorem PIn.sl {w : World} {v : Value} {l : List (Int × Int)} (h : PIn w v l) : ∃ b c, v = .slice b l.length c := by
  rcases h with ⟨b, cap, rfl, rfl⟩ | ⟨B, off, cap, rfl, _⟩
  · exact ⟨b, cap, rfl⟩
  · exact ⟨_, cap, rfl⟩
theorem PIn.get {w : World} {b : Option Addr} {n c : Nat} {l : List (Int × Int)} (h : PIn w (.slice b n c) l) (k : Nat) (hk : k < l.length) : ∃ B off, b = some ⟨B, off, none⟩ ∧ n = l.length ∧ n ≤ c ∧ c ≤ 9223372036854775807 ∧ B < w.heap.size ∧ w.cell? ⟨B, off + k * 2, none⟩ = some (.int .i64 l[k].1) ∧ w.cell? ⟨B, off + k * 2 + 1, none⟩ = some (.int .i64 l[k].2) := by
  rcases h with ⟨_, _, e, rfl⟩ | ⟨B, off, cap, e, h1, h2, h3, h4⟩
  · simp at hk
  · injection e with e1 e2 e3
    have := h4 k hk
    exact ⟨B, off, e1, e2, by omega, by omega, h3, this.1, this.2⟩

set_option maxRecDepth 100000 in
set_option maxHeartbeats 4000000 in
theorem lists_any (f : Fr) (p : Value) (ps : List (Int × Int)) (w : World) (hp : PIn w p ps) (hn : ps.length ≤ 9223372036854775807) : Calls Tryd.prog 47 #[.agg (fv f p)] w fun e w' => e = .returned (.bool (liB f ps)) ∧ Below w.heap.size w w' := by
  have hc := fun n m (W : World) => within_any n m W
  obtain ⟨pb, pc, rfl⟩ := hp.sl
  obtain ⟨n, hnl⟩ : ∃ n, ps.length = n := ⟨_, rfl⟩
  rw [hnl] at hp hn ⊢
  have HN : Hid (ps.length = n) := hnl
  have HP : Hid (PIn w (.slice pb n pc) ps) := hp
  obtain ⟨R, hR⟩ : ∃ R, liB f ps = R := ⟨_, rfl⟩
  rw [hR]
  obtain ⟨ty, fl, st, data, pad, dep, excl, wt, code, last⟩ := f
  unfold liB at hR
  simp only [hnl] at hR
  have hB0 : Below w.heap.size w (w.alloc (.cells (fv ⟨ty, fl, st, data, pad, dep, excl, wt, code, last⟩ (.slice pb n pc)) 28)) := (Below.refl _ w).alloc (Nat.le_refl _) _
  unfold fv at *
  simp only at *
  clear hp hnl
  by_cases h0 : 0 < n ∧ (ty ≠ 4 ∨ fl ≠ 0)
  · have hRf : R = false := by rw [← hR]; simp; omega
    subst hRf
    have hn0 : (0 : Int) < (n : Int) := by omega
    by_cases h4 : ty = 4
    · subst h4
      have hf : (fl != 0) = true := by simp; omega
      go_enter Tryd.func47, Tryd.ntmps47
      go_wp2
      go_ret
      exact ⟨rfl, hB0⟩
    · have t4 : (ty != 4) = true := by simpa using h4
      go_enter Tryd.func47, Tryd.ntmps47
      go_wp2
      go_ret
      exact ⟨rfl, hB0⟩
  · have hR2 : (ps.all okQ && liT ⟨ty, fl, st, data, pad, dep, excl, wt, code, last⟩) = R := by
      rw [← hR]
      by_cases hz : 0 < n
      · have : ty = 4 ∧ fl = 0 := by omega
        simp [this.1, this.2]
      · simp [hz]
    have hT : Hid (ps.all okQ = true → liT ⟨ty, fl, st, data, pad, dep, excl, wt, code, last⟩ = R) := fun h => by rw [← hR2, h]; rfl
    have hF : Hid (ps.all okQ = false → R = false) := fun h => by rw [← hR2, h]; rfl
    have hcond : (0 < n ∧ ty = 4 ∧ fl = 0) ∨ n = 0 := by omega
    obtain ⟨g, hg⟩ : ∃ g, w.heap.size = g := ⟨_, rfl⟩
    obtain ⟨W0, hW0⟩ : ∃ W0, w.alloc (.cells #[.int .i64 ty, .int .i64 fl, .int .i64 st, .string data, .int .i64 pad, .int .i64 dep, .bool excl, .int .i64 wt, .int .i64 code, .int .i64 last, .slice pb n pc] 28) = W0 := ⟨_, rfl⟩
    have hblk : W0.heap[g]? = some (.cells #[.int .i64 ty, .int .i64 fl, .int .i64 st, .string data, .int .i64 pad, .int .i64 dep, .bool excl, .int .i64 wt, .int .i64 code, .int .i64 last, .slice pb n pc] 28 (0, 0)) := by rw [← hW0, ← hg]; exact heap_alloc_new _ _
    have c0 : W0.cell? ⟨g, 0, none⟩ = _ := cell_of_row _ _ _ _ _ _ hblk
    have c1 : W0.cell? ⟨g, 1, none⟩ = _ := cell_of_row _ _ _ _ _ _ hblk
    have c3 : W0.cell? ⟨g, 3, none⟩ = _ := cell_of_row _ _ _ _ _ _ hblk
    have c10 : W0.cell? ⟨g, 10, none⟩ = _ := cell_of_row _ _ _ _ _ _ hblk
    simp only [List.getElem?_toArray, List.getElem?_cons_zero, List.getElem?_cons_succ] at c0 c1 c3 c10
    rw [hW0] at hB0
    have HB : Hid (Below w.heap.size w W0) := hB0
    clear hR h0 hR2 hblk hB0
    go_enter Tryd.func47, Tryd.ntmps47
    rcases hcond with ⟨hn0, rfl, rfl⟩ | rfl
    · have e0 : (0 : Int) < (n : Int) := by omega
      go_wp2_with fail
      go_loopw [3] (fun x wr => ∃ k : Nat, k ≤ n ∧ x = .int .i64 (k : Int) ∧ wr = W0 ∧ Hid ((ps.take k).all okQ = true)) (fun x _ => n - (intOf x).toNat)
      case atStart => exact ⟨0, Nat.zero_le _, rfl, rfl, (by simp : (ps.take 0).all okQ = true)⟩
      case round =>
        obtain ⟨k, hk, rfl, rfl, HK⟩ := hrel
        by_cases hlt : k < n
        · have hlen := HN.out
          obtain ⟨B, off, rfl, hx, hc1, hc2, hBl, d1, d2⟩ := HP.out.get k (by omega)
          clear hx
          replace d1 := (HB.out.cell hBl).trans d1
          replace d2 := (HB.out.cell hBl).trans d2
          obtain ⟨q, hq⟩ : ∃ q, ps[k]'(by omega) = q := ⟨_, rfl⟩
          have hsucc' : (ps.take (k + 1)).all okQ = okQ q := by
            rw [List.take_succ_eq_append_getElem (by omega), List.all_append, HK.out, hq]
            simp
          have hsucc : Hid ((ps.take (k + 1)).all okQ = okQ q) := hsucc'
          clear hsucc'
          have hmem : Hid (okQ q = false → ps.all okQ = false) := fun h => by
            rw [List.all_eq_false]
            exact ⟨q, hq ▸ List.getElem_mem _, by rw [h]; decide⟩
          rw [hq] at d1 d2
          obtain ⟨x, y⟩ := q
          simp only at d1 d2
          have hlti : (k : Int) < (n : Int) := by omega
          obtain ⟨C, hC⟩ : ∃ C, wiS x 65535 = C := ⟨_, rfl⟩
          obtain ⟨D, hD⟩ : ∃ D, wiS y 4294967295 = D := ⟨_, rfl⟩
          have c45a : ∀ W, Calls Tryd.prog 45 #[.int .i64 x, .int .i64 65535] W fun e w' => e = .returned (.bool C) ∧ w' = W := fun W => by rw [← hC]; exact within_any _ _ _
          have c45b : ∀ W, Calls Tryd.prog 45 #[.int .i64 y, .int .i64 4294967295] W fun e w' => e = .returned (.bool D) ∧ w' = W := fun W => by rw [← hD]; exact within_any _ _ _
          have hok : Hid (okQ (x, y) = (C && D)) := by show (wiS x 65535 && wiS y 4294967295) = _; rw [hC, hD]
          clear hC hD hlen hq hc
          cases C
          · have hRf : R = false := hF.out (hmem.out (by rw [hok.out]; rfl))
            subst hRf
            go_wp2_with fail
            refine (c45a _).mono ?_
            rintro e w' ⟨rfl, rfl⟩
            go_wp2
            go_ret
            exact ⟨rfl, HB.out⟩
          · cases D
            · have hRf : R = false := hF.out (hmem.out (by rw [hok.out]; rfl))
              subst hRf
              go_wp2_with fail
              refine (c45a _).mono ?_
              rintro e w' ⟨rfl, rfl⟩
              go_wp2_with fail
              refine (c45b _).mono ?_
              rintro e w' ⟨rfl, rfl⟩
              go_wp2
              go_ret
              exact ⟨rfl, HB.out⟩
            · go_wp2_with fail
              refine (c45a _).mono ?_
              rintro e w' ⟨rfl, rfl⟩
              go_wp2_with fail
              refine (c45b _).mono ?_
              rintro e w' ⟨rfl, rfl⟩
              go_wp2_with fail
              go_roundw
              case rel => exact ⟨k + 1, by omega, by simp, trivial, ((hsucc.out.trans hok.out) : (ps.take (k + 1)).all okQ = true)⟩
              case measure => simp [intOf]; omega
        · obtain rfl : k = n := by omega
          have hall : ps.all okQ = true := by have := HK.out; rwa [List.take_of_length_le (by have := HN.out; omega)] at this
          have hR := hT.out hall
          have hlti : ¬ (k : Int) < (k : Int) := by omega
          clear hall HK hT hF
          unfold liT at hR
          simp only at hR
          rw [if_pos (by simp)] at hR
          go_wp2
          go_ret
          exact ⟨rfl, hg ▸ HB.out⟩
    · have e0 : ¬ (0 : Int) < ((0 : Nat) : Int) := by omega
      go_wp2_with fail
      go_loopw [3] (fun x wr => ∃ k : Nat, k ≤ 0 ∧ x = .int .i64 (k : Int) ∧ wr = W0 ∧ Hid ((ps.take k).all okQ = true)) (fun x _ => 0 - (intOf x).toNat)
      case atStart => exact ⟨0, Nat.zero_le _, rfl, rfl, (by simp : (ps.take 0).all okQ = true)⟩
      case round =>
        obtain ⟨k, hk, rfl, rfl, HK⟩ := hrel
        by_cases hlt : k < 0
        · omega
        · obtain rfl : k = 0 := by omega
          have hall : ps.all okQ = true := by have := HK.out; rwa [List.take_of_length_le (by have := HN.out; omega)] at this
          have hR := hT.out hall
          skip
          clear hall HK hT hF
          unfold liT at hR
          simp only at hR
          by_cases t2 : ty = 2
          · subst t2
            rw [if_pos (by simp)] at hR
            go_wp2
            go_ret
            exact ⟨rfl, hg ▸ HB.out⟩
          by_cases t3 : ty = 3
          · subst t3
            rw [if_pos (by simp)] at hR
            go_wp2
            go_ret
            exact ⟨rfl, hg ▸ HB.out⟩
          by_cases t4 : ty = 4
          · subst t4
            rw [if_pos (by simp)] at hR
            go_wp2
            go_ret
            exact ⟨rfl, hg ▸ HB.out⟩
          by_cases t8 : ty = 8
          · subst t8
            rw [if_pos (by simp)] at hR
            go_wp2
            go_ret
            exact ⟨rfl, hg ▸ HB.out⟩
          rw [if_neg (by omega)] at hR
          have b2 : (ty == 2) = false := by simpa using t2
          have b3 : (ty == 3) = false := by simpa using t3
          have b4 : (ty == 4) = false := by simpa using t4
          have b8 : (ty == 8) = false := by simpa using t8
          by_cases t6 : ty = 6
          · subst t6
            rw [if_pos rfl] at hR
            have hR' : ((data.size : Int) == 8) = R := by
              rw [← hR, Bool.eq_iff_iff]
              simp
              omega
            clear hR
            go_wp2
            go_ret
            exact ⟨rfl, hg ▸ HB.out⟩
          · have b6 : (ty == 6) = false := by simpa using t6
            rw [if_neg t6] at hR
            subst hR
            go_wp2
            go_ret
            exact ⟨rfl, hg ▸ HB.out⟩
end Go.Proofs.YtjigjckclpccmaaDoor
