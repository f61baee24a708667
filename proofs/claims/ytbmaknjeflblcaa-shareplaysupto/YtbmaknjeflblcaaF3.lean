/- The document's share: Drop. -/
import Derived.Test.YtbmaknjeflblcaaF2
namespace Go.Proofs.Ytbmaknjeflblcaa
open Go.RowKit Go.Maps
set_option linter.unusedVariables false
set_option linter.unusedSimpArgs false

theorem In.front {α : Type} {E : El α} {w : World} {B n cap : Nat} {l : List α} (h : In E w (.slice (some ⟨B, 0, none⟩) n cap) l) (k : Nat) (hk : k ≤ l.length) : In E w (.slice (some ⟨B, 0, none⟩) k cap) (l.take k) := by
  rcases h with ⟨h, _⟩ | ⟨a, c, h1, h2, h3, h4⟩
  · cases h
  · injection h1 with h1 h5 h6
    injection h1 with h1
    subst h1 h6
    refine .inr ⟨_, cap, by rw [List.length_take, Nat.min_eq_left hk], by rw [List.length_take]; omega, h3, fun j u hu => h4 j u ?_⟩
    have hj := (List.getElem?_eq_some_iff.1 hu).1
    have : E.cs l = E.cs (l.take k) ++ E.cs (l.drop k) := by rw [← El.cs_append, List.take_append_drop]
    rw [this, List.getElem?_append_left hj]
    exact hu
theorem In.behind {α : Type} {E : El α} (ok : E.Ok) {w : World} {B n cap : Nat} {l : List α} (h : In E w (.slice (some ⟨B, 0, none⟩) n cap) l) (k : Nat) (hk : k ≤ l.length) : ∃ a c, sliced (some ⟨B, 0, none⟩) k n cap E.sz = .slice (some a) (l.length - k) c ∧ In E w (.slice (some a) (l.length - k) c) (l.drop k) := by
  rcases h with ⟨h, _⟩ | ⟨a, c, h1, h2, h3, h4⟩
  · cases h
  · injection h1 with h1 h5 h6
    injection h1 with h1
    subst h1 h6 h5
    unfold sliced
    by_cases hc : cap = k
    · rw [if_pos hc]
      refine ⟨_, _, rfl, .inr ⟨_, cap - k, by rw [List.length_drop], by rw [List.length_drop]; omega, by omega, fun j u hu => ?_⟩⟩
      rw [List.drop_of_length_le (by omega)] at hu
      simp [El.cs] at hu
    · rw [if_neg hc]
      refine ⟨(⟨B, 0, none⟩ : Addr).add (k * E.sz), _, rfl, .inr ⟨_, cap - k, by rw [List.length_drop], by rw [List.length_drop]; omega, by omega, fun j u hu => ?_⟩⟩
      have : (E.cs l)[k * E.sz + j]? = some u := by
        have e : E.cs l = E.cs (l.take k) ++ E.cs (l.drop k) := by rw [← El.cs_append, List.take_append_drop]
        have hl : (E.cs (l.take k)).length = k * E.sz := by rw [ok.length, List.length_take, Nat.min_eq_left hk]
        rw [e, List.getElem?_append_right (by omega), hl, Nat.add_sub_cancel_left]
        exact hu
      have h6 := h4 _ _ this
      rw [Addr.add_lit] at h6
      rw [Addr.add_lit, Addr.add_lit, Nat.add_assoc]
      exact h6
set_option maxRecDepth 100000 in
theorem slice74_h {g n m c : Nat} (hm : m ≤ c) (W : World) : (Instr.slice 74 (.slice (some ⟨g, 0, none⟩) n c) none (some (.int .i64 (m : Int))) none).run Try.prog W = .ok (.slice (some ⟨g, 0, none⟩) m c) W := by
  have hs : (sizeOf 82).run Try.prog W = .ok 4 W := by kernel_rfl
  rw [run_slice_h (P := Try.prog) W 74 (some ⟨g, 0, none⟩) n c Try.underlying74 .i64 (m : Int) (by omega) (by omega)]
  show ((sizeOf 82).run Try.prog W).andThen _ = _
  rw [hs]
  simp [Result.andThen, sliced, Addr.add]
set_option maxRecDepth 100000 in
theorem slice74_l {g n m c : Nat} {v : Value} (hm : m ≤ n) (hv : sliced (some ⟨g, 0, none⟩) m n c 4 = v) (W : World) : (Instr.slice 74 (.slice (some ⟨g, 0, none⟩) n c) (some (.int .i64 (m : Int))) none none).run Try.prog W = .ok v W := by
  have hs : (sizeOf 82).run Try.prog W = .ok 4 W := by kernel_rfl
  rw [run_slice_l (P := Try.prog) W 74 (some ⟨g, 0, none⟩) n c Try.underlying74 .i64 (m : Int) (by omega) (by omega)]
  show ((sizeOf 82).run Try.prog W).andThen _ = _
  rw [hs, ← hv]
  rfl
def rdropB (L : List Stm) (id : Int) : Bool := decide (0 < wN L id) || wE L id
def rdrop (L : List Stm) (id : Int) : List Stm := match ix L id with | none => L | some k => L.take k ++ L.drop (k + 1)
theorem R.base' {α : Type} {E : El α} {w : World} {v : SV} {l : List α} (h : R E w (sv v) l) (hl : 0 < l.length) : ∃ g cap, v = (some ⟨g, 0, none⟩, l.length, cap) ∧ l.length ≤ cap ∧ cap ≤ 9223372036854775807 ∧ g < w.heap.size := by
  rcases h.2 with ⟨hv, hn⟩ | ⟨g, cap, cur, hv, _, hg, hn, hm, _⟩
  · omega
  · refine ⟨g, cap, ?_, hn, by unfold maxLen at hm; omega, heap_lt hg⟩
    obtain ⟨a, b, c⟩ := v
    unfold sv at hv
    injection hv with e1 e2 e3
    simp only at e1 e2 e3
    rw [e1, e2, e3]
set_option maxRecDepth 100000 in
set_option maxHeartbeats 4000000 in
theorem rdrop_any (w : World) (N : Nat → Prop) (p : Nat) (L : List Stm) (id : Int) (h : Rn w N p L) (hl : L.length ≤ 1048576) :
    Calls Try.prog 28 #[.pointer (some ⟨p, 0, none⟩), .int .i64 id] w (RP w N p (rdrop L id) (.bool (rdropB L id))) := by
  obtain ⟨v, hs, hNp, hNv⟩ := h.s
  have hlt := h.lt
  have hat := at_any w p v L id hs
  unfold ixI at hat
  cases hix : ix L id with
  | none =>
    rw [hix] at hat
    simp only at hat
    have hfin : Hid (RP w N p (rdrop L id) (.bool (rdropB L id)) (.returned (.bool false)) w) := ⟨by unfold rdropB wN wE; rw [hix]; rfl, by rw [rdrop, hix]; exact h, ⟨rfl, rfl, rfl, Nat.le_refl _, fun _ _ => rfl⟩⟩
    generalize RP w N p (rdrop L id) (.bool (rdropB L id)) = Q at hfin ⊢
    clear h hs hix
    go_enter Try.func28, Try.ntmps28
    go_wp2_with fail
    refine hat.mono ?_
    rintro e w1 ⟨rfl, rfl⟩
    go_wp2_with fail
    exact hfin.out
  | some k =>
    rw [hix] at hat
    simp only at hat
    have hk := (ix_some hix).1
    have hwt := rwaits_any w p v L id hs
    obtain ⟨g, cap, rfl, hc1, hc2, hg⟩ := hs.r.base' (by omega)
    have HAT : Hid (Calls Try.prog 34 #[.pointer (some ⟨p, 0, none⟩), .int .i64 id] w fun e w' => e = .returned (.int .i64 (k : Int)) ∧ w' = w) := hat
    have HK : Hid (∀ w1, Below w.heap.size w w1 → ∃ (z1 z2 : Option Addr) (y1 y2 : Nat) (a : Addr) (ca : Nat) (w2 w3 : World), sliced (some ⟨g, 0, none⟩) (k + 1) L.length cap 4 = .slice (some a) (L.length - (k + 1)) ca ∧
        (Builtin.append_ #[74, 74] 74 #[.slice none 0 0, .slice (some ⟨g, 0, none⟩) k cap]).run Try.prog w1 = .ok (.slice z1 k y1) w2 ∧ (Builtin.append_ #[74, 74] 74 #[.slice z1 k y1, .slice (some a) (L.length - (k + 1)) ca]).run Try.prog w2 = .ok (.slice z2 (L.length - 1) y2) w3 ∧ w2.heap[p]? = some (.cells #[.slice (some ⟨g, 0, none⟩) L.length cap] 76 (0, 0)) ∧ w3.heap[p]? = some (.cells #[.slice (some ⟨g, 0, none⟩) L.length cap] 76 (0, 0)) ∧
        RP w N p (rdrop L id) (.bool (rdropB L id)) (.returned (.bool (rdropB L id))) (w3.setCell ⟨p, 0, none⟩ (.slice z2 (L.length - 1) y2))) := by
      intro w1 hB1
      have hs1 := hs.below hB1
      have hI1 := hs1.r.isIn
      unfold sv at hI1
      simp only at hI1
      obtain ⟨z1, y1, w2, hrun2, hR2, hG2⟩ := app okSt w1 (.slice none 0 0) [] (R.nil _ _) (.slice (some ⟨g, 0, none⟩) k cap) (L.take k) (hI1.front k (by omega)) (by simp [ESt]; omega)
      obtain ⟨a, ca, hsl, hI2⟩ := hI1.behind okSt (k + 1) (by omega)
      have hB2 := hG2.fresh
      obtain ⟨z2, y2, w3, hrun3, hR3, hG3⟩ := app okSt w2 _ _ hR2 (.slice (some a) (L.length - (k + 1)) ca) (L.drop (k + 1)) (hI2.below hB2) (by simp [ESt]; omega)
      have hlen1 : ([] : List Stm).length + (L.take k).length = k := by simp; omega
      have hlen2 : ([] ++ L.take k).length + (L.drop (k + 1)).length = L.length - 1 := by simp; omega
      rw [hlen1] at hrun2 hR2 hG2 hrun3 hG3
      rw [hlen2] at hrun3 hR3 hG3
      have hB3 : Below w1.heap.size w1 w3 := hB2.trans (hG3.belowB hB2.size hG2.new)
      have hp2 : w2.heap[p]? = some (.cells #[.slice (some ⟨g, 0, none⟩) L.length cap] 76 (0, 0)) := (hB2.block p (heap_lt hs1.blk)).trans hs1.blk
      have hp3 : w3.heap[p]? = some (.cells #[.slice (some ⟨g, 0, none⟩) L.length cap] 76 (0, 0)) := (hB3.block p (heap_lt hs1.blk)).trans hs1.blk
      have hnew : ∀ j, (Value.slice z2 (L.length - 1) y2).ownBlock = some j → w1.heap.size ≤ j := fun j hj => by
        rcases hG3.own j hj with e | e
        · exact hG2.new j e
        · have := hB2.size; omega
      refine ⟨z1, z2, y1, y2, a, ca, w2, w3, hsl, hrun2, hrun3, hp2, hp3, rfl, ⟨⟨(z2, L.length - 1, y2), ⟨by rw [setCell_block _ _ _ _ _ _ _ hp3]; rfl, ?_⟩, hNp, fun j hj e => ?_⟩, fun j hj => ?_⟩, ?_⟩
      · rw [rdrop, hix]
        simp only
        rw [List.nil_append] at hR3
        refine hR3.stays fun j hj _ => setCell_other _ _ _ _ _ fun e => ?_
        have := hnew j hj
        have := heap_lt hs1.blk
        omega
      · have := hnew j hj
        have := hlt j e
        have := hB1.size
        omega
      · have := hlt j hj
        have := hB1.size
        have := hB3.size
        simp [World.setCell]
        omega
      · refine ⟨hB3.os.trans hB1.os, hB3.tape.trans hB1.tape, hB3.output.trans hB1.output, by simp [World.setCell]; exact Nat.le_trans hB1.size hB3.size, fun j hj => ?_⟩
        have hjp : j ≠ p := fun e => hNp (by rw [← e]; exact hj)
        rw [setCell_other _ _ _ _ _ hjp, hB3.block j (Nat.lt_of_lt_of_le (hlt j hj) hB1.size)]
        exact hB1.block j (hlt j hj)
    have HC : Hid (∀ w1, Below w.heap.size w w1 → w1.cell? ⟨p, 0, none⟩ = some (.slice (some ⟨g, 0, none⟩) L.length cap) ∧ p < w1.heap.size) := fun w1 hB => by
      have := (hs.below hB).blk
      exact ⟨cell_blk this 0, heap_lt this⟩
    unfold rdropB at HK ⊢
    generalize wN L id = wn at HK hwt ⊢
    generalize wE L id = we at HK hwt ⊢
    have HWT : Hid (Calls Try.prog 29 #[.pointer (some ⟨p, 0, none⟩), .int .i64 id] w fun e w' => e = .returned (.tuple #[.int .i64 (wn : Int), .bool we]) ∧ Below w.heap.size w w') := hwt
    have kn : ¬ (k : Int) < 0 := by omega
    have HKC : Hid (k ≤ cap ∧ k + 1 ≤ L.length) := ⟨by omega, by omega⟩
    obtain ⟨n, hn⟩ : ∃ n, L.length = n := ⟨_, rfl⟩
    rw [hn] at HK HC HKC hl hc1
    clear hat hwt hs hNv hlt h hix hk hn
    have hlek : k ≤ 1048576 := by have := HKC.out; omega
    obtain ⟨m, hm⟩ : ∃ m, k + 1 = m := ⟨_, rfl⟩
    have kk : (k : Int) + 1 = (m : Int) := by omega
    rw [hm] at HK HKC
    clear hm
    by_cases hw0 : 0 < wn
    · have p0 : decide (0 < wn) = true := decide_eq_true hw0
      have p1 : (0 : Int) < (wn : Int) := by omega
      have p2 : decide ((0 : Int) < (wn : Int)) = true := decide_eq_true p1
      rw [p0, Bool.true_or] at HK ⊢
      generalize RP w N p (rdrop L id) (.bool true) = Q at HK ⊢
      go_enter Try.func28, Try.ntmps28
      go_wp2_with fail
      refine Calls.mono HAT.out ?_
      rintro e w0 ⟨rfl, rfl⟩
      go_wp2_with fail
      refine Calls.mono HWT.out ?_
      rintro e w1 ⟨rfl, hB1⟩
      obtain ⟨z1, z2, y1, y2, a, ca, w2, w3, hsl, hr2, hr3, hp2, hp3, hfin⟩ := HK.out w1 hB1
      obtain ⟨c1, l1⟩ := HC.out w1 hB1
      have c2 := cell_blk hp2 0
      have l2 := heap_lt hp2
      have c3 := cell_blk hp3 0
      have l3 := heap_lt hp3
      have f3 := frozen_blk hp3 0
      have hs1 := fun W => slice74_h (g := g) (n := n) (m := k) (c := cap) HKC.out.1 W
      have hs2 := fun W => slice74_l (g := g) (n := n) (m := m) (c := cap) HKC.out.2 hsl W
      have H2 : Hid _ := hr2
      have H3 : Hid _ := hr3
      have HF : Hid _ := hfin
      generalize n - m = nk1 at H3 hs2
      generalize n - 1 = n1 at H3 HF
      clear hr2 hr3 hp2 hp3 hfin hsl
      go_wp2_with (first | (at_builtin; refine Lib.wpList_append_run _ rfl (.tmp 20) (.tmp 26) 74 74 rfl _ _ rfl rfl _ _ H2.out ?_) | (at_builtin; refine Lib.wpList_append_run _ rfl (.tmp 28) (.tmp 35) 74 74 rfl _ _ rfl rfl _ _ H3.out ?_))
      exact HF.out
    · have p0 : decide (0 < wn) = false := decide_eq_false hw0
      have p2 : decide ((0 : Int) < (wn : Int)) = false := decide_eq_false (by omega)
      rw [p0, Bool.false_or] at HK ⊢
      generalize RP w N p (rdrop L id) (.bool we) = Q at HK ⊢
      go_enter Try.func28, Try.ntmps28
      go_wp2_with fail
      refine Calls.mono HAT.out ?_
      rintro e w0 ⟨rfl, rfl⟩
      go_wp2_with fail
      refine Calls.mono HWT.out ?_
      rintro e w1 ⟨rfl, hB1⟩
      obtain ⟨z1, z2, y1, y2, a, ca, w2, w3, hsl, hr2, hr3, hp2, hp3, hfin⟩ := HK.out w1 hB1
      obtain ⟨c1, l1⟩ := HC.out w1 hB1
      have c2 := cell_blk hp2 0
      have l2 := heap_lt hp2
      have c3 := cell_blk hp3 0
      have l3 := heap_lt hp3
      have f3 := frozen_blk hp3 0
      have hs1 := fun W => slice74_h (g := g) (n := n) (m := k) (c := cap) HKC.out.1 W
      have hs2 := fun W => slice74_l (g := g) (n := n) (m := m) (c := cap) HKC.out.2 hsl W
      have H2 : Hid _ := hr2
      have H3 : Hid _ := hr3
      have HF : Hid _ := hfin
      generalize n - m = nk1 at H3 hs2
      generalize n - 1 = n1 at H3 HF
      clear hr2 hr3 hp2 hp3 hfin hsl
      go_wp2_with (first | (at_builtin; refine Lib.wpList_append_run _ rfl (.tmp 20) (.tmp 26) 74 74 rfl _ _ rfl rfl _ _ H2.out ?_) | (at_builtin; refine Lib.wpList_append_run _ rfl (.tmp 28) (.tmp 35) 74 74 rfl _ _ rfl rfl _ _ H3.out ?_))
      exact HF.out
end Go.Proofs.Ytbmaknjeflblcaa
