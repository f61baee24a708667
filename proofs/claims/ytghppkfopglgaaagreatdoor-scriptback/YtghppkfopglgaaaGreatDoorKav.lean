/- A row of commands read; IndexFunc, ContainsFunc. textOf, Print. What is laid is the text of the lines, or too long as well. Print. Frame: its first words. -/
import Derived.Test.YtghppkfopglgaaaGreatDoorKau
import Derived.Deep.RegionHeld3
namespace Go.Proofs.YtghppkfopglgaaaGreatDoor
open Go.RowKit
set_option linter.unusedVariables false
set_option linter.unusedSimpArgs false
theorem row_at {α : Type} (f : α → List Value) (k : Nat) (hf : ∀ x, (f x).length = k) : ∀ (l : List α) (i : Nat) (x : α), l[i]? = some x → ((l.flatMap f).drop (k * i)).take k = f x
  | [], i, x, h => by simp at h
  | y :: l, 0, x, h => by
    simp only [List.getElem?_cons_zero, Option.some.injEq] at h
    subst h
    rw [Nat.mul_zero, List.drop_zero, List.flatMap_cons, List.take_left' (hf y)]
  | y :: l, i + 1, x, h => by
    rw [List.getElem?_cons_succ] at h
    rw [List.flatMap_cons, show k * (i + 1) = k + k * i by rw [Nat.mul_succ]; omega, ← List.drop_drop, List.drop_left' (hf y)]
    exact row_at f k hf l i x h
/-- commands that can be read behind the slice -/
def InC (W : World) (sl : Value) (cs : List (Cm × CmS)) : Prop :=
  (sl = .slice none 0 0 ∧ cs = []) ∨ ∃ bk cap cur, sl = .slice (some ⟨bk, 0, none⟩) cs.length cap ∧ cs.length ≤ cap ∧ cap ≤ 9223372036854775807 ∧ W.heap[bk]? = some (.cells cur 47 (0, 0)) ∧ cur.toList.take (cs.length * 42) = ECm.cs cs
theorem InC.of {W : World} {v : Value} {cs : List (Cm × CmS)} (h : R ECm W v cs) : InC W v cs := by
  rcases h.2 with ⟨rfl, hn⟩ | ⟨g, cap, cur, rfl, hbs, hgg, hn, hm, hc, hz⟩
  · exact .inl ⟨rfl, List.eq_nil_of_length_eq_zero hn⟩
  · exact .inr ⟨g, cap, cur, rfl, hn, by unfold maxLen at hm; omega, hgg, hz⟩
theorem InC.below {W W' : World} {v : Value} {cs : List (Cm × CmS)} (h : InC W v cs) (hb : Below W.heap.size W W') : InC W' v cs := by
  rcases h with h | ⟨bk, cap, cur, h1, h2, h3, h4, h5⟩
  · exact .inl h
  · exact .inr ⟨bk, cap, cur, h1, h2, h3, (hb.block _ (heap_lt h4)).trans h4, h5⟩
theorem cur_at {cur : Array Value} {cs : List (Cm × CmS)} (h : cur.toList.take (cs.length * 42) = ECm.cs cs) {i : Nat} {x : Cm × CmS} (hi : cs[i]? = some x) : (cur.toList.drop (i * 42)).take (cmA x.1 x.2).toList.length = (cmA x.1 x.2).toList := by
  have hl : i < cs.length := (List.getElem?_eq_some_iff.1 hi).1
  have h1 := row_at (fun x : Cm × CmS => (cmA x.1 x.2).toList) 42 (fun _ => rfl) cs i x hi
  have h2 : ((cur.toList.take (cs.length * 42)).drop (42 * i)).take 42 = (cmA x.1 x.2).toList := by rw [h]; exact h1
  rw [List.drop_take, List.take_take] at h2
  rw [show (cmA x.1 x.2).toList.length = 42 from rfl, Nat.mul_comm i 42]
  rw [Nat.min_eq_left (by omega)] at h2
  exact h2
set_option maxRecDepth 100000 in
set_option maxHeartbeats 4000000 in
theorem indexFunc_any (v : Value) (cs : List (Cm × CmS)) (w : World) (h : InC w v cs) (hlen : cs.length ≤ 4611686018427387904) :
    Calls Tryz.prog 45 #[v, .func (.func 28) #[] #[]] w fun e w' => ∃ i : Int, (decide (0 ≤ i) = cs.any (fun x => noneB x.1)) ∧ e = .returned (.int .i64 i) ∧ Below w.heap.size w w' := by
  rcases h with ⟨rfl, rfl⟩ | ⟨bk, cap, cur, rfl, hc1, hc2, hb, hcur⟩
  · go_enter Tryz.func45, Tryz.ntmps45
    go_wp2_with fail
    go_loopw [8] (fun iv wr => iv = .int .i64 0 ∧ wr = w) (fun _ _ => 0)
    case atStart => exact ⟨rfl, rfl⟩
    case round =>
      obtain ⟨rfl, rfl⟩ := hrel
      go_wp2_with fail
      go_ret
      exact ⟨-1, by decide, rfl, Below.refl _ _⟩
  · obtain ⟨N, hN⟩ : ∃ N, cs.length = N := ⟨_, rfl⟩
    have HN := hid hN
    have HB := hid hb
    have HC := hid hcur
    have HJ0 : Hid (Below w.heap.size w w ∧ ∀ x ∈ cs.take 0, noneB x.1 = false) := hid ⟨Below.refl _ _, fun x hx => absurd hx (by simp)⟩
    rw [hN] at hc1 hlen ⊢
    clear hb hcur hN
    go_enter Tryz.func45, Tryz.ntmps45
    go_wp2_with fail
    go_loopw [8] (fun iv wr => ∃ i : Nat, iv = .int .i64 (i : Int) ∧ i ≤ N ∧ Hid (Below w.heap.size w wr ∧ ∀ x ∈ cs.take i, noneB x.1 = false)) (fun iv _ => N - (intOf iv).toNat)
    case atStart => exact ⟨0, rfl, Nat.zero_le _, HJ0⟩
    case round =>
      obtain ⟨i, rfl, hle, HJ⟩ := hrel
      clear HJ0
      by_cases hlt : i < N
      · have hltI : (i : Int) < (N : Int) := by omega
        obtain ⟨x, hx⟩ : ∃ x, cs[i]? = some x := ⟨_, List.getElem?_eq_getElem (by have := HN.out; omega)⟩
        have hbr : wr.heap[bk]? = some (.cells cur 47 (0, 0)) := (HJ.out.1.block _ (heap_lt HB.out)).trans HB.out
        have hat := cur_at HC.out hx
        have HF := hid (isNone_any x.1 x.2 wr)
        have HAT := hid hat
        have HBR := hid hbr
        have HX := hid hx
        have l0 := heap_lt hbr
        have HT : Hid (cs.take (i + 1) = cs.take i ++ [x]) := hid (by rw [List.take_add_one, hx]; rfl)
        clear hx hbr hat
        cases hn : noneB x.1 with
        | true =>
          rw [hn] at HF
          have HANY : Hid (cs.any (fun x => noneB x.1) = true) := hid (List.any_eq_true.2 ⟨x, List.mem_of_getElem? HX.out, hn⟩)
          clear hn
          go_wp2_with (refine wpList_load_part rfl 47 (.tmp 14) rfl bk (i * 42) (cmA x.1 x.2) rfl 47 _ (0, 0) _ HBR.out HAT.out Tryz.underlying47 rfl (by kernel_rfl) ?_)
          go_at_call 28
          refine HF.out.mono ?_
          rintro e V ⟨rfl, hb1⟩
          go_wp2_with fail
          go_ret
          exact ⟨i, by rw [HANY.out]; simp, rfl, HJ.out.1.trans (hb1.mono HJ.out.1.size)⟩
        | false =>
          rw [hn] at HF
          go_wp2_with (refine wpList_load_part rfl 47 (.tmp 14) rfl bk (i * 42) (cmA x.1 x.2) rfl 47 _ (0, 0) _ HBR.out HAT.out Tryz.underlying47 rfl (by kernel_rfl) ?_)
          go_at_call 28
          refine HF.out.mono ?_
          rintro e V ⟨rfl, hb1⟩
          have HJ2 : Hid (Below w.heap.size w V ∧ ∀ x ∈ cs.take (i + 1), noneB x.1 = false) := hid ⟨HJ.out.1.trans (hb1.mono HJ.out.1.size), fun y hy => by
            rw [HT.out] at hy
            rcases List.mem_append.1 hy with hy | hy
            · exact HJ.out.2 y hy
            · rw [List.mem_singleton] at hy; subst hy; exact hn⟩
          clear hn hb1
          go_wp2_with fail
          go_roundw
          case rel => exact ⟨i + 1, rfl, by omega, HJ2⟩
          case measure => show N - ((i : Int) + 1).toNat < N - ((i : Nat) : Int).toNat; omega
      · have hnlt : ¬ (i : Int) < (N : Int) := by omega
        have hi : i = N := by omega
        subst hi
        go_wp2_with fail
        (try simp only [Exit.inBlock, Exit.then])
        go_ret
        refine ⟨-1, ?_, rfl, HJ.out.1⟩
        have h2 := HJ.out.2
        rw [List.take_of_length_le (by have := HN.out; omega)] at h2
        rw [show decide ((0 : Int) ≤ -1) = false by decide]
        symm
        rw [List.any_eq_false]
        exact fun x hx => by rw [h2 x hx]; simp
set_option maxRecDepth 100000 in
set_option maxHeartbeats 4000000 in
theorem containsFunc_any (v : Value) (cs : List (Cm × CmS)) (w : World) (h : InC w v cs) (hlen : cs.length ≤ 4611686018427387904) :
    Calls Tryz.prog 27 #[v, .func (.func 28) #[] #[]] w fun e w' => e = .returned (.bool (cs.any (fun x => noneB x.1))) ∧ Below w.heap.size w w' := by
  have HI := hid (indexFunc_any v cs w h hlen)
  obtain ⟨a, n, c, rfl⟩ : ∃ a n c, v = .slice a n c := by
    rcases h with ⟨rfl, _⟩ | ⟨bk, cap, cur, rfl, _⟩ <;> exact ⟨_, _, _, rfl⟩
  clear h
  go_enter Tryz.func27, Tryz.ntmps27
  go_wp2_with fail
  go_at_call 45
  refine HI.out.mono ?_
  rintro e V ⟨i, hi, rfl, hb⟩
  have HIA := hid hi
  clear hi
  by_cases h0 : (0 : Int) ≤ i
  · have e1 : decide ((0 : Int) ≤ i) = true := decide_eq_true h0
    go_wp2_with fail
    go_ret
    exact ⟨by rw [← HIA.out]; simp [h0], hb⟩
  · have e1 : decide ((0 : Int) ≤ i) = false := decide_eq_false h0
    go_wp2_with fail
    go_ret
    exact ⟨by rw [← HIA.out]; simp [h0], hb⟩
end Go.Proofs.YtghppkfopglgaaaGreatDoor
namespace Go.Proofs.YtghppkfopglgaaaGreatDoor
open Go.RowKit
set_option linter.unusedVariables false
set_option linter.unusedSimpArgs false
def txL0 (l : List Cm) : List UInt8 := l.foldl cmL []
def txL (l : List Cm) : List UInt8 := if txL0 l = [] then [] else layL (txL0 l) ⟨#[10]⟩
theorem txL0_snoc (l : List Cm) (c : Cm) : txL0 (l ++ [c]) = cmL (txL0 l) c := by unfold txL0; rw [List.foldl_append]; rfl
structure CmP (c : Cm) : Prop where
  ok : CmOk c
  k : KOk c
  by' : c.m.by'.size ≤ 140737488355328
set_option maxRecDepth 100000 in
set_option maxHeartbeats 8000000 in
theorem textOf_any (v : Value) (cs : List (Cm × CmS)) (w : World) (hE : Env w) (h : InC w v cs) (hlen : cs.length ≤ 4611686018427387904) (hC : ∀ x ∈ cs, CmP x.1) (hP : ∀ x ∈ cs, ∀ V, Below w.heap.size w V → PrOk w.heap.size x.1 x.2 V) :
    Calls Tryz.prog 29 #[v] w fun e w' => e = .returned (.string (bt (txL (cs.map (·.1))))) ∧ Below w.heap.size w w' := by
  obtain ⟨g, hg⟩ : ∃ g, w.heap.size = g := ⟨_, rfl⟩
  obtain ⟨W1, hW1⟩ : ∃ V, w.alloc (.cells #[.pointer none, .slice none 0 0] 119) = V := ⟨_, rfl⟩
  have q1 : W1.heap[g]? = some (.cells #[.pointer none, .slice none 0 0] 119 (0, 0)) := by rw [← hW1, heap_al, if_pos hg.symm]
  have b1 : Below w.heap.size w W1 := by rw [← hW1]; exact bel1 _ _
  have hP1 : Pb g [] W1 := .inl ⟨rfl, q1⟩
  have g8 : 8 ≤ g := by have := hE.sz; omega
  have hE1 : Env W1 := hE.of b1.size fun k hk => b1.block k (by omega)
  have HJ0 : Hid (Pb g (txL0 ((cs.take 0).map (·.1))) W1 ∧ Below g w W1 ∧ Env W1) := hid ⟨hP1, hg ▸ b1, hE1⟩
  have HIN := hid h
  have HCC := hid hC
  have HPP := hid hP
  have HG := hid hg
  have HW1 := hid hW1
  have HLEN := hid hlen
  obtain ⟨va, vn, vc, hv, hvn⟩ : ∃ a n c, v = .slice a n c ∧ n = cs.length := by
    rcases h with ⟨rfl, e⟩ | ⟨bk, cap, cur, rfl, _⟩
    · exact ⟨_, _, _, rfl, by rw [e]; rfl⟩
    · exact ⟨_, _, _, rfl, rfl⟩
  have HVN := hid hvn
  have hvl : vn ≤ 4611686018427387904 := by omega
  rw [hv] at HIN ⊢
  have HLB := hid (fun l V (hV : Pb g l V) => pb_len g l V hV)
  have HLY := hid (fun l V (hV : Pb g l V) => lay_any g l ⟨#[10]⟩ V hV (by decide) (by decide))
  have HST := hid (fun l V (hV : Pb g l V) => pb_string g l V hV)
  have hgl := hP1.lt
  clear q1 b1 hP1 hE1 h hC hP hW1 hE hv hvn hlen
  go_enter Tryz.func29, Tryz.ntmps29
  go_upto_region 2 with fail
  rw [HW1.out]
  try rw [HG.out]
  go_wp2_with fail
  go_loopw [5, 10] (fun _ iv wr => ∃ i : Nat, iv = .int .i64 (i : Int) ∧ i ≤ vn ∧ Hid (Pb g (txL0 ((cs.take i).map (·.1))) wr ∧ Below g w wr ∧ Env wr)) (fun _ iv _ => vn - (intOf iv).toNat)
  case atStart => exact ⟨0, rfl, Nat.zero_le _, HJ0⟩
  case round =>
    obtain ⟨i, rfl, hle, HJ⟩ := hrel
    clear HJ0
    by_cases hlt : i < vn
    · have hltI : (i : Int) < (vn : Int) := by omega
      obtain ⟨x, hx⟩ : ∃ x, cs[i]? = some x := ⟨_, List.getElem?_eq_getElem (by have := HVN.out; omega)⟩
      obtain ⟨bk, cap, cur, hva, hbk, hcur⟩ : ∃ bk cap cur, Value.slice va vn vc = .slice (some ⟨bk, 0, none⟩) vn cap ∧ w.heap[bk]? = some (.cells cur 47 (0, 0)) ∧ cur.toList.take (cs.length * 42) = ECm.cs cs := by
        rcases HIN.out with ⟨_, e⟩ | ⟨bk, cap, cur, e, _, _, hb, hc⟩
        · rw [e] at hx; simp at hx
        · exact ⟨bk, cap, cur, by rw [e, ← HVN.out], hb, hc⟩
      have hbr : wr.heap[bk]? = some (.cells cur 47 (0, 0)) := (HJ.out.2.1.block _ (by have := heap_lt hbk; have := HG.out; omega)).trans hbk
      have hat := cur_at hcur hx
      have HAT := hid hat
      have HBR := hid hbr
      have hxm : x ∈ cs := List.mem_of_getElem? hx
      have HT : Hid ((cs.take (i + 1)).map (·.1) = (cs.take i).map (·.1) ++ [x.1]) := hid (by rw [List.take_add_one, hx]; simp)
      obtain ⟨W2, hW2⟩ : ∃ V, wr.alloc (.cells #[.int .i64 0, .int .i64 0, .int .i64 0, .int .i64 0, .int .i64 0, .int .i64 0, .int .i64 0, .int .i64 0, .int .i64 0, .int .i64 0, .int .i64 0, .int .i64 0, .int .i64 0, .int .i64 0, .int .i64 0, .int .i64 0, .int .i64 0, .slice none 0 0, .slice none 0 0, .slice none 0 0, .int .i64 0, .int .i64 0, .string ⟨#[]⟩, .string ⟨#[]⟩, .string ⟨#[]⟩, .string ⟨#[]⟩, .slice none 0 0, .string ⟨#[]⟩, .string ⟨#[]⟩, .string ⟨#[]⟩, .int .i64 0, .string ⟨#[]⟩, .slice none 0 0, .int .i64 0, .int .i64 0, .int .i64 0, .int .i64 0, .int .i64 0, .int .i64 0, .string ⟨#[]⟩, .int .i64 0, .bool false] 47) = V := ⟨_, rfl⟩
      obtain ⟨g3, hg3⟩ : ∃ g3, wr.heap.size = g3 := ⟨_, rfl⟩
      have ha3 : W2.heap[g3]? = some (.cells #[.int .i64 0, .int .i64 0, .int .i64 0, .int .i64 0, .int .i64 0, .int .i64 0, .int .i64 0, .int .i64 0, .int .i64 0, .int .i64 0, .int .i64 0, .int .i64 0, .int .i64 0, .int .i64 0, .int .i64 0, .int .i64 0, .int .i64 0, .slice none 0 0, .slice none 0 0, .slice none 0 0, .int .i64 0, .int .i64 0, .string ⟨#[]⟩, .string ⟨#[]⟩, .string ⟨#[]⟩, .string ⟨#[]⟩, .slice none 0 0, .string ⟨#[]⟩, .string ⟨#[]⟩, .string ⟨#[]⟩, .int .i64 0, .string ⟨#[]⟩, .slice none 0 0, .int .i64 0, .int .i64 0, .int .i64 0, .int .i64 0, .int .i64 0, .int .i64 0, .string ⟨#[]⟩, .int .i64 0, .bool false] 47 (0, 0)) := by rw [← hW2, heap_al, if_pos hg3.symm]
      have hb2 : Below wr.heap.size wr W2 := by rw [← hW2]; exact bel1 _ _
      obtain ⟨W3, hW3⟩ : ∃ V, W2.setRow g3 (part #[.int .i64 0, .int .i64 0, .int .i64 0, .int .i64 0, .int .i64 0, .int .i64 0, .int .i64 0, .int .i64 0, .int .i64 0, .int .i64 0, .int .i64 0, .int .i64 0, .int .i64 0, .int .i64 0, .int .i64 0, .int .i64 0, .int .i64 0, .slice none 0 0, .slice none 0 0, .slice none 0 0, .int .i64 0, .int .i64 0, .string ⟨#[]⟩, .string ⟨#[]⟩, .string ⟨#[]⟩, .string ⟨#[]⟩, .slice none 0 0, .string ⟨#[]⟩, .string ⟨#[]⟩, .string ⟨#[]⟩, .int .i64 0, .string ⟨#[]⟩, .slice none 0 0, .int .i64 0, .int .i64 0, .int .i64 0, .int .i64 0, .int .i64 0, .int .i64 0, .string ⟨#[]⟩, .int .i64 0, .bool false] 0 (cmA x.1 x.2)) = V := ⟨_, rfl⟩
      have hb3 : Below wr.heap.size wr W3 := by
        rw [← hW3]
        exact hb2.trans ((Ks.setRow (fun k => k = g3) W2 g3 _ rfl).below hb2.size (fun k hk => by omega))
      have hq3 : W3.heap[g3]? = some (.cells (cmA x.1 x.2) 47 (0, 0)) := by rw [← hW3, setRow_blk ha3]; rfl
      have hwr : g ≤ wr.heap.size := Nat.le_of_lt HJ.out.1.lt
      have hw3 : Below g wr W3 := hb3.mono hwr
      have hcx := HCC.out x hxm
      have HCM := hid (pcommand_any g _ x.1 x.2 W3 (HJ.out.2.2.of hw3.size fun k hk => hw3.block k (by omega)) g8 (HJ.out.1.below hb3) hcx.ok hcx.k hcx.by' (by have := HPP.out x hxm W3 (by rw [HG.out]; exact HJ.out.2.1.trans hw3); rw [HG.out] at this; exact this))
      have HA3 := hid ha3
      have HQ3 := hid hq3
      have HW2 := hid hW2
      have HW3 := hid hW3
      have HG3 := hid hg3
      have HBW : Hid (Below g w W3) := hid (HJ.out.2.1.trans hw3)
      have HEV : Hid (Env W3) := hid (HJ.out.2.2.of hw3.size fun k hk => hw3.block k (by omega))
      have l3 := heap_lt hq3
      have l4 := heap_lt hbr
      have hi42 : i * 42 = i * 42 := rfl
      injection hva with hva1 hva2 hva3
      subst hva1
      subst hva3
      clear hx hbk hcur hbr hat hxm ha3 hb2 hb3 hq3 hwr hw3 hcx hW2 hW3 hg3 hi42 hva2
      go_upto_region 5 with (first
        | (refine wpList_load_part rfl 47 (.tmp 12) rfl bk (i * 42) (cmA x.1 x.2) rfl 47 _ (0, 0) _ HBR.out HAT.out Tryz.underlying47 rfl (by kernel_rfl) ?_)
        | (rw [HW2.out]; refine wpList_store_part rfl 47 (.tmp 5) (.tmp 13) rfl g3 0 (cmA x.1 x.2) (by rw [← HG3.out]; rfl) rfl 47 _ HA3.out (by kernel_rfl) (Nat.le_of_ble_eq_true rfl) (by rw [← Array.all_toList]; rfl) ?_))
      rw [HW3.out]
      try rw [HG3.out]
      go_wp2_with (refine wpList_load_part rfl 47 (.tmp 5) rfl g3 0 (cmA x.1 x.2) rfl 47 _ (0, 0) _ HQ3.out rfl Tryz.underlying47 rfl (by kernel_rfl) ?_)
      go_at_call 46
      refine HCM.out.mono ?_
      rintro e V ⟨rfl, h1, h2⟩
      have HJ2 : Hid (Pb g (txL0 ((cs.take (i + 1)).map (·.1))) V ∧ Below g w V ∧ Env V) := hid ⟨by rw [HT.out, txL0_snoc]; exact h1, HBW.out.trans h2.bel, h2.env HEV.out g8⟩
      clear h1 h2
      go_wp2_with fail
      go_roundw
      case rel => exact ⟨i + 1, by first | rfl | exact wrapI i (by omega), by omega, HJ2⟩
      case measure => first | (show vn - ((i : Int) + 1).toNat < vn - ((i : Nat) : Int).toNat; omega) | (rw [wrapI i (by omega)]; show vn - ((i + 1 : Nat) : Int).toNat < vn - ((i : Nat) : Int).toNat; simp only [Int.toNat_natCast]; omega)
    · have hnlt : ¬ (i : Int) < (vn : Int) := by omega
      have hi : i = vn := by omega
      subst hi
      have HJ1 := HJ.out
      rw [List.take_of_length_le (by have := HVN.out; omega)] at HJ1
      have HL1 := hid (HLB.out _ _ HJ1.1)
      have HP1 := hid HJ1.1
      have HB1 := hid HJ1.2.1
      obtain ⟨n, hn⟩ : ∃ n, (txL0 (cs.map (·.1))).length = n := ⟨_, rfl⟩
      rw [hn] at HL1
      have hgw := HJ1.1.lt
      clear HJ HJ1
      by_cases hz : txL0 (cs.map (·.1)) = []
      · have hn0 : ¬ 0 < n := by rw [← hn, hz]; simp
        have HX : Hid (txL (cs.map (·.1)) = txL0 (cs.map (·.1))) := hid (by unfold txL; rw [if_pos hz, hz])
        clear hn hz
        go_wp2_with fail
        go_at_call 47
        refine HL1.out.mono ?_
        rintro e V ⟨rfl, e2⟩
        subst e2
        go_wp2_with fail
        go_at_call 23
        refine (HST.out _ _ HP1.out).mono ?_
        rintro e V2 ⟨rfl, h2⟩
        go_wp2_with fail
        go_ret
        rw [HX.out]
        exact ⟨rfl, by rw [HG.out]; exact HB1.out.trans h2⟩
      · have hn0 : 0 < n := by have := List.length_pos_iff.2 hz; omega
        have HX : Hid (txL (cs.map (·.1)) = layL (txL0 (cs.map (·.1))) ⟨#[10]⟩) := hid (by unfold txL; rw [if_neg hz])
        clear hn hz
        go_wp2_with fail
        go_at_call 47
        refine HL1.out.mono ?_
        rintro e V ⟨rfl, e2⟩
        subst e2
        go_wp2_with fail
        go_at_call 48
        refine (HLY.out _ _ HP1.out).mono ?_
        rintro e V1 ⟨rfl, h1, h2⟩
        have hl1 := h1.lt
        go_wp2_with fail
        go_at_call 23
        refine (HST.out _ _ h1).mono ?_
        rintro e V2 ⟨rfl, h3⟩
        go_wp2_with fail
        go_ret
        rw [HX.out]
        exact ⟨rfl, by rw [HG.out]; exact (HB1.out.trans h2.bel).trans h3⟩
end Go.Proofs.YtghppkfopglgaaaGreatDoor
namespace Go.Proofs.YtghppkfopglgaaaGreatDoor
open Go.RowKit
set_option linter.unusedVariables false
set_option linter.unusedSimpArgs false
def nlB : ByteArray := ⟨#[10]⟩
def spB : ByteArray := ⟨#[32]⟩
def fl (P : List ByteArray) : List UInt8 := P.flatMap (·.data.toList)
theorem flP_app (P Q : List ByteArray) : fl (P ++ Q) = fl P ++ fl Q := List.flatMap_append
theorem layA_snoc (l : List UInt8) (P : List ByteArray) (s : ByteArray) : layA l (P ++ [s]) = layL (layA l P) s := by unfold layA; rw [List.foldl_append]; rfl
/-- all is laid, or too much -/
theorem layA_fl (P : List ByteArray) (hP : ∀ p ∈ P, p.size ≤ 1048576) : ((fl P).length ≤ 65536 ∧ layA [] P = fl P ∨ 65536 < (layA [] P).length ∧ 65536 < (fl P).length) ∧ (layA [] P).length ≤ 1114112 := by
  suffices h : ∀ Q : List ByteArray, (∀ p ∈ Q, p.size ≤ 1048576) → ((fl Q.reverse).length ≤ 65536 ∧ layA [] Q.reverse = fl Q.reverse ∨ 65536 < (layA [] Q.reverse).length ∧ 65536 < (fl Q.reverse).length) ∧ (layA [] Q.reverse).length ≤ 1114112 by
    have := h P.reverse (fun p hp => hP p (List.mem_reverse.1 hp))
    rwa [List.reverse_reverse] at this
  intro Q
  induction Q with
  | nil => intro _; exact ⟨.inl ⟨by decide, rfl⟩, by decide⟩
  | cons s Q ih =>
    intro h
    obtain ⟨ih1, ih2⟩ := ih (fun p hp => h p (by simp [hp]))
    have hs := h s (by simp)
    rw [List.reverse_cons, layA_snoc, flP_app]
    have e2 : fl [s] = s.data.toList := by simp [fl]
    have e : (fl [s]).length = s.size := by rw [e2, sz_eq]
    rw [List.length_append, e]
    rcases ih1 with ⟨a, b⟩ | ⟨a, b⟩
    · have hf : fullB (layA [] Q.reverse) = false := by unfold fullB; rw [b]; simp; omega
      unfold layL
      rw [hf, if_neg (by simp), b, List.length_append, ← sz_eq, e2]
      refine ⟨?_, by omega⟩
      by_cases hle : (fl Q.reverse).length + s.size ≤ 65536
      · exact .inl ⟨hle, rfl⟩
      · exact .inr ⟨by omega, by omega⟩
    · have hf : fullB (layA [] Q.reverse) = true := by unfold fullB; simpa using a
      unfold layL
      rw [hf, if_pos rfl]
      exact ⟨.inr ⟨a, by omega⟩, ih2⟩
/-- no more of a text than is needed -/
def trW (w : Wd) : Wd := if w.k = 1 then ⟨1, bt (w.t.data.toList.take 4096)⟩ else w
theorem trW_gd {w : Wd} (h : GdW w) : GdW (trW w) := by
  unfold trW
  split
  · exact .inl rfl
  · exact h
theorem ltx_snoc : ∀ (l : List Wd) (w : Wd), l ≠ [] → ltx (l ++ [w]) = ltx l ++ 32 :: wtx w
  | [], _, h => absurd rfl h
  | [a], w, _ => rfl
  | a :: b :: l, w, _ => by
    show wtx a ++ 32 :: ltx ((b :: l) ++ [w]) = (wtx a ++ 32 :: ltx (b :: l)) ++ 32 :: wtx w
    rw [ltx_snoc (b :: l) w (by simp)]
    simp
theorem txt_snoc (ls : List (List Wd)) (l : List Wd) : txt (ls ++ [l]) = txt ls ++ (ltx l ++ [10]) := by unfold txt; simp
/-- what has been laid: these lines, the last one open -/
def SX (l : List UInt8) (L : List (List Wd)) : Prop :=
  ∃ P : List ByteArray, l = layA [] P ∧ (∀ p ∈ P, p.size ≤ 1048576 ∧ p.size ≠ 0) ∧ ((L = [] ∧ P = []) ∨ ∃ ls cur, L = ls ++ [cur] ∧ cur ≠ [] ∧ P ≠ [] ∧ fl P = txt ls ++ ltx cur)
theorem SX.nil : SX [] [] := ⟨[], rfl, fun p h => absurd h (by simp), .inl ⟨rfl, rfl⟩⟩
theorem layA_ne {P : List ByteArray} (hP : ∀ p ∈ P, p.size ≤ 1048576 ∧ p.size ≠ 0) (h : P ≠ []) : layA [] P ≠ [] := by
  obtain ⟨h1, _⟩ := layA_fl P (fun p hp => (hP p hp).1)
  rcases h1 with ⟨_, e⟩ | ⟨e, _⟩
  · rw [e]
    cases P with
    | nil => exact absurd rfl h
    | cons p P =>
      intro e2
      have := (hP p (by simp)).2
      have e3 : p.data.toList = [] := by
        have : fl (p :: P) = p.data.toList ++ fl P := by simp [fl]
        rw [this] at e2
        exact (List.append_eq_nil_iff.1 e2).1
      rw [sz_eq, e3] at this
      exact this rfl
  · intro e2; rw [e2] at e; simp at e
theorem SX.line {l : List UInt8} {L : List (List Wd)} (h : SX l L) (s : ByteArray) (w : Wd) (hw : wtx w = s.data.toList) (hs : s.size ≤ 1048576 ∧ s.size ≠ 0) : SX (lineL l s) (L ++ [[w]]) := by
  obtain ⟨P, rfl, hP, h⟩ := h
  unfold lineL
  rcases h with ⟨rfl, rfl⟩ | ⟨ls, cur, rfl, hc, hp, hf⟩
  · refine ⟨[s], ?_, fun p hp => by rw [List.mem_singleton] at hp; subst hp; exact hs, .inr ⟨[], [w], rfl, by simp, by simp, ?_⟩⟩
    · rfl
    · simp [fl, txt, ltx, hw]
  · refine ⟨P ++ [nlB] ++ [s], ?_, fun p hp => ?_, .inr ⟨ls ++ [cur], [w], rfl, by simp, by simp, ?_⟩⟩
    · rw [if_neg (layA_ne hP hp), layA_snoc, layA_snoc]
      rfl
    · rcases List.mem_append.1 hp with hp | hp
      · rcases List.mem_append.1 hp with hp | hp
        · exact hP p hp
        · rw [List.mem_singleton] at hp; subst hp; exact ⟨by decide, by decide⟩
      · rw [List.mem_singleton] at hp; subst hp; exact hs
    · rw [flP_app, flP_app, hf, txt_snoc]
      simp [fl, nlB, ltx, hw]
theorem SX.word {l : List UInt8} {ls : List (List Wd)} {cur : List Wd} (h : SX l (ls ++ [cur])) (s : ByteArray) (w : Wd) (hw : wtx w = s.data.toList) (hs : s.size ≤ 1048576 ∧ s.size ≠ 0) : SX (wordL l s) (ls ++ [cur ++ [w]]) := by
  obtain ⟨P, rfl, hP, h⟩ := h
  unfold wordL
  rcases h with ⟨e, _⟩ | ⟨ls', cur', e, hc, hp, hf⟩
  · simp at e
  · obtain ⟨rfl, e2⟩ := List.append_inj' e rfl
    simp only [List.cons.injEq, and_true] at e2
    subst e2
    refine ⟨P ++ [spB] ++ [s], ?_, fun p hp => ?_, .inr ⟨ls, cur ++ [w], rfl, by simp, by simp, ?_⟩⟩
    · rw [layA_snoc, layA_snoc]
      rfl
    · rcases List.mem_append.1 hp with hp | hp
      · rcases List.mem_append.1 hp with hp | hp
        · exact hP p hp
        · rw [List.mem_singleton] at hp; subst hp; exact ⟨by decide, by decide⟩
      · rw [List.mem_singleton] at hp; subst hp; exact hs
    · rw [flP_app, flP_app, hf, ltx_snoc cur w hc]
      simp [fl, spB, hw]
theorem SX.nums {l : List UInt8} {ls : List (List Wd)} (ns : List Int) (hn : ∀ n ∈ ns, I64 n) : ∀ {cur : List Wd}, SX l (ls ++ [cur]) → SX (numsL l ns) (ls ++ [cur ++ ns.map nW]) := by
  induction ns generalizing l with
  | nil => intro cur h; simpa [numsL] using h
  | cons n ns ih =>
    intro cur h
    have h1 := itoa_sz n (hn n (by simp))
    have h2 := h.word (bt (Lib.itoa n)) (nW n) rfl ⟨h1.2, h1.1⟩
    have := ih (fun m hm => hn m (by simp [hm])) h2
    simpa [numsL] using this
theorem tq_w (s : ByteArray) : wtx (trW (qW s)) = (tqB s).data.toList := by
  show wtx ⟨1, bt (s.data.toList.take 4096)⟩ = _
  unfold wtx
  rw [if_pos rfl]
  rfl
theorem SX.texts {l : List UInt8} {ls : List (List Wd)} (ss : List ByteArray) : ∀ {cur : List Wd}, SX l (ls ++ [cur]) → SX (textsL l ss) (ls ++ [cur ++ ss.map (fun s => trW (qW s))]) := by
  induction ss generalizing l with
  | nil => intro cur h; simpa [textsL] using h
  | cons s ss ih =>
    intro cur h
    have h1 := tq_sz s
    have h2 := h.word (tqB s) (trW (qW s)) (tq_w s) ⟨h1.2, h1.1⟩
    have := ih h2
    simpa [textsL] using this
theorem trW_n (n : Int) : trW (nW n) = nW n := rfl
theorem trW_b (t : ByteArray) : trW (bW t) = bW t := rfl
theorem fold_SX {α : Type} (f : List UInt8 → α → List UInt8) (g : α → List Wd) (xs : List α) (hf : ∀ x ∈ xs, ∀ (l : List UInt8) (ls : List (List Wd)) (cur : List Wd), SX l (ls ++ [cur]) → SX (f l x) (ls ++ [cur ++ (g x).map trW])) :
    ∀ (l : List UInt8) (ls : List (List Wd)) (cur : List Wd), SX l (ls ++ [cur]) → SX (xs.foldl f l) (ls ++ [cur ++ (xs.flatMap g).map trW]) := by
  induction xs with
  | nil => intro l ls cur h; simpa using h
  | cons x xs ih =>
    intro l ls cur h
    have h1 := hf x (by simp) l ls cur h
    have := ih (fun y hy => hf y (by simp [hy])) _ _ _ h1
    simpa [List.append_assoc] using this
theorem never_ok : nNever.size ≤ 1048576 ∧ nNever.size ≠ 0 := by decide
theorem fd_SX (f : Fd) (l : List UInt8) (ls : List (List Wd)) (cur : List Wd) (h : SX l (ls ++ [cur])) : SX (fdL l f) (ls ++ [cur ++ (fdW f).map trW]) := by
  unfold fdL fdW
  cases f.nv with
  | true =>
    have h1 := h.word nNever (bW nNever) rfl never_ok
    have := h1.texts [f.n, f.v]
    simpa [trW_b, List.append_assoc] using this
  | false =>
    have := h.texts [f.n, f.v]
    simpa using this
theorem rq_SX (q : Rq) (l : List UInt8) (ls : List (List Wd)) (cur : List Wd) (h : SX l (ls ++ [cur])) : SX (rqL l q) (ls ++ [cur ++ (rqW q).map trW]) := by
  have h1 := h.texts [q.m, q.s, q.a, q.p, q.b]
  have := fold_SX fdL fdW q.fs (fun x _ => fd_SX x) _ _ _ h1
  simpa [rqW, rqL, List.append_assoc] using this
theorem pg_SX (p : Pg) (hp : PgOk p) (l : List UInt8) (ls : List (List Wd)) (cur : List Wd) (h : SX l (ls ++ [cur])) : SX (pgL l p) (ls ++ [cur ++ (pgW p).map trW]) := by
  have h1 := h.texts [p.a, p.p]
  have h2 := h1.nums [p.st] (by intro n hn; rw [List.mem_singleton] at hn; subst hn; exact hp)
  have h3 := h2.texts [p.vr]
  have := fold_SX (fun l (c : Ch) => textsL l [c.v, c.b]) chW p.ch (fun x _ l ls cur h => by simpa [chW] using h.texts [x.v, x.b]) _ _ _ h3
  simpa [pgW, pgL, trW_n, List.append_assoc] using this
theorem tgs_SX (ts : List Tg) (l : List UInt8) (ls : List (List Wd)) (cur : List Wd) (h : SX l (ls ++ [cur])) : SX (tgsL l ts) (ls ++ [cur ++ (ts.flatMap tgW).map trW]) :=
  fold_SX (fun l (t : Tg) => textsL l [t.a, t.p]) tgW ts (fun x _ l ls cur h => by simpa [tgW] using h.texts [x.a, x.p]) _ _ _ h
theorem si_SX (s : Si) (hs : SiOk s) (l : List UInt8) (ls : List (List Wd)) (cur : List Wd) (h : SX l (ls ++ [cur])) : SX (numsL l (siN s)) (ls ++ [cur ++ (siW s).map trW]) := by
  obtain ⟨h1, h2, h3, h4, h5, h6⟩ := hs
  have := h.nums (siN s) (by
    intro n hn
    simp only [siN, List.mem_cons, List.not_mem_nil, or_false] at hn
    rcases hn with rfl | rfl | rfl | rfl | rfl | rfl <;> assumption)
  simpa [siW, siN, trW_n] using this
theorem mvT_SX (m : Mv) (hm : MvOk m) (l : List UInt8) (ls : List (List Wd)) (h : SX l (ls ++ [[bW (mvB m.k.toNat)]])) : SX (mvT l m) (ls ++ [(mvW m).map trW]) := by
  obtain ⟨h1, h2, h3⟩ := hm
  have hn : ∀ n ∈ [m.n], I64 n := by intro n hn; rw [List.mem_singleton] at hn; subst hn; exact h1
  unfold mvT mvW
  generalize m.k.toNat = k at h ⊢
  match k, h with
  | 1, h => simpa [trW_b] using rq_SX m.rq l ls _ h
  | 8, h => simpa [trW_b] using pg_SX m.pg h2 l ls _ h
  | 9, h => simpa [trW_b] using si_SX m.si h3 l ls _ h
  | 10, h =>
    have h4 := (h.nums [m.n] hn).texts [m.by']
    simpa [trW_b, trW_n] using h4
  | 0, h =>
    have h4 := h.nums [m.n] hn
    simpa [trW_b, trW_n] using h4
  | 2, h =>
    have h4 := h.nums [m.n] hn
    simpa [trW_b, trW_n] using h4
  | 3, h =>
    have h4 := h.nums [m.n] hn
    simpa [trW_b, trW_n] using h4
  | 4, h =>
    have h4 := h.nums [m.n] hn
    simpa [trW_b, trW_n] using h4
  | 5, h =>
    have h4 := h.nums [m.n] hn
    simpa [trW_b, trW_n] using h4
  | 6, h =>
    have h4 := h.nums [m.n] hn
    simpa [trW_b, trW_n] using h4
  | 7, h =>
    have h4 := h.nums [m.n] hn
    simpa [trW_b, trW_n] using h4
  | k + 11, h =>
    have h4 := h.nums [m.n] hn
    simpa [trW_b, trW_n] using h4
theorem names_ok : (nServer.size ≤ 1048576 ∧ nServer.size ≠ 0) ∧ (nClient.size ≤ 1048576 ∧ nClient.size ≠ 0) ∧ (nConf.size ≤ 1048576 ∧ nConf.size ≠ 0) ∧ (nPage.size ≤ 1048576 ∧ nPage.size ≠ 0) ∧ (nRule.size ≤ 1048576 ∧ nRule.size ≠ 0) ∧ (nOrigin.size ≤ 1048576 ∧ nOrigin.size ≠ 0) ∧ (nEnd.size ≤ 1048576 ∧ nEnd.size ≠ 0) := by decide
/-- a loop that lays a line each round -/
theorem foldl_SX {α : Type} (f : List UInt8 → α → List UInt8) (g : α → List Wd) (xs : List α) (hf : ∀ x ∈ xs, ∀ (l : List UInt8) (L : List (List Wd)), SX l L → SX (f l x) (L ++ [(g x).map trW])) :
    ∀ (l : List UInt8) (L : List (List Wd)), SX l L → SX (xs.foldl f l) (L ++ (xs.map g).map (·.map trW)) := by
  induction xs with
  | nil => intro l L h; simpa using h
  | cons x xs ih =>
    intro l L h
    have h1 := hf x (by simp) l L h
    have := ih (fun y hy => hf y (by simp [hy])) _ _ h1
    simpa [List.append_assoc] using this
theorem wo_SX (w : Wo) (hw : WoOk w) (l : List UInt8) (L : List (List Wd)) (h : SX l L) : SX (woL l w) (L ++ (woW w).map (·.map trW)) := by
  obtain ⟨h1, h2, h3, h4, h5, h6, h7⟩ := hw
  obtain ⟨n1, n2, n3, n4, n5, n6, n7⟩ := names_ok
  have a := si_SX w.sv h1 _ _ _ (h.line nServer (bW nServer) rfl n1)
  have b := si_SX w.cl h2 _ _ _ (a.line nClient (bW nClient) rfl n2)
  have c := (b.line nConf (bW nConf) rfl n3).nums [w.ce, w.cb, w.cl', w.cp] (by
    intro n hn
    simp only [List.mem_cons, List.not_mem_nil, or_false] at hn
    rcases hn with rfl | rfl | rfl | rfl <;> assumption)
  have p := foldl_SX (fun l (p : Pg) => pgL (lineL l nPage) p) (fun p => bW nPage :: pgW p) w.pg (fun x hx l L h => by
    have := pg_SX x (h7 x hx) _ _ _ (h.line nPage (bW nPage) rfl n4)
    simpa [trW_b] using this) _ _ c
  have u := foldl_SX (fun l (u : Ru) => tgsL (tgsL (lineL l nRule) [u.of]) u.push) (fun u => bW nRule :: ruW u) w.ru (fun x hx l L h => by
    have := tgs_SX x.push _ _ _ (tgs_SX [x.of] _ _ _ (h.line nRule (bW nRule) rfl n5))
    simpa [trW_b, ruW, List.append_assoc] using this) _ _ p
  have o := foldl_SX (fun l (s : ByteArray) => textsL (lineL l nOrigin) [s]) (fun o => [bW nOrigin, qW o]) w.og (fun x hx l L h => by
    have := (h.line nOrigin (bW nOrigin) rfl n6).texts [x]
    simpa [trW_b] using this) _ _ u
  have e := o.line nEnd (bW nEnd) rfl n7
  unfold woL woW
  simpa [trW_b, trW_n, List.append_assoc] using e
theorem cm_SX (c : Cm) (hc : CmOk c) (hk : KOk c) (l : List UInt8) (L : List (List Wd)) (h : SX l L) : SX (cmL l c) (L ++ (cmW c).map (·.map trW)) := by
  obtain ⟨h1, h2, h3⟩ := hc
  obtain ⟨k1, k2, k3⟩ := hk
  obtain ⟨k, hkk⟩ : ∃ k : Nat, c.k = (k : Int) := ⟨c.k.toNat, by omega⟩
  have hkt : c.k.toNat = k := by omega
  unfold cmL
  by_cases e2 : c.k = 2
  · rw [if_pos e2]
    obtain ⟨m1, m2⟩ := k3 e2
    have hn := mv_names ⟨c.m.k.toNat, by omega⟩ (by show 1 ≤ c.m.k.toNat; omega)
    have := mvT_SX c.m h2 _ L (h.line (mvB c.m.k.toNat) (bW (mvB c.m.k.toNat)) rfl ⟨hn.2, hn.1⟩)
    unfold mvL cmW
    rw [hkt, show k = 2 by omega]
    simpa using this
  · rw [if_neg e2]
    have hn := kd_names ⟨k, by omega⟩ (by show 1 ≤ k; omega) (by show k ≠ 2; omega)
    have hl := h.line (kdB k) (bW (kdB k)) rfl ⟨hn.2, hn.1⟩
    unfold cmT cmW
    rw [hkt]
    rcases (show k = 1 ∨ k = 3 ∨ k = 4 ∨ k = 5 ∨ k = 6 ∨ k = 7 ∨ k = 8 ∨ k = 9 ∨ k = 10 by omega) with rfl | rfl | rfl | rfl | rfl | rfl | rfl | rfl | rfl
    · have := wo_SX c.w h1 _ _ hl
      simpa [trW_b] using this
    · have := hl.nums [c.n] (by intro n hn; rw [List.mem_singleton] at hn; subst hn; exact h3)
      simpa [trW_b, trW_n] using this
    · simpa [trW_b] using hl
    · simpa [trW_b] using hl
    · simpa [trW_b] using hl
    · simpa [trW_b] using hl
    · simpa [trW_b] using hl
    · simpa [trW_b] using hl
    · have hs : (if c.sv then nServer else nClient).size ≤ 1048576 ∧ (if c.sv then nServer else nClient).size ≠ 0 := by
        obtain ⟨n1, n2, _⟩ := names_ok
        split
        · exact n1
        · exact n2
      have := hl.word (if c.sv then nServer else nClient) (bW (if c.sv then nServer else nClient)) rfl hs
      simpa [trW_b] using this
theorem txL0_SX (cs : List Cm) (h : ∀ c ∈ cs, CmOk c ∧ KOk c) : SX (txL0 cs) ((cs.flatMap cmW).map (·.map trW)) := by
  suffices hh : ∀ (l : List UInt8) (L : List (List Wd)), SX l L → SX (cs.foldl cmL l) (L ++ (cs.flatMap cmW).map (·.map trW)) by simpa [txL0] using hh [] [] SX.nil
  induction cs with
  | nil => intro l L h; simpa using h
  | cons c cs ih =>
    intro l L hl
    have h1 := cm_SX c (h c (by simp)).1 (h c (by simp)).2 l L hl
    have := ih (fun x hx => h x (by simp [hx])) _ _ h1
    simpa [List.append_assoc] using this
end Go.Proofs.YtghppkfopglgaaaGreatDoor
namespace Go.Proofs.YtghppkfopglgaaaGreatDoor
open Go.RowKit
set_option linter.unusedVariables false
set_option linter.unusedSimpArgs false
def trL (cs : List Cm) : List (List Wd) := (cs.flatMap cmW).map (·.map trW)
theorem txL_fl (cs : List Cm) (h : ∀ c ∈ cs, CmOk c ∧ KOk c) : ((txt (trL cs)).length ≤ 65536 ∧ txL cs = txt (trL cs) ∨ 65536 < (txL cs).length ∧ 65536 < (txt (trL cs)).length) ∧ (txL cs).length ≤ 1114112 := by
  obtain ⟨P, e, hP, h⟩ := txL0_SX cs h
  rcases h with ⟨hl, rfl⟩ | ⟨ls, cur, hl, hc, hp, hf⟩
  · have e0 : txL0 cs = [] := e
    have ht : txL cs = [] := by unfold txL; rw [if_pos e0]
    unfold trL
    rw [ht, hl]
    exact ⟨.inl ⟨by decide, rfl⟩, by decide⟩
  · have hne : txL0 cs ≠ [] := by rw [e]; exact layA_ne hP hp
    have ht : txL cs = layA [] (P ++ [nlB]) := by unfold txL; rw [if_neg hne, e, layA_snoc]; rfl
    have hfl : fl (P ++ [nlB]) = txt (trL cs) := by
      rw [flP_app, hf]
      unfold trL
      rw [hl, txt_snoc]
      simp [fl, nlB]
    rw [ht, ← hfl]
    exact layA_fl _ (fun p hp => by
      rcases List.mem_append.1 hp with hp | hp
      · exact (hP p hp).1
      · rw [List.mem_singleton] at hp; subst hp; decide)
theorem wtx_le : ∀ (l : List Wd) (w : Wd), w ∈ l → (wtx w).length ≤ (ltx l).length
  | [], w, h => by cases h
  | [a], w, h => by rw [List.mem_singleton] at h; subst h; exact Nat.le_refl _
  | a :: b :: l, w, h => by
    show _ ≤ (wtx a ++ 32 :: ltx (b :: l)).length
    rw [List.length_append, List.length_cons]
    rcases List.mem_cons.1 h with rfl | h
    · omega
    · have := wtx_le (b :: l) w h
      omega
theorem long_len {x : List UInt8} (h : 65536 < x.length) : longB x = true := by unfold longB; simp [h]
theorem long_in (ls : List (List Wd)) (hg : ∀ l ∈ ls, ∀ w ∈ l, GdW w) (l : List Wd) (hl : l ∈ ls) (w : Wd) (hw : w ∈ l) (h : 4096 < (wtx w).length) : longB (txt ls) = true := by
  unfold longB
  rw [lns_txt ls hg]
  have : ((ls.map fun l => ltx l ++ [10]).any fun l => decide (4096 < (trimN l).length)) = true := by
    rw [List.any_eq_true]
    refine ⟨ltx l ++ [10], List.mem_map.2 ⟨l, hl, rfl⟩, ?_⟩
    rw [trimN_ln]
    have := wtx_le l w hw
    simp
    omega
  rw [this]
  simp
theorem qt_ge : ∀ c : UInt8, 1 ≤ (qtC c).length := all_u8 (by decide +kernel)
theorem qtS_ge (s : List UInt8) : s.length + 2 ≤ (qtS s).length := by
  have : s.length ≤ (s.flatMap qtC).length := by
    induction s with
    | nil => simp
    | cons c s ih =>
      have := qt_ge c
      rw [List.flatMap_cons, List.length_append, List.length_cons]
      omega
  unfold qtS
  rw [List.length_cons, List.length_append, List.length_singleton]
  omega
theorem long_txL (cs : List Cm) (h : ∀ c ∈ cs, CmOk c ∧ KOk c) : longB (txL cs) = longB (prT cs) ∧ (longB (prT cs) = false → txL cs = prT cs) := by
  have hg := gd_cms cs (fun c hc => (h c hc).2)
  obtain ⟨h1, _⟩ := txL_fl cs h
  by_cases hs : ∀ l ∈ cs.flatMap cmW, ∀ w ∈ l, w.k = 1 → w.t.size ≤ 4096
  · have e : trL cs = cs.flatMap cmW := by
      unfold trL
      conv => rhs; rw [← List.map_id (cs.flatMap cmW)]
      refine List.map_congr_left fun l hl => ?_
      show l.map trW = l
      conv => rhs; rw [← List.map_id l]
      refine List.map_congr_left fun w hw => ?_
      show trW w = w
      unfold trW
      split
      · rename_i hk
        have := hs l hl w hw hk
        rw [sz_eq] at this
        obtain ⟨k, t⟩ := w
        simp only at hk this
        subst hk
        rw [List.take_of_length_le this, bt_data]
      · rfl
    rw [e] at h1
    rcases h1 with ⟨_, a⟩ | ⟨a, b⟩
    · exact ⟨by rw [a]; rfl, fun _ => a⟩
    · have l1 := long_len a
      have l2 : longB (prT cs) = true := long_len b
      exact ⟨by rw [l1, l2], fun e => by rw [l2] at e; cases e⟩
  · have hs2 : ∃ l ∈ cs.flatMap cmW, ∃ w ∈ l, w.k = 1 ∧ 4096 < w.t.size := by
      apply Classical.byContradiction
      intro hn
      refine hs fun l hl w hw hk => ?_
      apply Classical.byContradiction
      intro hn2
      exact hn ⟨l, hl, w, hw, hk, by omega⟩
    obtain ⟨l, hl, w, hw, hk, hz⟩ := hs2
    have l2 : longB (prT cs) = true := by
      refine long_in _ (fun l hl => (hg l hl).2) l hl w hw ?_
      unfold wtx
      rw [if_pos hk]
      have := qtS_ge w.t.data.toList
      rw [← sz_eq] at this
      omega
    have l3 : longB (txt (trL cs)) = true := by
      refine long_in _ (fun l hl w hw => ?_) (l.map trW) (List.mem_map.2 ⟨l, hl, rfl⟩) (trW w) (List.mem_map.2 ⟨w, hw, rfl⟩) ?_
      · obtain ⟨l', hl', rfl⟩ := List.mem_map.1 hl
        obtain ⟨w', hw', rfl⟩ := List.mem_map.1 hw
        exact trW_gd ((hg l' hl').2 w' hw')
      · unfold trW
        rw [if_pos hk]
        unfold wtx
        rw [if_pos rfl]
        have := qtS_ge (w.t.data.toList.take 4096)
        rw [List.length_take] at this
        rw [sz_eq] at hz
        show _ < (qtS (bt (w.t.data.toList.take 4096)).data.toList).length
        rw [bt_toList]
        omega
    have l1 : longB (txL cs) = true := by
      rcases h1 with ⟨_, a⟩ | ⟨a, _⟩
      · rw [a, l3]
      · exact long_len a
    exact ⟨by rw [l1, l2], fun e => by rw [l2] at e; cases e⟩
/-- what Print tells -/
def printL (cs : List Cm) : List UInt8 × Int := if cs.any noneB then ([], 260) else if longB (prT cs) then ([], 3) else (prT cs, 0)
theorem none_k {c : Cm} (h : noneB c = false) : KOk c := by
  unfold noneB at h
  split at h
  · rename_i e
    simp only [Bool.or_eq_false_iff, decide_eq_false_iff_not] at h
    exact ⟨by omega, by omega, fun _ => ⟨by omega, by omega⟩⟩
  · rename_i e
    simp only [Bool.or_eq_false_iff, decide_eq_false_iff_not] at h
    exact ⟨by omega, by omega, fun e2 => absurd e2 e⟩
set_option maxRecDepth 100000 in
set_option maxHeartbeats 8000000 in
theorem Print_any (v : Value) (cs : List (Cm × CmS)) (w : World) (hE : Env w) (h : InC w v cs) (hlen : cs.length ≤ 4611686018427387904) (hC : ∀ x ∈ cs, CmOk x.1 ∧ x.1.m.by'.size ≤ 140737488355328) (hP : ∀ x ∈ cs, ∀ V V', Below w.heap.size w V → Below V.heap.size V V' → PrOk V.heap.size x.1 x.2 V') :
    Calls Tryz.prog 12 #[v] w fun e w' => e = .returned (.tuple #[.string (bt (printL (cs.map (·.1))).1), .int .i64 (printL (cs.map (·.1))).2]) ∧ Below w.heap.size w w' := by
  have HF := hid (containsFunc_any v cs w h hlen)
  have hany : (cs.map (·.1)).any noneB = cs.any (fun x => noneB x.1) := by rw [List.any_map]; rfl
  obtain ⟨a, n, c, rfl⟩ : ∃ a n c, v = .slice a n c := by
    rcases h with ⟨rfl, _⟩ | ⟨bk, cap, cur, rfl, _⟩ <;> exact ⟨_, _, _, rfl⟩
  cases hb : cs.any (fun x => noneB x.1) with
  | true =>
    have HX : Hid (printL (cs.map (·.1)) = ([], 260)) := hid (by unfold printL; rw [hany, hb, if_pos rfl])
    rw [hb] at HF
    clear h hC hP hb hany
    go_enter Tryz.func12, Tryz.ntmps12
    go_wp2_with fail
    go_at_call 27
    refine HF.out.mono ?_
    rintro e V ⟨rfl, hb⟩
    go_wp2_with fail
    go_ret2
    rw [HX.out]
    exact ⟨rfl, hb⟩
  | false =>
    have hk : ∀ x ∈ cs, KOk x.1 := fun x hx => none_k (by
      cases e : noneB x.1
      · rfl
      · rw [List.any_eq_true.2 ⟨x, hx, e⟩] at hb; cases hb)
    have hall : ∀ c ∈ cs.map (·.1), CmOk c ∧ KOk c := fun c hc => by
      obtain ⟨x, hx, rfl⟩ := List.mem_map.1 hc
      exact ⟨(hC x hx).1, hk x hx⟩
    obtain ⟨hl1, hl2⟩ := long_txL (cs.map (·.1)) hall
    have hsz := (txL_fl (cs.map (·.1)) hall).2
    have HT := hid (fun V (hV : Below w.heap.size w V) => textOf_any _ cs V (hE.of hV.size fun k hk => hV.block k (by have := hE.sz; omega)) (h.below hV) hlen (fun x hx => ⟨(hC x hx).1, hk x hx, (hC x hx).2⟩) (fun x hx V' hV' => hP x hx V V' hV hV'))
    have HL := hid (fun V => isLong_any (bt (txL (cs.map (·.1)))) (by rw [sz_eq, bt_toList]; omega) V)
    rw [bt_toList, hl1] at HL
    have HX : Hid (printL (cs.map (·.1)) = if longB (prT (cs.map (·.1))) then ([], 3) else (prT (cs.map (·.1)), 0)) := hid (by unfold printL; rw [hany, hb, if_neg (by simp)])
    have HEQ := hid hl2
    rw [hb] at HF
    clear h hC hP hb hany hk hall hl1 hl2 hsz hE
    go_enter Tryz.func12, Tryz.ntmps12
    go_wp2_with fail
    go_at_call 27
    refine HF.out.mono ?_
    rintro e V ⟨rfl, hb⟩
    go_wp2_with fail
    go_at_call 29
    refine (HT.out V hb).mono ?_
    rintro e V2 ⟨rfl, hb2⟩
    have HB2 := hid (hb.trans (hb2.mono hb.size))
    clear hb hb2 HT HF
    go_wp2_with fail
    go_at_call 24
    refine (HL.out V2).mono ?_
    rintro e V3 ⟨rfl, hb3⟩
    have HB3 := hid (HB2.out.trans (hb3.mono HB2.out.size))
    clear hb3 HL
    have hx := HX.out
    cases hlg : longB (prT (cs.map (·.1))) with
    | true =>
      rw [hlg, if_pos rfl] at hx
      have HX2 := hid hx
      clear hx hlg HEQ HX
      go_wp2_with fail
      go_ret2
      rw [HX2.out]
      exact ⟨rfl, HB3.out⟩
    | false =>
      rw [hlg, if_neg (by simp)] at hx
      have HX2 := hid hx
      have HE2 := hid (HEQ.out hlg)
      clear hx hlg HEQ HX
      go_wp2_with fail
      go_ret2
      rw [HX2.out, HE2.out]
      exact ⟨rfl, HB3.out⟩
end Go.Proofs.YtghppkfopglgaaaGreatDoor
namespace Go.Proofs.YtghppkfopglgaaaGreatDoor
open Go.RowKit
set_option linter.unusedVariables false
set_option linter.unusedSimpArgs false
/-- a frame -/
structure Fm where
  ty : Int
  fl : Int
  st : Int
  da : ByteArray
  pad : Int
  dep : Int
  ex : Bool
  wt : Int
  cd : Int
  la : Int
  ps : List (Int × Int)
def Fm.Ok (f : Fm) : Prop := I64 f.ty ∧ I64 f.fl ∧ I64 f.st ∧ I64 f.pad ∧ I64 f.dep ∧ I64 f.wt ∧ I64 f.cd ∧ I64 f.la ∧ ∀ p ∈ f.ps, I64 p.1 ∧ I64 p.2
def fmA (f : Fm) (v : Value) : Array Value := #[.int .i64 f.ty, .int .i64 f.fl, .int .i64 f.st, .string f.da, .int .i64 f.pad, .int .i64 f.dep, .bool f.ex, .int .i64 f.wt, .int .i64 f.cd, .int .i64 f.la, v]
def iB (n : Int) : ByteArray := bt (Lib.itoa n)
/-- the frame's block stays, and the package's variables -/
structure FS (g1 : Nat) (cs : Array Value) (w W : World) : Prop where
  bel : Below w.heap.size w W
  blk : W.heap[g1]? = some (.cells cs 55 (0, 0))
  env : Env W
theorem FS.step {g1 : Nat} {cs : Array Value} {w W W' : World} (h : FS g1 cs w W) (hb : Below W.heap.size W W') : FS g1 cs w W' :=
  ⟨h.bel.trans (hb.mono h.bel.size), (hb.block _ (heap_lt h.blk)).trans h.blk, h.env.of hb.size fun k hk => hb.block k (by have := h.env.sz; omega)⟩
def dataB : ByteArray := ⟨#[100, 97, 116, 97]⟩
def padB : ByteArray := ⟨#[112, 97, 100]⟩
def depB : ByteArray := ⟨#[100, 101, 112]⟩
def exclB : ByteArray := ⟨#[101, 120, 99, 108]⟩
def wtB : ByteArray := ⟨#[119, 101, 105, 103, 104, 116]⟩
def codeB : ByteArray := ⟨#[99, 111, 100, 101]⟩
def lastB : ByteArray := ⟨#[108, 97, 115, 116]⟩
def paramB : ByteArray := ⟨#[112, 97, 114, 97, 109]⟩
def nmW (s : ByteArray) (n : Int) : List ByteArray := if n = 0 then [] else [s, iB n]
def pmW (p : Int × Int) : List ByteArray := [paramB, iB p.1, iB p.2]
def Fm.w0 (f : Fm) : List ByteArray := [iB f.ty, iB f.fl, iB f.st]
def Fm.w1 (f : Fm) : List ByteArray := if f.da = ⟨#[]⟩ then [] else [dataB, bt (qtS f.da.data.toList)]
def Fm.w2 (f : Fm) : List ByteArray := f.w0 ++ f.w1 ++ nmW padB f.pad ++ nmW depB f.dep ++ (if f.ex then [exclB] else []) ++ nmW wtB f.wt ++ nmW codeB f.cd ++ nmW lastB f.la
def Fm.ws (f : Fm) : List ByteArray := f.w2 ++ f.ps.flatMap pmW
theorem og_cs (l : List ByteArray) : EOg.cs l = l.map Value.string := by
  show l.flatMap (fun x => [Value.string x]) = _
  induction l with
  | nil => rfl
  | cons a l ih => rw [List.flatMap_cons, ih]; rfl
theorem in_lit (W : World) (B : Nat) (l : List ByteArray) (h : W.heap[B]? = some (.cells (l.map Value.string).toArray 9 (0, 0))) (hl : l.length ≤ 9223372036854775807) : In EOg W (.slice (some ⟨B, 0, none⟩) l.length l.length) l := by
  refine .inr ⟨_, l.length, rfl, Nat.le_refl _, hl, fun j u hu => ?_⟩
  rw [Addr.add_lit, cell_blk h, Nat.zero_add, ← Array.getElem?_toList]
  rw [og_cs] at hu
  exact hu
theorem r_lit (W : World) (B : Nat) (l : List ByteArray) (h : W.heap[B]? = some (.cells (l.map Value.string).toArray 9 (0, 0))) (hl : l.length ≤ 1073741824) : R EOg W (.slice (some ⟨B, 0, none⟩) l.length l.length) l := by
  refine ⟨?_, .inr ⟨B, l.length, _, rfl, Nat.zero_le _, h, Nat.le_refl _, by unfold maxLen; omega, ?_, ?_⟩⟩
  · rw [og_cs, List.length_map]; show _ = _ * 1; omega
  · show (l.map Value.string).toArray.size = l.length * 1
    simp
  · rw [og_cs]
    show (l.map Value.string).take (l.length * 1) = _
    rw [List.take_of_length_le (by rw [List.length_map]; omega)]
/-- words so far -/
structure FJ (g1 : Nat) (cs : Array Value) (w W : World) (v : Value) (l : List ByteArray) : Prop where
  fs : FS g1 cs w W
  row : R EOg W v l
  own : ∀ k, v.ownBlock = some k → g1 < k
theorem FJ.put {g1 : Nat} {cs : Array Value} {w W V : World} {v v' : Value} {l news : List ByteArray} (h : FJ g1 cs w W v l) (hg : w.heap.size = g1) (g8 : 8 ≤ g1) (hb : Below W.heap.size W V) (hi : In EOg V v' news) (hl : l.length + news.length ≤ 1073741824) :
    ∃ base N cap V', N = l.length + news.length ∧ (Builtin.append_ #[43, 43] 43 #[v, v']).run Tryz.prog V = .ok (.slice base N cap) V' ∧ FJ g1 cs w V' (.slice base N cap) (l ++ news) := by
  obtain ⟨base, cap, V', hrun, hR, hG⟩ := app okOg V v l (h.row.below hb) v' news hi (by rw [show EOg.by' = 16 from rfl]; omega)
  have hk := Ks.of_gr hG
  have hs := (h.fs.step hb).bel.size
  refine ⟨base, _, cap, V', rfl, hrun, ⟨⟨?_, ?_, ?_⟩, hR, fun k e => (hG.own k e).elim (h.own k) fun q => ?_⟩⟩
  · exact (h.fs.step hb).bel.trans (hk.below hs (fun i hi e => by have := h.own i e; omega))
  · exact (hk.block _ (heap_lt (h.fs.step hb).blk) (fun e => by have := h.own _ e; omega)).trans (h.fs.step hb).blk
  · exact (h.fs.step hb).env.of hk.size fun k hk' => hk.block k (by have := (h.fs.step hb).env.sz; omega) (fun e => by have := h.own _ e; have := heap_lt h.fs.blk; have := h.fs.env.sz; omega)
  · have := heap_lt (h.fs.step hb).blk; omega
set_option maxRecDepth 100000 in
set_option maxHeartbeats 4000000 in
theorem named_any (s : ByteArray) (n : Int) (hn : I64 n) (w : World) (hE : Env w) : Calls Tryz.prog 32 #[.string s, .int .i64 n] w fun e w' => ∃ b N c, N = (nmW s n).length ∧ e = .returned (.slice b N c) ∧ In EOg w' (.slice b N c) (nmW s n) ∧ Below w.heap.size w w' := by
  by_cases h0 : n = 0
  · subst h0
    go_enter Tryz.func32, Tryz.ntmps32
    go_wp2_with fail
    go_ret
    exact ⟨none, 0, 0, rfl, rfl, .inl ⟨rfl, rfl⟩, Below.refl _ _⟩
  · have e0 : (n == 0) = false := by simpa using h0
    have HF := hid (format_any n hn w hE)
    have HW : Hid (nmW s n = [s, iB n]) := hid (by unfold nmW; rw [if_neg h0])
    clear hE
    go_enter Tryz.func32, Tryz.ntmps32
    go_wp2_with fail
    go_at_call 31
    refine HF.out.mono ?_
    rintro e V ⟨rfl, hb⟩
    go_wp2_with fail
    go_ret
    rw [HW.out]
    refine ⟨_, _, _, rfl, rfl, in_lit _ _ [s, iB n] (by rw [heap_al, if_pos rfl]; rfl) (by simp), hb.trans ((bel1 _ _).mono hb.size)⟩
end Go.Proofs.YtghppkfopglgaaaGreatDoor
