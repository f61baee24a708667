/- firstWord. wordsOfLine. The lines of a text: the iterator. A range over the lines of a text. -/
import Derived.Test.YtghppkfopglgaaaGreatDoorKaf
import Derived.RangeFuncNested
import Derived.RangeFuncBound
import Derived.RangeFuncCalls
import Derived.RangeFuncLeaves
import Derived.Shelf.Abstract
import Derived.Shelf.RegionOpen
import Derived.OwnWalkIn
import Derived.TacticsInMore
import Derived.LoopNIn
import Derived.LoopIn
namespace Go.Proofs.YtghppkfopglgaaaGreatDoor
open Go.RowKit
set_option linter.unusedVariables false
set_option linter.unusedSimpArgs false
theorem results_ct {P : Program} {fn : Func} {p r : Tmp} {ty : TypeId} (h : fn.results = #[.cell p ty, .tmp r]) (tmps : Array Value) (w : World) (g : Nat) (t : TypeId) (cs : Array Value) (fr : Nat × Nat) (d : TypeDesc)
    (hp : tmps.getD p undef = .pointer (some ⟨g, 0, none⟩)) (hg : w.heap[g]? = some (.cells cs t fr)) (hu : P.underlying ty = some d) (hd : (match d with | .struct _ | .array _ _ => true | _ => false) = true) (hi : (P.info? ty).map (·.size) = some cs.size) :
    (results fn tmps).run P w = .ok (.tuple #[.agg cs, tmps.getD r undef]) w := by
  have hp' : tmps[p]?.getD undef = .pointer (some ⟨g, 0, none⟩) := by simpa using hp
  simp [results, h, hp', asAddr, run_loadVar_row w g t ty cs fr d hg hu hd hi]
/-- what firstWord tells -/
def FwP (s : ByteArray) (k : Int) (t : ByteArray) (n : Int) : Prop := match fw s.data.toList with | none => k = 1 ∧ t = noS ∧ n = 0 | some (x, r) => k = (x.k : Int) ∧ t = x.t ∧ n = (s.size : Int) - r.length
theorem tw_dw (l : List UInt8) : ((l.takeWhile (· ≠ 32)).length : Int) = (l.length : Int) - (l.dropWhile (· ≠ 32)).length := by
  have := congrArg List.length (List.takeWhile_append_dropWhile (p := fun c : UInt8 => decide (c ≠ 32)) (l := l))
  rw [List.length_append] at this
  omega
theorem fw_bare (s : ByteArray) (h : Lib.hasPrefix s.data.toList [34] = false) : FwP s 0 (bt (s.data.toList.takeWhile (· ≠ 32))) ((bt (s.data.toList.takeWhile (· ≠ 32))).size : Int) := by
  unfold FwP fw
  have hz : ((bt (s.data.toList.takeWhile (· ≠ 32))).size : Int) = ((s.data.toList.takeWhile (· ≠ 32)).length : Int) := by rw [sz_eq, bt_toList]
  rw [hz, tw_dw, sz_eq]
  cases e : s.data.toList with
  | nil => exact ⟨rfl, rfl, rfl⟩
  | cons c r =>
    rw [e] at h
    have hc : c ≠ 34 := by
      rintro rfl
      simp [Lib.hasPrefix] at h
    simp only
    rw [if_neg hc]
    exact ⟨rfl, rfl, rfl⟩
theorem fw_quoted (s : ByteArray) (l : List UInt8) (hl : s.data.toList = 34 :: l) (t : ByteArray) (n : Int) (h : UqP s l t n) : FwP s 1 t n := by
  unfold UqP at h
  unfold FwP fw
  rw [hl]
  simp only
  rw [if_pos trivial]
  cases hu : unq l with
  | none => rw [hu] at h; obtain ⟨rfl, rfl⟩ := h; simp
  | some p => rw [hu] at h; obtain ⟨rfl, rfl⟩ := h; simp
set_option maxRecDepth 100000 in
set_option maxHeartbeats 4000000 in
theorem firstWord_any (s : ByteArray) (hs : s.size ≤ 17592186044416) (w : World) : Calls Tryz.prog 67 #[.string s] w fun e w' => (∃ k t n, e = .returned (.tuple #[.agg #[.int .i64 k, .string t], .int .i64 n]) ∧ FwP s k t n) ∧ Below w.heap.size w w' := by
  obtain ⟨g, hg⟩ : ∃ g, w.heap.size = g := ⟨_, rfl⟩
  obtain ⟨W1, hW1⟩ : ∃ V, w.alloc (.cells #[.int .i64 0, .string ⟨#[]⟩] 115) = V := ⟨_, rfl⟩
  have b1 : W1.heap[g]? = some (.cells #[.int .i64 0, .string ⟨#[]⟩] 115 (0, 0)) := by rw [← hW1, ← hg, heap_al, if_pos rfl]
  have l1 : Below g w W1 := by rw [← hW1, ← hg]; exact bel1 _ _
  have HG := hid hg
  have HW1 := hid hW1
  have HJ := hid (And.intro b1 l1)
  have HH := hid (fun V => Tryz.strings_HasPrefix s ⟨#[34]⟩ V)
  have HEND : Hid (∀ (V : World) (k : Int) (t : ByteArray), Below W1.heap.size W1 V → ((V.setCell ⟨g, 0, none⟩ (.int .i64 k)).setCell ⟨g, 1, none⟩ (.string t)).heap[g]? = some (.cells #[.int .i64 k, .string t] 115 (0, 0)) ∧ Below w.heap.size w ((V.setCell ⟨g, 0, none⟩ (.int .i64 k)).setCell ⟨g, 1, none⟩ (.string t)) ∧ V.cell? ⟨g, 0, none⟩ = some (.int .i64 0) ∧ V.cell? ⟨g, 1, none⟩ = some (.string ⟨#[]⟩) ∧ V.frozen? ⟨g, 0, none⟩ = false ∧ V.frozen? ⟨g, 1, none⟩ = false ∧ g < V.heap.size) := fun V k t hV => by
    have hb := (hV.block g (heap_lt b1)).trans b1
    refine ⟨?_, ?_, cell_blk hb 0, cell_blk hb 1, frozen_blk hb 0, frozen_blk hb 1, heap_lt hb⟩
    · rw [setCell_block _ _ _ _ _ _ _ (setCell_block _ _ _ _ _ _ _ hb)]
      rfl
    · rw [HG.out]
      have h2 : Below g w V := l1.trans (hV.mono (by have := heap_lt b1; omega))
      exact ((Ks.of_below (A := fun i => i = g) (by rw [HG.out]; exact h2)).trans ((Ks.setCell (fun i => i = g) V g 0 _ rfl).trans (Ks.setCell (fun i => i = g) _ g 1 _ rfl) (C := fun i => i = g) (fun i _ h => h) (fun i _ h => h)) (C := fun i => i = g) (fun i _ h => h) (fun i _ h => h)).below (by rw [HG.out]; exact Nat.le_refl _) (fun i hi e => by omega)
  clear hg hW1 b1 l1
  cases hp : Lib.hasPrefix s.data.toList [34] with
  | false =>
    rw [show (⟨#[34]⟩ : ByteArray).data.toList = [34] from rfl, hp] at HH
    have HC := hid (fun V => scut_any s (by omega) V)
    have HF := hid (fw_bare s hp)
    obtain ⟨t, ht⟩ : ∃ t, bt (s.data.toList.takeWhile (· ≠ 32)) = t := ⟨_, rfl⟩
    rw [ht] at HC HF
    clear hp hs ht
    go_enter Tryz.func67, Tryz.ntmps67
    go_upto_region 1 with fail
    rw [HW1.out, HG.out]
    go_wp2_with fail
    go_at_call 43
    refine (HH.out _).mono ?_
    rintro e V ⟨rfl, e2⟩
    subst e2
    go_wp2_with fail
    go_at_call 93
    refine (HC.out _).mono ?_
    rintro e V2 ⟨⟨r, b, rfl⟩, hB⟩
    have hE := HEND.out V2 0 t hB
    have HE2 := hid (And.intro hE.1 hE.2.1)
    obtain ⟨_, _, c0, c1, f0, f1, gl⟩ := hE
    clear hB HEND HH HC HJ HW1
    go_wp2_with fail
    refine bodyPost_ret (results_ct (p := 2) (r := 3) (ty := 115) rfl _ _ g 115 _ (0, 0) _ rfl HE2.out.1 Tryz.underlying115 rfl (by kernel_rfl)) rfl ⟨⟨_, _, _, rfl, HF.out⟩, HE2.out.2⟩
  | true =>
    rw [show (⟨#[34]⟩ : ByteArray).data.toList = [34] from rfl, hp] at HH
    have hl0 : ∃ l, s.data.toList = 34 :: l := by
      cases e : s.data.toList with
      | nil => rw [e] at hp; simp [Lib.hasPrefix] at hp
      | cons c l => rw [e] at hp; simp [Lib.hasPrefix] at hp; exact ⟨l, by rw [hp]⟩
    obtain ⟨l, hl⟩ := hl0
    have HC := hid (fun V => unquoted_any s l hl V hs)
    have HF := hid (fw_quoted s l hl)
    clear hp hs hl
    go_enter Tryz.func67, Tryz.ntmps67
    go_upto_region 1 with fail
    rw [HW1.out, HG.out]
    go_wp2_with fail
    go_at_call 43
    refine (HH.out _).mono ?_
    rintro e V ⟨rfl, e2⟩
    subst e2
    go_wp2_with fail
    go_at_call 92
    refine (HC.out _).mono ?_
    rintro e V2 ⟨⟨t, n, rfl, hP⟩, hB⟩
    have hE := HEND.out V2 1 t hB
    have HE2 := hid (And.intro hE.1 hE.2.1)
    have HP := hid (HF.out t n hP)
    obtain ⟨_, _, c0, c1, f0, f1, gl⟩ := hE
    clear hB hP HEND HH HC HJ HW1 HF
    go_wp2_with fail
    refine bodyPost_ret (results_ct (p := 2) (r := 3) (ty := 115) rfl _ _ g 115 _ (0, 0) _ rfl HE2.out.1 Tryz.underlying115 rfl (by kernel_rfl)) rfl ⟨⟨_, _, _, rfl, HP.out⟩, HE2.out.2⟩
end Go.Proofs.YtghppkfopglgaaaGreatDoor
namespace Go.Proofs.YtghppkfopglgaaaGreatDoor
open Go.RowKit
set_option linter.unusedVariables false
set_option linter.unusedSimpArgs false
theorem unq_suf : ∀ (l : List UInt8) p, unq l = some p → ∃ a, l = a ++ p.2
  | [], p, h => by simp [unq] at h
  | c :: r, p, h => by
    unfold unq at h
    split at h
    · cases h; exact ⟨[c], rfl⟩
    · split at h
      · cases h
      · split at h
        · split at h
          · cases h
          · rename_i x r1
            split at h
            · obtain ⟨q, hq, rfl⟩ := Option.map_eq_some_iff.1 h
              obtain ⟨a, ha⟩ := unq_suf r1 q hq
              exact ⟨c :: x :: a, by rw [ha]; rfl⟩
            · split at h
              · split at h
                · rename_i h' l' r2
                  split at h
                  · obtain ⟨q, hq, rfl⟩ := Option.map_eq_some_iff.1 h
                    obtain ⟨a, ha⟩ := unq_suf r2 q hq
                    exact ⟨c :: x :: h' :: l' :: a, by rw [ha]; rfl⟩
                  · cases h
                · cases h
              · cases h
        · obtain ⟨q, hq, rfl⟩ := Option.map_eq_some_iff.1 h
          obtain ⟨a, ha⟩ := unq_suf r q hq
          exact ⟨c :: a, by rw [ha]; rfl⟩
theorem fw_suf (l : List UInt8) (x : Wd) (r : List UInt8) (h : fw l = some (x, r)) : ∃ a, l = a ++ r := by
  unfold fw at h
  split at h
  · rename_i c r' 
    split at h
    · obtain ⟨q, hq, e⟩ := Option.map_eq_some_iff.1 h
      obtain ⟨a, ha⟩ := unq_suf _ q hq
      have e2 := (Prod.mk.inj e).2
      exact ⟨c :: a, by rw [ha, e2]; rfl⟩
    · have e2 := (Prod.mk.inj (Option.some.inj h)).2
      exact ⟨(c :: r').takeWhile (· ≠ 32), by rw [← e2, List.takeWhile_append_dropWhile]⟩
  · have e2 := (Prod.mk.inj (Option.some.inj h)).2
    exact ⟨[], by rw [← e2]; rfl⟩
theorem fw_none {l : List UInt8} (h : fw l = none) : ∃ r, l = 34 :: r := by
  unfold fw at h
  split at h
  · split at h
    · rename_i hc; exact ⟨_, by rw [hc]⟩
    · cases h
  · cases h
theorem wol_no {l : List UInt8} (h : fw l = none) : wol l = none := by
  rw [wol]
  split
  · rfl
  · rename_i e; rw [h] at e; cases e
  · rename_i e; rw [h] at e; cases e
theorem wol_bad {l r : List UInt8} {c : UInt8} {w : Wd} (h : fw l = some (w, c :: r)) (hc : c ≠ 32) : wol l = none := by
  rw [wol]
  split
  · rfl
  · rename_i e; rw [h] at e; cases e
  · rename_i e; rw [h] at e; cases e; rw [if_neg hc]
/-- behind some words -/
structure WlJ (w W : World) (s cur : ByteArray) (v : Value) (acc : List Wd) : Prop where
  row : R EW W v acc
  own : ∀ k, v.ownBlock = some k → w.heap.size ≤ k
  bel : Below w.heap.size w W
  eq : wol s.data.toList = (wol cur.data.toList).map (acc ++ ·)
  len : acc.length + cur.size ≤ s.size
theorem WlJ.put {w W V : World} {s cur : ByteArray} {v : Value} {acc : List Wd} (h : WlJ w W s cur v acc) (hs : s.size ≤ 1048576) (hV : Below W.heap.size W V) (x : Wd) :
    ∃ base cap V', (Builtin.append_ #[88, 88] 88 #[v, .slice (some ⟨V.heap.size + 1, 0, none⟩) 1 1]).run Tryz.prog ((V.alloc (.cells (wdv x) 115)).alloc (.cells (wdv x) 115)) = .ok (.slice base (acc.length + 1) cap) V' ∧ R EW V' (.slice base (acc.length + 1) cap) (acc ++ [x]) ∧ (∀ k, (Value.slice base (acc.length + 1) cap).ownBlock = some k → w.heap.size ≤ k) ∧ Below w.heap.size w V' := by
  obtain ⟨W2, hW2⟩ : ∃ W2, (V.alloc (.cells (wdv x) 115)).alloc (.cells (wdv x) 115) = W2 := ⟨_, rfl⟩
  have b2 : Below V.heap.size V W2 := by rw [← hW2]; exact bel2 _ _ _
  have bv : Below w.heap.size w V := h.bel.trans (hV.mono h.bel.size)
  have g2 : W2.heap[V.heap.size + 1]? = some (.cells (wdv x) 115 (0, 0)) := by rw [← hW2]; exact fresh2 _ _ _
  obtain ⟨base, cap, V', hrun, hR, hG⟩ := app okW W2 v acc ((h.row.below hV).below b2) (.slice (some ⟨V.heap.size + 1, 0, none⟩) 1 1) [x] (in_one W2 _ x _ 115 (0, 0) g2 rfl) (by
    have := h.len
    rw [show EW.by' = 24 from rfl]
    simp only [List.length_cons, List.length_nil]
    omega)
  rw [hW2]
  have b3 : Below w.heap.size w W2 := bv.trans (b2.mono bv.size)
  exact ⟨base, cap, V', hrun, hR, fun k hk => (hG.own k hk).elim (h.own k) fun e => Nat.le_trans b3.size e, b3.trans (hG.belowB b3.size h.own)⟩
def strLen : Value → Nat
  | .string s => s.size
  | _ => 0
set_option maxRecDepth 100000 in
set_option maxHeartbeats 8000000 in
theorem wordsOfLine_any (s : ByteArray) (hs : s.size ≤ 1048576) (w : World) : Calls Tryz.prog 44 #[.string s] w fun e w' => ∃ z, e = .returned z ∧ R EW w' z ((wol s.data.toList).getD []) ∧ (∀ k, z.ownBlock = some k → w.heap.size ≤ k) ∧ Below w.heap.size w w' := by
  have HJ : Hid (WlJ w w s s (.slice none 0 0) []) := ⟨R.nil _ _, fun k hk => by simp [Value.ownBlock] at hk, Below.refl _ _, by cases wol s.data.toList <;> rfl, by simp⟩
  have HS := hid hs
  clear hs
  go_enter Tryz.func44, Tryz.ntmps44
  go_wp2_with fail
  go_loopw [0, 3] (fun cv lv wr => ∃ (cur : ByteArray) (acc : List Wd), cv = .string cur ∧ Hid (WlJ w wr s cur lv acc)) (fun cv _ _ => strLen cv)
  case atStart => exact ⟨s, [], rfl, HJ⟩
  case round =>
    obtain ⟨cur, acc, rfl, HI⟩ := hrel
    clear HJ
    have HF := hid (firstWord_any cur (by have := HI.out.len; have := HS.out; omega) wr)
    go_wp2_with fail
    go_at_call 67
    refine HF.out.mono ?_
    rintro e V ⟨⟨k, t, n, rfl, hP⟩, hV⟩
    clear HF
    unfold FwP at hP
    cases hf : fw cur.data.toList with
    | none =>
      rw [hf] at hP
      obtain ⟨rfl, rfl, rfl⟩ := hP
      obtain ⟨r0, hr0⟩ := fw_none hf
      obtain ⟨base, cap, V', hrun, h1, h2, h3⟩ := HI.out.put HS.out hV ⟨1, noS⟩
      have HW : Hid ((wol s.data.toList).getD [] = []) := by
        show _ = _
        rw [HI.out.eq, wol_no hf]
        rfl
      have hz1 : ((0 : Int) == (cur.size : Int)) = false := by
        have : cur.size = r0.length + 1 := by rw [sz_eq, hr0]; rfl
        simp; omega
      have hz2 : (0 : Int) ≤ (cur.size : Int) := by omega
      have hex : cur.extract 0 cur.size = cur := by
        refine ba_eq ?_
        rw [Lib.extract_data]
        simp only [List.drop_zero, Nat.sub_zero]
        exact List.take_of_length_le (by rw [← sz_eq]; exact Nat.le_refl _)
      have HC : Hid (∀ W, Calls Tryz.prog 68 #[.string cur, .string ⟨#[32]⟩] W fun e w' => e = .returned (.tuple #[.string cur, .bool false]) ∧ w' = W) := fun W => by
        refine (Tryz.strings_CutPrefix cur ⟨#[32]⟩ W).mono ?_
        rintro e w' ⟨rfl, rfl⟩
        have hp : Lib.hasPrefix cur.data.toList [32] = false := by rw [hr0]; rfl
        refine ⟨?_, rfl⟩
        rw [show (⟨#[32]⟩ : ByteArray).data.toList = [32] from rfl, hp]
        unfold Lib.trimPrefix
        rw [hp, if_neg (by simp)]
      have HRUN := hid hrun
      have HE := hid h3
      clear hf hr0 hrun h1 h2 h3 hV HI
      simp only [wdv] at HRUN
      go_wp2_with (at_builtin; refine Lib.wpList_append_run _ rfl (.tmp 13) (.tmp 15) 88 88 rfl _ _ rfl rfl _ _ HRUN.out ?_)
      go_at_call 68
      refine (HC.out _).mono ?_
      rintro e V2 ⟨rfl, e2⟩
      subst e2
      clear HC HRUN hex hz1 hz2
      go_wp2_with fail
      go_ret
      exact ⟨_, rfl, by rw [HW.out]; exact R.nil _ _, fun k hk => by simp [Value.ownBlock] at hk, HE.out⟩
    | some p =>
      obtain ⟨x, r⟩ := p
      rw [hf] at hP
      obtain ⟨rfl, rfl, rfl⟩ := hP
      obtain ⟨pre, hpre⟩ := fw_suf _ _ _ hf
      obtain ⟨base, cap, V', hrun, h1, h2, h3⟩ := HI.out.put HS.out hV x
      have hlen : cur.size = pre.length + r.length := by rw [sz_eq, hpre, List.length_append]
      obtain ⟨nn, hnn⟩ : ∃ nn, pre.length = nn := ⟨_, rfl⟩
      have hn0 : (cur.size : Int) - (r.length : Int) = (nn : Int) := by omega
      rw [hn0] at *
      have HRUN := hid hrun
      simp only [wdv] at HRUN
      have HE := hid (And.intro h1 (And.intro h2 h3))
      clear hrun h1 h2 h3 hV
      cases r with
      | nil =>
        have HW : Hid ((wol s.data.toList).getD [] = acc ++ [x]) := by
          show _ = _
          rw [HI.out.eq, wol_of hf]
          rfl
        have hz1 : ((nn : Int) == (cur.size : Int)) = true := by simp at hlen ⊢; omega
        clear hf hpre HI hn0 hnn hlen
        go_wp2_with (at_builtin; refine Lib.wpList_append_run _ rfl (.tmp 13) (.tmp 15) 88 88 rfl _ _ rfl rfl _ _ HRUN.out ?_)
        go_ret
        exact ⟨_, rfl, by rw [HW.out]; exact HE.out.1, HE.out.2.1, HE.out.2.2⟩
      | cons c r' =>
        have hz1 : ((nn : Int) == (cur.size : Int)) = false := by simp at hlen ⊢; omega
        have hz2 : (nn : Int) ≤ (cur.size : Int) := by omega
        have hz3 : (0 : Int) ≤ (nn : Int) := by omega
        have hz4 : nn ≤ cur.size := by omega
        have hd : (cur.extract nn cur.size).data.toList = c :: r' := by rw [drop_ext, hpre, ← hnn, List.drop_left]
        by_cases hc : c = 32
        · subst hc
          have HN : Hid (∀ W, R EW W (.slice base (acc.length + 1) cap) (acc ++ [x]) → (∀ k, (Value.slice base (acc.length + 1) cap).ownBlock = some k → w.heap.size ≤ k) → Below w.heap.size w W → WlJ w W s (bt r') (.slice base (acc.length + 1) cap) (acc ++ [x])) := fun W q1 q2 q3 => ⟨q1, q2, q3, by
            rw [HI.out.eq, wol_more hf, bt_toList]
            cases wol r' <;> simp, by
            have := HI.out.len
            have e : (bt r').size = r'.length := by rw [sz_eq]; rfl
            simp at hlen ⊢; omega⟩
          have HC : Hid (∀ W, Calls Tryz.prog 68 #[.string (cur.extract nn cur.size), .string ⟨#[32]⟩] W fun e w' => e = .returned (.tuple #[.string (bt r'), .bool true]) ∧ w' = W) := fun W => by
            refine (Tryz.strings_CutPrefix _ ⟨#[32]⟩ W).mono ?_
            rintro e w' ⟨rfl, rfl⟩
            have hp : Lib.hasPrefix (32 :: r') [32] = true := by simp [Lib.hasPrefix]
            refine ⟨?_, rfl⟩
            rw [show (⟨#[32]⟩ : ByteArray).data.toList = [32] from rfl, hd, hp]
            unfold Lib.trimPrefix
            rw [hp, if_pos rfl]
            rfl
          have HM : Hid ((bt r').size < cur.size) := by
            show _ < _
            have e : (bt r').size = r'.length := by rw [sz_eq]; rfl
            simp at hlen; omega
          clear hf hpre HI hn0 hnn hlen hd
          go_wp2_with (at_builtin; refine Lib.wpList_append_run _ rfl (.tmp 13) (.tmp 15) 88 88 rfl _ _ rfl rfl _ _ HRUN.out ?_)
          go_at_call 68
          refine (HC.out _).mono ?_
          rintro e V2 ⟨rfl, e2⟩
          subst e2
          have HNN := hid (HN.out _ HE.out.1 HE.out.2.1 HE.out.2.2)
          clear HC HRUN hz1 hz2 hz3 hz4 HN HE
          go_wp2_with fail
          go_roundw
          case rel => exact ⟨bt r', acc ++ [x], rfl, HNN.out⟩
          case measure => exact HM.out
        · have HW : Hid ((wol s.data.toList).getD [] = []) := by
            show _ = _
            rw [HI.out.eq, wol_bad hf hc]
            rfl
          have HC : Hid (∀ W, Calls Tryz.prog 68 #[.string (cur.extract nn cur.size), .string ⟨#[32]⟩] W fun e w' => (∃ t, e = .returned (.tuple #[.string t, .bool false])) ∧ w' = W) := fun W => by
            refine (Tryz.strings_CutPrefix _ ⟨#[32]⟩ W).mono ?_
            rintro e w' ⟨rfl, rfl⟩
            have hp : Lib.hasPrefix (c :: r') [32] = false := by
              show ((32 : UInt8) == c && ([] : List UInt8).isPrefixOf r') = false
              rw [beq_eq_false_iff_ne.2 fun e => hc e.symm]
              rfl
            rw [show (⟨#[32]⟩ : ByteArray).data.toList = [32] from rfl, hd, hp]
            exact ⟨⟨_, rfl⟩, rfl⟩
          have HE2 := hid HE.out.2.2
          clear hf hpre HI hn0 hnn hlen hd HE
          go_wp2_with (at_builtin; refine Lib.wpList_append_run _ rfl (.tmp 13) (.tmp 15) 88 88 rfl _ _ rfl rfl _ _ HRUN.out ?_)
          go_at_call 68
          refine (HC.out _).mono ?_
          rintro e V2 ⟨⟨t, rfl⟩, e2⟩
          subst e2
          clear HC HRUN hz1 hz2 hz3 hz4
          go_wp2_with fail
          go_ret
          exact ⟨_, rfl, by rw [HW.out]; exact R.nil _ _, fun k hk => by simp [Value.ownBlock] at hk, HE2.out⟩
end Go.Proofs.YtghppkfopglgaaaGreatDoor
namespace Go.Proofs.YtghppkfopglgaaaGreatDoor
open Go.RowKit Go.Shelf
set_option linter.unusedVariables false
set_option linter.unusedSimpArgs false
attribute [local go_sem] Oper.semAt_some
def lnB (s : ByteArray) : List ByteArray := (lns s.data.toList).map bt
theorem lns_idx : ∀ (l : List UInt8), (Lib.indexByte l 10 = -1 ∧ (l ≠ [] → lns l = [l])) ∨ ∃ o : Nat, Lib.indexByte l 10 = (o : Int) ∧ o < l.length ∧ lns l = l.take (o + 1) :: lns (l.drop (o + 1))
  | [] => .inl ⟨rfl, fun h => absurd rfl h⟩
  | c :: l => by
    unfold Lib.indexByte
    by_cases hc : c = 10
    · subst hc
      refine .inr ⟨0, by simp, by simp, ?_⟩
      show (if (10 : UInt8) = 10 then [10] :: lns l else _) = _
      rw [if_pos rfl]
      rfl
    · have hb : (c == 10) = false := by simpa using hc
      have hl : lns (c :: l) = addC c (lns l) := by
        show (if c = 10 then [c] :: lns l else addC c (lns l)) = _
        rw [if_neg hc]
      rw [hb, if_neg (by simp), hl]
      rcases lns_idx l with ⟨h1, h2⟩ | ⟨o, h1, h2, h3⟩
      · rw [h1]
        refine .inl ⟨by simp, fun _ => ?_⟩
        cases l with
        | nil => rfl
        | cons d l => rw [h2 (by simp)]; rfl
      · rw [h1, h3]
        refine .inr ⟨o + 1, ?_, by simp; omega, rfl⟩
        rw [if_neg (by simp)]
        omega
theorem lnB_none {s : ByteArray} (h : Lib.indexByte s.data.toList 10 = -1) (h0 : 0 < s.size) : lnB s = [s] := by
  rcases lns_idx s.data.toList with ⟨_, h2⟩ | ⟨o, h1, _⟩
  · unfold lnB
    rw [h2 (by intro e; rw [sz_eq, e] at h0; exact absurd h0 (by decide))]
    simp [bt_data]
  · rw [h] at h1; omega
theorem ext_take (s : ByteArray) (k : Nat) : bt (s.data.toList.take k) = s.extract 0 k := by
  refine ba_eq ?_
  rw [Lib.extract_data, bt_toList]
  simp
theorem ext_drop (s : ByteArray) (k : Nat) : bt (s.data.toList.drop k) = s.extract k s.size := by
  refine ba_eq ?_
  rw [drop_ext, bt_toList]
theorem lnB_some {s : ByteArray} {o : Nat} (h : Lib.indexByte s.data.toList 10 = (o : Int)) : o < s.size ∧ lnB s = s.extract 0 (o + 1) :: lnB (s.extract (o + 1) s.size) := by
  rcases lns_idx s.data.toList with ⟨h1, _⟩ | ⟨p, h1, h2, h3⟩
  · rw [h] at h1; omega
  · rw [h] at h1
    have : o = p := by omega
    subst this
    refine ⟨by rw [sz_eq]; exact h2, ?_⟩
    unfold lnB
    rw [h3, List.map_cons, ext_take, drop_ext]
theorem lnB_nil {s : ByteArray} (h : s.size = 0) : lnB s = [] := by
  unfold lnB
  have : s.data.toList = [] := List.eq_nil_of_length_eq_zero (by rw [← sz_eq]; exact h)
  rw [this]
  rfl
/-- the iterator's box -/
def Bx (bs : Nat) (s : ByteArray) (W : World) : Prop := W.heap[bs]? = some (.cells #[.string s] 9 (0, 0))
def CmI (bs : Nat) (W W' : World) : Prop := W.heap.size ≤ W'.heap.size ∧ W'.heap[bs]? = W.heap[bs]?
theorem Bx.cm {bs : Nat} {s : ByteArray} {W W' : World} (h : Bx bs s W) (c : CmI bs W W') : Bx bs s W' := c.2.trans h
theorem Bx.set {bs : Nat} {s : ByteArray} {W : World} (h : Bx bs s W) (t : ByteArray) : Bx bs t (W.setCell ⟨bs, 0, none⟩ (.string t)) := setCell_block _ _ _ _ _ _ _ h
def boxLen (bs : Nat) (W : World) : Nat := match W.cell? ⟨bs, 0, none⟩ with | some (.string s) => s.size | _ => 0
theorem Bx.len {bs : Nat} {s : ByteArray} {W : World} (h : Bx bs s W) : boxLen bs W = s.size := by
  unfold boxLen
  rw [cell_blk h]
  rfl
set_option maxRecDepth 100000 in
set_option maxHeartbeats 4000000 in
theorem lines_in (n : Nat) (hn : 1 ≤ n) (l bs : Nat) (s : ByteArray) (J : List ByteArray → World → Prop) (X : World → Prop) (W : World) (hB : Bx bs s W) (hsz : s.size ≤ 140737488355328)
    (hJ : ∀ pre A A', J pre A → Ks (fun k => k = bs) A A' → J pre A')
    (hY : ∀ pre x r W1, pre ++ x :: r = lnB s → J pre W1 → YieldAt Fence.wide (n - 1) Tryz.prog l #[.string x] W1 fun e W' => (e = .returned (.bool true) ∧ J (pre ++ [x]) W' ∧ CmI bs W1 W') ∨ (e = .returned (.bool false) ∧ X W')) (h0 : J [] W) :
    CallsIn Fence.wide n Tryz.prog 55 #[.func (.yield l) #[] #[], .pointer (some ⟨bs, 0, none⟩)] W fun e W' => (∃ v, e = .returned v) ∧ (J (lnB s) W' ∨ X W') := by
  have HB : Hid (Bx bs s W) := hB
  have HJ : Hid (J [] W) := h0
  have HS : Hid (∀ pre A A', J pre A → Ks (fun k => k = bs) A A' → J pre A') := hJ
  have HY : Hid (∀ pre x r W1, pre ++ x :: r = lnB s → J pre W1 → YieldAt Fence.wide (n - 1) Tryz.prog l #[.string x] W1 fun e W' => (e = .returned (.bool true) ∧ J (pre ++ [x]) W' ∧ CmI bs W1 W') ∨ (e = .returned (.bool false) ∧ X W')) := hY
  have HZ := hid hsz
  clear hB h0 hJ hY hsz
  refine callsIn_of_wp Tryz.func55 rfl trivial ?_ rfl
  simp only [Tryz.ntmps55, List.size_toArray, List.length_cons, List.length_nil, Nat.reduceAdd, Nat.reduceSub, Array.replicate_succ, Array.replicate_zero, List.push_toArray, List.append_toArray, List.nil_append, List.cons_append]
  gi_wp2
  gi_loopw [3] (fun _ wr => ∃ (S : ByteArray) (pre : List ByteArray), Hid (Bx bs S wr) ∧ Hid (J pre wr) ∧ Hid (pre ++ lnB S = lnB s) ∧ S.size ≤ s.size) (fun _ wr => boxLen bs wr)
  case atStart => exact ⟨s, [], HB.out, HJ.out, by show _ = _; simp, Nat.le_refl _⟩
  case round =>
    obtain ⟨S, pre, hb, hj, hc, hle⟩ := hrel
    clear HB HJ
    have s0 := cell_blk hb.out 0
    simp only [List.getElem?_toArray, List.getElem?_cons_zero] at s0
    have sl := heap_lt hb.out
    have f0 := frozen_blk hb.out 0
    by_cases hz : S.size = 0
    · have hz1 : ¬ (0 : Int) < (S.size : Int) := by omega
      have hz2 : ¬ (S.size : Int) > 0 := by omega
      have HF : Hid (pre = lnB s) := by
        show _ = _
        have := hc.out
        rw [lnB_nil hz, List.append_nil] at this
        exact this
      have HJ2 : Hid (J (lnB s) wr) := by
        have := hj.out
        rw [HF.out] at this
        exact this
      clear hj hc hb HY HS hz
      gi_wp2
      go_end0
      exact ⟨⟨_, rfl⟩, .inl HJ2.out⟩
    · have hz1 : (0 : Int) < (S.size : Int) := by omega
      have hz2 : (S.size : Int) > 0 := hz1
      have HI0 := hid (fun V => Tryz.strings_IndexByte S (10 : Int) V)
      by_cases hi : Lib.indexByte S.data.toList 10 = -1
      · have HI : Hid (∀ V, Calls Tryz.prog 56 #[.string S, .int .u8 10] V fun e w' => e = .returned (.int .i64 (-1)) ∧ w' = V) := fun V => by
          have := HI0.out V
          rw [show (10 : Int).toNat.toUInt8 = (10 : UInt8) from rfl, hi] at this
          exact this
        have hcs := lnB_none hi (by omega)
        have HF : Hid (pre ++ [S] = lnB s) := by show _ = _; rw [← hcs]; exact hc.out
        obtain ⟨fn, tmps, assign, body, hy, hR⟩ := HY.out pre S [] (wr.setCell ⟨bs, 0, none⟩ (.string ⟨#[]⟩)) (HF.out) (HS.out _ _ _ hj.out (Ks.setCell _ _ _ _ _ rfl))
        have HB1 : Hid (Bx bs ⟨#[]⟩ (wr.setCell ⟨bs, 0, none⟩ (.string ⟨#[]⟩))) := hb.out.set _
        have HM : Hid (boxLen bs wr = S.size) := hb.out.len
        have HR := hid hR
        clear hc hcs hb hj HY hi HI0 hR
        gi_wp2_with (refine ⟨trivial, ?_⟩; gi_at_call 56; refine (callsIn_wide.2 (HI.out _)).mono ?_; rintro e w1 ⟨rfl, hw⟩; subst hw)
        refine HR.out.mono ?_
        rintro e W3 (⟨rfl, hJ3, hC3⟩ | ⟨rfl, hX3⟩)
        · have HB3 := hid (HB1.out.cm hC3)
          have HJ3 : Hid (J (pre ++ [S]) W3) := hJ3
          have HE : Hid (boxLen bs W3 < boxLen bs w1) := by
            show _ < _
            rw [HB3.out.len, HM.out]
            show 0 < S.size
            omega
          have HF2 : Hid ((pre ++ [S]) ++ lnB ⟨#[]⟩ = lnB s) := by show _ = _; rw [HF.out, lnB_nil (s := ⟨#[]⟩) rfl, List.append_nil]
          clear hJ3 hC3 HR hy HF HM HB1 hz hz1 hz2 s0 sl f0 HI
          gi_wp2
          exact ⟨⟨⟨#[]⟩, _, HB3.out, HJ3.out, HF2.out, Nat.zero_le _⟩, HE.out⟩
        · have HX3 := hid hX3
          clear hX3 HR hy HF HM HB1 hz hz1 hz2 s0 sl f0 HI
          gi_wp2
          refine bodyPost_ret (results_none rfl _ _ _) rfl ?_
          exact ⟨⟨_, rfl⟩, .inr HX3.out⟩
      · obtain ⟨o, ho⟩ : ∃ o : Nat, Lib.indexByte S.data.toList 10 = (o : Int) := by
          have := Lib.indexByte_ge S.data.toList 10
          exact ⟨(Lib.indexByte S.data.toList 10).toNat, by omega⟩
        have HI : Hid (∀ V, Calls Tryz.prog 56 #[.string S, .int .u8 10] V fun e w' => e = .returned (.int .i64 (o : Int)) ∧ w' = V) := fun V => by
          have := HI0.out V
          rw [show (10 : Int).toNat.toUInt8 = (10 : UInt8) from rfl, ho] at this
          exact this
        obtain ⟨hol, hcs⟩ := lnB_some ho
        obtain ⟨A, hA⟩ : ∃ A, S.extract 0 (o + 1) = A := ⟨_, rfl⟩
        obtain ⟨T, hT⟩ : ∃ T, S.extract (o + 1) S.size = T := ⟨_, rfl⟩
        rw [hA, hT] at hcs
        have HF : Hid ((pre ++ [A]) ++ lnB T = lnB s) := by
          show _ = _
          rw [← hc.out, hcs, List.append_assoc]
          rfl
        have hTs : T.size < S.size := by rw [← hT, ByteArray.size_extract]; omega
        obtain ⟨W2, hW2⟩ : ∃ W2, (wr.setCell ⟨bs, 0, none⟩ (.string T)).drew = W2 := ⟨_, rfl⟩
        have HB1 : Hid (Bx bs T W2) := by show Bx bs T W2; rw [← hW2]; exact hb.out.set _
        have HJ1 : J pre W2 := by
          rw [← hW2]
          exact HS.out _ _ _ hj.out ⟨rfl, rfl, rfl, by simp [World.setCell], fun k _ hk => setCell_other _ _ _ _ _ hk⟩
        obtain ⟨fn, tmps, assign, body, hy, hR⟩ := HY.out pre A (lnB T) W2 (by have := HF.out; rw [List.append_assoc] at this; exact this) HJ1
        have HM : Hid (boxLen bs wr = S.size) := hb.out.len
        have HR := hid hR
        have HW2 := hid hW2
        have HTS : Hid (T.size < S.size) := hTs
        have ho1 : (o : Int) + 1 ≤ (S.size : Int) := by omega
        have ho2 : o + 1 ≤ S.size := by omega
        have ho3 : wrap64 ((o : Int) + 1) = ((o + 1 : Nat) : Int) := by have := HZ.out; unfold wrap64; omega
        have ho4 : IntKind.i64.wrap ((o : Int) + 1) = ((o + 1 : Nat) : Int) := by have := HZ.out; rw [IntKind.wrap_i64]; omega
        have ho5 : ((o + 1 : Nat) : Int) ≤ (S.size : Int) := by omega
        have ho6 : (0 : Int) ≤ ((o + 1 : Nat) : Int) := by omega
        clear hc hcs hb hj HY hi HI0 hR hW2 HJ1 ho hol hTs
        gi_wp2_with (refine ⟨trivial, ?_⟩; gi_at_call 56; refine (callsIn_wide.2 (HI.out _)).mono ?_; rintro e w1 ⟨rfl, hw⟩; subst hw)
        gi_region
        all_goals
          rw [HW2.out]
          gi_wp2_with fail
          refine HR.out.mono ?_
          rintro e W3 (⟨rfl, hJ3, hC3⟩ | ⟨rfl, hX3⟩)
          · have HB3 := hid (HB1.out.cm hC3)
            have HJ3 : Hid (J (pre ++ [A]) W3) := hJ3
            have HE : Hid (boxLen bs W3 < boxLen bs w1) := by
              show _ < _
              rw [HB3.out.len, HM.out]
              exact HTS.out
            have hle2 : T.size ≤ s.size := by have := HTS.out; omega
            clear hJ3 hC3 HR hy HM HB1 hz hz1 hz2 s0 sl f0 HI ho1 ho2 ho3 ho4 ho5 ho6 hA hT HW2
            gi_wp2
            exact ⟨⟨T, _, HB3.out, HJ3.out, HF.out, hle2⟩, HE.out⟩
          · have HX3 := hid hX3
            clear hX3 HR hy HF HM HB1 hz hz1 hz2 s0 sl f0 HI ho1 ho2 ho3 ho4 ho5 ho6 hA hT HW2
            gi_wp2
            refine bodyPost_ret (results_none rfl _ _ _) rfl ?_
            exact ⟨⟨_, rfl⟩, .inr HX3.out⟩
end Go.Proofs.YtghppkfopglgaaaGreatDoor
namespace Go.Proofs.YtghppkfopglgaaaGreatDoor
open Go.RowKit Go.Shelf
set_option linter.unusedVariables false
set_option linter.unusedSimpArgs false
/-- marks of loops that are over, the newest first -/
def Dl : List Deferred → World → Prop
  | [], _ => True
  | d :: r, W => (∃ D, d = { target := .collected D, args := #[] } ∧ W.heap[D]? = some (.deferred (some [])) ∧ ∀ d' ∈ r, ∀ D', d'.target = .collected D' → D' < D) ∧ Dl r W
theorem Dl.keep : ∀ {ds : List Deferred} {W W' : World}, Dl ds W → (∀ k : Nat, W.heap[k]? = some (.deferred (some [])) → W'.heap[k]? = W.heap[k]?) → Dl ds W'
  | [], _, _, _, _ => trivial
  | _ :: _, _, _, ⟨⟨D, h1, h2, h3⟩, h4⟩, hk => ⟨⟨D, h1, (hk D h2).trans h2, h3⟩, h4.keep hk⟩
theorem Dl.lt : ∀ {ds : List Deferred} {W : World}, Dl ds W → ∀ d ∈ ds, ∀ D, d.target = .collected D → D < W.heap.size ∧ W.heap[D]? = some (.deferred (some []))
  | _ :: _, W, ⟨⟨D, h1, h2, h3⟩, h4⟩, d, hd, D', hD => by
    rcases List.mem_cons.1 hd with rfl | hd
    · subst h1
      simp only [Target.collected.injEq] at hD
      subst hD
      exact ⟨heap_lt h2, h2⟩
    · exact h4.lt d hd D' hD
theorem leaves_marks {fn : Func} {tmps : Array Value} {R : Ending → World → Prop} {n : Nat} : ∀ (ds : List Deferred) (W : World), Dl ds W →
    (∀ W', Ks (fun k => ∃ d ∈ ds, d.target = .collected k) W W' → ∃ v, (results fn tmps).run Tryz.prog W' = .ok v W' ∧ R (.returned v) W') → LeavesInM Fence.wide n Tryz.prog fn tmps R ds .returning W
  | [], W, _, h => h W (Ks.refl _ _)
  | d :: ds, W, ⟨⟨D, hd, hD, hlt⟩, hr⟩, h => by
    refine ⟨by simp, .inl ⟨D, _, by rw [hd], run_takeDeferred hD, ?_⟩⟩
    have hput : ∀ k : Nat, k ≠ D → (W.putObj D (.deferred none)).heap[k]? = W.heap[k]? := fun k hk => World.putObj_heap_other hk
    refine leaves_marks ds _ ?_ fun W' hW' => h W' ?_
    · have : ∀ (ds : List Deferred), (∀ d' ∈ ds, ∀ D', d'.target = .collected D' → D' < D) → Dl ds W → Dl ds (W.putObj D (.deferred none)) := by
        intro ds
        induction ds with
        | nil => intros; trivial
        | cons d' r ih =>
          rintro hl ⟨⟨D', g1, g2, g3⟩, g4⟩
          have hlt' := hl d' (by simp) D' (by rw [g1])
          exact ⟨⟨D', g1, (hput D' (by omega)).trans g2, g3⟩, ih (fun x hx => hl x (by simp [hx])) g4⟩
      exact this ds hlt hr
    · have hk1 : Ks (fun k => ∃ d' ∈ d :: ds, d'.target = .collected k) W (W.putObj D (.deferred none)) := ⟨rfl, rfl, rfl, by simp, fun k _ hk => hput k (fun e => hk ⟨d, by simp, by rw [hd, e]⟩)⟩
      exact hk1.trans hW' (fun _ _ h => h) fun k hk ⟨d', h1, h2⟩ => ⟨d', by simp [h1], h2⟩

/-- How a round may end: it goes on, or the function returns; the loop's blocks and the iterator's box are left alone. -/
def RoundGoes (bs L : Nat) (I X : World → Prop) (W : World) : Exit → Act → World → Prop
  | .normal, _, W' => (CmI bs W W' ∧ W'.heap[L]? = W.heap[L]? ∧ W'.heap[L + 1]? = W.heap[L + 1]?) ∧ I W'
  | .ret, _, W' => (CmI bs W W' ∧ W'.heap[L]? = W.heap[L]? ∧ W'.heap[L + 1]? = W.heap[L + 1]?) ∧ X W'
  | _, _, _ => False
theorem range_lines {a : Act} {W0 : World} {g : Operand} {par : Tmp} {assign body : Code} {Q : Exit → Act → World → Prop} {bs : Nat} {s : ByteArray}
    (hg : a.eval g = .func (.func 55) #[] #[.pointer (some ⟨bs, 0, none⟩)])
    (hB : Bx bs s W0) (hsz : s.size ≤ 140737488355328)
    (I : List ByteArray → World → Prop) (X : World → Prop) (A : ByteArray → Act → Prop)
    (hI : ∀ pre W W', I pre W → Ks (fun k => k = bs ∨ k = W0.heap.size ∨ k = W0.heap.size + 1) W W' → I pre W') (hX : ∀ W W', X W → Ks (fun k => k = bs ∨ k = W0.heap.size ∨ k = W0.heap.size + 1) W W' → X W') (h0 : I [] W0)
    (hassign : ∀ (l : Nat) (x : ByteArray) (W : World) (K : Act → World → Prop), (∀ a₁, A x a₁ → K a₁ W) →
      assign.wpIn (Fence.wide.inRound l) 1 Tryz.prog (Exit.then K (fun _ _ _ => False)) { tmps := (#[par].zip #[.string x]).foldl (fun t (p, v) => t.setIfInBounds p v) a.tmps, defers := [] } W)
    (hbody : ∀ (l : Nat) (pre : List ByteArray) (x : ByteArray) (r : List ByteArray) (a₁ : Act) (W : World), pre ++ x :: r = lnB s → I pre W → A x a₁ → W0.heap.size + 1 < W.heap.size → body.wpIn (Fence.wide.inRound l) 1 Tryz.prog (RoundGoes bs W0.heap.size (I (pre ++ [x])) X W) a₁ W)
    (hdone : ∀ W, I (lnB s) W → W.heap[W0.heap.size]? = some (.deferred (some [])) → Q .normal { a with defers := { target := .collected W0.heap.size, args := #[] } :: a.defers } W)
    (hstop : ∀ W, X W → W.heap[W0.heap.size]? = some (.deferred (some [])) → Code.ret.wpIn Fence.wide 3 Tryz.prog Q { a with defers := { target := .collected W0.heap.size, args := #[] } :: a.defers } W) :
    (Code.rangeFunc g #[par] assign body).wpIn Fence.wide 3 Tryz.prog Q a W0 := by
  refine wpIn_rangeFunc fun fn hfn => ?_
  obtain ⟨L, hL⟩ : ∃ L, L = W0.heap.size := ⟨_, rfl⟩
  have hsl := heap_lt hB
  obtain ⟨R, hR⟩ : ∃ R : LoopState → Option Code → Loop, R = fun st pe => { state := st, pending := pe, fn, tmps := a.tmps, params := #[par], assign, body, defers := L } := ⟨_, rfl⟩
  have hput : ∀ (W : World) (o : Obj), L + 1 < W.heap.size → (W.putObj (L + 1) o).heap[L + 1]? = some o ∧ ∀ k, k ≠ L + 1 → (W.putObj (L + 1) o).heap[k]? = W.heap[k]? := fun W o h => ⟨World.putObj_heap_same h, fun k hk => World.putObj_heap_other hk⟩
  obtain ⟨W1, hW1⟩ : ∃ W1, W1 = (W0.alloc (.deferred (some []))).alloc (.loop (R .ready none)) := ⟨_, rfl⟩
  have hrec : W1.heap[L + 1]? = some (.loop (R .ready none)) := by
    rw [hW1, hL]
    exact fresh2 _ _ _
  have hdef : W1.heap[L]? = some (.deferred (some [])) := by
    rw [hW1, hL, heap_al, if_neg (by simp), heap_al, if_pos rfl]
  have hnew : Below W0.heap.size W0 W1 := by rw [hW1]; exact bel2 _ _ _
  have hB1 : Bx bs s W1 := (hnew.block _ hsl).trans hB
  refine ⟨L + 1, [{ target := .collected L, args := #[] }], W1, { target := .fn (.func 55) #[.pointer (some ⟨bs, 0, none⟩)], args := #[.func (.yield (L + 1)) #[] #[]] }, W1, 55,
    #[.func (.yield (L + 1)) #[] #[], .pointer (some ⟨bs, 0, none⟩)], W1, ?_, ?_, fun _ _ => trivial, ?_, fun _ => by omega, ?_⟩
  · rw [hW1, hR, hL]
    exact run_enterLoop_outer _ _ _ _ _
  · simp only [resolve, hg]
    simp [go_sem]
  · simp [invoke, go_sem, enters_of Tryz.func55 (by kernel_rfl) rfl]
  have hround : ∀ (pre : List ByteArray) (x : ByteArray) (r : List ByteArray) (W : World), pre ++ x :: r = lnB s → I pre W → W.heap[L + 1]? = some (.loop (R .ready none)) → W.heap[L]? = some (.deferred (some [])) →
      YieldAt Fence.wide 1 Tryz.prog (L + 1) #[.string x] W fun e W' =>
        (e = .returned (.bool true) ∧ (I (pre ++ [x]) W' ∧ W'.heap[L + 1]? = some (.loop (R .ready none)) ∧ W'.heap[L]? = some (.deferred (some []))) ∧ CmI bs W W') ∨
        (e = .returned (.bool false) ∧ X W' ∧ W'.heap[L + 1]? = some (.loop (R .done (some .ret))) ∧ W'.heap[L]? = some (.deferred (some []))) := by
    intro pre x r W hpx hi hr hd
    have hy := run_yield (P := Tryz.prog) (args := #[.string x]) hr (by rw [hR]; rfl)
    rw [hR] at hy
    have hlt : L + 1 < W.heap.size := heap_lt hr
    refine ⟨fn, _, assign, body, hy, roundIn_of_wpIn hfn (hassign _ x W _ fun a₁ ha => ?_)⟩
    refine ⟨_, run_beginRound hr (by rw [hR]), ?_⟩
    obtain ⟨Wb, hWb⟩ : ∃ Wb, Wb = W.putObj (L + 1) (.loop { R .ready none with state := .busy }) := ⟨_, rfl⟩
    rw [← hWb]
    obtain ⟨hrb, hob⟩ := hput W (.loop { R .ready none with state := .busy }) hlt
    rw [← hWb] at hrb hob
    have hkb : Ks (fun k => k = bs ∨ k = W0.heap.size ∨ k = W0.heap.size + 1) W Wb := ⟨by rw [hWb]; rfl, by rw [hWb]; rfl, by rw [hWb]; rfl, by rw [hWb]; simp, fun k _ hk => hob k (fun e => hk (.inr (.inr (by rw [e, hL]))))⟩
    have hszb : W0.heap.size + 1 < Wb.heap.size := by rw [hWb]; simp; omega
    refine wpIn_mono (hbody _ pre x r a₁ Wb hpx (hI pre W Wb hi hkb) ha hszb) ?_
    have hfin : ∀ (jump : Option Code) (W3 : World), CmI bs Wb W3 → W3.heap[L]? = Wb.heap[L]? → W3.heap[L + 1]? = Wb.heap[L + 1]? → ∃ W4, (Instr.endRound (L + 1) jump).run Tryz.prog W3 = .ok (.bool jump.isNone) W4 ∧ Ks (fun k => k = bs ∨ k = W0.heap.size ∨ k = W0.heap.size + 1) W3 W4 ∧
        W4.heap[L + 1]? = some (.loop (R (if jump.isNone then .ready else .done) jump)) ∧ W4.heap[L]? = some (.deferred (some [])) ∧ CmI bs W W4 := by
      intro jump W3 hc hl0 hl1
      have h3 := hl1.trans hrb
      have hend := run_endRound (P := Tryz.prog) jump h3
      obtain ⟨hp1, hp2⟩ := hput W3 (.loop (R (if jump.isNone then .ready else .done) jump)) (heap_lt h3)
      have hk4 : Ks (fun k => k = bs ∨ k = W0.heap.size ∨ k = W0.heap.size + 1) W3 (W3.putObj (L + 1) (.loop (R (if jump.isNone then .ready else .done) jump))) :=
        ⟨rfl, rfl, rfl, by simp, fun k _ hk => hp2 k (fun e => hk (.inr (.inr (by rw [e, hL]))))⟩
      refine ⟨_, ?_, hk4, hp1, (hp2 L (by omega)).trans (hl0.trans ((hob L (by omega)).trans hd)), ?_⟩
      · rw [hR] at hend ⊢
        exact hend
      · obtain ⟨c1, c2⟩ := hc
        have nb : bs ≠ L + 1 := by omega
        refine ⟨?_, (hp2 bs nb).trans (c2.trans (hob bs nb))⟩
        have : W.heap.size = Wb.heap.size := by rw [hWb]; simp
        have := hk4.size
        omega
    rintro e a3 W3 hp
    cases e with
    | normal =>
      obtain ⟨⟨hc, hl0, hl1⟩, hi3⟩ := hp
      rw [← hL] at hl0 hl1
      obtain ⟨W4, e1, e2, e3, e4, e5⟩ := hfin none W3 hc hl0 hl1
      exact ⟨_, _, e1, .inl ⟨rfl, ⟨hI _ W3 _ hi3 e2, e3, e4⟩, e5⟩⟩
    | ret =>
      obtain ⟨⟨hc, hl0, hl1⟩, hi3⟩ := hp
      rw [← hL] at hl0 hl1
      obtain ⟨W4, e1, e2, e3, e4, e5⟩ := hfin (some .ret) W3 hc hl0 hl1
      exact ⟨_, _, e1, .inr ⟨rfl, hX W3 _ hi3 e2, e3, e4⟩⟩
    | exit id => exact hp.elim
    | goto t => exact hp.elim
    | panic ch => exact hp.elim
    | outgrown => exact hp.elim
  have hi1 : I [] W1 := hI [] W0 W1 h0 (Ks.of_below hnew)
  refine (lines_in 2 (by omega) (L + 1) bs s (fun pre W => I pre W ∧ W.heap[L + 1]? = some (.loop (R .ready none)) ∧ W.heap[L]? = some (.deferred (some []))) (fun W => X W ∧ W.heap[L + 1]? = some (.loop (R .done (some .ret))) ∧ W.heap[L]? = some (.deferred (some []))) W1 hB1 hsz
    (fun pre P P' h hb => ⟨hI pre P P' h.1 (hb.mono fun _ _ e => .inl e), (hb.block _ (heap_lt h.2.1) (by omega)).trans h.2.1, (hb.block _ (heap_lt h.2.2) (by omega)).trans h.2.2⟩)
    (fun pre x r W hpx h => hround pre x r W hpx h.1 h.2.1 h.2.2) ⟨hi1, hrec, hdef⟩).mono ?_
  rintro e W2 ⟨⟨rv, rfl⟩, ⟨hi, hr, hd⟩ | ⟨hi, hr, hd⟩⟩
  · refine ⟨none, _, by have := run_endLoop (P := Tryz.prog) hr (by rw [hR]; simp); rw [hR] at this; exact this, ?_⟩
    rw [hL] at hd ⊢
    exact hdone _ (hI _ W2 _ hi ⟨rfl, rfl, rfl, by simp, fun k _ hk => World.putObj_heap_other fun e => hk (.inr (.inr e))⟩) ((World.putObj_heap_other (by omega)).trans hd)
  · refine ⟨some .ret, _, by have := run_endLoop (P := Tryz.prog) hr (by rw [hR]; simp); rw [hR] at this; exact this, ?_⟩
    rw [hL] at hd ⊢
    exact hstop _ (hX W2 _ hi ⟨rfl, rfl, rfl, by simp, fun k _ hk => World.putObj_heap_other fun e => hk (.inr (.inr e))⟩) ((World.putObj_heap_other (by omega)).trans hd)
end Go.Proofs.YtghppkfopglgaaaGreatDoor
