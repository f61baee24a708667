/- TableCopies, walked. -/
import Derived.Test.YtlfbnhdcgldopaaD5
namespace Go.Proofs.Ytlfbnhdcgldopaa
open Go.RowKit

/-- One Add more to a table that has all of l and the first k of a list. -/
theorem keep_more (m k : Nat) (l more : List E) (hk : k < more.length) (x y : ByteArray) (hx : more[k] = (x, y)) : keep m ((x, y) :: keep m (l ++ more.take k).reverse) = keep m (l ++ more.take (k + 1)).reverse := by
  rw [keep_add, take_snoc more k hk, ← List.append_assoc, hx]
  simp

set_option maxRecDepth 100000 in
set_option maxHeartbeats 2000000 in
theorem tableCopies_any (w : World) (mx sz : Int) (lv ov tv : Value) (l one two : List E) (hm0 : -9223372036854775808 ≤ mx) (hm1 : mx ≤ 9223372036854775807) (hs0 : -9223372036854775808 ≤ sz) (hs1 : sz ≤ 9223372036854775807)
    (hE : Ents w lv l) (hf : Fine l) (hE1 : Ents w ov one) (hf1 : Fine one) (hE2 : Ents w tv two) (hf2 : Fine two) (hb1 : (l.length + one.length) * 32 ≤ 140737488355328) (hb2 : (l.length + two.length) * 32 ≤ 140737488355328) :
    Calls Try.prog 6 #[.int .i64 mx, lv, ov, tv, .int .i64 sz] w fun e w' => e = .returned (.bool true) ∧ Below w.heap.size w w' := by
  obtain ⟨base, cap, rfl, hl63⟩ := hE.slice
  obtain ⟨obase, ocap, rfl, ho63⟩ := hE1.slice
  obtain ⟨tbase, tcap, rfl, ht63⟩ := hE2.slice
  have HE : Hid (Ents w (.slice base l.length cap) l) := hE
  have HE1 : Hid (Ents w (.slice obase one.length ocap) one) := hE1
  have HE2 : Hid (Ents w (.slice tbase two.length tcap) two) := hE2
  have hble := boundS_le mx
  clear hE hE1 hE2
  go_enter Try.func6, Try.ntmps6
  go_wp2_with fail
  refine (head_any w).mono ?_
  rintro e w1 ⟨rfl, hbw⟩
  go_wp2_with fail
  refine (bounded_any mx w1 hm0 hm1).mono ?_
  rintro e w2 ⟨rfl, rfl⟩
  generalize boundS mx = m at hble
  have hT0 : Tabs w [] w2 := ⟨fun t ht => (by cases ht), .nil, hbw⟩
  clear hbw
  go_wp2_with fail
  refine (tabs_new hT0 m hble).mono ?_
  rintro e w3 ⟨rfl, hT⟩
  generalize w2.heap.size = bt at hT
  clear hT0
  go_wp2_with fail
  refine (tabs_new hT m hble).mono ?_
  rintro e w4 ⟨rfl, hT4⟩
  generalize w3.heap.size = bu at hT4
  clear hT
  replace hT4 : Tabs w [(bt, m, keep m (l.take 0).reverse, .slice none 0 0), (bu, m, keep m (l.take 0).reverse, .slice none 0 0)] w4 := hT4
  go_wp2_with fail
  go_loopw [16] (fun i wr => ∃ (k : Nat) (v u : Value), k ≤ l.length ∧ i = .int .i64 (k : Int) ∧ Tabs w [(bt, m, keep m (l.take k).reverse, v), (bu, m, keep m (l.take k).reverse, u)] wr) (fun i _ => l.length - (intOf i).toNat)
  case atStart => exact ⟨0, _, _, by omega, rfl, hT4⟩
  case round =>
    clear hT4
    obtain ⟨k, v, u, hk, rfl, hT⟩ := hrel
    by_cases hlt : k < l.length
    · obtain ⟨y, z, g, off, hy, hbase, hc1, hc2, HC⟩ := ents_round HE.out k hlt
      subst hbase
      obtain ⟨hd1, hd2⟩ := HC wr hT.2.2
      have hfe := hf _ (List.getElem_mem hlt)
      rw [hy] at hfe
      have hkeep : keep m ((y, z) :: keep m (l.take k).reverse) = keep m (l.take (k + 1)).reverse := by rw [keep_add, take_rev l k hlt, hy]
      have hadd : Hid (Calls Try.prog 10 #[.pointer (some ⟨bt, 0, none⟩), .string y, .string z] wr.drew fun e W' => e = .returned (.tuple #[]) ∧ W'.cell? ⟨g, off + k * 2, none⟩ = some (.string y) ∧ W'.cell? ⟨g, off + k * 2 + 1, none⟩ = some (.string z) ∧
          Hid (∃ v', Tabs w [(bt, m, keep m (l.take (k + 1)).reverse, v'), (bu, m, keep m (l.take k).reverse, u)] W')) := by
        refine (tabs_add [] [_] (bt, m, keep m (l.take k).reverse, v) hT.drew y z hfe).mono ?_
        rintro e W' ⟨rfl, v', hT'⟩
        rw [hkeep] at hT'
        exact ⟨rfl, (HC W' hT'.2.2).1, (HC W' hT'.2.2).2, v', hT'⟩
      have hadd2 : ∀ W', Hid (∃ v', Tabs w [(bt, m, keep m (l.take (k + 1)).reverse, v'), (bu, m, keep m (l.take k).reverse, u)] W') → Hid (Calls Try.prog 10 #[.pointer (some ⟨bu, 0, none⟩), .string y, .string z] W'.drew fun e W'' => e = .returned (.tuple #[]) ∧
          Hid (∃ v' u', Tabs w [(bt, m, keep m (l.take (k + 1)).reverse, v'), (bu, m, keep m (l.take (k + 1)).reverse, u')] W'')) := by
        intro W' h'
        obtain ⟨v', hT'⟩ := h'.out
        refine (tabs_add [_] [] (bu, m, keep m (l.take k).reverse, u) hT'.drew y z hfe).mono ?_
        rintro e W'' ⟨rfl, u', hT''⟩
        rw [hkeep] at hT''
        exact ⟨rfl, v', u', hT''⟩
      replace hadd2 : Hid _ := hadd2
      clear HC hy hT hfe hkeep
      go_wp2_with fail
      go_region_with (first | (go_at_call 10; refine hadd.out.mono ?_; clear hd1 hd2; rintro e w3 ⟨rfl, hd1, hd2, hfin⟩))
      all_goals
        have hadd3 := hadd2.out _ hfin
        clear hadd hadd2 hfin
        go_wp2_with fail
        go_region_with (first | (go_at_call 10; refine hadd3.out.mono ?_; clear hd1 hd2; rintro e w5 ⟨rfl, hfin⟩))
        all_goals
          go_wp2_with fail
          go_roundw
          case rel => obtain ⟨v', u', hv'⟩ := hfin.out; exact ⟨k + 1, v', u', by omega, by simp, hv'⟩
          case measure => simp [intOf]; omega
    · obtain rfl : k = l.length := by omega
      rw [List.take_length] at hT
      clear hlt hk
      go_wp2_with fail
      refine (tabs_copy [] [_] (bt, m, keep m l.reverse, v) hT).mono ?_
      rintro e w5 ⟨bc, v5, rfl, hT5⟩
      clear hT
      go_wp2_with fail
      refine (tabs_copy [] [_, _] (bt, m, keep m l.reverse, v) hT5).mono ?_
      rintro e w6 ⟨bd, v6, rfl, hT6⟩
      clear hT5
      go_wp2_with fail
      refine (last_strong w6 _ l (HE.out.below hT6.2.2) hf m hble).mono ?_
      rintro e w7 ⟨isv, rfl, hEi, hb7⟩
      replace hEi := hEi w HE.out
      replace hT6 := hT6.below hb7
      clear hb7
      obtain ⟨ib, ic, rfl, _⟩ := hEi.slice
      have hki : keep m l.reverse = (lastS l m).reverse := (lastS_rev l m).symm
      obtain ⟨is, his⟩ : ∃ is, is = lastS l m := ⟨_, rfl⟩
      have hkl : Hid (keep m l.reverse = is.reverse) := by show keep m l.reverse = is.reverse; rw [his]; exact hki
      rw [← his] at hEi ⊢
      replace hEi : Hid (Ents w (.slice ib is.length ic) is) := hEi
      clear his hki
      have hT7 : Tabs w [(bt, m, keep m (l ++ one.take 0).reverse, v), (bu, m, keep m l.reverse, u), (bc, m, keep m (l ++ two.take 0).reverse, v5), (bd, m, keep m l.reverse, v6)] w7 := by
        simpa using hT6
      clear hT6
      go_wp2_with fail
      go_loopw [20] (fun i wr => ∃ (k : Nat) (v : Value), k ≤ one.length ∧ i = .int .i64 (k : Int) ∧ Tabs w [(bt, m, keep m (l ++ one.take k).reverse, v), (bu, m, keep m l.reverse, u), (bc, m, keep m (l ++ two.take 0).reverse, v5), (bd, m, keep m l.reverse, v6)] wr) (fun i _ => one.length - (intOf i).toNat)
      case atStart => exact ⟨0, _, by omega, rfl, hT7⟩
      case round =>
        clear hT7
        obtain ⟨k, v, hk, rfl, hT⟩ := hrel
        by_cases hlt : k < one.length
        · obtain ⟨y, z, g, off, hy, hbase, hc1, hc2, HC⟩ := ents_round HE1.out k hlt
          subst hbase
          obtain ⟨hd1, hd2⟩ := HC wr hT.2.2
          have hfe := hf1 _ (List.getElem_mem hlt)
          rw [hy] at hfe
          have hadd : Hid (Calls Try.prog 10 #[.pointer (some ⟨bt, 0, none⟩), .string y, .string z] wr.drew fun e W' => e = .returned (.tuple #[]) ∧
              Hid (∃ v', Tabs w [(bt, m, keep m (l ++ one.take (k + 1)).reverse, v'), (bu, m, keep m l.reverse, u), (bc, m, keep m (l ++ two.take 0).reverse, v5), (bd, m, keep m l.reverse, v6)] W')) := by
            refine (tabs_add [] [_, _, _] (bt, m, keep m (l ++ one.take k).reverse, v) hT.drew y z hfe).mono ?_
            rintro e W' ⟨rfl, v', hT'⟩
            rw [keep_more m k l one hlt y z hy] at hT'
            exact ⟨rfl, v', hT'⟩
          clear HC hy hT hfe
          go_wp2_with fail
          go_region_with (first | (go_at_call 10; refine hadd.out.mono ?_; rintro e w3 ⟨rfl, hfin⟩))
          all_goals
            go_wp2_with fail
            go_roundw
            case rel => obtain ⟨v', hv'⟩ := hfin.out; exact ⟨k + 1, v', by omega, by simp, hv'⟩
            case measure => simp [intOf]; omega
        · obtain rfl : k = one.length := by omega
          rw [List.take_length] at hT
          clear hlt hk
          go_wp2_with fail
          go_loopw [21] (fun i wr => ∃ (k : Nat) (v5 : Value), k ≤ two.length ∧ i = .int .i64 (k : Int) ∧ Tabs w [(bt, m, keep m (l ++ one).reverse, v), (bu, m, keep m l.reverse, u), (bc, m, keep m (l ++ two.take k).reverse, v5), (bd, m, keep m l.reverse, v6)] wr) (fun i _ => two.length - (intOf i).toNat)
          case atStart => exact ⟨0, _, by omega, rfl, hT⟩
          case round =>
            clear hT
            obtain ⟨k, v5, hk, rfl, hT⟩ := hrel
            by_cases hlt : k < two.length
            · obtain ⟨y, z, g, off, hy, hbase, hc1, hc2, HC⟩ := ents_round HE2.out k hlt
              subst hbase
              obtain ⟨hd1, hd2⟩ := HC wr hT.2.2
              have hfe := hf2 _ (List.getElem_mem hlt)
              rw [hy] at hfe
              have hadd : Hid (Calls Try.prog 10 #[.pointer (some ⟨bc, 0, none⟩), .string y, .string z] wr.drew fun e W' => e = .returned (.tuple #[]) ∧
                  Hid (∃ v', Tabs w [(bt, m, keep m (l ++ one).reverse, v), (bu, m, keep m l.reverse, u), (bc, m, keep m (l ++ two.take (k + 1)).reverse, v'), (bd, m, keep m l.reverse, v6)] W')) := by
                refine (tabs_add [_, _] [_] (bc, m, keep m (l ++ two.take k).reverse, v5) hT.drew y z hfe).mono ?_
                rintro e W' ⟨rfl, v', hT'⟩
                rw [keep_more m k l two hlt y z hy] at hT'
                exact ⟨rfl, v', hT'⟩
              clear HC hy hT hfe
              go_wp2_with fail
              go_region_with (first | (go_at_call 10; refine hadd.out.mono ?_; rintro e w3 ⟨rfl, hfin⟩))
              all_goals
                go_wp2_with fail
                go_roundw
                case rel => obtain ⟨v', hv'⟩ := hfin.out; exact ⟨k + 1, v', by omega, by simp, hv'⟩
                case measure => simp [intOf]; omega
            · obtain rfl : k = two.length := by omega
              rw [List.take_length] at hT
              clear hlt hk
              go_wp2_with fail
              refine (bounded_any sz wr hs0 hs1).mono ?_
              rintro e w8 ⟨rfl, rfl⟩
              have hsle := boundS_le sz
              generalize boundS sz = sm at hsle
              go_wp2_with fail
              refine (tabs_resize [_, _, _] [] (bd, m, keep m l.reverse, v6) hT sm hsle).mono ?_
              rintro e w9 ⟨rfl, v9, hT9⟩
              clear hT
              have hT10 : Tabs w [(bt, m, keep m (l ++ one).reverse, v), (bu, m, is.reverse, u), (bc, m, keep m (l ++ two).reverse, v5), (bd, sm, keep sm is.reverse, v9)] w9 := by
                have h := hT9
                rw [hkl.out] at h
                exact h
              clear hT9 hkl
              have hT11 : Tabs w [(bt, m, (lastS (l ++ one) m).reverse, v), (bu, m, is.reverse, u), (bc, m, (lastS (l ++ two) m).reverse, v5), (bd, sm, (lastS is sm).reverse, v9)] w9 := by
                rw [lastS_rev, lastS_rev, lastS_rev]
                exact hT10
              have hfo : Fine (l ++ one) := fun e he => (List.mem_append.1 he).elim (hf e) (hf1 e)
              have hft : Fine (l ++ two) := fun e he => (List.mem_append.1 he).elim (hf e) (hf2 e)
              have hfi : Fine is := (hT10.get [_] [_, _] (bu, m, is.reverse, u) rfl).1.fine.1
              clear hT10
              obtain ⟨v10, w10, hr10, ho10, hg10⟩ := append_list w9 w.heap.size hT11.2.2.size (.slice none 0 0) _ [] l (World.ownsRow_nil _ _ _ _) (HE.out.below hT11.2.2) (by simp; omega)
              have hT12 := hT11.grown hg10 (fun k hk => by cases hk)
              rw [List.nil_append] at ho10
              obtain ⟨v11, w11, hr11, ho11, hg11⟩ := append_list w10 w.heap.size hT12.2.2.size v10 _ l one ho10 (HE1.out.below hT12.2.2) hb1
              have hT13 := hT12.grown hg11 (fun k hk => ⟨(ho10.lt k hk).1, row_type ho10 k hk⟩)
              obtain ⟨v12, w12, hr12, ho12, hg12⟩ := append_list w11 w11.heap.size (Nat.le_refl _) (.slice none 0 0) _ [] l (World.ownsRow_nil _ _ _ _) (HE.out.below hT13.2.2) (by simp; omega)
              have hT14 := hT13.grown hg12 (fun k hk => by cases hk)
              rw [List.nil_append] at ho12
              obtain ⟨v13, w13, hr13, ho13, hg13⟩ := append_list w12 w11.heap.size hg12.size v12 _ l two ho12 (HE2.out.below hT14.2.2) hb2
              have hT15 := hT14.grown hg13 (fun k hk => ⟨Nat.le_trans hT13.2.2.size (ho12.lt k hk).1, row_type ho12 k hk⟩)
              have hEa : Ents w13 v11 (l ++ one) := ents_of_row (base := w.heap.size) (row_stays (row_stays ho11 fun k _ hk => hg12.block k hk (by simp [Value.ownBlock])) fun k hk hlt => hg13.block k hlt fun e => by
                have h1 := (ho12.lt k e.symm).1
                have h2 := (ho11.lt k hk).2
                omega)
              have hEb : Ents w13 v13 (l ++ two) := ents_of_row ho13
              clear hT11 hT12 hT13 hT14 ho10 ho11 ho12 ho13 hg10 hg11 hg12 hg13
              go_wp2_with (at_builtin; first | refine Lib.wpList_append_run _ rfl _ _ _ _ rfl _ _ rfl rfl _ _ hr10 ?_ | refine Lib.wpList_append_run _ rfl _ _ _ _ rfl _ _ rfl rfl _ _ hr11 ?_ | refine Lib.wpList_append_run _ rfl _ _ _ _ rfl _ _ rfl rfl _ _ hr12 ?_ | refine Lib.wpList_append_run _ rfl _ _ _ _ rfl _ _ rfl rfl _ _ hr13 ?_)
              clear hr10 hr11 hr12 hr13
              refine (last_any w13 v11 _ hEa hfo m hble).mono ?_
              rintro e w14 ⟨v14, rfl, hE14, hb14⟩
              replace hT15 := hT15.below hb14
              replace hEb := hEb.below hb14
              clear hb14 hEa
              go_wp2_with fail
              refine (holds_true w14 bt m _ v v14 (hT15.get [] [_, _, _] (bt, m, (lastS (l ++ one) m).reverse, v) rfl).1 hE14).mono ?_
              rintro e w15 ⟨rfl, hb15⟩
              replace hT15 := hT15.below hb15
              replace hEb := hEb.below hb15
              clear hb15 hE14
              go_wp2_with fail
              refine (last_any w15 v13 _ hEb hft m hble).mono ?_
              rintro e w16 ⟨v16, rfl, hE16, hb16⟩
              replace hT15 := hT15.below hb16
              clear hb16 hEb
              go_wp2_with fail
              refine (holds_true w16 bc m _ v5 v16 (hT15.get [_, _] [_] (bc, m, (lastS (l ++ two) m).reverse, v5) rfl).1 hE16).mono ?_
              rintro e w17 ⟨rfl, hb17⟩
              replace hT15 := hT15.below hb17
              clear hb17 hE16
              go_wp2_with fail
              refine (last_any w17 _ is (hEi.out.below hT15.2.2) hfi sm hsle).mono ?_
              rintro e w18 ⟨v18, rfl, hE18, hb18⟩
              replace hT15 := hT15.below hb18
              clear hb18
              go_wp2_with fail
              refine (holds_true w18 bd sm _ v9 v18 (hT15.get [_, _, _] [] (bd, sm, (lastS is sm).reverse, v9) rfl).1 hE18).mono ?_
              rintro e w19 ⟨rfl, hb19⟩
              replace hT15 := hT15.below hb19
              clear hb19 hE18
              go_wp2_with fail
              refine (holds_true w19 bu m is u _ (hT15.get [_] [_, _] (bu, m, is.reverse, u) rfl).1 (hEi.out.below hT15.2.2)).mono ?_
              rintro e w20 ⟨rfl, hb20⟩
              replace hT15 := hT15.below hb20
              clear hb20
              go_wp2_with fail
              refine (max_any w20 bt m _ v (hT15.get [] [_, _, _] (bt, m, (lastS (l ++ one) m).reverse, v) rfl).1).mono ?_
              rintro e w21 ⟨rfl, rfl⟩
              go_wp2_with fail
              refine (max_any _ bc m _ v5 (hT15.get [_, _] [_] (bc, m, (lastS (l ++ two) m).reverse, v5) rfl).1).mono ?_
              rintro e w22 ⟨rfl, rfl⟩
              go_wp2_with fail
              refine (max_any _ bd sm _ v9 (hT15.get [_, _, _] [] (bd, sm, (lastS is sm).reverse, v9) rfl).1).mono ?_
              rintro e w23 ⟨rfl, rfl⟩
              have hB := hT15.2.2
              clear hT15
              go_wp2_with fail
              go_ret
              exact ⟨rfl, hB⟩

end Go.Proofs.Ytlfbnhdcgldopaa
