/- ScriptNumbers. -/
import Derived.Test.YtghppkfopglgaaaGreatDoorKat
namespace Go.Proofs.YtghppkfopglgaaaGreatDoor
open Go.RowKit
set_option linter.unusedVariables false
set_option linter.unusedSimpArgs false
theorem wpList_build_two {P : Program} {ops : Array Oper} {rest : List Oper} {o : Oper} {a : Act} {w : World} {Q : Exit → Act → World → Prop} (hg : o.guard = none) (t e : TypeId) (x y : Operand) (ho : o.op = .buildSlice t 2 #[(0, x), (1, y)])
    (cs ds : Array Value) (hx : a.eval x = .agg cs) (hy : a.eval y = .agg ds) (hd : ds.size = cs.size) (hu : P.underlying t = some (.slice e)) (hi : (P.info? e).map (fun i => (i.size, i.zero.isSome)) = some (cs.size, true)) (hpos : 0 < cs.size) (hle : cs.size ≤ 2 ^ 20)
    (h : wpList P ops Q rest (a.put o.dst (.slice (some ⟨w.heap.size, 0, none⟩) 2 2)) (w.alloc (.cells (cs.toList ++ ds.toList).toArray e))) : wpList P ops Q (o :: rest) a w := by
  cases hie : P.info? e with
  | none => simp [hie] at hi
  | some ie =>
    simp only [hie, Option.map_some, Option.some.injEq, Prod.mk.injEq] at hi
    obtain ⟨hsz, hz⟩ := hi
    obtain ⟨z, hzz⟩ := Option.isSome_iff_exists.1 hz
    refine wpList_buildSlice hg t e 2 _ ho (cs.toList ++ ds.toList).toArray ie z hu hie hzz (by rw [hsz]; omega) (by rw [hsz]; omega) ?_ h
    have := Great.fill_whole (s := cs.size) hpos [.agg cs, .agg ds] ((Array.range (2 * ie.size)).map (z.cells[· % z.cells.size]!)) (fun v hv => by
      rcases List.mem_cons.1 hv with rfl | hv
      · rfl
      · rw [List.mem_singleton] at hv; subst hv; exact hd) (by simp [hsz])
    simp only [hx, hy, List.map_toArray, List.map_cons, List.map_nil] at this ⊢
    rw [hsz] at this ⊢
    simpa [Value.cells] using this
theorem wpList_build_at {P : Program} {ops : Array Oper} {rest : List Oper} {o : Oper} {a : Act} {w : World} {Q : Exit → Act → World → Prop} (hg : o.guard = none) (d : Tmp) (hd : o.dst = some d) (t : TypeId) (parts : Array (Nat × Operand)) (ho : o.op = .build t parts) (cells : Array Value)
    (hf : P.built t (parts.map fun (i, x) => (i, a.eval x)).toList = some cells)
    (h : wpList P ops Q rest (a.put (some d) (.agg cells)) w) : wpList P ops Q (o :: rest) a w := by
  rw [← hd] at h
  exact wpList_build_to hg t parts ho cells hf h
def mvN (m : Int) : Array Value := mvA (cm7 m).m (.slice none 0 0) (.slice none 0 0)
/-- what Parse tells of a wrong line -/
theorem parse_bad (s : ByteArray) (h : Bad s) (V : World) (hV : Env V) : Calls Tryz.prog 11 #[.string s] V fun e w' => (∃ a n c, e = .returned (.tuple #[.slice a n c, .int .i64 260])) ∧ Below V.heap.size V w' := by
  refine (Parse_any s (by have := h.2.2; omega) V hV (.inr h.2.1)).mono ?_
  rintro e w' ⟨v, rfl, cs, _, hR, _, _, hb⟩
  obtain ⟨a, c, rfl, _⟩ := hR.slice
  rw [h.1]
  exact ⟨⟨a, _, c, rfl⟩, hb⟩
set_option maxRecDepth 100000 in
set_option maxHeartbeats 16000000 in
theorem numbers_law (n m : Int) (hn : I64 n) (hm : I64 m) (w : World) (hE : Env w) : Calls Tryz.prog 4 #[.int .i64 n, .int .i64 m] w fun e w' => e = .returned (.bool true) ∧ Below w.heap.size w w' := by
  obtain ⟨f1, f2, f3, f4⟩ := nums_facts n m hn hm
  have HEV : Hid (∀ V, Below w.heap.size w V → Env V) := hid (fun V h => hE.of h.size fun k hk => h.block k (by have := hE.sz; omega))
  have HH := hid (head_any w hE)
  obtain ⟨T, hT⟩ : ∃ T, prT [cm3 n, cm7 m] = T := ⟨_, rfl⟩
  have HPR := hid (fun (V : World) (hV : Env V) (bk : Nat) (hb : V.heap[bk]? = some (.cells ((cmA (cm3 n) CmS.z).toList ++ (cmA (cm7 m) CmS.z).toList).toArray 47 (0, 0))) => Print_any (.slice (some ⟨bk, 0, none⟩) 2 2) [(cm3 n, CmS.z), (cm7 m, CmS.z)] V hV (.inr ⟨bk, 2, _, rfl, Nat.le_refl 2, by decide, hb, rfl⟩) (by simp) (by
    intro x hx
    simp only [List.mem_cons, List.not_mem_nil, or_false] at hx
    rcases hx with rfl | rfl
    · exact ⟨(f4 _ (by simp)).1, by show noS.size ≤ _; decide⟩
    · exact ⟨(f4 _ (by simp)).1, by show noS.size ≤ _; decide⟩) (by
    intro x hx
    simp only [List.mem_cons, List.not_mem_nil, or_false] at hx
    rcases hx with rfl | rfl
    · intro _ _ _ _
      exact proK (by show ¬ (3 : Int) = 1; decide) (fun h => absurd h (by show ¬ (3 : Int) = 2; decide))
    · intro _ _ _ _
      exact proK (by show ¬ (2 : Int) = 1; decide) (fun _ => ⟨by show ¬ (7 : Int) = 1; decide, by show ¬ (7 : Int) = 8; decide⟩)))
  simp only [List.map_cons, List.map_nil, nums_print n m hn hm, hT] at HPR
  have HPA := hid (fun V (hV : Env V) => Parse_any (bt T) (by rw [sz_eq, bt_toList, ← hT]; omega) V hV (.inr (by rw [bt_toList, ← hT]; exact f2)))
  simp only [bt_toList, ← hT, parse_nums n m hn hm] at HPA
  rw [hT] at HPA
  have HE := hid hE
  have HTT := hid hT
  clear hE f1 f2 f3 f4 hT
  go_enter Tryz.func4, Tryz.ntmps4
  go_wp2_with fail
  go_at_call 9
  refine HH.out.mono ?_
  rintro e V0 ⟨rfl, hb0⟩
  obtain ⟨V1, hV1⟩ : ∃ V1, V0.alloc (.cells ((cmA (cm3 n) CmS.z).toList ++ (cmA (cm7 m) CmS.z).toList).toArray 47) = V1 := ⟨_, rfl⟩
  have bV1 : Below V0.heap.size V0 V1 := by rw [← hV1]; exact bel1 _ _
  have hq1 : V1.heap[V0.heap.size]? = some (.cells ((cmA (cm3 n) CmS.z).toList ++ (cmA (cm7 m) CmS.z).toList).toArray 47 (0, 0)) := by rw [← hV1, heap_al, if_pos rfl]
  have B1 := hid (hb0.trans (bV1.mono hb0.size))
  have HPR2 := hid (HPR.out V1 (HEV.out _ B1.out) V0.heap.size hq1)
  have HV1 := hid hV1
  clear hb0 bV1 hq1 hV1 HPR HH
  go_wp2_with (first
    | (refine wpList_build_at rfl 21 rfl 38 _ rfl (mvN m) (by kernel_rfl) ?_)
    | (refine wpList_build_at rfl 19 rfl 47 _ rfl (cmA (cm3 n) CmS.z) (by kernel_rfl) ?_)
    | (refine wpList_build_at rfl 22 rfl 47 _ rfl (cmA (cm7 m) CmS.z) (by kernel_rfl) ?_)
    | (refine wpList_build_two rfl 25 47 (.tmp 19) (.tmp 22) rfl (cmA (cm3 n) CmS.z) (cmA (cm7 m) CmS.z) rfl rfl rfl Tryz.underlying25 (by kernel_rfl) (Nat.lt_of_lt_of_le (by decide) (Nat.le_refl 42)) (Nat.le_of_ble_eq_true rfl) ?_; rw [HV1.out]))
  go_at_call 12
  refine HPR2.out.mono ?_
  rintro e V2 ⟨rfl, hb2⟩
  have B2 := hid (B1.out.trans (hb2.mono B1.out.size))
  clear hb2 HPR2
  go_wp2_with fail
  go_at_call 11
  refine (HPA.out V2 (HEV.out _ B2.out)).mono ?_
  rintro e V3 ⟨v3, rfl, cs3, hm3, hR3, hO3, hN3, hb3⟩
  have B3 := hid (B2.out.trans (hb3.mono B2.out.size))
  obtain ⟨s1, s2, rfl⟩ := map_two hm3
  obtain ⟨bk, cap, rfl, hbk, hcell⟩ := row_cells hR3 (by simp)
  have f40 := hcell 0 (cm3 n, s1) rfl 40 (.int .i64 n) rfl
  have f63 := hcell 1 (cm7 m, s2) rfl 21 (.int .i64 m) rfl
  simp only [Nat.zero_mul, Nat.zero_add, Nat.one_mul] at f40 f63
  clear hcell hR3 hO3 hN3 hb3 hm3 HPA
  go_wp2_with fail
  obtain ⟨D, hD⟩ : ∃ D, Lib.itoa n = D := ⟨_, rfl⟩
  obtain ⟨S, hS⟩ : ∃ S, bt T = S := ⟨_, rfl⟩
  have hdl : D.length ≤ 30 := by rw [← hD]; exact itoa_len n hn.1 hn.2
  have hSl : S.data.toList = hdR ++ (D ++ 10 :: [116, 105, 99, 107, 32] ++ (Lib.itoa m ++ [10])) := by rw [← hS, bt_toList, ← HTT.out, pr_nums, hD]
  have hSz : 8 + D.length ≤ S.size := by
    rw [sz_eq, hSl]
    simp only [hdR, List.length_append, List.length_cons, List.length_nil]
    omega
  have hSz2 : S.size ≤ 1000 := by
    have := itoa_len m hm.1 hm.2
    rw [sz_eq, hSl]
    simp only [hdR, List.length_append, List.length_cons, List.length_nil]
    omega
  have HAT : Hid (∀ j (h : j < D.length) (h2 : 7 + j < S.size), S[7 + j]'h2 = D[j] ∧ D[j] ≠ 10) := hid (fun j h h2 => by
    have e : S.data.toList[7 + j]? = some D[j] := by
      rw [hSl, List.getElem?_append_right (by simp [hdR])]
      simp only [hdR, List.length_cons, List.length_nil, Nat.zero_add, Nat.reduceAdd, Nat.add_sub_cancel_left]
      rw [List.append_assoc, List.getElem?_append_left h, List.getElem?_eq_getElem h]
    refine ⟨?_, ?_⟩
    · have e2 : S.data.toList[7 + j]? = some (S[7 + j]'h2) := by
        rw [List.getElem?_eq_getElem (by rw [← sz_eq]; exact h2)]
        rfl
      rw [e] at e2
      exact (Option.some.inj e2).symm
    · have := itoa_mem n D[j] (by rw [hD]; exact List.getElem_mem h)
      exact this.1)
  have HATL : Hid (∀ (h2 : 7 + D.length < S.size), S[7 + D.length]'h2 = 10) := hid (fun h2 => by
    have e : S.data.toList[7 + D.length]? = some 10 := by
      rw [hSl, List.getElem?_append_right (by simp [hdR])]
      simp only [hdR, List.length_cons, List.length_nil, Nat.zero_add, Nat.reduceAdd, Nat.add_sub_cancel_left]
      rw [List.append_assoc, List.getElem?_append_right (Nat.le_refl _)]
      simp
    have e2 : S.data.toList[7 + D.length]? = some (S[7 + D.length]'h2) := by
      rw [List.getElem?_eq_getElem (by rw [← sz_eq]; exact h2)]
      rfl
    rw [e] at e2
    exact (Option.some.inj e2).symm)
  have HEX : Hid (∀ j, j < D.length → bt (D.take j) ++ S.extract (7 + j) (7 + j + 1) = bt (D.take (j + 1))) := hid (fun j h => by
    refine ba_eq ?_
    have h2 : 7 + j < S.size := by omega
    have hx : (S.extract (7 + j) (7 + j + 1)).data.toList = [D[j]] := by
      rw [Lib.extract_data]
      have e : S.data.toList[7 + j]? = some D[j] := by
        rw [List.getElem?_eq_getElem (by rw [← sz_eq]; exact h2)]
        exact congrArg some (HAT.out j h h2).1
      rw [show 7 + j + 1 - (7 + j) = 1 by omega]
      have := List.drop_eq_getElem_cons (l := S.data.toList) (i := 7 + j) (by rw [← sz_eq]; exact h2)
      rw [this, List.take_succ_cons, List.take_zero]
      rw [List.getElem?_eq_getElem (by rw [← sz_eq]; exact h2)] at e
      exact congrArg (fun x => [x]) (Option.some.inj e)
    rw [ByteArray.data_append, Array.toList_append, hx, bt_toList, bt_toList, List.take_add_one, List.getElem?_eq_getElem h]
    rfl)
  obtain ⟨L, hL⟩ : ∃ L, D.length = L := ⟨_, rfl⟩
  obtain ⟨Z, hZ⟩ : ∃ Z, S.size = Z := ⟨_, rfl⟩
  have HDD := hid hD
  have HLL := hid hL
  have HZZ := hid hZ
  rw [hS]
  rw [hL] at hdl hSz
  rw [hZ] at hSz hSz2
  clear hD hSl hS hL f40 f63 B1 B2
  go_loopw [9, 10] (fun dv iv wr => ∃ j : Nat, dv = .string (bt (D.take j)) ∧ iv = .int .i64 ((7 + j : Nat) : Int) ∧ j ≤ L ∧ wr = V3) (fun _ iv _ => 100 - (intOf iv).toNat)
  case atStart => exact ⟨0, by rw [List.take_zero]; rfl, rfl, Nat.zero_le _, rfl⟩
  case round =>
    obtain ⟨j, rfl, rfl, hle, hwr⟩ := hrel
    subst hwr
    obtain ⟨i, hi⟩ : ∃ i, 7 + j = i := ⟨_, rfl⟩
    have hiZ : i < Z := by omega
    have hiI : (i : Int) < (Z : Int) := by omega
    have hiS : i < S.size := by omega
    have hiI2 : (i : Int) < (S.size : Int) := by omega
    rw [hi]
    by_cases hlt : j < L
    · have hjD : j < D.length := by have := HLL.out; omega
      obtain ⟨c, hc⟩ : ∃ c, S[i]'hiS = c := ⟨_, rfl⟩
      have hc10 : c ≠ 10 := by
        subst hi
        have := HAT.out j hjD hiS
        rw [← hc, this.1]
        exact this.2
      have hn0 : ¬ c.toNat = 10 := fun e => hc10 (UInt8.toNat_inj.1 e)
      have hn1 : (c.toNat == 10) = false := by simpa using hn0
      have hn2 : ((c.toNat : Int) == 10) = false := by simpa using (by omega : ¬ (c.toNat : Int) = 10)
      have hn3 : ((c.toNat : Int) != 10) = true := by simpa using (by omega : ¬ (c.toNat : Int) = 10)
      have hn4 : (c.toNat != 10) = true := by simpa using hn0
      have hex := HEX.out j hjD
      rw [hi] at hex
      have HE1 := hid hex
      have hle1 : (i : Int) + 1 ≤ (Z : Int) := by omega
      have hle2 : (i : Int) + 1 ≤ (S.size : Int) := by omega
      have hi9 : i ≤ 100 := by omega
      have hsmall : ¬ 9223372036854775807 < (bt (List.take j D)).size + (min (i + 1) Z - i) := by
        have : (bt (List.take j D)).size ≤ 100 := by rw [sz_eq, bt_toList, List.length_take]; omega
        omega
      clear hc10 hn0 hex hjD
      go_wp2_with fail
      go_roundw
      case rel => exact ⟨j + 1, by rw [HE1.out], by rw [show (i : Int) + 1 = ((7 + (j + 1) : Nat) : Int) by omega], by omega, trivial⟩
      case measure => show 100 - ((i : Int) + 1).toNat < 100 - ((i : Nat) : Int).toNat; omega
    · have hjL : j = D.length := by have := HLL.out; omega
      have hc : S[i]'hiS = 10 := by
        subst hi hjL
        exact HATL.out hiS
      have hdj : bt (D.take j) = bt D := by rw [hjL, List.take_length]
      obtain ⟨DD, hDD⟩ : ∃ DD, bt D = DD := ⟨_, rfl⟩
      rw [hdj, hDD]
      have hds : DD.size = L := by rw [← hDD, sz_eq, bt_toList]; exact HLL.out
      have HBD := hid (bads n hn (⟨#[114, 111, 117, 110, 100, 115, 32, 48]⟩ ++ DD) (⟨#[114, 111, 117, 110, 100, 115, 32, 43]⟩ ++ DD) (⟨#[114, 111, 117, 110, 100, 115, 32, 32]⟩ ++ DD) (⟨#[114, 111, 117, 110, 100, 115, 32]⟩ ++ DD ++ ⟨#[32]⟩) (⟨#[114, 111, 117, 110, 100, 115, 32, 34]⟩ ++ DD ++ ⟨#[34]⟩) (⟨#[114, 111, 117, 110, 100, 115, 32]⟩ ++ DD ++ ⟨#[32]⟩ ++ DD) (by rw [HDD.out]; rw [← hDD]; simp [ByteArray.data_append, hdR, bt]) (by rw [HDD.out]; rw [← hDD]; simp [ByteArray.data_append, hdR, bt]) (by rw [HDD.out]; rw [← hDD]; simp [ByteArray.data_append, hdR, bt]) (by rw [HDD.out]; rw [← hDD]; simp [ByteArray.data_append, hdR, bt]) (by rw [HDD.out]; rw [← hDD]; simp [ByteArray.data_append, hdR, bt]) (by rw [HDD.out]; rw [← hDD]; simp [ByteArray.data_append, hdR, bt]))
      have HB3 := hid B3.out
      obtain ⟨z0, hz0⟩ : ∃ z, (⟨#[114, 111, 117, 110, 100, 115, 32, 48]⟩ ++ DD : ByteArray) = z := ⟨_, rfl⟩
      obtain ⟨z1, hz1⟩ : ∃ z, (⟨#[114, 111, 117, 110, 100, 115, 32, 43]⟩ ++ DD : ByteArray) = z := ⟨_, rfl⟩
      obtain ⟨z2, hz2⟩ : ∃ z, (⟨#[114, 111, 117, 110, 100, 115, 32, 32]⟩ ++ DD : ByteArray) = z := ⟨_, rfl⟩
      obtain ⟨y7, hy7⟩ : ∃ z, (⟨#[114, 111, 117, 110, 100, 115, 32]⟩ ++ DD : ByteArray) = z := ⟨_, rfl⟩
      obtain ⟨yq, hyq⟩ : ∃ z, (⟨#[114, 111, 117, 110, 100, 115, 32, 34]⟩ ++ DD : ByteArray) = z := ⟨_, rfl⟩
      have sy7 : y7.size = 7 + L := by rw [← hy7, ByteArray.size_append, hds]; rfl
      have syq : yq.size = 8 + L := by rw [← hyq, ByteArray.size_append, hds]; rfl
      rw [hz0, hz1, hz2, hy7, hyq] at HBD
      obtain ⟨z3, hz3⟩ : ∃ z, y7 ++ (⟨#[32]⟩ : ByteArray) = z := ⟨_, rfl⟩
      obtain ⟨z4, hz4⟩ : ∃ z, yq ++ (⟨#[34]⟩ : ByteArray) = z := ⟨_, rfl⟩
      have sz3 : z3.size = 8 + L := by rw [← hz3, ByteArray.size_append, sy7]; show 7 + L + 1 = _; omega
      rw [hz3, hz4] at HBD
      obtain ⟨z6, hz6⟩ : ∃ z, z3 ++ DD = z := ⟨_, rfl⟩
      rw [hz6] at HBD
      have k1 : ¬ 9223372036854775807 < 8 + L := by omega
      have k2 : ¬ 9223372036854775807 < 7 + L := by omega
      have k3 : ¬ 9223372036854775807 < 7 + L + 1 := by omega
      have k4 : ¬ 9223372036854775807 < 8 + L + 1 := by omega
      have k5 : ¬ 9223372036854775807 < 8 + L + L := by omega
      have HPB := hid (fun s (h : Bad s) V (hV : Env V) => parse_bad s h V hV)
      have HJ0 : Hid (Below w.heap.size w wr) := hid B3.out
      clear hdj hjL hi HAT HATL HEX
      go_wp2_with (refine wpList_build_at rfl 96 rfl 51 _ rfl #[.string z0, .string z1, .string z2, .string z3, .string z4, .string b5, .string z6, .string b7, .string b8, .string b9] (by kernel_rfl) ?_)
      go_loopw [12, 13, 14, 97] (fun _ _ _ iv wq => ∃ k : Nat, iv = .int .i64 (k : Int) ∧ k ≤ 10 ∧ Hid (Below w.heap.size w wq)) (fun _ _ _ iv _ => 10 - (intOf iv).toNat)
      case atStart => exact ⟨0, rfl, by omega, HJ0⟩
      case round =>
        obtain ⟨k, rfl, hk, HJ⟩ := hrel
        clear HJ0
        rcases (show k = 0 ∨ k = 1 ∨ k = 2 ∨ k = 3 ∨ k = 4 ∨ k = 5 ∨ k = 6 ∨ k = 7 ∨ k = 8 ∨ k = 9 ∨ k = 10 by omega) with rfl | rfl | rfl | rfl | rfl | rfl | rfl | rfl | rfl | rfl | rfl
        · have hidx : (Instr.index 51 (Value.agg #[.string z0, .string z1, .string z2, .string z3, .string z4, .string b5, .string z6, .string b7, .string b8, .string b9]) (Value.int .i64 0)).run Tryz.prog wr = .ok (Value.string z0) wr := by kernel_rfl
          have HQ := hid (HPB.out z0 (HBD.out.1) wr (HEV.out _ HJ.out))
          go_wp2_with fail
          go_at_call 11
          refine HQ.out.mono ?_
          rintro e V ⟨⟨xa, xn, xc, rfl⟩, hb⟩
          have HJ2 : Hid (Below w.heap.size w V) := hid (HJ.out.trans (hb.mono HJ.out.size))
          clear hb HQ
          go_wp2_with fail
          go_roundw
          case rel => exact ⟨1, rfl, by omega, HJ2⟩
          case measure => decide
        · have hidx : (Instr.index 51 (Value.agg #[.string z0, .string z1, .string z2, .string z3, .string z4, .string b5, .string z6, .string b7, .string b8, .string b9]) (Value.int .i64 1)).run Tryz.prog wr = .ok (Value.string z1) wr := by kernel_rfl
          have HQ := hid (HPB.out z1 (HBD.out.2.1) wr (HEV.out _ HJ.out))
          go_wp2_with fail
          go_at_call 11
          refine HQ.out.mono ?_
          rintro e V ⟨⟨xa, xn, xc, rfl⟩, hb⟩
          have HJ2 : Hid (Below w.heap.size w V) := hid (HJ.out.trans (hb.mono HJ.out.size))
          clear hb HQ
          go_wp2_with fail
          go_roundw
          case rel => exact ⟨2, rfl, by omega, HJ2⟩
          case measure => decide
        · have hidx : (Instr.index 51 (Value.agg #[.string z0, .string z1, .string z2, .string z3, .string z4, .string b5, .string z6, .string b7, .string b8, .string b9]) (Value.int .i64 2)).run Tryz.prog wr = .ok (Value.string z2) wr := by kernel_rfl
          have HQ := hid (HPB.out z2 (HBD.out.2.2.1) wr (HEV.out _ HJ.out))
          go_wp2_with fail
          go_at_call 11
          refine HQ.out.mono ?_
          rintro e V ⟨⟨xa, xn, xc, rfl⟩, hb⟩
          have HJ2 : Hid (Below w.heap.size w V) := hid (HJ.out.trans (hb.mono HJ.out.size))
          clear hb HQ
          go_wp2_with fail
          go_roundw
          case rel => exact ⟨3, rfl, by omega, HJ2⟩
          case measure => decide
        · have hidx : (Instr.index 51 (Value.agg #[.string z0, .string z1, .string z2, .string z3, .string z4, .string b5, .string z6, .string b7, .string b8, .string b9]) (Value.int .i64 3)).run Tryz.prog wr = .ok (Value.string z3) wr := by kernel_rfl
          have HQ := hid (HPB.out z3 (HBD.out.2.2.2.1) wr (HEV.out _ HJ.out))
          go_wp2_with fail
          go_at_call 11
          refine HQ.out.mono ?_
          rintro e V ⟨⟨xa, xn, xc, rfl⟩, hb⟩
          have HJ2 : Hid (Below w.heap.size w V) := hid (HJ.out.trans (hb.mono HJ.out.size))
          clear hb HQ
          go_wp2_with fail
          go_roundw
          case rel => exact ⟨4, rfl, by omega, HJ2⟩
          case measure => decide
        · have hidx : (Instr.index 51 (Value.agg #[.string z0, .string z1, .string z2, .string z3, .string z4, .string b5, .string z6, .string b7, .string b8, .string b9]) (Value.int .i64 4)).run Tryz.prog wr = .ok (Value.string z4) wr := by kernel_rfl
          have HQ := hid (HPB.out z4 (HBD.out.2.2.2.2.1) wr (HEV.out _ HJ.out))
          go_wp2_with fail
          go_at_call 11
          refine HQ.out.mono ?_
          rintro e V ⟨⟨xa, xn, xc, rfl⟩, hb⟩
          have HJ2 : Hid (Below w.heap.size w V) := hid (HJ.out.trans (hb.mono HJ.out.size))
          clear hb HQ
          go_wp2_with fail
          go_roundw
          case rel => exact ⟨5, rfl, by omega, HJ2⟩
          case measure => decide
        · have hidx : (Instr.index 51 (Value.agg #[.string z0, .string z1, .string z2, .string z3, .string z4, .string b5, .string z6, .string b7, .string b8, .string b9]) (Value.int .i64 5)).run Tryz.prog wr = .ok (Value.string b5) wr := by kernel_rfl
          have HQ := hid (HPB.out b5 (bad_fix.1) wr (HEV.out _ HJ.out))
          go_wp2_with fail
          go_at_call 11
          refine HQ.out.mono ?_
          rintro e V ⟨⟨xa, xn, xc, rfl⟩, hb⟩
          have HJ2 : Hid (Below w.heap.size w V) := hid (HJ.out.trans (hb.mono HJ.out.size))
          clear hb HQ
          go_wp2_with fail
          go_roundw
          case rel => exact ⟨6, rfl, by omega, HJ2⟩
          case measure => decide
        · have hidx : (Instr.index 51 (Value.agg #[.string z0, .string z1, .string z2, .string z3, .string z4, .string b5, .string z6, .string b7, .string b8, .string b9]) (Value.int .i64 6)).run Tryz.prog wr = .ok (Value.string z6) wr := by kernel_rfl
          have HQ := hid (HPB.out z6 (HBD.out.2.2.2.2.2) wr (HEV.out _ HJ.out))
          go_wp2_with fail
          go_at_call 11
          refine HQ.out.mono ?_
          rintro e V ⟨⟨xa, xn, xc, rfl⟩, hb⟩
          have HJ2 : Hid (Below w.heap.size w V) := hid (HJ.out.trans (hb.mono HJ.out.size))
          clear hb HQ
          go_wp2_with fail
          go_roundw
          case rel => exact ⟨7, rfl, by omega, HJ2⟩
          case measure => decide
        · have hidx : (Instr.index 51 (Value.agg #[.string z0, .string z1, .string z2, .string z3, .string z4, .string b5, .string z6, .string b7, .string b8, .string b9]) (Value.int .i64 7)).run Tryz.prog wr = .ok (Value.string b7) wr := by kernel_rfl
          have HQ := hid (HPB.out b7 (bad_fix.2.1) wr (HEV.out _ HJ.out))
          go_wp2_with fail
          go_at_call 11
          refine HQ.out.mono ?_
          rintro e V ⟨⟨xa, xn, xc, rfl⟩, hb⟩
          have HJ2 : Hid (Below w.heap.size w V) := hid (HJ.out.trans (hb.mono HJ.out.size))
          clear hb HQ
          go_wp2_with fail
          go_roundw
          case rel => exact ⟨8, rfl, by omega, HJ2⟩
          case measure => decide
        · have hidx : (Instr.index 51 (Value.agg #[.string z0, .string z1, .string z2, .string z3, .string z4, .string b5, .string z6, .string b7, .string b8, .string b9]) (Value.int .i64 8)).run Tryz.prog wr = .ok (Value.string b8) wr := by kernel_rfl
          have HQ := hid (HPB.out b8 (bad_fix.2.2.1) wr (HEV.out _ HJ.out))
          go_wp2_with fail
          go_at_call 11
          refine HQ.out.mono ?_
          rintro e V ⟨⟨xa, xn, xc, rfl⟩, hb⟩
          have HJ2 : Hid (Below w.heap.size w V) := hid (HJ.out.trans (hb.mono HJ.out.size))
          clear hb HQ
          go_wp2_with fail
          go_roundw
          case rel => exact ⟨9, rfl, by omega, HJ2⟩
          case measure => decide
        · have hidx : (Instr.index 51 (Value.agg #[.string z0, .string z1, .string z2, .string z3, .string z4, .string b5, .string z6, .string b7, .string b8, .string b9]) (Value.int .i64 9)).run Tryz.prog wr = .ok (Value.string b9) wr := by kernel_rfl
          have HQ := hid (HPB.out b9 (bad_fix.2.2.2) wr (HEV.out _ HJ.out))
          go_wp2_with fail
          go_at_call 11
          refine HQ.out.mono ?_
          rintro e V ⟨⟨xa, xn, xc, rfl⟩, hb⟩
          have HJ2 : Hid (Below w.heap.size w V) := hid (HJ.out.trans (hb.mono HJ.out.size))
          clear hb HQ
          go_wp2_with fail
          go_roundw
          case rel => exact ⟨10, rfl, by omega, HJ2⟩
          case measure => decide
        · go_wp2_with fail
          go_ret
          exact ⟨rfl, HJ.out⟩
end Go.Proofs.YtghppkfopglgaaaGreatDoor
