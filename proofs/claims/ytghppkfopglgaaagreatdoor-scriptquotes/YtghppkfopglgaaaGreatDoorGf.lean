/- ScriptQuotes. -/
import Derived.Test.YtghppkfopglgaaaGreatDoorKat
namespace Go.Proofs.YtghppkfopglgaaaGreatDoor
open Go.RowKit
set_option linter.unusedVariables false
set_option linter.unusedSimpArgs false
def ByBad (t : ByteArray) : Prop := parseL t.data.toList = ([], 260) ∧ NoW (wds t.data.toList) ∧ t.size ≤ 5000
theorem parse_bad2 (s : ByteArray) (h : ByBad s) (V : World) (hV : Env V) : Calls Tryz.prog 11 #[.string s] V fun e w' => (∃ a n c, e = .returned (.tuple #[.slice a n c, .int .i64 260])) ∧ Below V.heap.size V w' := by
  refine (Parse_any s (by have := h.2.2; omega) V hV (.inr h.2.1)).mono ?_
  rintro e w' ⟨v, rfl, cs, _, hR, _, _, hb⟩
  obtain ⟨a, c, rfl, _⟩ := hR.slice
  rw [h.1]
  exact ⟨⟨a, _, c, rfl⟩, hb⟩
theorem parse_good (t : ByteArray) (s : List UInt8) (h : Good t s) (V : World) (hV : Env V) : Calls Tryz.prog 11 #[.string t] V fun e w' => (∃ bk cap, e = .returned (.tuple #[.slice (some ⟨bk, 0, none⟩) 1 cap, .int .i64 0]) ∧ bk < w'.heap.size ∧ w'.cell? ⟨bk, 21, none⟩ = some (.int .i64 5) ∧ w'.cell? ⟨bk, 39, none⟩ = some (.string (bt s))) ∧ Below V.heap.size V w' := by
  refine (Parse_any t (by have := h.2.2; omega) V hV (.inr h.2.1)).mono ?_
  rintro e w' ⟨v, rfl, cs, hm, hR, _, _, hb⟩
  rw [h.1] at hm ⊢
  obtain ⟨st, rfl⟩ : ∃ st, cs = [(cmF s, st)] := by
    rcases cs with _ | ⟨⟨x, st⟩, _ | ⟨y, r⟩⟩
    · cases hm
    · simp only [List.map_cons, List.map_nil, List.cons.injEq, and_true] at hm
      subst hm
      exact ⟨st, rfl⟩
    · simp at hm
  obtain ⟨bk, cap, rfl, hbk, hcell⟩ := row_cells hR (by simp)
  have f21 := hcell 0 (cmF s, st) rfl 21 (.int .i64 5) rfl
  have f39 := hcell 0 (cmF s, st) rfl 39 (.string (bt s)) rfl
  simp only [Nat.zero_mul, Nat.zero_add] at f21 f39
  exact ⟨⟨bk, cap, rfl, hbk, f21, f39⟩, hb⟩
theorem txt_put (l : List UInt8) (G : ByteArray) (hG : G.data.toList = lgS l) (k n : Nat) (hn : G.size = n) (y : ByteArray) : ((⟨#[102, 111, 114, 103, 101, 32, 53, 32]⟩ : ByteArray) ++ G.extract 0 k ++ y ++ G.extract k n).data.toList = hdF ++ ((lgS l).take k ++ (y.data.toList ++ (lgS l).drop k)) := by
  have hl : (lgS l).length = n := by rw [← hG, ← sz_eq]; exact hn
  rw [ByteArray.data_append, ByteArray.data_append, ByteArray.data_append]
  simp only [Array.toList_append, Lib.extract_data, hG, List.append_assoc, List.drop_zero, Nat.sub_zero]
  rw [List.take_of_length_le (l := List.drop k (lgS l)) (by rw [List.length_drop]; omega)]
  rfl
theorem bad_pl (bd : UInt8) (b : Nat) (hb : bd.toNat = b) (h : ((decide (32 ≤ b) && decide (b ≤ 126)) || decide (b = 10)) = false) : bd ≠ 10 ∧ isPl bd = false := by
  subst hb
  revert h
  revert bd
  exact all_u8 (by decide +kernel)
theorem byte_last (z : Nat) (h : z = 1) : (z : Int) - 1 = 0 := by omega
set_option maxRecDepth 100000 in
set_option maxHeartbeats 16000000 in
theorem quotes_law (s0 : ByteArray) (a : Int) (ha : I64 a) (bd : UInt8) (hs : s0.size ≤ 140737488355328) (w : World) (hE : Env w) : Calls Tryz.prog 3 #[.string s0, .int .i64 a, .int .u8 (bd.toNat : Int)] w fun e w' => e = .returned (.bool true) ∧ Below w.heap.size w w' := by
  have HEV : Hid (∀ V, Below w.heap.size w V → Env V) := hid (fun V h => hE.of h.size fun k hk => h.block k (by have := hE.sz; omega))
  have HH := hid (head_any w hE)
  obtain ⟨S, hS⟩ : ∃ S, bt (s0.data.toList.take 900) = S := ⟨_, rfl⟩
  have hSn : S.size ≤ 900 := by rw [← hS, sz_eq, bt_toList, List.length_take]; omega
  have HS := hid hS
  have HQ := hid (fun V => quote_any S V (by omega))
  clear hE hS
  go_enter Tryz.func3, Tryz.ntmps3
  go_wp2_with fail
  go_at_call 9
  refine HH.out.mono ?_
  rintro e V0 ⟨rfl, hb0⟩
  have B0 := hid hb0
  clear hb0 HH
  go_upto_if 28 with fail
  go_cut [0] from 24 (fun v wx => v = .string S ∧ wx = V0)
  case first =>
    cases hq : decide ((900 : Int) < (s0.size : Int)) with
    | false =>
      have hle : s0.size ≤ 900 := by
        have := of_decide_eq_false hq
        omega
      have hSe : s0 = S := by
        rw [← HS.out, List.take_of_length_le (by rw [← sz_eq]; exact hle), bt_data]
      clear hq
      go_wp2_with fail
      go_meet
      case rel => exact ⟨by rw [hSe], rfl⟩
    | true =>
      have hgt : 900 < s0.size := by
        have := of_decide_eq_true hq
        omega
      have hgI : (900 : Int) ≤ (s0.size : Int) := by omega
      have hgN : 900 ≤ s0.size := by omega
      have hSe : s0.extract 0 900 = S := by
        rw [← HS.out]
        refine ba_eq ?_
        rw [Lib.extract_data, bt_toList]
        simp
      clear hq
      go_wp2_with fail
      go_meet
      case rel => exact ⟨rfl, rfl⟩
  case rest =>
    obtain ⟨rfl, rfl⟩ := hcut
    obtain ⟨n, hn⟩ : ∃ n, S.size = n := ⟨_, rfl⟩
    go_wp2_with fail
    go_at_call 10
    refine (HQ.out _).mono ?_
    rintro e V1 ⟨rfl, hb1⟩
    have HJ0 : Hid (Below w.heap.size w V1) := hid (B0.out.trans (hb1.mono B0.out.size))
    clear hb1
    obtain ⟨Q, hQ⟩ : ∃ Q, bt (qtS S.data.toList) = Q := ⟨_, rfl⟩
    rw [hQ]
    have HQQ := hid hQ
    have HYtghppkfopglgaaaGreatDoor := hid hn
    clear hQ HQ
    go_wp2_with fail
    go_loopw [8, 9] (fun lv iv wr => ∃ i : Nat, lv = .string (bt (34 :: (S.data.toList.take i).flatMap hxC)) ∧ iv = .int .i64 (i : Int) ∧ i ≤ n ∧ Hid (Below w.heap.size w wr)) (fun _ iv _ => n - (intOf iv).toNat)
    case atStart => exact ⟨0, rfl, rfl, Nat.zero_le _, HJ0⟩
    case round =>
      obtain ⟨i, rfl, rfl, hle, HJ⟩ := hrel
      clear HJ0
      by_cases hlt : i < n
      · have hltI : (i : Int) < (n : Int) := by omega
        have hiS : i < S.size := by omega
        obtain ⟨c, hc⟩ : ∃ c, S[i]'hiS = c := ⟨_, rfl⟩
        obtain ⟨q, hq⟩ : ∃ q : Nat, c.toNat / 16 = q := ⟨_, rfl⟩
        obtain ⟨r, hr⟩ : ∃ r : Nat, c.toNat % 16 = r := ⟨_, rfl⟩
        have hqi : (c.toNat : Int) / 16 = (q : Int) := by omega
        have hri : (c.toNat : Int) % 16 = (r : Int) := by omega
        have hq16 : q < 16 := by have := c.toNat_lt; omega
        have hr16 : r < 16 := by omega
        have hqI : (q : Int) < 16 := by omega
        have hrI : (r : Int) < 16 := by omega
        obtain ⟨x, hx⟩ : ∃ x, hexS.getD q 0 = x := ⟨_, rfl⟩
        obtain ⟨y, hy⟩ : ∃ y, hexS.getD r 0 = y := ⟨_, rfl⟩
        have hxq := (hexAt q hq16).trans hx
        have hyr := (hexAt r hr16).trans hy
        have hcv : (convert 24 9 (.slice (some ⟨wr.heap.size, 0, none⟩) 2 2)).run Tryz.prog ((wr.alloc (.cells #[.int .u8 (x.toNat : Int), .int .u8 (y.toNat : Int)] 5)).drew) = .ok (.string ⟨#[x, y]⟩) ((wr.alloc (.cells #[.int .u8 (x.toNat : Int), .int .u8 (y.toNat : Int)] 5)).drew) := by
          refine run_convert_bytes_back (P := Tryz.prog) _ 24 9 5 ⟨wr.heap.size, 0, none⟩ 2 [x, y] Tryz.underlying24 Tryz.underlying5 Tryz.underlying9 (fun j hj => ?_)
          have hb : ((wr.alloc (.cells #[.int .u8 (x.toNat : Int), .int .u8 (y.toNat : Int)] 5)).drew).heap[wr.heap.size]? = some (.cells #[.int .u8 (x.toNat : Int), .int .u8 (y.toNat : Int)] 5 (0, 0)) := by
            show (wr.alloc _).heap[wr.heap.size]? = _
            rw [heap_al, if_pos rfl]
          rw [Addr.add_lit, cell_blk hb]
          match j, hj with
          | 0, _ => rfl
          | 1, _ => rfl
        have HX : Hid (bt (34 :: (S.data.toList.take (i + 1)).flatMap hxC) = bt (34 :: (S.data.toList.take i).flatMap hxC) ++ ⟨#[92, 120]⟩ ++ ⟨#[x, y]⟩) := hid (by
          have hsi : i < S.data.toList.length := by rw [← sz_eq]; exact hiS
          have e : S.data.toList[i]? = some c := by rw [List.getElem?_eq_getElem hsi]; exact congrArg some hc
          rw [List.take_add_one, e]
          refine ba_eq ?_
          rw [ByteArray.data_append, ByteArray.data_append, Array.toList_append, Array.toList_append, bt_toList, bt_toList]
          simp [hxC, hq, hr, ← hx, ← hy])
        have hsz1 : (bt (34 :: (S.data.toList.take i).flatMap hxC)).size ≤ 4000 := by
          rw [sz_eq, bt_toList, List.length_cons, hxS_len, List.length_take]
          omega
        obtain ⟨Lc, hLc⟩ : ∃ L, bt (34 :: (S.data.toList.take i).flatMap hxC) = L := ⟨_, rfl⟩
        rw [hLc] at HX hsz1 ⊢
        have HJB : Hid (Below w.heap.size w ((wr.alloc (.cells #[.int .u8 (x.toNat : Int), .int .u8 (y.toNat : Int)] 5)).drew)) := hid ((HJ.out.trans ((bel1 _ _).mono HJ.out.size)).drew)
        have hk1 : ¬ 9223372036854775807 < Lc.size + 2 := by omega
        have hk2 : ¬ 9223372036854775807 < Lc.size + 2 + 2 := by omega
        have hi9 : i ≤ 1000 := by omega
        clear hLc hx hy
        go_wp2_with fail
        go_region
        go_wp2_with fail
        go_roundw
        case rel => exact ⟨i + 1, by rw [HX.out], rfl, by omega, HJB⟩
        case measure => show n - ((i : Int) + 1).toNat < n - ((i : Nat) : Int).toNat; omega
      · have hnlt : ¬ (i : Int) < (n : Int) := by omega
        have hin : i = n := by omega
        subst hin
        have hll : S.data.toList.length = i := by rw [← sz_eq]; exact HYtghppkfopglgaaaGreatDoor.out
        rw [List.take_of_length_le (by omega)]
        obtain ⟨l, hl⟩ : ∃ l, S.data.toList = l := ⟨_, rfl⟩
        rw [hl] at hll ⊢
        have HLL := hid hl
        obtain ⟨Lc, hLc⟩ : ∃ L, bt (34 :: l.flatMap hxC) = L := ⟨_, rfl⟩
        have hsz1 : Lc.size = 4 * i + 1 := by
          rw [← hLc, sz_eq, bt_toList, List.length_cons, hxS_len]
          omega
        obtain ⟨G, hG⟩ : ∃ G, Lc ++ (⟨#[34]⟩ : ByteArray) = G := ⟨_, rfl⟩
        have HG : Hid (G.data.toList = lgS l) := hid (by
          rw [← hG, ← hLc, ByteArray.data_append, Array.toList_append, bt_toList]
          unfold lgS
          simp)
        have hGs : G.size = 4 * i + 2 := by rw [← hG, ByteArray.size_append, hsz1]; rfl
        rw [hLc]
        have hk1 : ¬ 9223372036854775807 < 4 * i + 1 + 1 := by omega
        have HQL : Hid (Q.data.toList = qtS l) := hid (by rw [← HQQ.out, bt_toList, hl])
        have HQR : Hid (∀ k (h : k < Q.size), 32 ≤ (Q[k]'h).toNat ∧ (Q[k]'h).toNat ≤ 126) := hid (fun k h => by
          have := qtS_range l (Q[k]'h) (by
            rw [← HQL.out]
            exact List.getElem_mem (l := Q.data.toList) (n := k) (by rw [← sz_eq]; exact h))
          exact this)
        have hQs : Q.size ≤ 4 * i + 2 := by
          have := qtS_len l
          rw [sz_eq, HQL.out]
          omega
        obtain ⟨z, hz⟩ : ∃ z, Q.size = z := ⟨_, rfl⟩
        have HJ1 := hid HJ.out
        clear hl hLc hll
        go_wp2_with fail
        go_loopw [10] (fun iv wr => ∃ k : Nat, iv = .int .i64 (k : Int) ∧ k ≤ z ∧ Hid (Below w.heap.size w wr)) (fun iv _ => z - (intOf iv).toNat)
        case atStart => exact ⟨0, rfl, Nat.zero_le _, HJ1⟩
        case round =>
          obtain ⟨k, rfl, hkl, HJ2⟩ := hrel
          by_cases hkz : k < z
          · have hkI : (k : Int) < (z : Int) := by omega
            have hkQ : k < Q.size := by omega
            obtain ⟨c, hc⟩ : ∃ c, Q[k]'hkQ = c := ⟨_, rfl⟩
            have hr := HQR.out k hkQ
            rw [hc] at hr
            obtain ⟨hr1, hr2⟩ := hr
            have hr3 : ¬ c.toNat < 32 := by omega
            have hr4 : ¬ 126 < c.toNat := by omega
            have hr5 : ¬ (c.toNat : Int) < 32 := by omega
            have hr6 : ¬ (126 : Int) < (c.toNat : Int) := by omega
            have hr7 : decide ((c.toNat : Int) < 32) = false := decide_eq_false hr5
            have hr8 : decide ((126 : Int) < (c.toNat : Int)) = false := decide_eq_false hr6
            have hk9 : k ≤ 5000 := by omega
            clear hr1 hr2
            go_wp2_with fail
            go_roundw
            case rel => exact ⟨k + 1, rfl, by omega, HJ2⟩
            case measure => show z - ((k : Int) + 1).toNat < z - ((k : Nat) : Int).toNat; omega
          · have hkn : ¬ (k : Int) < (z : Int) := by omega
            have hk : k = z := by omega
            subst hk
            go_wp2_with fail
            have HLS : Hid (bt l = S) := hid (by rw [← HLL.out, bt_data])
            have hll9 : l.length ≤ 900 := by rw [← HLL.out, ← sz_eq]; exact hSn
            have HG1 := hid (good_quote l (⟨#[102, 111, 114, 103, 101, 32, 53, 32]⟩ ++ Q) (by rw [ByteArray.data_append, Array.toList_append, HQL.out]; rfl) hll9)
            have HG2 := hid (good_long l (⟨#[102, 111, 114, 103, 101, 32, 53, 32]⟩ ++ G) (by rw [ByteArray.data_append, Array.toList_append, HG.out]; rfl) hll9)
            go_at_call 11
            refine (parse_good _ l HG1.out wr (HEV.out _ HJ2.out)).mono ?_
            rintro e W1 ⟨⟨bk1, cap1, rfl, hbk1, f1, g1⟩, hbel1⟩
            have HB1 := hid (HJ2.out.trans (hbel1.mono HJ2.out.size))
            have HC1 : Hid (∀ V, Below W1.heap.size W1 V → V.cell? ⟨bk1, 21, none⟩ = some (.int .i64 5) ∧ V.cell? ⟨bk1, 39, none⟩ = some (.string S) ∧ bk1 < V.heap.size) := hid (fun V hV => by
              have hh : ∀ i, V.cell? ⟨bk1, i, none⟩ = W1.cell? ⟨bk1, i, none⟩ := fun i => by unfold World.cell?; simp only; rw [hV.block bk1 hbk1]
              exact ⟨(hh 21).trans f1, by rw [hh 39, g1, HLS.out], Nat.lt_of_lt_of_le hbk1 hV.size⟩)
            clear f1 g1 hbel1 hbk1
            have hk2 : ¬ 9223372036854775807 < 8 + (4 * i + 2) := by omega
            go_wp2_with fail
            go_at_call 11
            refine (parse_good _ l HG2.out W1 (HEV.out _ HB1.out)).mono ?_
            rintro e W2 ⟨⟨bk2, cap2, rfl, hbk2, f2, g2⟩, hbel2⟩
            have HB2 := hid (HB1.out.trans (hbel2.mono HB1.out.size))
            obtain ⟨f1, g1, hbk1⟩ := HC1.out W2 hbel2
            rw [HLS.out] at g2
            clear hbel2 HC1
            have hgt : ¬ 4 * i + 2 < k := by omega
            have hgtI : ¬ ((4 * i + 2 : Nat) : Int) < (k : Int) := by omega
            obtain ⟨b, hb⟩ : ∃ b : Nat, bd.toNat = b := ⟨_, rfl⟩
            go_upto_region 21 with fail
            try rw [hb]
            go_cut [142] from 133 (fun v wx => v = .bool ((decide (32 ≤ b) && decide (b ≤ 126)) || decide (b = 10)) ∧ wx = W2)
            case first =>
              by_cases x1 : 32 ≤ b
              · have y1 : (32 : Int) ≤ (b : Int) := by omega
                have z1 : decide ((32 : Int) ≤ (b : Int)) = true := decide_eq_true y1
                by_cases x2 : b ≤ 126
                · have y2 : (b : Int) ≤ 126 := by omega
                  have z2 : decide ((b : Int) ≤ 126) = true := decide_eq_true y2
                  go_wp2_with fail
                  go_meet
                  case rel => exact ⟨by simp [x1, x2], rfl⟩
                · have y2 : ¬ (b : Int) ≤ 126 := by omega
                  have z2 : decide ((b : Int) ≤ 126) = false := decide_eq_false y2
                  have x3 : ¬ b = 10 := by omega
                  have z3 : ((b : Int) == 10) = false := by simpa using (by omega : ¬ (b : Int) = 10)
                  have z4 : (b == 10) = false := by simpa using x3
                  go_wp2_with fail
                  go_meet
                  case rel => exact ⟨by simp [x2, x3], rfl⟩
              · have y1 : ¬ (32 : Int) ≤ (b : Int) := by omega
                have z1 : decide ((32 : Int) ≤ (b : Int)) = false := decide_eq_false y1
                by_cases x3 : b = 10
                · subst x3
                  go_wp2_with fail
                  go_meet
                  case rel => exact ⟨by simp, rfl⟩
                · have z3 : ((b : Int) == 10) = false := by simpa using (by omega : ¬ (b : Int) = 10)
                  have z4 : (b == 10) = false := by simpa using x3
                  go_wp2_with fail
                  go_meet
                  case rel => exact ⟨by simp [x1, x3], rfl⟩
            case rest =>
              obtain ⟨rfl, rfl⟩ := hcut
              cases hBB : ((decide (32 ≤ b) && decide (b ≤ 126)) || decide (b = 10)) with
              | true =>
                go_wp2_with fail
                go_ret
                exact ⟨rfl, HB2.out⟩
              | false =>
                have hg0 : ¬ (4 * i + 2 = 0) := by omega
                go_upto_if 148 with fail
                obtain ⟨t, ht⟩ : ∃ t, a.tmod (4 * (i : Int) + 2) = t := ⟨_, rfl⟩
                rw [ht]
                obtain ⟨m, hm⟩ : ∃ m, t.natAbs = m := ⟨_, rfl⟩
                have hm9 : m < 4 * i + 2 := by
                  rw [← hm, ← ht, Int.natAbs_tmod]
                  have e : (4 * (i : Int) + 2).natAbs = 4 * i + 2 := by omega
                  rw [e]
                  exact Nat.mod_lt _ (by omega)
                have hi9 : i ≤ 900 := by omega
                go_cut [15] from 133 (fun v wx => v = .int .i64 (m : Int) ∧ wx = wc)
                case first =>
                  cases hlt : decide (t < 0) with
                  | true =>
                    have h0 := of_decide_eq_true hlt
                    have hneg : -t = (m : Int) := by omega
                    clear hlt ht hm
                    go_wp2_with fail
                    go_meet
                    case rel => exact ⟨by first | rfl | rw [hneg], rfl⟩
                  | false =>
                    have h0 := of_decide_eq_false hlt
                    have hpos : t = (m : Int) := by omega
                    clear hlt ht hm
                    go_wp2_with fail
                    go_meet
                    case rel => exact ⟨by first | rfl | rw [hpos], rfl⟩
                case rest =>
                  obtain ⟨rfl, rfl⟩ := hcut
                  clear ht hm
                  go_upto_region 26 with fail
                  go_cut [158] from 133 (fun v wx => v = .bool (decide (m = 0) || decide (¬ (m - 1) % 4 = 0)) ∧ wx = wc)
                  case first =>
                    rcases m with _ | p
                    · go_wp2_with fail
                      go_meet
                      case rel => exact ⟨by simp, rfl⟩
                    · have hmp : ((p + 1 : Nat) : Int) - 1 = (p : Int) := by omega
                      have hm0 : (((p + 1 : Nat) : Int) == 0) = false := by simpa using (by omega : ¬ ((p : Int) + 1) = 0)
                      obtain ⟨u, hu⟩ : ∃ u : Nat, p % 4 = u := ⟨_, rfl⟩
                      have h4 : (p : Int).tmod 4 = (u : Int) := by
                        rw [Int.tmod_eq_emod_of_nonneg (by omega)]
                        omega
                      obtain ⟨M, hM⟩ : ∃ M : Int, ((p + 1 : Nat) : Int) = M := ⟨_, rfl⟩
                      rw [hM] at hmp hm0
                      try rw [hM]
                      have hMs : ¬ M = 0 := by omega
                      have hMr : M - 1 ≤ 5000 := by omega
                      have hMr2 : 0 ≤ M - 1 := by omega
                      have HM := hid hM
                      by_cases hu0 : u = 0
                      · have hu1 : ((u : Int) != 0) = false := by rw [hu0]; rfl
                        have hu2 : (u != 0) = false := by rw [hu0]; rfl
                        clear hM
                        go_wp2_with fail
                        have hM := HM.out
                        subst hM
                        go_meet
                        case rel => exact ⟨by simp [hu, hu0], rfl⟩
                      · have hu1 : ((u : Int) != 0) = true := by simpa using (by omega : ¬ (u : Int) = 0)
                        have hu2 : (u != 0) = true := by simpa using hu0
                        clear hM
                        go_wp2_with fail
                        have hM := HM.out
                        subst hM
                        go_meet
                        case rel => exact ⟨by simp [hu, hu0], rfl⟩
                  case rest =>
                    obtain ⟨rfl, rfl⟩ := hcut
                    go_upto_if 158 with fail
                    go_cut [15] from 133 (fun v wx => ∃ j : Nat, v = .int .i64 ((1 + 4 * j : Nat) : Int) ∧ j ≤ i ∧ wx = wc)
                    case first =>
                      cases hBC : (decide (m = 0) || decide (¬ (m - 1) % 4 = 0)) with
                      | true =>
                        go_wp2_with fail
                        go_meet
                        case rel => exact ⟨0, rfl, Nat.zero_le _, rfl⟩
                      | false =>
                        simp only [Bool.or_eq_false_iff, decide_eq_false_iff_not, Decidable.not_not] at hBC
                        have hj : ((m : Nat) : Int) = ((1 + 4 * ((m - 1) / 4) : Nat) : Int) := by omega
                        go_wp2_with fail
                        go_meet
                        case rel => exact ⟨(m - 1) / 4, by rw [← hj], by omega, rfl⟩
                    case rest =>
                      obtain ⟨j, rfl, hj, rfl⟩ := hcut
                      have hBX := hid (bad_pl bd b hb hBB)
                      have hll : l.length = i := by rw [← HLL.out, ← sz_eq]; exact HYtghppkfopglgaaaGreatDoor.out
                      have hGX := HG.out
                      have hX1 : ByBad ((⟨#[102, 111, 114, 103, 101, 32, 53, 32]⟩ : ByteArray) ++ G.extract 0 (1 + 4 * j) ++ ⟨#[bd]⟩ ++ G.extract (1 + 4 * j) (4 * i + 2)) := bad_put l j [bd] _ (txt_put l G hGX _ _ hGs _) (by omega) hll9 (by simp) (by intro c hc; rw [List.mem_singleton] at hc; subst hc; exact hBX.out.1) (fun r => unq_bad _ _ hBX.out.2)
                      have hX3 : ByBad ((⟨#[102, 111, 114, 103, 101, 32, 53, 32]⟩ : ByteArray) ++ G.extract 0 (1 + 4 * j) ++ ⟨#[92, 113]⟩ ++ G.extract (1 + 4 * j) (4 * i + 2)) := bad_put l j [92, 113] _ (txt_put l G hGX _ _ hGs _) (by omega) hll9 (by simp) (by decide) (fun r => unq_q _)
                      have hX4 : ByBad ((⟨#[102, 111, 114, 103, 101, 32, 53, 32]⟩ : ByteArray) ++ G.extract 0 (1 + 4 * j) ++ ⟨#[92, 120, 65, 48]⟩ ++ G.extract (1 + 4 * j) (4 * i + 2)) := bad_put l j [92, 120, 65, 48] _ (txt_put l G hGX _ _ hGs _) (by omega) hll9 (by simp) (by decide) (fun r => unq_A0 _)
                      have hX2 : ByBad ((⟨#[102, 111, 114, 103, 101, 32, 53, 32]⟩ : ByteArray) ++ G.extract 0 (4 * i + 1)) := bad_cut l _ (by
                        have hl : (lgS l).length = 4 * i + 2 := by rw [← hGX, ← sz_eq]; exact hGs
                        rw [ByteArray.data_append]
                        simp only [Array.toList_append, Lib.extract_data, hGX, List.drop_zero, Nat.sub_zero]
                        rw [hl]
                        rfl) hll9
                      obtain ⟨g, hg⟩ : ∃ g, 4 * i + 2 = g := ⟨_, rfl⟩
                      obtain ⟨r, hr⟩ : ∃ r, 1 + 4 * j = r := ⟨_, rfl⟩
                      rw [hr] at hX1 hX3 hX4
                      rw [hg] at hX1 hX3 hX4 hGs
                      rw [show 4 * i + 1 = g - 1 by omega] at hX2
                      have hrg : r ≤ g := by omega
                      have hrgI : (r : Int) ≤ (g : Int) := by omega
                      have hg1 : 1 ≤ g := by omega
                      have hgI : ((g - 1 : Nat) : Int) = (g : Int) - 1 := by omega
                      have hg9 : g ≤ 4000 := by omega
                      try rw [hr]
                      have HX1 := hid hX1
                      have HX2 := hid hX2
                      have HX3 := hid hX3
                      have HX4 := hid hX4
                      clear hX1 hX2 hX3 hX4 hGX hBX hll
                      go_upto_region 28 with fail
                      have HB2r := hid HB2.out
                      go_cut [16, 17] from 133 (fun v v' wx => v' = .int .i64 260 ∧ Hid (Below w.heap.size w wx))
                      case first =>
                        have hcv : (convert 24 9 (.slice (some ⟨wc.heap.size, 0, none⟩) 1 1)).run Tryz.prog ((wc.alloc (.cells #[.int .u8 (b : Int)] 5)).drew) = .ok (.string ⟨#[bd]⟩) ((wc.alloc (.cells #[.int .u8 (b : Int)] 5)).drew) := by
                          refine run_convert_bytes_back (P := Tryz.prog) _ 24 9 5 ⟨wc.heap.size, 0, none⟩ 1 [bd] Tryz.underlying24 Tryz.underlying5 Tryz.underlying9 (fun j hj => ?_)
                          have hb : ((wc.alloc (.cells #[.int .u8 (b : Int)] 5)).drew).heap[wc.heap.size]? = some (.cells #[.int .u8 (b : Int)] 5 (0, 0)) := by
                            show (wc.alloc _).heap[wc.heap.size]? = _
                            rw [heap_al, if_pos rfl]
                          rw [Addr.add_lit, cell_blk hb]
                          subst b
                          match j, hj with
                          | 0, _ => rfl
                        have HBA := hid ((HB2r.out.trans ((bel1 wc (.cells #[.int .u8 (b : Int)] 5)).mono HB2r.out.size)).drew)
                        go_region_with (refine (parse_bad2 _ HX1.out _ (HEV.out _ HBA.out)).mono ?_; rintro e W3 ⟨⟨b1, n1, c1, rfl⟩, hb3⟩)
                        all_goals
                          have HB3 := hid (HBA.out.trans (hb3.mono HBA.out.size))
                          go_wp2_with fail
                          go_meet
                          case rel => exact ⟨rfl, HB3⟩
                      case rest =>
                        obtain ⟨rfl, HB3⟩ := hcut
                        have hz : ((g : Int) - 1).toNat = g - 1 := by omega
                        go_upto_region 29 with fail
                        go_cut [18, 19] from 133 (fun v v' wx => v' = .int .i64 260 ∧ Hid (Below w.heap.size w wx))
                        case first =>
                          have hg2 : g - 1 ≤ g := by omega
                          have hg3 : (0 : Int) ≤ (g : Int) - 1 := by omega
                          have hg4 : (g : Int) - 1 ≤ (g : Int) := by omega
                          rw [← hgI] at *
                          go_wp2_with fail
                          try go_at_call 11
                          refine (parse_bad2 _ HX2.out _ (HEV.out _ HB3.out)).mono ?_
                          rintro e W3 ⟨⟨b1, n1, c1, rfl⟩, hb3⟩
                          have HB4 := hid (HB3.out.trans (hb3.mono HB3.out.size))
                          go_wp2_with fail
                          go_meet
                          case rel => exact ⟨rfl, HB4⟩
                        case rest =>
                          obtain ⟨rfl, HB4⟩ := hcut
                          go_upto_region 30 with fail
                          go_cut [20, 21] from 133 (fun v v' wx => v' = .int .i64 260 ∧ Hid (Below w.heap.size w wx))
                          case first =>
                            have HX := HX3
                            have HBC := HB4
                            have HBD := hid HB4.out.drew
                            go_region_with (refine (parse_bad2 _ HX.out _ (HEV.out _ HBD.out)).mono ?_; rintro e W3 ⟨⟨b1, n1, c1, rfl⟩, hb3⟩)
                            all_goals
                              have HB5 := hid (HBD.out.trans (hb3.mono HBD.out.size))
                              go_wp2_with fail
                              go_meet
                              case rel => exact ⟨rfl, HB5⟩
                          case rest =>
                            obtain ⟨rfl, HB5⟩ := hcut
                            go_upto_region 31 with fail
                            go_cut [22, 23] from 133 (fun v v' wx => v' = .int .i64 260 ∧ Hid (Below w.heap.size w wx))
                            case first =>
                              have HX := HX4
                              have HBC := HB5
                              have HBD := hid HB5.out.drew
                              go_region_with (refine (parse_bad2 _ HX.out _ (HEV.out _ HBD.out)).mono ?_; rintro e W3 ⟨⟨b1, n1, c1, rfl⟩, hb3⟩)
                              all_goals
                                have HB5 := hid (HBD.out.trans (hb3.mono HBD.out.size))
                                go_wp2_with fail
                                go_meet
                                case rel => exact ⟨rfl, HB5⟩
                            case rest =>
                              obtain ⟨rfl, HB6⟩ := hcut
                              go_wp2_with fail
                              go_ret
                              exact ⟨rfl, HB6.out⟩
end Go.Proofs.YtghppkfopglgaaaGreatDoor
