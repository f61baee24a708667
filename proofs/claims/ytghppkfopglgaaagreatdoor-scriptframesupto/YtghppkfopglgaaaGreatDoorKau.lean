/- The document's Decimal. The document's Quote. -/
import Derived.Test.YtghppkfopglgaaaGreatDoorKaf
import Derived.Test.YtghppkfopglgaaaGreatDoorKad
namespace Go.Proofs.YtghppkfopglgaaaGreatDoor
open Go.RowKit
set_option linter.unusedVariables false
set_option linter.unusedSimpArgs false
theorem nDigits_le : ∀ (k u : Nat), u < 10 ^ (k + 1) → Lib.nDigits u ≤ k + 1
  | 0, u, h => by rw [Lib.nDigits_small (by simpa using h)]; omega
  | k + 1, u, h => by
    by_cases h10 : u < 10
    · rw [Lib.nDigits_small h10]; omega
    · rw [Lib.nDigits_big h10]
      have := nDigits_le k (u / 10) (by rw [Nat.pow_succ] at h; omega)
      omega
theorem dec_small {u : Nat} (h : u < 10) : Lib.decDigits u = [UInt8.ofNat (48 + u)] := by rw [Lib.decDigits, dif_pos h]
theorem dec_big {u : Nat} (h : ¬ u < 10) : Lib.decDigits u = Lib.decDigits (u / 10) ++ [UInt8.ofNat (48 + u % 10)] := by rw [Lib.decDigits, dif_neg h]
def dgB (r : Nat) : UInt8 := UInt8.ofNat (48 + r)
def dgS (r : Nat) (S : ByteArray) : ByteArray := ⟨#[dgB r]⟩ ++ S
theorem dgS_list (r : Nat) (S : ByteArray) : (dgS r S).data.toList = dgB r :: S.data.toList := by
  unfold dgS
  simp [ByteArray.data_append]
theorem dgS_size (r : Nat) (S : ByteArray) : (dgS r S).size = S.size + 1 := by
  rw [Lib.size_eq, dgS_list, Lib.size_eq]; simp
set_option maxHeartbeats 8000000 in
set_option maxRecDepth 100000 in
theorem decimal_any (n : Int) (hn : I64 n) (w : World) : Calls Tryz.prog 34 #[.int .i64 n] w fun e w' => e = .returned (.string (bt (Lib.itoa n))) ∧ Below w.heap.size w w' := by
  obtain ⟨h0, h1⟩ := hn
  have hdig : ∀ S : ByteArray, ∀ m : Nat, Lib.decDigits m ++ S.data.toList = Lib.decDigits n.natAbs → S.size ≤ 40 := fun S m h => by
    have h2 := congrArg List.length h
    rw [List.length_append, Lib.decDigits_length, Lib.decDigits_length] at h2
    have h3 : Lib.nDigits n.natAbs ≤ 19 + 1 := nDigits_le 19 n.natAbs (by
      have : n.natAbs ≤ 9223372036854775808 := by omega
      omega)
    rw [Lib.size_eq]
    omega
  replace hdig : Hid _ := hdig
  obtain ⟨N, hN⟩ : ∃ N, n.natAbs = N := ⟨_, rfl⟩
  have hN9 : N ≤ 9223372036854775808 := by omega
  have HNN := hid hN
  go_enter Tryz.func34, Tryz.ntmps34
  go_upto_if 8 with fail
  go_cut [3] from 5 (fun v wx => v = .int .u64 (N : Int) ∧ wx = w)
  case first =>
    by_cases hlt : n < 0
    · have hw1 : Hid (IntKind.u64.wrap (-(18446744073709551616 + n)) = (N : Int)) := hid (by
        rw [IntKind.wrap_u64]; omega)
      have hw2 : IntKind.u64.wrap n = 18446744073709551616 + n := by rw [IntKind.wrap_u64]; omega
      go_wp2_with fail
      go_meet
      case rel => exact ⟨by rw [hw1.out], rfl⟩
    · have hw2 : IntKind.u64.wrap n = (N : Int) := by rw [IntKind.wrap_u64]; omega
      go_wp2_with fail
      go_meet
      case rel => exact ⟨rfl, rfl⟩
  case rest =>
    obtain ⟨rfl, rfl⟩ := hcut
    clear hN
    go_wp2_with fail
    go_loopw [3, 4] (fun mv sv' wr => ∃ (S : ByteArray) (M : Nat), sv' = .string S ∧ mv = .int .u64 (M : Int) ∧ M ≤ 9223372036854775808 ∧ Hid (Lib.decDigits M ++ S.data.toList = Lib.decDigits N ∧ Below wc.heap.size wc wr)) (fun mv _ _ => (intOf mv).toNat)
    case atStart => exact ⟨⟨#[]⟩, N, rfl, rfl, hN9, hid ⟨by simp, Below.refl _ _⟩⟩
    case round =>
      obtain ⟨S, M, rfl, rfl, hM, hinv⟩ := hrel
      have hS : S.size ≤ 40 := hdig.out S M (by rw [HNN.out]; exact hinv.out.1)
      obtain ⟨r, hr⟩ : ∃ r, M % 10 = r := ⟨_, rfl⟩
      obtain ⟨Q, hQ⟩ : ∃ Q, M / 10 = Q := ⟨_, rfl⟩
      have hr9 : r ≤ 9 := by omega
      have hri : (M : Int) % 10 = (r : Int) := by omega
      have hqi : (M : Int) / 10 = (Q : Int) := by omega
      have hQ9 : Q ≤ 9223372036854775808 := by omega
      have hconv : ∀ W : World, Sem.run Tryz.prog (convert 24 9 (.slice (some ⟨W.heap.size, 0, none⟩) 1 1)) (W.alloc (.cells #[.int .u8 (48 + (r : Int))] 5)) = .ok (.string ⟨#[dgB r]⟩) (W.alloc (.cells #[.int .u8 (48 + (r : Int))] 5)) := fun W =>
        run_convert_bytes_back (P := Tryz.prog) _ 24 9 5 ⟨W.heap.size, 0, none⟩ 1 [dgB r] Tryz.underlying24 Tryz.underlying5 Tryz.underlying9 (fun j hj => by
          have hj0 : j = 0 := by simpa using hj
          subst hj0
          rw [Addr.add_lit, cell_blk (by rw [heap_al, if_pos rfl])]
          simp [dgB]
          omega)
      have hnx : Hid (Q ≠ 0 → Lib.decDigits Q ++ (dgS r S).data.toList = Lib.decDigits N) := hid fun hq => by
        have h10 : ¬ M < 10 := by omega
        rw [← hinv.out.1, dec_big h10, dgS_list, hQ, hr, List.append_assoc]
        rfl
      have hend : Hid (Q = 0 → (dgS r S).data.toList = Lib.decDigits N) := hid fun hq => by
        have h10 : M < 10 := by omega
        rw [← hinv.out.1, dec_small h10, dgS_list, ← hr, Nat.mod_eq_of_lt h10]
        rfl
      have hb2 : Hid (Below wc.heap.size wc (wr.alloc (.cells #[.int .u8 (48 + (r : Int))] 5))) := hid (hinv.out.2.trans ((bel1 wr _).mono hinv.out.2.size))
      have hms : Hid (Q ≠ 0 → Q < M) := hid fun hq => by omega
      have hsz : ¬ (1 + S.size > 9223372036854775807) := by omega
      have hdg : (⟨#[dgB r]⟩ : ByteArray) ++ S = dgS r S := rfl
      clear hinv hr hQ
      by_cases hq : Q = 0
      · have hfin : Hid ((dgS r S).data.toList = Lib.decDigits N) := hid (hend.out hq)
        have hsz2 : Hid ((dgS r S).size ≤ 41) := hid (by rw [dgS_size]; omega)
        subst hq
        clear hnx hend hms
        by_cases hn : n < 0
        · have hA : Hid ((⟨#[45]⟩ : ByteArray) ++ dgS r S = bt (Lib.itoa n)) := hid (by
            apply ba_eq
            rw [bt_toList]
            unfold Lib.itoa
            rw [if_pos hn, ByteArray.data_append, Array.toList_append, hfin.out]
            have h1 : (-n).toNat = N := by have := HNN.out; omega
            first | rw [h1]; rfl | rw [HNN.out]; rfl)
          have hsz3 : ¬ (1 + (dgS r S).size > 9223372036854775807) := by have := hsz2.out; omega
          go_wp2_with fail
          go_ret
          exact ⟨by first | rfl | (rw [← hA.out]; rfl) | (rw [← hA.out]; simp [hdg]), hb2.out⟩
        · have hA : Hid (dgS r S = bt (Lib.itoa n)) := hid (by
            apply ba_eq
            rw [bt_toList]
            unfold Lib.itoa
            rw [if_neg hn, hfin.out]
            congr 1
            have := HNN.out
            omega)
          go_wp2_with fail
          go_ret
          exact ⟨by first | rfl | (rw [← hA.out]; rfl) | (rw [← hA.out]; simp [hdg]), hb2.out⟩
      · have hq' : ((Q : Int) == 0) = false := beq_eq_false_iff_ne.2 (by omega)
        have HQ : Hid (Q ≠ 0) := hid hq
        clear hq
        go_wp2_with fail
        go_roundw
        case rel => exact ⟨dgS r S, Q, by first | rfl | simp [hdg], by first | rfl | simp, hQ9, hid ⟨hnx.out HQ.out, hb2.out⟩⟩
        case measure => have := hms.out HQ.out; simp only [intOf, Int.toNat_natCast]; omega
end Go.Proofs.YtghppkfopglgaaaGreatDoor
namespace Go.Proofs.YtghppkfopglgaaaGreatDoor
open Go.RowKit
set_option linter.unusedVariables false
set_option linter.unusedSimpArgs false
def EB : El UInt8 := ⟨24, 5, 1, 1, fun x => [.int .u8 (x.toNat : Int)]⟩
theorem okB : EB.Ok := ⟨Tryz.underlying24, by kernel_rfl, by decide, by decide, fun _ => rfl, fun a u hu => by
  simp [EB] at hu
  subst hu
  rfl⟩
theorem eb_cs (l : List UInt8) : EB.cs l = l.map fun x => Value.int .u8 (x.toNat : Int) := by
  show l.flatMap (fun x => [Value.int .u8 (x.toNat : Int)]) = _
  induction l with
  | nil => rfl
  | cons a l ih => rw [List.flatMap_cons, ih]; rfl
/-- a row of bytes made since V -/
def Rw (V wr : World) (v : Value) (L : List UInt8) : Prop := R EB wr v L ∧ Below V.heap.size V wr ∧ ∀ j, v.ownBlock = some j → V.heap.size ≤ j
theorem Rw.below {V wr w' : World} {v : Value} {L : List UInt8} (h : Rw V wr v L) (hb : Below wr.heap.size wr w') : Rw V w' v L := ⟨h.1.below hb, h.2.1.trans (hb.mono h.2.1.size), h.2.2⟩
theorem in_lit8 (W : World) (B : Nat) (l : List UInt8) (c : Array Value) (h : W.heap[B]? = some (.cells c 5 (0, 0))) (hc : c.toList = EB.cs l) (hl : l.length ≤ 9223372036854775807) : In EB W (.slice (some ⟨B, 0, none⟩) l.length l.length) l := by
  refine .inr ⟨_, l.length, rfl, Nat.le_refl _, hl, fun j u hu => ?_⟩
  rw [Addr.add_lit, cell_blk h, Nat.zero_add, ← Array.getElem?_toList, hc]
  exact hu
theorem Rw.put {V wr : World} {b : Option Addr} {k c : Nat} {L : List UInt8} (h : Rw V wr (.slice b k c) L) (hl : L.length ≤ 70368744177664) (x : List UInt8) {n : Nat} (hn : x.length = n) (cs : Array Value) (hc : cs.toList = EB.cs x) (hx : n ≤ 64) :
    ∃ b2 c2 w2, (Builtin.append_ #[24, 24] 24 #[.slice b k c, .slice (some ⟨wr.heap.size, 0, none⟩) n n]).run Tryz.prog (wr.alloc (.cells cs 5)) = .ok (.slice b2 (k + n) c2) w2 ∧ Rw V w2 (.slice b2 (k + n) c2) (L ++ x) := by
  subst hn
  have ba := bel1 wr (.cells cs 5)
  obtain ⟨b2, c2, w2, e1, e2, e3⟩ := Go.Proofs.YtghppkfopglgaaaGreatDoor.app okB (wr.alloc (.cells cs 5)) _ _ (R.below h.1 ba) (.slice (some ⟨wr.heap.size, 0, none⟩) x.length x.length) x (in_lit8 _ _ x cs (by rw [heap_al, if_pos rfl]) hc (by omega)) (by rw [show EB.by' = 1 from rfl]; omega)
  have hk : L.length = k := by
    obtain ⟨_, _, e, _⟩ := h.1.slice
    exact (Value.slice.inj e).2.1.symm
  rw [hk] at e1 e2 e3
  refine ⟨b2, c2, w2, e1, e2, ?_, fun j hj => ?_⟩
  · exact h.2.1.trans (Below.trans (ba.mono h.2.1.size) (e3.belowB (Nat.le_trans h.2.1.size ba.size) h.2.2))
  · rcases e3.own j hj with e | e
    · exact h.2.2 j e
    · exact Nat.le_trans (Nat.le_trans h.2.1.size ba.size) e
theorem r_lit8 (W : World) (B : Nat) (l : List UInt8) (c : Array Value) (h : W.heap[B]? = some (.cells c 5 (0, 0))) (hc : c.toList = EB.cs l) (hl : l.length ≤ 1073741824) : R EB W (.slice (some ⟨B, 0, none⟩) l.length l.length) l := by
  have hsz : c.size = l.length := by rw [← Array.length_toList, hc, eb_cs, List.length_map]
  refine ⟨?_, .inr ⟨B, l.length, _, rfl, Nat.zero_le _, h, Nat.le_refl _, by unfold maxLen; omega, ?_, ?_⟩⟩
  · rw [eb_cs, List.length_map]; show _ = _ * 1; omega
  · show c.size = l.length * 1
    omega
  · rw [hc, eb_cs]
    show (l.map _).take (l.length * 1) = _
    rw [List.take_of_length_le (by rw [List.length_map]; omega)]
/-- a row of bytes as a text -/
theorem conv_row {W : World} {v : Value} {L : List UInt8} (h : R EB W v L) : Sem.run Tryz.prog (convert 24 9 v) W = .ok (.string (bt L)) W := by
  rcases h.2 with ⟨rfl, hn⟩ | ⟨g, cap, cur, rfl, hbs, hgg, hn, hm, hc, hz⟩
  · have : L = [] := List.eq_nil_of_length_eq_zero hn
    subst this
    exact run_convert_bytes_nil (P := Tryz.prog) W 24 5 Tryz.underlying24 Tryz.underlying5 0 0 9 Tryz.underlying9
  · refine run_convert_bytes_back (P := Tryz.prog) _ 24 9 5 ⟨g, 0, none⟩ cap L Tryz.underlying24 Tryz.underlying5 Tryz.underlying9 (fun j hj => ?_)
    have := World.ownsRow.cells h (v := .slice (some ⟨g, 0, none⟩) L.length cap) (g := g) rfl j (.int .u8 ((L[j]'hj).toNat : Int)) (by rw [eb_cs, List.getElem?_map, List.getElem?_eq_getElem hj]; rfl)
    rw [Addr.add_lit] at this ⊢
    exact this
set_option maxRecDepth 100000 in
set_option maxHeartbeats 4000000 in
theorem rquote_any (s : ByteArray) (w : World) (hs : s.size ≤ 4398046511104) :
    Calls Tryz.prog 35 #[.string s] w fun e w' => e = .returned (.string (bt (qtS s.data.toList))) ∧ Below w.heap.size w w' := by
  obtain ⟨m, hm⟩ : ∃ m, s.size = m := ⟨_, rfl⟩
  have HM := hid hm
  have HR0 : Hid (Rw w (w.alloc (.cells #[.int .u8 34] 5)) (.slice (some ⟨w.heap.size, 0, none⟩) 1 1) (qtI s 0)) := hid ⟨r_lit8 _ _ [34] #[.int .u8 34] (by rw [heap_al, if_pos rfl]) rfl (by decide), bel1 _ _, fun j hj => by simp [Value.ownBlock] at hj; omega⟩
  rw [hm] at hs
  go_enter Tryz.func35, Tryz.ntmps35
  go_wp2_with fail
  try rw [hm]
  clear hm
  go_loopw [3, 4, 5] (fun bv iv _ wr => ∃ (i : Nat) (b : Option Addr) (n c : Nat), bv = .slice b n c ∧ iv = .int .i64 (i : Int) ∧ i ≤ m ∧ Hid (n ≤ 1 + 4 * i ∧ Rw w wr (.slice b n c) (qtI s i))) (fun _ iv _ _ => m - (intOf iv).toNat)
  case atStart => exact ⟨0, some ⟨w.heap.size, 0, none⟩, 1, 1, rfl, rfl, Nat.zero_le _, hid ⟨by omega, HR0.out⟩⟩
  case round =>
    obtain ⟨i, b, n, c, rfl, rfl, hi, HJ⟩ := hrel
    clear HR0
    have HN := hid HJ.out.1
    have HJW := hid HJ.out.2
    have hn9 : n ≤ 17592186044500 := by have := HJ.out.1; omega
    by_cases hlt : i < m
    · have hltI : (i : Int) < (m : Int) := by omega
      have hiS : i < s.size := by have := HM.out; omega
      obtain ⟨d, hd⟩ : ∃ d, s[i]'hiS = d := ⟨_, rfl⟩
      have HSZ : Hid ((qtI s i).length ≤ 70368744177664) := hid (by
        have := flat_le (s.data.toList.take i)
        have h2 : (s.data.toList.take i).length ≤ i := by simp; omega
        unfold qtI; simp only [List.length_cons]; omega)
      have HX0 : Hid (qtI s (i + 1) = qtI s i ++ qtC d) := hid (by
        unfold qtI
        rw [take_flat _ _ (by simpa using hiS)]
        have : s.data.toList[i]'(by simpa using hiS) = d := hd
        rw [this]
        rfl)
      clear HJ
      by_cases hq : d = 34 ∨ d = 92
      · have HX : Hid (qtI s (i + 1) = qtI s i ++ [92, d]) := hid (by
          rw [HX0.out]
          have : qtC d = [92, d] := by rcases hq with rfl | rfl <;> rfl
          rw [this])
        obtain ⟨b2, c2, w2, hrun, hj⟩ := HJW.out.put HSZ.out [92, d] (n := 2) rfl #[.int .u8 92, .int .u8 (d.toNat : Int)] rfl (by decide)
        rw [← HX.out] at hj
        have HJN := hid hj
        have HRUN := hid hrun
        clear hj hrun HX0 HX
        rcases hq with rfl | rfl
        all_goals
          go_wp2_with (at_builtin; refine Lib.wpList_append_run _ rfl (.tmp 27) (.tmp 29) 24 24 rfl _ _ rfl rfl _ _ HRUN.out ?_)
          go_roundw
          case rel => exact ⟨i + 1, b2, _, c2, rfl, rfl, by omega, hid ⟨by have := HN.out; omega, HJN.out⟩⟩
          case measure => show m - ((i : Int) + 1).toNat < m - ((i : Nat) : Int).toNat; omega
      · have t1 : ((d.toNat : Int) == 34) = false := by simpa using fun e : (d.toNat : Int) = 34 => hq (.inl (UInt8.toNat_inj.1 (by show d.toNat = 34; omega)))
        have t2 : ((d.toNat : Int) == 92) = false := by simpa using fun e : (d.toNat : Int) = 92 => hq (.inr (UInt8.toNat_inj.1 (by show d.toNat = 92; omega)))
        have t3 : (d.toNat == 34) = false := by simpa using fun e => hq (.inl (UInt8.toNat_inj.1 e))
        have t4 : (d.toNat == 92) = false := by simpa using fun e => hq (.inr (UInt8.toNat_inj.1 e))
        have HQ := hid hq
        clear hq
        have PLAIN : True := trivial
        by_cases h32 : d.toNat < 32
        · have g1 : (d.toNat : Int) < 32 := by omega
          have g2 : decide ((d.toNat : Int) < 32) = true := decide_eq_true g1
          have hp : isPl d = false := by unfold isPl; rw [decide_eq_false (by omega)]; rfl
          obtain ⟨q, hqq⟩ : ∃ q : Nat, d.toNat / 16 = q := ⟨_, rfl⟩
          obtain ⟨r, hrr⟩ : ∃ r : Nat, d.toNat % 16 = r := ⟨_, rfl⟩
          have hqi : (d.toNat : Int) / 16 = (q : Int) := by omega
          have hri : (d.toNat : Int) % 16 = (r : Int) := by omega
          have hrt : (d.toNat : Int).tmod 16 = (r : Int) := by rw [Int.tmod_eq_emod_of_nonneg (by omega)]; omega
          have hq16 : q < 16 := by have := d.toNat_lt; omega
          have hr16 : r < 16 := by omega
          have hqI : (q : Int) < 16 := by omega
          have hrI : (r : Int) < 16 := by omega
          have hwq : IntKind.u8.wrap (q : Int) = (q : Int) := by rw [IntKind.wrap_u8]; omega
          have hwr : IntKind.u8.wrap (r : Int) = (r : Int) := by rw [IntKind.wrap_u8]; omega
          obtain ⟨x, hx⟩ : ∃ x, hexS.getD q 0 = x := ⟨_, rfl⟩
          obtain ⟨y, hy⟩ : ∃ y, hexS.getD r 0 = y := ⟨_, rfl⟩
          have hxq := (hexAt q hq16).trans hx
          have hyr := (hexAt r hr16).trans hy
          have HX : Hid (qtI s (i + 1) = qtI s i ++ [92, 120, x, y]) := hid (by
            rw [HX0.out]
            have : qtC d = [92, 120, x, y] := by unfold qtC; rw [hp, if_neg (by simp), hqq, hrr, hx, hy]
            rw [this])
          clear HX0 hp hqq hrr hx hy h32
          go_upto_region 10 with fail
          refine wp_region_held_drew (S := fun _ => True) (by kernel_rfl) trivial (fun hHeld => ?_)
          have HJW := hid (HJW.out.below ((Below.refl _ wr).drew))
          generalize World.drew _ = W at HJW hHeld ⊢
          refine wpAnyH_take (i := 0) (oi := { dst := some 38, op := Op.move (Operand.tmp 3), type := 24, pos := "ref.go:426", after := #[], guard := none }) (v := ?vv1) rfl (by kernel_rfl) (by kernel_rfl) (by kernel_rfl) (fun _ _ _ h => h) (Or.inl ⟨by rfl, ?hy1⟩) (by assumption) ?_
          case hy1 => (intro w hSw; (try dsimp only at hSw); go_simp; all_goals with_reducible rfl)
          try simp only [Act.put, List.setIfInBounds_toArray, List.set_cons_zero, List.set_cons_succ]
          refine wpAnyH_take (i := 1) (oi := { dst := some 39, op := Op.move (Operand.tmp 5), type := 5, pos := "ref.go:426", after := #[], guard := none }) (v := ?vv2) rfl (by kernel_rfl) (by kernel_rfl) (by kernel_rfl) (fun _ _ _ h => h) (Or.inl ⟨by rfl, ?hy2⟩) (by assumption) ?_
          case hy2 => (intro w hSw; (try dsimp only at hSw); go_simp; all_goals with_reducible rfl)
          try simp only [Act.put, List.setIfInBounds_toArray, List.set_cons_zero, List.set_cons_succ]
          refine wpAnyH_take (i := 2) (oi := { dst := some 40, op := Op.binOp BinOp.quo 5 (Operand.tmp 39) (Operand.const (Value.int IntKind.u8 16)) 5, type := 5, pos := "ref.go:426", after := #[{ on := 1, ground := Ground.data }], guard := none }) (v := ?vv3) rfl (by kernel_rfl) (by kernel_rfl) (by kernel_rfl) (fun _ _ _ h => h) (Or.inl ⟨by rfl, ?hy3⟩) (by assumption) ?_
          case hy3 => (intro w hSw; (try dsimp only at hSw); go_simp; all_goals with_reducible rfl)
          try simp only [Act.put, List.setIfInBounds_toArray, List.set_cons_zero, List.set_cons_succ]
          refine wpAnyH_take (i := 3) (oi := { dst := some 41, op := Op.index 9 (Operand.const (Value.string { data := #[48, 49, 50, 51, 52, 53, 54, 55, 56, 57, 97, 98, 99, 100, 101, 102] })) (Operand.tmp 40), type := 5, pos := "ref.go:426", after := #[{ on := 2, ground := Ground.data }], guard := none }) (v := ?vv4) rfl (by kernel_rfl) (by kernel_rfl) (by kernel_rfl) (fun _ _ _ h => h) (Or.inl ⟨by rfl, ?hy4⟩) (by assumption) ?_
          case hy4 => (intro w hSw; (try dsimp only at hSw); go_simp; all_goals with_reducible rfl)
          try simp only [Act.put, List.setIfInBounds_toArray, List.set_cons_zero, List.set_cons_succ]
          refine wpAnyH_take (i := 4) (oi := { dst := some 42, op := Op.move (Operand.tmp 5), type := 5, pos := "ref.go:426", after := #[], guard := none }) (v := ?vv5) rfl (by kernel_rfl) (by kernel_rfl) (by kernel_rfl) (fun _ _ _ h => h) (Or.inl ⟨by rfl, ?hy5⟩) (by assumption) ?_
          case hy5 => (intro w hSw; (try dsimp only at hSw); go_simp; all_goals with_reducible rfl)
          try simp only [Act.put, List.setIfInBounds_toArray, List.set_cons_zero, List.set_cons_succ]
          refine wpAnyH_take (i := 5) (oi := { dst := some 43, op := Op.binOp BinOp.rem 5 (Operand.tmp 42) (Operand.const (Value.int IntKind.u8 16)) 5, type := 5, pos := "ref.go:426", after := #[{ on := 4, ground := Ground.data }], guard := none }) (v := ?vv6) rfl (by kernel_rfl) (by kernel_rfl) (by kernel_rfl) (fun _ _ _ h => h) (Or.inl ⟨by rfl, ?hy6⟩) (by assumption) ?_
          case hy6 => (intro w hSw; (try dsimp only at hSw); go_simp; all_goals with_reducible rfl)
          try simp only [Act.put, List.setIfInBounds_toArray, List.set_cons_zero, List.set_cons_succ]
          refine wpAnyH_take (i := 6) (oi := { dst := some 44, op := Op.index 9 (Operand.const (Value.string { data := #[48, 49, 50, 51, 52, 53, 54, 55, 56, 57, 97, 98, 99, 100, 101, 102] })) (Operand.tmp 43), type := 5, pos := "ref.go:426", after := #[{ on := 5, ground := Ground.data }], guard := none }) (v := ?vv7) rfl (by kernel_rfl) (by kernel_rfl) (by kernel_rfl) (fun _ _ _ h => h) (Or.inl ⟨by rfl, ?hy7⟩) (by assumption) ?_
          case hy7 => (intro w hSw; (try dsimp only at hSw); go_simp; all_goals with_reducible rfl)
          try simp only [Act.put, List.setIfInBounds_toArray, List.set_cons_zero, List.set_cons_succ]
          refine wpAnyH_ready (rs := [7]) (by kernel_rfl) (by simp) ?_
          refine AllReadyH.cons (o := { dst := some 45, op := Op.buildSlice 24 4 #[(0, Operand.const (Value.int IntKind.u8 92)), (1, Operand.const (Value.int IntKind.u8 120)), (2, Operand.tmp 41), (3, Operand.tmp 44)], type := 24, pos := "ref.go:426", after := #[{ on := 3, ground := Ground.data }, { on := 6, ground := Ground.data }], guard := none }) rfl (fun K hK => ?_) AllReadyH.nil
          go_simp
          go_wp2_with fail
          refine hK.out _ _ trivial (fun hHeld => ?_)
          clear hK K
          try simp only [Act.put, List.setIfInBounds_toArray, List.set_cons_zero, List.set_cons_succ]
          refine wpAnyH_ready (rs := [8]) (by kernel_rfl) (by simp) ?_
          refine AllReadyH.cons (o := { dst := some 46, op := Op.call { callee := Callee.builtin Builtin.append, args := #[Operand.tmp 38, Operand.tmp 45], argTypes := #[24, 24] }, type := 24, pos := "ref.go:426", after := #[{ on := 0, ground := Ground.data }, { on := 7, ground := Ground.data }], guard := none }) rfl (fun K hK => ?_) AllReadyH.nil
          obtain ⟨b2, c2, w2, hrun, hj⟩ := HJW.out.put HSZ.out [92, 120, x, y] (n := 4) rfl #[.int .u8 92, .int .u8 120, .int .u8 (x.toNat : Int), .int .u8 (y.toNat : Int)] rfl (by decide)
          have HJN := hid hj
          rw [← HX.out] at HJN
          clear hj
          refine step_append_run rfl (.tmp 38) (.tmp 45) 24 24 rfl hrun (by first | rfl | simp [Act.eval, Act.put]) (by first | rfl | simp [Act.eval, Act.put]) ?_
          refine hK.out _ _ trivial (fun hHeld => ?_)
          clear hK K hrun
          try simp only [Act.put, List.setIfInBounds_toArray, List.set_cons_zero, List.set_cons_succ]
          refine wpAnyH_take (i := 9) (oi := { dst := some 3, op := Op.assign (Operand.tmp 46), type := 24, pos := "ref.go:426", after := #[{ on := 8, ground := Ground.data }, { on := 8, ground := Ground.chain }, { on := 0, ground := Ground.phase }, { on := 1, ground := Ground.phase }, { on := 2, ground := Ground.phase }, { on := 3, ground := Ground.phase }, { on := 4, ground := Ground.phase }, { on := 5, ground := Ground.phase }, { on := 6, ground := Ground.phase }, { on := 7, ground := Ground.phase }, { on := 8, ground := Ground.phase }], guard := none }) (v := ?vv8) rfl (by kernel_rfl) (by kernel_rfl) (by kernel_rfl) (fun _ _ _ h => h) (Or.inl ⟨by rfl, ?hy8⟩) (by assumption) ?_
          case hy8 => (intro w hSw; (try dsimp only at hSw); go_simp; all_goals with_reducible rfl)
          try simp only [Act.put, List.setIfInBounds_toArray, List.set_cons_zero, List.set_cons_succ]
          refine wpAnyH_done (by kernel_rfl) ?_ _
          go_wp2_with fail
          go_roundw
          case rel => exact ⟨i + 1, b2, _, c2, rfl, rfl, by omega, hid ⟨by have := HN.out; simp; omega, HJN.out⟩⟩
          case measure => show m - ((i : Int) + 1).toNat < m - ((i : Nat) : Int).toNat; omega
        · have g1 : ¬ (d.toNat : Int) < 32 := by omega
          have g2 : decide ((d.toNat : Int) < 32) = false := decide_eq_false g1
          by_cases h126 : 126 < d.toNat
          · have g3 : (126 : Int) < (d.toNat : Int) := by omega
            have g4 : decide ((126 : Int) < (d.toNat : Int)) = true := decide_eq_true g3
            have hp : isPl d = false := by unfold isPl; rw [decide_eq_false (show ¬ d.toNat ≤ 126 by omega), Bool.and_false]
            obtain ⟨q, hqq⟩ : ∃ q : Nat, d.toNat / 16 = q := ⟨_, rfl⟩
            obtain ⟨r, hrr⟩ : ∃ r : Nat, d.toNat % 16 = r := ⟨_, rfl⟩
            have hqi : (d.toNat : Int) / 16 = (q : Int) := by omega
            have hri : (d.toNat : Int) % 16 = (r : Int) := by omega
            have hrt : (d.toNat : Int).tmod 16 = (r : Int) := by rw [Int.tmod_eq_emod_of_nonneg (by omega)]; omega
            have hq16 : q < 16 := by have := d.toNat_lt; omega
            have hr16 : r < 16 := by omega
            have hqI : (q : Int) < 16 := by omega
            have hrI : (r : Int) < 16 := by omega
            have hwq : IntKind.u8.wrap (q : Int) = (q : Int) := by rw [IntKind.wrap_u8]; omega
            have hwr : IntKind.u8.wrap (r : Int) = (r : Int) := by rw [IntKind.wrap_u8]; omega
            obtain ⟨x, hx⟩ : ∃ x, hexS.getD q 0 = x := ⟨_, rfl⟩
            obtain ⟨y, hy⟩ : ∃ y, hexS.getD r 0 = y := ⟨_, rfl⟩
            have hxq := (hexAt q hq16).trans hx
            have hyr := (hexAt r hr16).trans hy
            have HX : Hid (qtI s (i + 1) = qtI s i ++ [92, 120, x, y]) := hid (by
              rw [HX0.out]
              have : qtC d = [92, 120, x, y] := by unfold qtC; rw [hp, if_neg (by simp), hqq, hrr, hx, hy]
              rw [this])
            clear HX0 hp hqq hrr hx hy h32 h126
            go_upto_region 10 with fail
            refine wp_region_held_drew (S := fun _ => True) (by kernel_rfl) trivial (fun hHeld => ?_)
            have HJW := hid (HJW.out.below ((Below.refl _ wr).drew))
            generalize World.drew _ = W at HJW hHeld ⊢
            refine wpAnyH_take (i := 0) (oi := { dst := some 38, op := Op.move (Operand.tmp 3), type := 24, pos := "ref.go:426", after := #[], guard := none }) (v := ?vv9) rfl (by kernel_rfl) (by kernel_rfl) (by kernel_rfl) (fun _ _ _ h => h) (Or.inl ⟨by rfl, ?hy9⟩) (by assumption) ?_
            case hy9 => (intro w hSw; (try dsimp only at hSw); go_simp; all_goals with_reducible rfl)
            try simp only [Act.put, List.setIfInBounds_toArray, List.set_cons_zero, List.set_cons_succ]
            refine wpAnyH_take (i := 1) (oi := { dst := some 39, op := Op.move (Operand.tmp 5), type := 5, pos := "ref.go:426", after := #[], guard := none }) (v := ?vv10) rfl (by kernel_rfl) (by kernel_rfl) (by kernel_rfl) (fun _ _ _ h => h) (Or.inl ⟨by rfl, ?hy10⟩) (by assumption) ?_
            case hy10 => (intro w hSw; (try dsimp only at hSw); go_simp; all_goals with_reducible rfl)
            try simp only [Act.put, List.setIfInBounds_toArray, List.set_cons_zero, List.set_cons_succ]
            refine wpAnyH_take (i := 2) (oi := { dst := some 40, op := Op.binOp BinOp.quo 5 (Operand.tmp 39) (Operand.const (Value.int IntKind.u8 16)) 5, type := 5, pos := "ref.go:426", after := #[{ on := 1, ground := Ground.data }], guard := none }) (v := ?vv11) rfl (by kernel_rfl) (by kernel_rfl) (by kernel_rfl) (fun _ _ _ h => h) (Or.inl ⟨by rfl, ?hy11⟩) (by assumption) ?_
            case hy11 => (intro w hSw; (try dsimp only at hSw); go_simp; all_goals with_reducible rfl)
            try simp only [Act.put, List.setIfInBounds_toArray, List.set_cons_zero, List.set_cons_succ]
            refine wpAnyH_take (i := 3) (oi := { dst := some 41, op := Op.index 9 (Operand.const (Value.string { data := #[48, 49, 50, 51, 52, 53, 54, 55, 56, 57, 97, 98, 99, 100, 101, 102] })) (Operand.tmp 40), type := 5, pos := "ref.go:426", after := #[{ on := 2, ground := Ground.data }], guard := none }) (v := ?vv12) rfl (by kernel_rfl) (by kernel_rfl) (by kernel_rfl) (fun _ _ _ h => h) (Or.inl ⟨by rfl, ?hy12⟩) (by assumption) ?_
            case hy12 => (intro w hSw; (try dsimp only at hSw); go_simp; all_goals with_reducible rfl)
            try simp only [Act.put, List.setIfInBounds_toArray, List.set_cons_zero, List.set_cons_succ]
            refine wpAnyH_take (i := 4) (oi := { dst := some 42, op := Op.move (Operand.tmp 5), type := 5, pos := "ref.go:426", after := #[], guard := none }) (v := ?vv13) rfl (by kernel_rfl) (by kernel_rfl) (by kernel_rfl) (fun _ _ _ h => h) (Or.inl ⟨by rfl, ?hy13⟩) (by assumption) ?_
            case hy13 => (intro w hSw; (try dsimp only at hSw); go_simp; all_goals with_reducible rfl)
            try simp only [Act.put, List.setIfInBounds_toArray, List.set_cons_zero, List.set_cons_succ]
            refine wpAnyH_take (i := 5) (oi := { dst := some 43, op := Op.binOp BinOp.rem 5 (Operand.tmp 42) (Operand.const (Value.int IntKind.u8 16)) 5, type := 5, pos := "ref.go:426", after := #[{ on := 4, ground := Ground.data }], guard := none }) (v := ?vv14) rfl (by kernel_rfl) (by kernel_rfl) (by kernel_rfl) (fun _ _ _ h => h) (Or.inl ⟨by rfl, ?hy14⟩) (by assumption) ?_
            case hy14 => (intro w hSw; (try dsimp only at hSw); go_simp; all_goals with_reducible rfl)
            try simp only [Act.put, List.setIfInBounds_toArray, List.set_cons_zero, List.set_cons_succ]
            refine wpAnyH_take (i := 6) (oi := { dst := some 44, op := Op.index 9 (Operand.const (Value.string { data := #[48, 49, 50, 51, 52, 53, 54, 55, 56, 57, 97, 98, 99, 100, 101, 102] })) (Operand.tmp 43), type := 5, pos := "ref.go:426", after := #[{ on := 5, ground := Ground.data }], guard := none }) (v := ?vv15) rfl (by kernel_rfl) (by kernel_rfl) (by kernel_rfl) (fun _ _ _ h => h) (Or.inl ⟨by rfl, ?hy15⟩) (by assumption) ?_
            case hy15 => (intro w hSw; (try dsimp only at hSw); go_simp; all_goals with_reducible rfl)
            try simp only [Act.put, List.setIfInBounds_toArray, List.set_cons_zero, List.set_cons_succ]
            refine wpAnyH_ready (rs := [7]) (by kernel_rfl) (by simp) ?_
            refine AllReadyH.cons (o := { dst := some 45, op := Op.buildSlice 24 4 #[(0, Operand.const (Value.int IntKind.u8 92)), (1, Operand.const (Value.int IntKind.u8 120)), (2, Operand.tmp 41), (3, Operand.tmp 44)], type := 24, pos := "ref.go:426", after := #[{ on := 3, ground := Ground.data }, { on := 6, ground := Ground.data }], guard := none }) rfl (fun K hK => ?_) AllReadyH.nil
            go_simp
            go_wp2_with fail
            refine hK.out _ _ trivial (fun hHeld => ?_)
            clear hK K
            try simp only [Act.put, List.setIfInBounds_toArray, List.set_cons_zero, List.set_cons_succ]
            refine wpAnyH_ready (rs := [8]) (by kernel_rfl) (by simp) ?_
            refine AllReadyH.cons (o := { dst := some 46, op := Op.call { callee := Callee.builtin Builtin.append, args := #[Operand.tmp 38, Operand.tmp 45], argTypes := #[24, 24] }, type := 24, pos := "ref.go:426", after := #[{ on := 0, ground := Ground.data }, { on := 7, ground := Ground.data }], guard := none }) rfl (fun K hK => ?_) AllReadyH.nil
            obtain ⟨b2, c2, w2, hrun, hj⟩ := HJW.out.put HSZ.out [92, 120, x, y] (n := 4) rfl #[.int .u8 92, .int .u8 120, .int .u8 (x.toNat : Int), .int .u8 (y.toNat : Int)] rfl (by decide)
            have HJN := hid hj
            rw [← HX.out] at HJN
            clear hj
            refine step_append_run rfl (.tmp 38) (.tmp 45) 24 24 rfl hrun (by first | rfl | simp [Act.eval, Act.put]) (by first | rfl | simp [Act.eval, Act.put]) ?_
            refine hK.out _ _ trivial (fun hHeld => ?_)
            clear hK K hrun
            try simp only [Act.put, List.setIfInBounds_toArray, List.set_cons_zero, List.set_cons_succ]
            refine wpAnyH_take (i := 9) (oi := { dst := some 3, op := Op.assign (Operand.tmp 46), type := 24, pos := "ref.go:426", after := #[{ on := 8, ground := Ground.data }, { on := 8, ground := Ground.chain }, { on := 0, ground := Ground.phase }, { on := 1, ground := Ground.phase }, { on := 2, ground := Ground.phase }, { on := 3, ground := Ground.phase }, { on := 4, ground := Ground.phase }, { on := 5, ground := Ground.phase }, { on := 6, ground := Ground.phase }, { on := 7, ground := Ground.phase }, { on := 8, ground := Ground.phase }], guard := none }) (v := ?vv16) rfl (by kernel_rfl) (by kernel_rfl) (by kernel_rfl) (fun _ _ _ h => h) (Or.inl ⟨by rfl, ?hy16⟩) (by assumption) ?_
            case hy16 => (intro w hSw; (try dsimp only at hSw); go_simp; all_goals with_reducible rfl)
            try simp only [Act.put, List.setIfInBounds_toArray, List.set_cons_zero, List.set_cons_succ]
            refine wpAnyH_done (by kernel_rfl) ?_ _
            go_wp2_with fail
            go_roundw
            case rel => exact ⟨i + 1, b2, _, c2, rfl, rfl, by omega, hid ⟨by have := HN.out; simp; omega, HJN.out⟩⟩
            case measure => show m - ((i : Int) + 1).toNat < m - ((i : Nat) : Int).toNat; omega
          · have g3 : ¬ (126 : Int) < (d.toNat : Int) := by omega
            have g4 : decide ((126 : Int) < (d.toNat : Int)) = false := decide_eq_false g3
            have hp : isPl d = true := by unfold isPl; rw [decide_eq_true (show d.toNat ≤ 126 by omega), decide_eq_true (show 32 ≤ d.toNat by omega)]; rfl
            have HX : Hid (qtI s (i + 1) = qtI s i ++ [d]) := hid (by
              rw [HX0.out]
              have : qtC d = [d] := by unfold qtC; rw [hp, if_pos rfl, if_neg HQ.out]
              rw [this])
            obtain ⟨b2, c2, w2, hrun, hj⟩ := HJW.out.put HSZ.out [d] (n := 1) rfl #[.int .u8 (d.toNat : Int)] rfl (by decide)
            rw [← HX.out] at hj
            have HJN := hid hj
            have HRUN := hid hrun
            clear hj hrun HX0 HX hp h32 h126
            go_wp2_with (at_builtin; refine Lib.wpList_append_run _ rfl (.tmp 16) (.tmp 18) 24 24 rfl _ _ rfl rfl _ _ HRUN.out ?_)
            go_roundw
            case rel => exact ⟨i + 1, b2, _, c2, rfl, rfl, by omega, hid ⟨by have := HN.out; omega, HJN.out⟩⟩
            case measure => show m - ((i : Int) + 1).toNat < m - ((i : Nat) : Int).toNat; omega
    · have hnl : ¬ (i : Int) < (s.size : Int) := by have := HM.out; omega
      have him : i = m := by omega
      subst him
      have HSZ : Hid ((qtI s i).length ≤ 70368744177664) := hid (by
        have := flat_le (s.data.toList.take i)
        have h2 : (s.data.toList.take i).length ≤ i := by simp; omega
        unfold qtI; simp only [List.length_cons]; omega)
      obtain ⟨b2, c2, w2, hrun, hj⟩ := HJW.out.put HSZ.out [34] (n := 1) rfl #[.int .u8 34] rfl (by decide)
      have HT : Hid (qtI s i ++ [34] = qtS s.data.toList) := hid (by
        unfold qtI qtS
        rw [← HM.out, List.take_of_length_le (by simp)]
        rfl)
      rw [HT.out] at hj
      have HRUN := hid hrun
      have HCV := conv_row hj.1
      have HB := hid hj.2.1
      clear hj hrun HT HJ hlt
      go_wp2_with (at_builtin; refine Lib.wpList_append_run _ rfl (.tmp 47) (.tmp 48) 24 24 rfl _ _ rfl rfl _ _ HRUN.out ?_)
      go_ret
      exact ⟨rfl, HB.out⟩
end Go.Proofs.YtghppkfopglgaaaGreatDoor
