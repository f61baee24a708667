/- made. -/
import Derived.Test.YtcgfgjhhmbfmdaaDoorH1
import Derived.Test.YtcgfgjhhmbfmdaaDoorF1
import Derived.Deep.Cut
import Derived.Deep.RegionHeld3
namespace Go.Proofs.YtcgfgjhhmbfmdaaDoor
open Go.RowKit Go.Maps
set_option linter.unusedVariables false
set_option linter.unusedSimpArgs false

def getS : ByteArray := ⟨#[71, 69, 84]⟩
def httpS : ByteArray := ⟨#[104, 116, 116, 112]⟩
def atestS : ByteArray := ⟨#[97, 46, 116, 101, 115, 116]⟩
def slashX : ByteArray := ⟨#[47, 120]⟩
def fourF : List Fd := [⟨reqNames[0], getS, false⟩, ⟨reqNames[1], httpS, false⟩, ⟨reqNames[2], atestS, false⟩, ⟨reqNames[3], slashX, false⟩]
def rotL (k : Nat) : List Fd := fourF.drop k ++ fourF.take k
def madeF (f : Fd) : Fd := ⟨wordS f.n, valueS f.v, f.nv⟩
def madeL (l : List Fd) (k : Nat) : List Fd := rotL k ++ (l.take 50).map madeF
def turnK (t : Int) : Nat := (t.tmod 4).natAbs
theorem turnK_lt (t : Int) : turnK t ≤ 3 := by
  unfold turnK
  rw [Int.natAbs_tmod]
  have : t.natAbs % (4 : Int).natAbs < 4 := Nat.mod_lt _ (by decide)
  omega
def four0 : Array Value := #[.string ⟨#[58, 109, 101, 116, 104, 111, 100]⟩, .string ⟨#[71, 69, 84]⟩, .bool false, .string ⟨#[58, 115, 99, 104, 101, 109, 101]⟩, .string ⟨#[104, 116, 116, 112]⟩, .bool false, .string ⟨#[58, 97, 117, 116, 104, 111, 114, 105, 116, 121]⟩, .string ⟨#[97, 46, 116, 101, 115, 116]⟩, .bool false, .string ⟨#[58, 112, 97, 116, 104]⟩, .string ⟨#[47, 120]⟩, .bool false]
/-- both halves, one behind the other -/
theorem rot_rows (W : World) (g : Nat) (h : W.heap[g]? = some (.cells four0 34 (0, 0))) (k : Nat) (hk : k ≤ 3) :
    ∃ b1 c1 w1 b2 c2 w2, (Builtin.append_ #[24, 24] 24 #[.slice none 0 0, .slice (some ⟨g, k * 3, none⟩) (4 - k) (4 - k)]).run Tryd.prog W = .ok (.slice b1 (4 - k) c1) w1 ∧ (Builtin.append_ #[24, 24] 24 #[.slice b1 (4 - k) c1, .slice (some ⟨g, 0, none⟩) k 4]).run Tryd.prog w1 = .ok (.slice b2 4 c2) w2 ∧ R EFd w2 (.slice b2 4 c2) (rotL k) ∧ Below W.heap.size W w2 ∧ ∀ i, (Value.slice b2 4 c2).ownBlock = some i → W.heap.size ≤ i := by
  have hrow : R EFd W (.slice (some ⟨g, 0, none⟩) 4 4) fourF := R.whole okFd fourF (by decide) h rfl
  have hd : In EFd W (.slice (some ⟨g, k * 3, none⟩) (4 - k) (4 - k)) (fourF.drop k) := by
    have := (In.drop okFd hrow.isIn k (by show k ≤ 4; omega)).1 (by omega)
    rw [Nat.zero_add] at this
    exact this
  have htk : In EFd W (.slice (some ⟨g, 0, none⟩) k 4) (fourF.take k) := In.take hrow.isIn k (by show k ≤ 4; omega)
  have l1 : (fourF.drop k).length = 4 - k := by rw [List.length_drop]; rfl
  have l2 : (fourF.take k).length = k := by rw [List.length_take]; show min k 4 = k; omega
  obtain ⟨b1, c1, w1, g1, g2, g3⟩ := app okFd W (.slice none 0 0) [] (R.nil _ _) _ _ hd (by simp only [EFd, List.length_nil]; omega)
  simp only [List.length_nil, Nat.zero_add, List.nil_append] at g1 g2 g3
  rw [l1] at g1 g2 g3
  obtain ⟨b2, c2, w2, q1, q2, q3⟩ := app okFd w1 _ _ g2 _ _ (htk.below g3.fresh) (by simp only [EFd]; omega)
  rw [l1, l2, show 4 - k + k = 4 by omega] at q1 q2 q3
  refine ⟨b1, c1, w1, b2, c2, w2, ?_, q1, q2, g3.fresh.trans (q3.belowB g3.size g3.new), fun i hi => ?_⟩
  · exact g1
  · rcases q3.own i hi with e | e
    · exact g3.new i e
    · exact Nat.le_trans g3.size e
theorem made_take_succ (l : List Fd) (k : Nat) (h : k < l.length) : (l.take (k + 1)).map madeF = (l.take k).map madeF ++ [madeF l[k]] := by
  rw [List.take_succ_eq_append_getElem h, List.map_append]
  rfl

set_option maxHeartbeats 20000000 in
set_option maxRecDepth 100000 in
theorem made_list (s : SV) (l : List Fd) (t : Int) (ht0 : -9223372036854775808 ≤ t) (ht1 : t ≤ 9223372036854775807) (w : World) (hI : In EFd w (sv s) l) (hz : SzOk l) :
    Calls Tryd.prog 21 #[sv s, .int .i64 t] w fun e w' => FdPost (madeL l (turnK t)) w e w' := by
  have HI : Hid (In EFd w (sv s) l) := hI
  have HZ : Hid (SzOk l) := hz
  obtain ⟨sb, sl, sc⟩ := s
  obtain ⟨es, hcap1, hcap2⟩ := slice_len hI
  subst es
  simp only [sv] at HI ⊢
  clear hI hz
  have blk : (w.alloc (.cells four0 34)).heap[w.heap.size]? = some (.cells four0 34 (0, 0)) := by rw [heap_al, if_pos rfl]
  have BB : Hid ((w.alloc (.cells four0 34)).heap[w.heap.size]? = some (.cells four0 34 (0, 0)) ∧ Below w.heap.size w (w.alloc (.cells four0 34))) := ⟨blk, bel1 w _⟩
  clear blk
  obtain ⟨T, hT⟩ : ∃ T, t.tmod 4 = T := ⟨_, rfl⟩
  have HK : Hid (turnK t = T.natAbs) := by show _ = _; rw [← hT]; rfl
  have hTb : -3 ≤ T ∧ T ≤ 3 := by
    have := turnK_lt t
    unfold turnK at this
    rw [hT] at this
    omega
  obtain ⟨hT1, hT2⟩ := hTb
  obtain ⟨K, hK⟩ : ∃ K, T.natAbs = K := ⟨_, rfl⟩
  have hK3 : K ≤ 3 := by omega
  rw [hK] at HK
  have HT : Hid (T.natAbs = K) := hK
  clear hK
  obtain ⟨w0, hw0⟩ : ∃ w0, w.alloc (.cells four0 34) = w0 := ⟨_, rfl⟩
  rw [hw0] at BB
  unfold four0 at hw0
  go_enter Tryd.func21, Tryd.ntmps21
  go_upto_if 17 with fail
  go_cut [6] from 9 (fun x wx => x = .int .i64 (K : Int) ∧ wx = w0)
  case first =>
    by_cases hn : T < 0
    · have hneg : -T = (K : Int) := by have := HT.out; omega
      go_wp2_with fail
      go_meet
      exact ⟨by first | rfl | (rw [hneg]) | simp [hneg], rfl⟩
    · obtain rfl : T = (K : Int) := by have := HT.out; omega
      go_wp2_with fail
      go_meet
      exact ⟨rfl, rfl⟩
  case rest =>
    obtain ⟨rfl, rfl⟩ := hcut
    clear hT hT1 hT2 hw0 HT
    go_upto_region 6 with fail
    go_cut [7] from 9 (fun x wx => ∃ b c, x = .slice b 4 c ∧ Hid (R EFd wx (.slice b 4 c) (rotL K) ∧ Below w.heap.size w wx ∧ ∀ i, (Value.slice b 4 c).ownBlock = some i → w.heap.size ≤ i))
    case first =>
      as_aux_lemma =>
        have bd : (wc.drew).heap[w.heap.size]? = some (.cells four0 34 (0, 0)) := BB.out.1
        have key : Hid (∃ b1 c1 w1 b2 c2 w2, Hid ((Builtin.append_ #[24, 24] 24 #[.slice none 0 0, .slice (some ⟨w.heap.size, K * 3, none⟩) (4 - K) (4 - K)]).run Tryd.prog wc.drew = .ok (.slice b1 (4 - K) c1) w1) ∧ Hid ((Builtin.append_ #[24, 24] 24 #[.slice b1 (4 - K) c1, .slice (some ⟨w.heap.size, 0, none⟩) K 4]).run Tryd.prog w1 = .ok (.slice b2 4 c2) w2) ∧ Hid (R EFd w2 (.slice b2 4 c2) (rotL K) ∧ Below w.heap.size w w2 ∧ ∀ i, (Value.slice b2 4 c2).ownBlock = some i → w.heap.size ≤ i)) := by
          obtain ⟨b1, c1, w1, b2, c2, w2, g1, g2, g3, g4, g5⟩ := rot_rows (wc.drew) w.heap.size bd K hK3
          have hB := BB.out.2
          exact ⟨b1, c1, w1, b2, c2, w2, g1, g2, g3, hB.trans ((show Below wc.heap.size wc w2 from ⟨g4.os, g4.tape, g4.output, g4.size, g4.block⟩).mono hB.size), fun i hi => Nat.le_trans hB.size (g5 i hi)⟩
        clear bd
        obtain rfl | rfl | rfl | rfl : K = 0 ∨ K = 1 ∨ K = 2 ∨ K = 3 := by omega
        · obtain ⟨b1, c1, w1, b2, c2, w2, g1, g2, HF⟩ := key.out
          clear key
          simp only [Nat.zero_mul, Nat.one_mul, Nat.zero_add, Nat.reduceSub, Nat.reduceMul, Nat.reduceAdd, Nat.sub_zero] at g1 g2
          go_wp2_with fail
          refine wp_region_held_drew (S := (fun _ => True)) (by kernel_rfl) trivial (fun hHeld => ?_)
          refine wpAnyH_take (i := 0) (oi := { dst := some 20, op := Op.move (Operand.tmp 7), type := 24, pos := "outright.go:103", after := #[], guard := none }) (v := ?vv1001) rfl (by kernel_rfl) (by kernel_rfl) (by kernel_rfl) (fun _ _ _ h => h) (Or.inl ⟨by rfl, ?hy1001⟩) (by assumption) ?_
          case hy1001 => (intro w hSw; (try dsimp only at hSw); go_simp; all_goals with_reducible rfl)
          try simp only [Act.put, List.setIfInBounds_toArray, List.set_cons_zero, List.set_cons_succ]
          refine wpAnyH_take (i := 1) (oi := { dst := some 21, op := Op.move (Operand.tmp 5), type := 24, pos := "outright.go:103", after := #[], guard := none }) (v := ?vv1002) rfl (by kernel_rfl) (by kernel_rfl) (by kernel_rfl) (fun _ _ _ h => h) (Or.inl ⟨by rfl, ?hy1002⟩) (by assumption) ?_
          case hy1002 => (intro w hSw; (try dsimp only at hSw); go_simp; all_goals with_reducible rfl)
          try simp only [Act.put, List.setIfInBounds_toArray, List.set_cons_zero, List.set_cons_succ]
          refine wpAnyH_take (i := 2) (oi := { dst := some 22, op := Op.move (Operand.tmp 6), type := 3, pos := "outright.go:103", after := #[], guard := none }) (v := ?vv1003) rfl (by kernel_rfl) (by kernel_rfl) (by kernel_rfl) (fun _ _ _ h => h) (Or.inl ⟨by rfl, ?hy1003⟩) (by assumption) ?_
          case hy1003 => (intro w hSw; (try dsimp only at hSw); go_simp; all_goals with_reducible rfl)
          try simp only [Act.put, List.setIfInBounds_toArray, List.set_cons_zero, List.set_cons_succ]
          refine wpAnyH_take (i := 3) (oi := { dst := some 23, op := Op.slice 24 (Operand.tmp 21) (some (Operand.tmp 22)) none none, type := 24, pos := "outright.go:103", after := #[{ on := 1, ground := Ground.data }, { on := 2, ground := Ground.data }], guard := none }) (v := ?vv1004) rfl (by kernel_rfl) (by kernel_rfl) (by kernel_rfl) (fun _ _ _ h => h) (Or.inl ⟨by rfl, ?hy1004⟩) (by assumption) ?_
          case hy1004 => (intro w hSw; (try dsimp only at hSw); go_simp; all_goals with_reducible rfl)
          try simp only [Act.put, List.setIfInBounds_toArray, List.set_cons_zero, List.set_cons_succ]
          refine wpAnyH_take (i := 5) (oi := { dst := some 25, op := Op.move (Operand.tmp 5), type := 24, pos := "outright.go:103", after := #[], guard := none }) (v := ?vv1005) rfl (by kernel_rfl) (by kernel_rfl) (by kernel_rfl) (fun _ _ _ h => h) (Or.inl ⟨by rfl, ?hy1005⟩) (by assumption) ?_
          case hy1005 => (intro w hSw; (try dsimp only at hSw); go_simp; all_goals with_reducible rfl)
          try simp only [Act.put, List.setIfInBounds_toArray, List.set_cons_zero, List.set_cons_succ]
          refine wpAnyH_take (i := 6) (oi := { dst := some 26, op := Op.move (Operand.tmp 6), type := 3, pos := "outright.go:103", after := #[], guard := none }) (v := ?vv1006) rfl (by kernel_rfl) (by kernel_rfl) (by kernel_rfl) (fun _ _ _ h => h) (Or.inl ⟨by rfl, ?hy1006⟩) (by assumption) ?_
          case hy1006 => (intro w hSw; (try dsimp only at hSw); go_simp; all_goals with_reducible rfl)
          try simp only [Act.put, List.setIfInBounds_toArray, List.set_cons_zero, List.set_cons_succ]
          refine wpAnyH_take (i := 7) (oi := { dst := some 27, op := Op.slice 24 (Operand.tmp 25) none (some (Operand.tmp 26)) none, type := 24, pos := "outright.go:103", after := #[{ on := 5, ground := Ground.data }, { on := 6, ground := Ground.data }], guard := none }) (v := ?vv1007) rfl (by kernel_rfl) (by kernel_rfl) (by kernel_rfl) (fun _ _ _ h => h) (Or.inl ⟨by rfl, ?hy1007⟩) (by assumption) ?_
          case hy1007 => (intro w hSw; (try dsimp only at hSw); go_simp; all_goals with_reducible rfl)
          try simp only [Act.put, List.setIfInBounds_toArray, List.set_cons_zero, List.set_cons_succ]
          refine wpAnyH_ready (rs := [4]) (by kernel_rfl) (by simp) ?_
          refine AllReadyH.cons (o := { dst := some 24, op := Op.call { callee := Callee.builtin Builtin.append, args := #[Operand.tmp 20, Operand.tmp 23], argTypes := #[24, 24] }, type := 24, pos := "outright.go:103", after := #[{ on := 0, ground := Ground.data }, { on := 3, ground := Ground.data }], guard := none }) rfl (fun K hK => ?_) AllReadyH.nil
          refine step_append_run rfl (.tmp 20) (.tmp 23) 24 24 rfl g1.out (by first | rfl | simp [Act.eval, Act.put]) (by first | rfl | simp [Act.eval, Act.put]) ?_
          refine hK.out _ _ trivial (fun hHeld => ?_)
          clear hK K
          try simp only [Act.put, List.setIfInBounds_toArray, List.set_cons_zero, List.set_cons_succ]
          refine wpAnyH_ready (rs := [8]) (by kernel_rfl) (by simp) ?_
          refine AllReadyH.cons (o := { dst := some 28, op := Op.call { callee := Callee.builtin Builtin.append, args := #[Operand.tmp 24, Operand.tmp 27], argTypes := #[24, 24] }, type := 24, pos := "outright.go:103", after := #[{ on := 4, ground := Ground.data }, { on := 7, ground := Ground.data }, { on := 4, ground := Ground.chain }], guard := none }) rfl (fun K hK => ?_) AllReadyH.nil
          refine step_append_run rfl (.tmp 24) (.tmp 27) 24 24 rfl g2.out (by first | rfl | simp [Act.eval, Act.put]) (by first | rfl | simp [Act.eval, Act.put]) ?_
          refine hK.out _ _ trivial (fun hHeld => ?_)
          clear hK K
          try simp only [Act.put, List.setIfInBounds_toArray, List.set_cons_zero, List.set_cons_succ]
          refine wpAnyH_take (i := 9) (oi := { dst := some 7, op := Op.assign (Operand.tmp 28), type := 24, pos := "outright.go:103", after := #[{ on := 8, ground := Ground.data }, { on := 8, ground := Ground.chain }, { on := 0, ground := Ground.phase }, { on := 1, ground := Ground.phase }, { on := 2, ground := Ground.phase }, { on := 3, ground := Ground.phase }, { on := 4, ground := Ground.phase }, { on := 5, ground := Ground.phase }, { on := 6, ground := Ground.phase }, { on := 7, ground := Ground.phase }, { on := 8, ground := Ground.phase }], guard := none }) (v := ?vv1008) rfl (by kernel_rfl) (by kernel_rfl) (by kernel_rfl) (fun _ _ _ h => h) (Or.inl ⟨by rfl, ?hy1008⟩) (by assumption) ?_
          case hy1008 => (intro w hSw; (try dsimp only at hSw); go_simp; all_goals with_reducible rfl)
          try simp only [Act.put, List.setIfInBounds_toArray, List.set_cons_zero, List.set_cons_succ]
          refine wpAnyH_done (by kernel_rfl) ?_ _
          go_wp2_with fail
          go_meet
          exact ⟨_, _, rfl, HF.out⟩
        · obtain ⟨b1, c1, w1, b2, c2, w2, g1, g2, HF⟩ := key.out
          clear key
          simp only [Nat.zero_mul, Nat.one_mul, Nat.zero_add, Nat.reduceSub, Nat.reduceMul, Nat.reduceAdd, Nat.sub_zero] at g1 g2
          go_wp2_with fail
          refine wp_region_held_drew (S := (fun _ => True)) (by kernel_rfl) trivial (fun hHeld => ?_)
          refine wpAnyH_take (i := 0) (oi := { dst := some 20, op := Op.move (Operand.tmp 7), type := 24, pos := "outright.go:103", after := #[], guard := none }) (v := ?vv1009) rfl (by kernel_rfl) (by kernel_rfl) (by kernel_rfl) (fun _ _ _ h => h) (Or.inl ⟨by rfl, ?hy1009⟩) (by assumption) ?_
          case hy1009 => (intro w hSw; (try dsimp only at hSw); go_simp; all_goals with_reducible rfl)
          try simp only [Act.put, List.setIfInBounds_toArray, List.set_cons_zero, List.set_cons_succ]
          refine wpAnyH_take (i := 1) (oi := { dst := some 21, op := Op.move (Operand.tmp 5), type := 24, pos := "outright.go:103", after := #[], guard := none }) (v := ?vv1010) rfl (by kernel_rfl) (by kernel_rfl) (by kernel_rfl) (fun _ _ _ h => h) (Or.inl ⟨by rfl, ?hy1010⟩) (by assumption) ?_
          case hy1010 => (intro w hSw; (try dsimp only at hSw); go_simp; all_goals with_reducible rfl)
          try simp only [Act.put, List.setIfInBounds_toArray, List.set_cons_zero, List.set_cons_succ]
          refine wpAnyH_take (i := 2) (oi := { dst := some 22, op := Op.move (Operand.tmp 6), type := 3, pos := "outright.go:103", after := #[], guard := none }) (v := ?vv1011) rfl (by kernel_rfl) (by kernel_rfl) (by kernel_rfl) (fun _ _ _ h => h) (Or.inl ⟨by rfl, ?hy1011⟩) (by assumption) ?_
          case hy1011 => (intro w hSw; (try dsimp only at hSw); go_simp; all_goals with_reducible rfl)
          try simp only [Act.put, List.setIfInBounds_toArray, List.set_cons_zero, List.set_cons_succ]
          refine wpAnyH_take (i := 3) (oi := { dst := some 23, op := Op.slice 24 (Operand.tmp 21) (some (Operand.tmp 22)) none none, type := 24, pos := "outright.go:103", after := #[{ on := 1, ground := Ground.data }, { on := 2, ground := Ground.data }], guard := none }) (v := ?vv1012) rfl (by kernel_rfl) (by kernel_rfl) (by kernel_rfl) (fun _ _ _ h => h) (Or.inl ⟨by rfl, ?hy1012⟩) (by assumption) ?_
          case hy1012 => (intro w hSw; (try dsimp only at hSw); go_simp; all_goals with_reducible rfl)
          try simp only [Act.put, List.setIfInBounds_toArray, List.set_cons_zero, List.set_cons_succ]
          refine wpAnyH_take (i := 5) (oi := { dst := some 25, op := Op.move (Operand.tmp 5), type := 24, pos := "outright.go:103", after := #[], guard := none }) (v := ?vv1013) rfl (by kernel_rfl) (by kernel_rfl) (by kernel_rfl) (fun _ _ _ h => h) (Or.inl ⟨by rfl, ?hy1013⟩) (by assumption) ?_
          case hy1013 => (intro w hSw; (try dsimp only at hSw); go_simp; all_goals with_reducible rfl)
          try simp only [Act.put, List.setIfInBounds_toArray, List.set_cons_zero, List.set_cons_succ]
          refine wpAnyH_take (i := 6) (oi := { dst := some 26, op := Op.move (Operand.tmp 6), type := 3, pos := "outright.go:103", after := #[], guard := none }) (v := ?vv1014) rfl (by kernel_rfl) (by kernel_rfl) (by kernel_rfl) (fun _ _ _ h => h) (Or.inl ⟨by rfl, ?hy1014⟩) (by assumption) ?_
          case hy1014 => (intro w hSw; (try dsimp only at hSw); go_simp; all_goals with_reducible rfl)
          try simp only [Act.put, List.setIfInBounds_toArray, List.set_cons_zero, List.set_cons_succ]
          refine wpAnyH_take (i := 7) (oi := { dst := some 27, op := Op.slice 24 (Operand.tmp 25) none (some (Operand.tmp 26)) none, type := 24, pos := "outright.go:103", after := #[{ on := 5, ground := Ground.data }, { on := 6, ground := Ground.data }], guard := none }) (v := ?vv1015) rfl (by kernel_rfl) (by kernel_rfl) (by kernel_rfl) (fun _ _ _ h => h) (Or.inl ⟨by rfl, ?hy1015⟩) (by assumption) ?_
          case hy1015 => (intro w hSw; (try dsimp only at hSw); go_simp; all_goals with_reducible rfl)
          try simp only [Act.put, List.setIfInBounds_toArray, List.set_cons_zero, List.set_cons_succ]
          refine wpAnyH_ready (rs := [4]) (by kernel_rfl) (by simp) ?_
          refine AllReadyH.cons (o := { dst := some 24, op := Op.call { callee := Callee.builtin Builtin.append, args := #[Operand.tmp 20, Operand.tmp 23], argTypes := #[24, 24] }, type := 24, pos := "outright.go:103", after := #[{ on := 0, ground := Ground.data }, { on := 3, ground := Ground.data }], guard := none }) rfl (fun K hK => ?_) AllReadyH.nil
          refine step_append_run rfl (.tmp 20) (.tmp 23) 24 24 rfl g1.out (by first | rfl | simp [Act.eval, Act.put]) (by first | rfl | simp [Act.eval, Act.put]) ?_
          refine hK.out _ _ trivial (fun hHeld => ?_)
          clear hK K
          try simp only [Act.put, List.setIfInBounds_toArray, List.set_cons_zero, List.set_cons_succ]
          refine wpAnyH_ready (rs := [8]) (by kernel_rfl) (by simp) ?_
          refine AllReadyH.cons (o := { dst := some 28, op := Op.call { callee := Callee.builtin Builtin.append, args := #[Operand.tmp 24, Operand.tmp 27], argTypes := #[24, 24] }, type := 24, pos := "outright.go:103", after := #[{ on := 4, ground := Ground.data }, { on := 7, ground := Ground.data }, { on := 4, ground := Ground.chain }], guard := none }) rfl (fun K hK => ?_) AllReadyH.nil
          refine step_append_run rfl (.tmp 24) (.tmp 27) 24 24 rfl g2.out (by first | rfl | simp [Act.eval, Act.put]) (by first | rfl | simp [Act.eval, Act.put]) ?_
          refine hK.out _ _ trivial (fun hHeld => ?_)
          clear hK K
          try simp only [Act.put, List.setIfInBounds_toArray, List.set_cons_zero, List.set_cons_succ]
          refine wpAnyH_take (i := 9) (oi := { dst := some 7, op := Op.assign (Operand.tmp 28), type := 24, pos := "outright.go:103", after := #[{ on := 8, ground := Ground.data }, { on := 8, ground := Ground.chain }, { on := 0, ground := Ground.phase }, { on := 1, ground := Ground.phase }, { on := 2, ground := Ground.phase }, { on := 3, ground := Ground.phase }, { on := 4, ground := Ground.phase }, { on := 5, ground := Ground.phase }, { on := 6, ground := Ground.phase }, { on := 7, ground := Ground.phase }, { on := 8, ground := Ground.phase }], guard := none }) (v := ?vv1016) rfl (by kernel_rfl) (by kernel_rfl) (by kernel_rfl) (fun _ _ _ h => h) (Or.inl ⟨by rfl, ?hy1016⟩) (by assumption) ?_
          case hy1016 => (intro w hSw; (try dsimp only at hSw); go_simp; all_goals with_reducible rfl)
          try simp only [Act.put, List.setIfInBounds_toArray, List.set_cons_zero, List.set_cons_succ]
          refine wpAnyH_done (by kernel_rfl) ?_ _
          go_wp2_with fail
          go_meet
          exact ⟨_, _, rfl, HF.out⟩
        · obtain ⟨b1, c1, w1, b2, c2, w2, g1, g2, HF⟩ := key.out
          clear key
          simp only [Nat.zero_mul, Nat.one_mul, Nat.zero_add, Nat.reduceSub, Nat.reduceMul, Nat.reduceAdd, Nat.sub_zero] at g1 g2
          go_wp2_with fail
          refine wp_region_held_drew (S := (fun _ => True)) (by kernel_rfl) trivial (fun hHeld => ?_)
          refine wpAnyH_take (i := 0) (oi := { dst := some 20, op := Op.move (Operand.tmp 7), type := 24, pos := "outright.go:103", after := #[], guard := none }) (v := ?vv1017) rfl (by kernel_rfl) (by kernel_rfl) (by kernel_rfl) (fun _ _ _ h => h) (Or.inl ⟨by rfl, ?hy1017⟩) (by assumption) ?_
          case hy1017 => (intro w hSw; (try dsimp only at hSw); go_simp; all_goals with_reducible rfl)
          try simp only [Act.put, List.setIfInBounds_toArray, List.set_cons_zero, List.set_cons_succ]
          refine wpAnyH_take (i := 1) (oi := { dst := some 21, op := Op.move (Operand.tmp 5), type := 24, pos := "outright.go:103", after := #[], guard := none }) (v := ?vv1018) rfl (by kernel_rfl) (by kernel_rfl) (by kernel_rfl) (fun _ _ _ h => h) (Or.inl ⟨by rfl, ?hy1018⟩) (by assumption) ?_
          case hy1018 => (intro w hSw; (try dsimp only at hSw); go_simp; all_goals with_reducible rfl)
          try simp only [Act.put, List.setIfInBounds_toArray, List.set_cons_zero, List.set_cons_succ]
          refine wpAnyH_take (i := 2) (oi := { dst := some 22, op := Op.move (Operand.tmp 6), type := 3, pos := "outright.go:103", after := #[], guard := none }) (v := ?vv1019) rfl (by kernel_rfl) (by kernel_rfl) (by kernel_rfl) (fun _ _ _ h => h) (Or.inl ⟨by rfl, ?hy1019⟩) (by assumption) ?_
          case hy1019 => (intro w hSw; (try dsimp only at hSw); go_simp; all_goals with_reducible rfl)
          try simp only [Act.put, List.setIfInBounds_toArray, List.set_cons_zero, List.set_cons_succ]
          refine wpAnyH_take (i := 3) (oi := { dst := some 23, op := Op.slice 24 (Operand.tmp 21) (some (Operand.tmp 22)) none none, type := 24, pos := "outright.go:103", after := #[{ on := 1, ground := Ground.data }, { on := 2, ground := Ground.data }], guard := none }) (v := ?vv1020) rfl (by kernel_rfl) (by kernel_rfl) (by kernel_rfl) (fun _ _ _ h => h) (Or.inl ⟨by rfl, ?hy1020⟩) (by assumption) ?_
          case hy1020 => (intro w hSw; (try dsimp only at hSw); go_simp; all_goals with_reducible rfl)
          try simp only [Act.put, List.setIfInBounds_toArray, List.set_cons_zero, List.set_cons_succ]
          refine wpAnyH_take (i := 5) (oi := { dst := some 25, op := Op.move (Operand.tmp 5), type := 24, pos := "outright.go:103", after := #[], guard := none }) (v := ?vv1021) rfl (by kernel_rfl) (by kernel_rfl) (by kernel_rfl) (fun _ _ _ h => h) (Or.inl ⟨by rfl, ?hy1021⟩) (by assumption) ?_
          case hy1021 => (intro w hSw; (try dsimp only at hSw); go_simp; all_goals with_reducible rfl)
          try simp only [Act.put, List.setIfInBounds_toArray, List.set_cons_zero, List.set_cons_succ]
          refine wpAnyH_take (i := 6) (oi := { dst := some 26, op := Op.move (Operand.tmp 6), type := 3, pos := "outright.go:103", after := #[], guard := none }) (v := ?vv1022) rfl (by kernel_rfl) (by kernel_rfl) (by kernel_rfl) (fun _ _ _ h => h) (Or.inl ⟨by rfl, ?hy1022⟩) (by assumption) ?_
          case hy1022 => (intro w hSw; (try dsimp only at hSw); go_simp; all_goals with_reducible rfl)
          try simp only [Act.put, List.setIfInBounds_toArray, List.set_cons_zero, List.set_cons_succ]
          refine wpAnyH_take (i := 7) (oi := { dst := some 27, op := Op.slice 24 (Operand.tmp 25) none (some (Operand.tmp 26)) none, type := 24, pos := "outright.go:103", after := #[{ on := 5, ground := Ground.data }, { on := 6, ground := Ground.data }], guard := none }) (v := ?vv1023) rfl (by kernel_rfl) (by kernel_rfl) (by kernel_rfl) (fun _ _ _ h => h) (Or.inl ⟨by rfl, ?hy1023⟩) (by assumption) ?_
          case hy1023 => (intro w hSw; (try dsimp only at hSw); go_simp; all_goals with_reducible rfl)
          try simp only [Act.put, List.setIfInBounds_toArray, List.set_cons_zero, List.set_cons_succ]
          refine wpAnyH_ready (rs := [4]) (by kernel_rfl) (by simp) ?_
          refine AllReadyH.cons (o := { dst := some 24, op := Op.call { callee := Callee.builtin Builtin.append, args := #[Operand.tmp 20, Operand.tmp 23], argTypes := #[24, 24] }, type := 24, pos := "outright.go:103", after := #[{ on := 0, ground := Ground.data }, { on := 3, ground := Ground.data }], guard := none }) rfl (fun K hK => ?_) AllReadyH.nil
          refine step_append_run rfl (.tmp 20) (.tmp 23) 24 24 rfl g1.out (by first | rfl | simp [Act.eval, Act.put]) (by first | rfl | simp [Act.eval, Act.put]) ?_
          refine hK.out _ _ trivial (fun hHeld => ?_)
          clear hK K
          try simp only [Act.put, List.setIfInBounds_toArray, List.set_cons_zero, List.set_cons_succ]
          refine wpAnyH_ready (rs := [8]) (by kernel_rfl) (by simp) ?_
          refine AllReadyH.cons (o := { dst := some 28, op := Op.call { callee := Callee.builtin Builtin.append, args := #[Operand.tmp 24, Operand.tmp 27], argTypes := #[24, 24] }, type := 24, pos := "outright.go:103", after := #[{ on := 4, ground := Ground.data }, { on := 7, ground := Ground.data }, { on := 4, ground := Ground.chain }], guard := none }) rfl (fun K hK => ?_) AllReadyH.nil
          refine step_append_run rfl (.tmp 24) (.tmp 27) 24 24 rfl g2.out (by first | rfl | simp [Act.eval, Act.put]) (by first | rfl | simp [Act.eval, Act.put]) ?_
          refine hK.out _ _ trivial (fun hHeld => ?_)
          clear hK K
          try simp only [Act.put, List.setIfInBounds_toArray, List.set_cons_zero, List.set_cons_succ]
          refine wpAnyH_take (i := 9) (oi := { dst := some 7, op := Op.assign (Operand.tmp 28), type := 24, pos := "outright.go:103", after := #[{ on := 8, ground := Ground.data }, { on := 8, ground := Ground.chain }, { on := 0, ground := Ground.phase }, { on := 1, ground := Ground.phase }, { on := 2, ground := Ground.phase }, { on := 3, ground := Ground.phase }, { on := 4, ground := Ground.phase }, { on := 5, ground := Ground.phase }, { on := 6, ground := Ground.phase }, { on := 7, ground := Ground.phase }, { on := 8, ground := Ground.phase }], guard := none }) (v := ?vv1024) rfl (by kernel_rfl) (by kernel_rfl) (by kernel_rfl) (fun _ _ _ h => h) (Or.inl ⟨by rfl, ?hy1024⟩) (by assumption) ?_
          case hy1024 => (intro w hSw; (try dsimp only at hSw); go_simp; all_goals with_reducible rfl)
          try simp only [Act.put, List.setIfInBounds_toArray, List.set_cons_zero, List.set_cons_succ]
          refine wpAnyH_done (by kernel_rfl) ?_ _
          go_wp2_with fail
          go_meet
          exact ⟨_, _, rfl, HF.out⟩
        · obtain ⟨b1, c1, w1, b2, c2, w2, g1, g2, HF⟩ := key.out
          clear key
          simp only [Nat.zero_mul, Nat.one_mul, Nat.zero_add, Nat.reduceSub, Nat.reduceMul, Nat.reduceAdd, Nat.sub_zero] at g1 g2
          go_wp2_with fail
          refine wp_region_held_drew (S := (fun _ => True)) (by kernel_rfl) trivial (fun hHeld => ?_)
          refine wpAnyH_take (i := 0) (oi := { dst := some 20, op := Op.move (Operand.tmp 7), type := 24, pos := "outright.go:103", after := #[], guard := none }) (v := ?vv1025) rfl (by kernel_rfl) (by kernel_rfl) (by kernel_rfl) (fun _ _ _ h => h) (Or.inl ⟨by rfl, ?hy1025⟩) (by assumption) ?_
          case hy1025 => (intro w hSw; (try dsimp only at hSw); go_simp; all_goals with_reducible rfl)
          try simp only [Act.put, List.setIfInBounds_toArray, List.set_cons_zero, List.set_cons_succ]
          refine wpAnyH_take (i := 1) (oi := { dst := some 21, op := Op.move (Operand.tmp 5), type := 24, pos := "outright.go:103", after := #[], guard := none }) (v := ?vv1026) rfl (by kernel_rfl) (by kernel_rfl) (by kernel_rfl) (fun _ _ _ h => h) (Or.inl ⟨by rfl, ?hy1026⟩) (by assumption) ?_
          case hy1026 => (intro w hSw; (try dsimp only at hSw); go_simp; all_goals with_reducible rfl)
          try simp only [Act.put, List.setIfInBounds_toArray, List.set_cons_zero, List.set_cons_succ]
          refine wpAnyH_take (i := 2) (oi := { dst := some 22, op := Op.move (Operand.tmp 6), type := 3, pos := "outright.go:103", after := #[], guard := none }) (v := ?vv1027) rfl (by kernel_rfl) (by kernel_rfl) (by kernel_rfl) (fun _ _ _ h => h) (Or.inl ⟨by rfl, ?hy1027⟩) (by assumption) ?_
          case hy1027 => (intro w hSw; (try dsimp only at hSw); go_simp; all_goals with_reducible rfl)
          try simp only [Act.put, List.setIfInBounds_toArray, List.set_cons_zero, List.set_cons_succ]
          refine wpAnyH_take (i := 3) (oi := { dst := some 23, op := Op.slice 24 (Operand.tmp 21) (some (Operand.tmp 22)) none none, type := 24, pos := "outright.go:103", after := #[{ on := 1, ground := Ground.data }, { on := 2, ground := Ground.data }], guard := none }) (v := ?vv1028) rfl (by kernel_rfl) (by kernel_rfl) (by kernel_rfl) (fun _ _ _ h => h) (Or.inl ⟨by rfl, ?hy1028⟩) (by assumption) ?_
          case hy1028 => (intro w hSw; (try dsimp only at hSw); go_simp; all_goals with_reducible rfl)
          try simp only [Act.put, List.setIfInBounds_toArray, List.set_cons_zero, List.set_cons_succ]
          refine wpAnyH_take (i := 5) (oi := { dst := some 25, op := Op.move (Operand.tmp 5), type := 24, pos := "outright.go:103", after := #[], guard := none }) (v := ?vv1029) rfl (by kernel_rfl) (by kernel_rfl) (by kernel_rfl) (fun _ _ _ h => h) (Or.inl ⟨by rfl, ?hy1029⟩) (by assumption) ?_
          case hy1029 => (intro w hSw; (try dsimp only at hSw); go_simp; all_goals with_reducible rfl)
          try simp only [Act.put, List.setIfInBounds_toArray, List.set_cons_zero, List.set_cons_succ]
          refine wpAnyH_take (i := 6) (oi := { dst := some 26, op := Op.move (Operand.tmp 6), type := 3, pos := "outright.go:103", after := #[], guard := none }) (v := ?vv1030) rfl (by kernel_rfl) (by kernel_rfl) (by kernel_rfl) (fun _ _ _ h => h) (Or.inl ⟨by rfl, ?hy1030⟩) (by assumption) ?_
          case hy1030 => (intro w hSw; (try dsimp only at hSw); go_simp; all_goals with_reducible rfl)
          try simp only [Act.put, List.setIfInBounds_toArray, List.set_cons_zero, List.set_cons_succ]
          refine wpAnyH_take (i := 7) (oi := { dst := some 27, op := Op.slice 24 (Operand.tmp 25) none (some (Operand.tmp 26)) none, type := 24, pos := "outright.go:103", after := #[{ on := 5, ground := Ground.data }, { on := 6, ground := Ground.data }], guard := none }) (v := ?vv1031) rfl (by kernel_rfl) (by kernel_rfl) (by kernel_rfl) (fun _ _ _ h => h) (Or.inl ⟨by rfl, ?hy1031⟩) (by assumption) ?_
          case hy1031 => (intro w hSw; (try dsimp only at hSw); go_simp; all_goals with_reducible rfl)
          try simp only [Act.put, List.setIfInBounds_toArray, List.set_cons_zero, List.set_cons_succ]
          refine wpAnyH_ready (rs := [4]) (by kernel_rfl) (by simp) ?_
          refine AllReadyH.cons (o := { dst := some 24, op := Op.call { callee := Callee.builtin Builtin.append, args := #[Operand.tmp 20, Operand.tmp 23], argTypes := #[24, 24] }, type := 24, pos := "outright.go:103", after := #[{ on := 0, ground := Ground.data }, { on := 3, ground := Ground.data }], guard := none }) rfl (fun K hK => ?_) AllReadyH.nil
          refine step_append_run rfl (.tmp 20) (.tmp 23) 24 24 rfl g1.out (by first | rfl | simp [Act.eval, Act.put]) (by first | rfl | simp [Act.eval, Act.put]) ?_
          refine hK.out _ _ trivial (fun hHeld => ?_)
          clear hK K
          try simp only [Act.put, List.setIfInBounds_toArray, List.set_cons_zero, List.set_cons_succ]
          refine wpAnyH_ready (rs := [8]) (by kernel_rfl) (by simp) ?_
          refine AllReadyH.cons (o := { dst := some 28, op := Op.call { callee := Callee.builtin Builtin.append, args := #[Operand.tmp 24, Operand.tmp 27], argTypes := #[24, 24] }, type := 24, pos := "outright.go:103", after := #[{ on := 4, ground := Ground.data }, { on := 7, ground := Ground.data }, { on := 4, ground := Ground.chain }], guard := none }) rfl (fun K hK => ?_) AllReadyH.nil
          refine step_append_run rfl (.tmp 24) (.tmp 27) 24 24 rfl g2.out (by first | rfl | simp [Act.eval, Act.put]) (by first | rfl | simp [Act.eval, Act.put]) ?_
          refine hK.out _ _ trivial (fun hHeld => ?_)
          clear hK K
          try simp only [Act.put, List.setIfInBounds_toArray, List.set_cons_zero, List.set_cons_succ]
          refine wpAnyH_take (i := 9) (oi := { dst := some 7, op := Op.assign (Operand.tmp 28), type := 24, pos := "outright.go:103", after := #[{ on := 8, ground := Ground.data }, { on := 8, ground := Ground.chain }, { on := 0, ground := Ground.phase }, { on := 1, ground := Ground.phase }, { on := 2, ground := Ground.phase }, { on := 3, ground := Ground.phase }, { on := 4, ground := Ground.phase }, { on := 5, ground := Ground.phase }, { on := 6, ground := Ground.phase }, { on := 7, ground := Ground.phase }, { on := 8, ground := Ground.phase }], guard := none }) (v := ?vv1032) rfl (by kernel_rfl) (by kernel_rfl) (by kernel_rfl) (fun _ _ _ h => h) (Or.inl ⟨by rfl, ?hy1032⟩) (by assumption) ?_
          case hy1032 => (intro w hSw; (try dsimp only at hSw); go_simp; all_goals with_reducible rfl)
          try simp only [Act.put, List.setIfInBounds_toArray, List.set_cons_zero, List.set_cons_succ]
          refine wpAnyH_done (by kernel_rfl) ?_ _
          go_wp2_with fail
          go_meet
          exact ⟨_, _, rfl, HF.out⟩
    case rest =>
      as_aux_lemma =>
        obtain ⟨b0, c0, rfl, hR0⟩ := hcut
        have HW : Hid (∀ x : ByteArray, x.size ≤ 140737488355328 → ∀ W, Calls Tryd.prog 51 #[.string x] W fun e w' => e = .returned (.string (wordS x)) ∧ Below W.heap.size W w') := fun x hx W => word_any x W hx
        have HV : Hid (∀ x : ByteArray, x.size ≤ 140737488355328 → ∀ W, Calls Tryd.prog 52 #[.string x] W fun e w' => e = .returned (.string (valueS x)) ∧ Below W.heap.size W w') := fun x hx W => value_made x W hx
        have hrl : Hid ((rotL K).length = 4) := by
          show _ = _
          obtain rfl | rfl | rfl | rfl : K = 0 ∨ K = 1 ∨ K = 2 ∨ K = 3 := by omega
          all_goals rfl
        go_wp2_with fail
        go_loopw [7, 8] (fun vv iv wr => ∃ (k : Nat) (b : Option Addr) (n c : Nat), iv = .int .i64 (k : Int) ∧ k ≤ l.length ∧ k ≤ 50 ∧ vv = .slice b n c ∧ Hid (R EFd wr (.slice b n c) (rotL K ++ (l.take k).map madeF) ∧ Below w.heap.size w wr ∧ ∀ i, (Value.slice b n c).ownBlock = some i → w.heap.size ≤ i)) (fun _ iv _ => l.length - (intOf iv).toNat)
        case atStart => exact ⟨0, b0, 4, c0, rfl, by omega, by omega, rfl, by show _ ∧ _; simpa using hR0.out⟩
        case round =>
          obtain ⟨k, b, n, c, rfl, hk, hk50, rfl, hv⟩ := hrel
          clear hR0 BB
          have FIN : Hid ((l.take k).map madeF = (l.take 50).map madeF → FdPost (madeL l (turnK t)) w (.returned (.slice b n c)) wr) := fun hh => by
            obtain ⟨r1, r2, r3⟩ := hv.out
            rw [hh] at r1
            unfold madeL
            rw [HK.out]
            exact ⟨(b, n, c), rfl, r2, r1, r3⟩
          by_cases hlt : k < l.length
          · have hlt' : (k : Int) < (l.length : Int) := by omega
            by_cases h50 : k < 50
            · have h50' : (k : Int) < 50 := by omega
              obtain ⟨Bk, off, cap, e, hc⟩ := HI.out.fd k hlt
              injection e with e1 e2 e3
              clear e2 e3
              subst e1
              have hzx := HZ.out.1 l[k] (List.getElem_mem hlt)
              have hms : Hid ((l.take (k + 1)).map madeF = (l.take k).map madeF ++ [madeF l[k]]) := made_take_succ l k hlt
              obtain ⟨x, hx⟩ : ∃ x, l[k] = x := ⟨_, rfl⟩
              rw [hx] at hc hzx hms
              have hcel : Hid (∀ W, Below wr.heap.size wr W → W.cell? ⟨Bk, off + k * 3, none⟩ = some (.string x.n) ∧ W.cell? ⟨Bk, off + k * 3 + 1, none⟩ = some (.string x.v) ∧ W.cell? ⟨Bk, off + k * 3 + 2, none⟩ = some (.bool x.nv)) := fun W hb => hc W (hv.out.2.1.trans (hb.mono hv.out.2.1.size))
              have hA : Hid (∀ W, Below wr.heap.size wr W → Calls Tryd.prog 51 #[.string x.n] W fun e w' => e = .returned (.string (wordS x.n)) ∧ Below wr.heap.size wr w') := fun W hb => by
                refine (HW.out x.n hzx.1 W).mono ?_
                rintro e w' ⟨rfl, h⟩
                exact ⟨rfl, hb.trans (h.mono hb.size)⟩
              have hB : Hid (∀ W, Below wr.heap.size wr W → Calls Tryd.prog 52 #[.string x.v] W fun e w' => e = .returned (.string (valueS x.v)) ∧ Below wr.heap.size wr w') := fun W hb => by
                refine (HV.out x.v hzx.2 W).mono ?_
                rintro e w' ⟨rfl, h⟩
                exact ⟨rfl, hb.trans (h.mono hb.size)⟩
              have hApp : Hid (∀ W, Below wr.heap.size wr W → ∃ b' c' w7, Hid ((Builtin.append_ #[24, 24] 24 #[.slice b n c, .slice (some ⟨W.heap.size, 0, none⟩) 1 1]).run Tryd.prog (W.alloc (.cells #[.string (wordS x.n), .string (valueS x.v), .bool x.nv] 34)) = .ok (.slice b' (n + 1) c') w7) ∧ Hid (R EFd w7 (.slice b' (n + 1) c') (rotL K ++ (l.take (k + 1)).map madeF) ∧ Below w.heap.size w w7 ∧ ∀ i, (Value.slice b' (n + 1) c').ownBlock = some i → w.heap.size ≤ i) ∧ w7.cell? ⟨Bk, off + k * 3, none⟩ = some (.string x.n) ∧ w7.cell? ⟨Bk, off + k * 3 + 1, none⟩ = some (.string x.v) ∧ w7.cell? ⟨Bk, off + k * 3 + 2, none⟩ = some (.bool x.nv)) := fun W hb => by
                obtain ⟨r1, r2, r3⟩ := hv.out
                have hin : In EFd (W.alloc (.cells #[.string (wordS x.n), .string (valueS x.v), .bool x.nv] 34)) (.slice (some ⟨W.heap.size, 0, none⟩) 1 1) [madeF x] := in_one _ _ _ #[.string (wordS x.n), .string (valueS x.v), .bool x.nv] 34 (0, 0) (by rw [heap_al, if_pos rfl]) rfl
                obtain ⟨en, _, _⟩ := slice_len r1.isIn
                have hW := r2.trans (hb.mono r2.size)
                have hWa := hW.trans ((bel1 W (.cells #[.string (wordS x.n), .string (valueS x.v), .bool x.nv] 34)).mono hW.size)
                obtain ⟨b', c', w7, g1, g2, g3⟩ := app okFd _ _ _ ((r1.below hb).below (bel1 W _)) _ _ hin (by
                  have := hrl.out
                  simp only [EFd, List.length_singleton, List.length_append, List.length_map, List.length_take]
                  omega)
                rw [← en] at g1 g2 g3
                have hw7 := hWa.trans (g3.belowB hWa.size r3)
                refine ⟨b', c', w7, g1, ⟨?_, hw7, fun i hi => ?_⟩, hc w7 hw7⟩
                · rw [hms.out, ← List.append_assoc]
                  exact g2
                · rcases g3.own i hi with e | e
                  · exact r3 i e
                  · exact Nat.le_trans hWa.size e
              clear hc hx hms hzx hv FIN
              go_wp2_with fail
              have hIW : Below wr.heap.size wr (wr.drew) := (Below.refl _ _).drew
              refine wp_region_held_drew (S := (fun W => W.cell? ⟨Bk, off + k * 3, none⟩ = some (.string x.n) ∧ W.cell? ⟨Bk, off + k * 3 + 1, none⟩ = some (.string x.v) ∧ W.cell? ⟨Bk, off + k * 3 + 2, none⟩ = some (.bool x.nv))) (by kernel_rfl) (hcel.out _ hIW) (fun hHeld => ?_)
              generalize hWg : World.drew _ = W at hIW hHeld ⊢
              clear hWg
              refine wpAnyH_take (i := 0) (oi := { dst := some 39, op := Op.move (Operand.tmp 7), type := 24, pos := "outright.go:105", after := #[], guard := none }) (v := ?vv1) rfl (by kernel_rfl) (by kernel_rfl) (by kernel_rfl) (fun _ _ _ h => h) (Or.inl ⟨by rfl, ?hy1⟩) (by assumption) ?_
              case hy1 => (intro w hSw; (try dsimp only at hSw); go_simp; all_goals with_reducible rfl)
              try simp only [Act.put, List.setIfInBounds_toArray, List.set_cons_zero, List.set_cons_succ]
              refine wpAnyH_take (i := 1) (oi := { dst := some 40, op := Op.move (Operand.tmp 0), type := 24, pos := "outright.go:105", after := #[], guard := none }) (v := ?vv2) rfl (by kernel_rfl) (by kernel_rfl) (by kernel_rfl) (fun _ _ _ h => h) (Or.inl ⟨by rfl, ?hy2⟩) (by assumption) ?_
              case hy2 => (intro w hSw; (try dsimp only at hSw); go_simp; all_goals with_reducible rfl)
              try simp only [Act.put, List.setIfInBounds_toArray, List.set_cons_zero, List.set_cons_succ]
              refine wpAnyH_take (i := 2) (oi := { dst := some 41, op := Op.move (Operand.tmp 8), type := 3, pos := "outright.go:105", after := #[], guard := none }) (v := ?vv3) rfl (by kernel_rfl) (by kernel_rfl) (by kernel_rfl) (fun _ _ _ h => h) (Or.inl ⟨by rfl, ?hy3⟩) (by assumption) ?_
              case hy3 => (intro w hSw; (try dsimp only at hSw); go_simp; all_goals with_reducible rfl)
              try simp only [Act.put, List.setIfInBounds_toArray, List.set_cons_zero, List.set_cons_succ]
              refine wpAnyH_take (i := 3) (oi := { dst := some 42, op := Op.indexAddr 24 (Operand.tmp 40) (Operand.tmp 41), type := 0, pos := "outright.go:105", after := #[{ on := 1, ground := Ground.data }, { on := 2, ground := Ground.data }], guard := none }) (v := ?vv4) rfl (by kernel_rfl) (by kernel_rfl) (by kernel_rfl) (fun _ _ _ h => h) (Or.inl ⟨by rfl, ?hy4⟩) (by assumption) ?_
              case hy4 => (intro w hSw; (try dsimp only at hSw); go_simp; all_goals with_reducible rfl)
              try simp only [Act.put, List.setIfInBounds_toArray, List.set_cons_zero, List.set_cons_succ]
              refine wpAnyH_take (i := 4) (oi := { dst := some 43, op := Op.fieldAddr 34 (Operand.tmp 42) 0, type := 0, pos := "outright.go:105", after := #[{ on := 3, ground := Ground.data }], guard := none }) (v := ?vv5) rfl (by kernel_rfl) (by kernel_rfl) (by kernel_rfl) (fun _ _ _ h => h) (Or.inl ⟨by rfl, ?hy5⟩) (by assumption) ?_
              case hy5 => (intro w hSw; (try dsimp only at hSw); go_simp; all_goals with_reducible rfl)
              try simp only [Act.put, List.setIfInBounds_toArray, List.set_cons_zero, List.set_cons_succ]
              refine wpAnyH_take (i := 5) (oi := { dst := some 44, op := Op.load 9 (Operand.tmp 43), type := 9, pos := "outright.go:105", after := #[{ on := 4, ground := Ground.data }], guard := none }) (v := ?vv6) rfl (by kernel_rfl) (by kernel_rfl) (by kernel_rfl) (fun _ _ _ h => h) (Or.inl ⟨by rfl, ?hy6⟩) (by assumption) ?_
              case hy6 => (intro w hSw; (try dsimp only at hSw); go_simp; all_goals with_reducible rfl)
              try simp only [Act.put, List.setIfInBounds_toArray, List.set_cons_zero, List.set_cons_succ]
              refine wpAnyH_take (i := 7) (oi := { dst := some 46, op := Op.move (Operand.tmp 0), type := 24, pos := "outright.go:105", after := #[], guard := none }) (v := ?vv7) rfl (by kernel_rfl) (by kernel_rfl) (by kernel_rfl) (fun _ _ _ h => h) (Or.inl ⟨by rfl, ?hy7⟩) (by assumption) ?_
              case hy7 => (intro w hSw; (try dsimp only at hSw); go_simp; all_goals with_reducible rfl)
              try simp only [Act.put, List.setIfInBounds_toArray, List.set_cons_zero, List.set_cons_succ]
              refine wpAnyH_take (i := 8) (oi := { dst := some 47, op := Op.move (Operand.tmp 8), type := 3, pos := "outright.go:105", after := #[], guard := none }) (v := ?vv8) rfl (by kernel_rfl) (by kernel_rfl) (by kernel_rfl) (fun _ _ _ h => h) (Or.inl ⟨by rfl, ?hy8⟩) (by assumption) ?_
              case hy8 => (intro w hSw; (try dsimp only at hSw); go_simp; all_goals with_reducible rfl)
              try simp only [Act.put, List.setIfInBounds_toArray, List.set_cons_zero, List.set_cons_succ]
              refine wpAnyH_take (i := 9) (oi := { dst := some 48, op := Op.indexAddr 24 (Operand.tmp 46) (Operand.tmp 47), type := 0, pos := "outright.go:105", after := #[{ on := 7, ground := Ground.data }, { on := 8, ground := Ground.data }], guard := none }) (v := ?vv9) rfl (by kernel_rfl) (by kernel_rfl) (by kernel_rfl) (fun _ _ _ h => h) (Or.inl ⟨by rfl, ?hy9⟩) (by assumption) ?_
              case hy9 => (intro w hSw; (try dsimp only at hSw); go_simp; all_goals with_reducible rfl)
              try simp only [Act.put, List.setIfInBounds_toArray, List.set_cons_zero, List.set_cons_succ]
              refine wpAnyH_take (i := 10) (oi := { dst := some 49, op := Op.fieldAddr 34 (Operand.tmp 48) 1, type := 0, pos := "outright.go:105", after := #[{ on := 9, ground := Ground.data }], guard := none }) (v := ?vv10) rfl (by kernel_rfl) (by kernel_rfl) (by kernel_rfl) (fun _ _ _ h => h) (Or.inl ⟨by rfl, ?hy10⟩) (by assumption) ?_
              case hy10 => (intro w hSw; (try dsimp only at hSw); go_simp; all_goals with_reducible rfl)
              try simp only [Act.put, List.setIfInBounds_toArray, List.set_cons_zero, List.set_cons_succ]
              refine wpAnyH_take (i := 11) (oi := { dst := some 50, op := Op.load 9 (Operand.tmp 49), type := 9, pos := "outright.go:105", after := #[{ on := 10, ground := Ground.data }], guard := none }) (v := ?vv11) rfl (by kernel_rfl) (by kernel_rfl) (by kernel_rfl) (fun _ _ _ h => h) (Or.inl ⟨by rfl, ?hy11⟩) (by assumption) ?_
              case hy11 => (intro w hSw; (try dsimp only at hSw); go_simp; all_goals with_reducible rfl)
              try simp only [Act.put, List.setIfInBounds_toArray, List.set_cons_zero, List.set_cons_succ]
              refine wpAnyH_take (i := 13) (oi := { dst := some 52, op := Op.move (Operand.tmp 0), type := 24, pos := "outright.go:105", after := #[], guard := none }) (v := ?vv12) rfl (by kernel_rfl) (by kernel_rfl) (by kernel_rfl) (fun _ _ _ h => h) (Or.inl ⟨by rfl, ?hy12⟩) (by assumption) ?_
              case hy12 => (intro w hSw; (try dsimp only at hSw); go_simp; all_goals with_reducible rfl)
              try simp only [Act.put, List.setIfInBounds_toArray, List.set_cons_zero, List.set_cons_succ]
              refine wpAnyH_take (i := 14) (oi := { dst := some 53, op := Op.move (Operand.tmp 8), type := 3, pos := "outright.go:105", after := #[], guard := none }) (v := ?vv13) rfl (by kernel_rfl) (by kernel_rfl) (by kernel_rfl) (fun _ _ _ h => h) (Or.inl ⟨by rfl, ?hy13⟩) (by assumption) ?_
              case hy13 => (intro w hSw; (try dsimp only at hSw); go_simp; all_goals with_reducible rfl)
              try simp only [Act.put, List.setIfInBounds_toArray, List.set_cons_zero, List.set_cons_succ]
              refine wpAnyH_take (i := 15) (oi := { dst := some 54, op := Op.indexAddr 24 (Operand.tmp 52) (Operand.tmp 53), type := 0, pos := "outright.go:105", after := #[{ on := 13, ground := Ground.data }, { on := 14, ground := Ground.data }], guard := none }) (v := ?vv14) rfl (by kernel_rfl) (by kernel_rfl) (by kernel_rfl) (fun _ _ _ h => h) (Or.inl ⟨by rfl, ?hy14⟩) (by assumption) ?_
              case hy14 => (intro w hSw; (try dsimp only at hSw); go_simp; all_goals with_reducible rfl)
              try simp only [Act.put, List.setIfInBounds_toArray, List.set_cons_zero, List.set_cons_succ]
              refine wpAnyH_take (i := 16) (oi := { dst := some 55, op := Op.fieldAddr 34 (Operand.tmp 54) 2, type := 0, pos := "outright.go:105", after := #[{ on := 15, ground := Ground.data }], guard := none }) (v := ?vv15) rfl (by kernel_rfl) (by kernel_rfl) (by kernel_rfl) (fun _ _ _ h => h) (Or.inl ⟨by rfl, ?hy15⟩) (by assumption) ?_
              case hy15 => (intro w hSw; (try dsimp only at hSw); go_simp; all_goals with_reducible rfl)
              try simp only [Act.put, List.setIfInBounds_toArray, List.set_cons_zero, List.set_cons_succ]
              refine wpAnyH_take (i := 17) (oi := { dst := some 56, op := Op.load 4 (Operand.tmp 55), type := 4, pos := "outright.go:105", after := #[{ on := 16, ground := Ground.data }], guard := none }) (v := ?vv16) rfl (by kernel_rfl) (by kernel_rfl) (by kernel_rfl) (fun _ _ _ h => h) (Or.inl ⟨by rfl, ?hy16⟩) (by assumption) ?_
              case hy16 => (intro w hSw; (try dsimp only at hSw); go_simp; all_goals with_reducible rfl)
              try simp only [Act.put, List.setIfInBounds_toArray, List.set_cons_zero, List.set_cons_succ]
              refine wpAnyH_ready (rs := [6]) (by kernel_rfl) (by simp) ?_
              refine AllReadyH.cons (o := { dst := some 45, op := Op.call { callee := Callee.value (Operand.func 51), args := #[Operand.tmp 44], argTypes := #[9] }, type := 9, pos := "outright.go:105", after := #[{ on := 5, ground := Ground.data }], guard := none }) rfl (fun K hK => ?_) AllReadyH.nil
              go_simp
              refine (hA.out _ hIW).mono ?_
              rintro e' Wx ⟨rfl, hIWx⟩
              go_wp2_with fail
              refine hK.out _ _ (hcel.out _ hIWx) (fun hHeld => ?_)
              clear hK K
              try simp only [Act.put, List.setIfInBounds_toArray, List.set_cons_zero, List.set_cons_succ]
              refine wpAnyH_ready (rs := [12]) (by kernel_rfl) (by simp) ?_
              refine AllReadyH.cons (o := { dst := some 51, op := Op.call { callee := Callee.value (Operand.func 52), args := #[Operand.tmp 50], argTypes := #[9] }, type := 9, pos := "outright.go:105", after := #[{ on := 11, ground := Ground.data }, { on := 6, ground := Ground.chain }], guard := none }) rfl (fun K hK => ?_) AllReadyH.nil
              go_simp
              refine (hB.out _ hIWx).mono ?_
              rintro e' Wxx ⟨rfl, hIWxx⟩
              go_wp2_with fail
              refine hK.out _ _ (hcel.out _ hIWxx) (fun hHeld => ?_)
              clear hK K
              try simp only [Act.put, List.setIfInBounds_toArray, List.set_cons_zero, List.set_cons_succ]
              refine wpAnyH_take (i := 18) (oi := { dst := some 57, op := Op.build 34 #[(0, Operand.tmp 45), (1, Operand.tmp 51), (2, Operand.tmp 56)], type := 34, pos := "outright.go:105", after := #[{ on := 6, ground := Ground.data }, { on := 12, ground := Ground.data }, { on := 17, ground := Ground.data }], guard := none }) (v := ?vv17) rfl (by kernel_rfl) (by kernel_rfl) (by kernel_rfl) (fun _ _ _ h => h) (Or.inl ⟨by rfl, ?hy17⟩) (by assumption) ?_
              case hy17 => (intro w hSw; (try dsimp only at hSw); go_simp; all_goals with_reducible rfl)
              try simp only [Act.put, List.setIfInBounds_toArray, List.set_cons_zero, List.set_cons_succ]
              refine wpAnyH_ready (rs := [19]) (by kernel_rfl) (by simp) ?_
              refine AllReadyH.cons (o := { dst := some 58, op := Op.buildSlice 24 1 #[(0, Operand.tmp 57)], type := 24, pos := "outright.go:105", after := #[{ on := 18, ground := Ground.data }], guard := none }) rfl (fun K hK => ?_) AllReadyH.nil
              obtain ⟨b', c', w7, g1, S7, c7⟩ := hApp.out _ hIWxx
              go_simp
              refine hK.out _ _ (hcel.out _ (hIWxx.trans ((bel1 _ _).mono hIWxx.size))) (fun hHeld => ?_)
              clear hK K
              try simp only [Act.put, List.setIfInBounds_toArray, List.set_cons_zero, List.set_cons_succ]
              refine wpAnyH_ready (rs := [20]) (by kernel_rfl) (by simp) ?_
              refine AllReadyH.cons (o := { dst := some 59, op := Op.call { callee := Callee.builtin Builtin.append, args := #[Operand.tmp 39, Operand.tmp 58], argTypes := #[24, 24] }, type := 24, pos := "outright.go:105", after := #[{ on := 0, ground := Ground.data }, { on := 19, ground := Ground.data }, { on := 12, ground := Ground.chain }], guard := none }) rfl (fun K hK => ?_) AllReadyH.nil
              refine step_append_run rfl (.tmp 39) (.tmp 58) 24 24 rfl g1.out (by first | rfl | simp [Act.eval, Act.put]) (by first | rfl | simp [Act.eval, Act.put]) ?_
              refine hK.out _ _ c7 (fun hHeld => ?_)
              clear hK K
              try simp only [Act.put, List.setIfInBounds_toArray, List.set_cons_zero, List.set_cons_succ]
              refine wpAnyH_take (i := 21) (oi := { dst := some 7, op := Op.assign (Operand.tmp 59), type := 24, pos := "outright.go:105", after := #[{ on := 20, ground := Ground.data }, { on := 20, ground := Ground.chain }, { on := 0, ground := Ground.phase }, { on := 1, ground := Ground.phase }, { on := 2, ground := Ground.phase }, { on := 3, ground := Ground.phase }, { on := 4, ground := Ground.phase }, { on := 5, ground := Ground.phase }, { on := 6, ground := Ground.phase }, { on := 7, ground := Ground.phase }, { on := 8, ground := Ground.phase }, { on := 9, ground := Ground.phase }, { on := 10, ground := Ground.phase }, { on := 11, ground := Ground.phase }, { on := 12, ground := Ground.phase }, { on := 13, ground := Ground.phase }, { on := 14, ground := Ground.phase }, { on := 15, ground := Ground.phase }, { on := 16, ground := Ground.phase }, { on := 17, ground := Ground.phase }, { on := 18, ground := Ground.phase }, { on := 19, ground := Ground.phase }, { on := 20, ground := Ground.phase }], guard := none }) (v := ?vv18) rfl (by kernel_rfl) (by kernel_rfl) (by kernel_rfl) (fun _ _ _ h => h) (Or.inl ⟨by rfl, ?hy18⟩) (by assumption) ?_
              case hy18 => (intro w hSw; (try dsimp only at hSw); go_simp; all_goals with_reducible rfl)
              try simp only [Act.put, List.setIfInBounds_toArray, List.set_cons_zero, List.set_cons_succ]
              refine wpAnyH_done (by kernel_rfl) ?_ _
              clear hHeld c7 hA hB hApp hcel
              go_wp2_with fail
              go_roundw
              case rel => exact ⟨k + 1, b', n + 1, c', by simp, by omega, by omega, rfl, S7.out⟩
              case measure => simp [intOf]; omega
            · obtain rfl : k = 50 := by omega
              have h50' : ¬ (50 : Int) < 50 := by omega
              have HF : Hid (FdPost (madeL l (turnK t)) w (.returned (.slice b n c)) wr) := FIN.out rfl
              clear FIN hv
              go_wp2_with fail
              go_ret
              exact HF.out
          · obtain rfl : k = l.length := by omega
            have hlt' : ¬ (l.length : Int) < (l.length : Int) := by omega
            have HF : Hid (FdPost (madeL l (turnK t)) w (.returned (.slice b n c)) wr) := FIN.out (by rw [List.take_of_length_le (Nat.le_refl _), List.take_of_length_le hk50])
            clear FIN hv
            go_wp2_with fail
            go_ret
            exact HF.out
end Go.Proofs.YtcgfgjhhmbfmdaaDoor
