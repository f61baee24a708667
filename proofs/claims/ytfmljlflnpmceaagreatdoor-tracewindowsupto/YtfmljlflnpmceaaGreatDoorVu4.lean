import Derived.Test.YtfmljlflnpmceaaGreatDoorUb
import Derived.Test.YtfmljlflnpmceaaGreatDoorVzn
/- How long the frames of a talk are, written. -/
namespace Go.Proofs.YtfmljlflnpmceaaGreatDoor
open Go.RowKit
set_option linter.unusedVariables false
set_option linter.unusedSimpArgs false
theorem nOf_right {f : Fm.Fr} {ps : List (Int × Int)} {m : Nat} (h : Fm.Right f ps) (hm : (Fm.asmB f ps).size = m) : P1.nOf f ps = some m := by
  rcases P1.fn_nOf f ps with ⟨_, e⟩ | ⟨hn, _⟩
  · rw [e, hm]
  · exact absurd h hn
theorem size_da (d : ByteArray) : d.data.toList.length = d.size := by rw [Array.length_toList]; rfl
/-- DATA without and with padding -/
theorem right_da (d : ByteArray) : Fm.Right (frT 0 0 1 d 0 0) [] := by
  refine ⟨by simp [frT], by simp [frT], by simp [frT], by simp [frT], by show bits .and .i64 0 (Fm.kflags 0) = 0; decide, by show Fm.kfrom 0 ≤ 1; decide, by show (1 : Int) ≤ Fm.kto 0; decide, ?_, ?_⟩
  · rw [if_neg (by show ¬ (decide ((0 : Int) < 10) && Fm.hasF 0 8) = true; decide)]
    rfl
  · show Fm.BodyR (Fm.kd 0 0).1 (Fm.kd 0 0).2.2.2 _ _
    rw [show Fm.kd 0 0 = (116, 0, 103, 104) by decide]
    unfold Fm.BodyR
    simp [frT]
theorem nOf_da (d : ByteArray) : P1.nOf (frT 0 0 1 d 0 0) [] = some (9 + d.size) := by
  refine nOf_right (right_da d) ?_
  rw [Fm.asmB_size]
  have : Fm.wholeB (frT 0 0 1 d 0 0) [] = d.data.toList := by
    unfold Fm.wholeB
    rw [if_neg (by show ¬ (decide ((0 : Int) < 10) && Fm.hasF 0 8) = true; decide)]
    show Fm.payB (Fm.kd 0 0).2.2.1 _ _ = _
    rw [show Fm.kd 0 0 = (116, 0, 103, 104) by decide]
    rfl
  rw [this, size_da]
theorem right_pa (d : ByteArray) (pad : Int) (hp : 0 ≤ pad ∧ pad < 256) : Fm.Right (frT 0 8 1 d pad 0) [] := by
  refine ⟨by simp [frT], by simp [frT], by simp [frT], by simp [frT], by show bits .and .i64 8 (Fm.kflags 0) = 8; decide, by show Fm.kfrom 0 ≤ 1; decide, by show (1 : Int) ≤ Fm.kto 0; decide, ?_, ?_⟩
  · rw [if_pos (by show (decide ((0 : Int) < 10) && Fm.hasF 8 8) = true; decide)]
    exact hp
  · show Fm.BodyR (Fm.kd 0 8).1 (Fm.kd 0 8).2.2.2 _ _
    rw [show Fm.kd 0 8 = (116, 0, 103, 104) by decide]
    unfold Fm.BodyR
    simp [frT]
theorem nOf_pa (d : ByteArray) (pad : Int) (hp : 0 ≤ pad ∧ pad < 256) : P1.nOf (frT 0 8 1 d pad 0) [] = some (10 + d.size + pad.toNat) := by
  refine nOf_right (right_pa d pad hp) ?_
  rw [Fm.asmB_size]
  have : Fm.wholeB (frT 0 8 1 d pad 0) [] = [Fm.b8 pad] ++ d.data.toList ++ List.replicate (pad % 256).toNat 0 := by
    unfold Fm.wholeB
    rw [if_pos (by show (decide ((0 : Int) < 10) && Fm.hasF 8 8) = true; decide)]
    show [Fm.b8 pad] ++ Fm.payB (Fm.kd 0 8).2.2.1 _ _ ++ _ = _
    rw [show Fm.kd 0 8 = (116, 0, 103, 104) by decide]
    rfl
  rw [this]
  simp only [List.length_append, List.length_cons, List.length_nil, List.length_replicate, size_da]
  omega
/-- WINDOW_UPDATE -/
theorem right_up (st n : Int) (h : st = 0 ∨ st = 1) (hn : 0 ≤ n ∧ n < 2147483648) : Fm.Right (frT 8 0 st ⟨#[]⟩ 0 n) [] := by
  refine ⟨by simp [frT], by simp [frT], by simp [frT], by simp [frT], by show bits .and .i64 0 (Fm.kflags 8) = 0; decide, ?_, ?_, ?_, ?_⟩
  · show Fm.kfrom 8 ≤ st
    have : Fm.kfrom 8 = 0 := by decide
    omega
  · show st ≤ Fm.kto 8
    have : Fm.kto 8 = 2147483647 := by decide
    omega
  · rw [if_neg (by show ¬ (decide ((8 : Int) < 10) && Fm.hasF 0 8) = true; decide)]
    rfl
  · show Fm.BodyR (Fm.kd 8 0).1 (Fm.kd 8 0).2.2.2 _ _
    rw [show Fm.kd 8 0 = (117, 4, 107, 108) by decide]
    unfold Fm.BodyR
    simp [frT]
    exact hn
theorem nOf_up (st n : Int) (h : st = 0 ∨ st = 1) (hn : 0 ≤ n ∧ n < 2147483648) : P1.nOf (frT 8 0 st ⟨#[]⟩ 0 n) [] = some 13 := by
  refine nOf_right (right_up st n h hn) ?_
  rw [Fm.asmB_size]
  have : Fm.wholeB (frT 8 0 st ⟨#[]⟩ 0 n) [] = Fm.be 4 (n % 2147483648) := by
    unfold Fm.wholeB
    rw [if_neg (by show ¬ (decide ((8 : Int) < 10) && Fm.hasF 0 8) = true; decide)]
    show Fm.payB (Fm.kd 8 0).2.2.1 _ _ = _
    rw [show Fm.kd 8 0 = (117, 4, 107, 108) by decide]
    rfl
  rw [this, Fm.be_length]
/-- HEADERS with the end of the block -/
theorem right_he : Fm.Right (frT 1 4 1 ⟨#[104]⟩ 0 0) [] := by
  refine ⟨by simp [frT], by simp [frT], by simp [frT], by simp [frT], by show bits .and .i64 4 (Fm.kflags 1) = 4; decide, by show Fm.kfrom 1 ≤ 1; decide, by show (1 : Int) ≤ Fm.kto 1; decide, ?_, ?_⟩
  · rw [if_neg (by show ¬ (decide ((1 : Int) < 10) && Fm.hasF 4 8) = true; decide)]
    rfl
  · show Fm.BodyR (Fm.kd 1 4).1 (Fm.kd 1 4).2.2.2 _ _
    rw [show Fm.kd 1 4 = (116, 0, 103, 104) by decide]
    unfold Fm.BodyR
    simp [frT]
theorem nOf_he : P1.nOf (frT 1 4 1 ⟨#[104]⟩ 0 0) [] = some 10 := by
  refine nOf_right right_he ?_
  rw [Fm.asmB_size]
  have : Fm.wholeB (frT 1 4 1 ⟨#[104]⟩ 0 0) [] = [104] := by
    unfold Fm.wholeB
    rw [if_neg (by show ¬ (decide ((1 : Int) < 10) && Fm.hasF 4 8) = true; decide)]
    show Fm.payB (Fm.kd 1 4).2.2.1 _ _ = _
    rw [show Fm.kd 1 4 = (116, 0, 103, 104) by decide]
    rfl
  rw [this]
  rfl
theorem mk_da (d : ByteArray) : mkE true (frT 0 0 1 d 0 0) = daE d := by unfold mkE; rw [nOf_da]; rfl
theorem mk_pa (d : ByteArray) (pad : Int) (hp : 0 ≤ pad ∧ pad < 256) : mkE true (frT 0 8 1 d pad 0) = paE d pad := by unfold mkE; rw [nOf_pa d pad hp]; rfl
theorem mk_up (st n : Int) (h : st = 0 ∨ st = 1) (hn : 0 ≤ n ∧ n < 2147483648) : mkE false (frT 8 0 st ⟨#[]⟩ 0 n) = upE st n := by unfold mkE; rw [nOf_up st n h hn]; rfl
theorem mk_he : mkE true (frT 1 4 1 ⟨#[104]⟩ 0 0) = heE := by unfold mkE; rw [nOf_he]; rfl
/-- an entry, whatever its memory -/
theorem eo_mk (s : Bool) (f : Fm.Fr) (h1 : I64 f.st) (h2 : I64 f.last) (h3 : f.data.size ≤ 1048576) : Eo (mkE s f) :=
  ⟨h1, h2, by show f.data.size ≤ _; omega, by show (0 : Nat) ≤ _; omega, by
    have := P1.asm_le f []
    simp only [List.length_nil] at this
    show (Fm.asmB f []).size * 3 + 2000 ≤ _
    omega, P1.fn_nOf f []⟩
end Go.Proofs.YtfmljlflnpmceaaGreatDoor
/- Zero bytes, as a text; lower bits. -/
namespace Go.Proofs.YtfmljlflnpmceaaGreatDoor
open Go.RowKit
set_option linter.unusedVariables false
set_option linter.unusedSimpArgs false
def zz (k : Nat) : ByteArray := ⟨(List.replicate k (0 : UInt8)).toArray⟩
theorem zz_size (k : Nat) : (zz k).size = k := by simp [zz, ByteArray.size]
/-- make([]byte, k), and string of it -/
theorem mk_zero (k : Nat) (hk : k ≤ 1048576) : ∃ M : Array Value, (∀ W : World, (Instr.makeSlice 49 (.int .i64 (k : Int)) (.int .i64 (k : Int))).run Tryz.prog W = .ok (.slice (some ⟨W.heap.size, 0, none⟩) k k) (W.alloc (.cells M 5))) ∧
    ∀ (V : World) (B : Nat), V.heap[B]? = some (.cells M 5 (0, 0)) → Sem.run Tryz.prog (convert 49 9 (.slice (some ⟨B, 0, none⟩) k k)) V = .ok (.string (zz k)) V := by
  obtain ⟨i0, hi, hz0, hz1, hz2⟩ := info_parts Fm.info5
  obtain ⟨M, hM⟩ : ∃ M, M = madeCells (Value.int .u8 0).cells ((((k : Nat) : Int).toNat) * i0.size) := ⟨_, rfl⟩
  refine ⟨M, fun W => ?_, fun V B hB => ?_⟩
  · have h := run_make (P := Tryz.prog) W 49 5 i0 (.int .u8 0) Tryz.underlying49 hi hz0 .i64 .i64 (k : Int) (k : Int) (by omega) (by omega) (by rw [hz2]; omega) (by omega)
    rw [← hM] at h
    simpa using h
  · have hMl : M.toList = List.replicate k (.int .u8 0) := by
      rw [hM, hz1]
      simp only [madeCells, Value.cells, Nat.mul_one, Int.toNat_natCast]
      refine List.ext_getElem (by simp) fun j h1 h2 => ?_
      simp [Nat.mod_one]
    have hl : (List.replicate k (0 : UInt8)).length = k := List.length_replicate
    have h := run_convert_bytes_back (P := Tryz.prog) V 49 9 5 ⟨B, 0, none⟩ k (List.replicate k (0 : UInt8)) Tryz.underlying49 Tryz.underlying5 Tryz.underlying9 (fun j hj => by
      have hjk : j < k := by simpa using hj
      rw [Addr.add_lit, cell_blk hB, Nat.zero_add, ← Array.getElem?_toList, hMl]
      simp [hjk])
    rw [hl] at h
    exact h
/-- of any number: its lower bits -/
theorem and_any (n : Int) (p : Nat) (hp : p ≤ 62) : bits .and .i64 n ((2 ^ p - 1 : Nat) : Int) = n % ((2 ^ p : Nat) : Int) := by
  have hpp : 2 ^ p < 2 ^ 63 := Nat.pow_lt_pow_right (by decide) (by omega)
  have hpos : 0 < 2 ^ p := Nat.two_pow_pos p
  have hd : 2 ^ p ∣ 2 ^ 64 := Nat.pow_dvd_pow 2 (by omega)
  have hb : (BitVec.ofInt 64 ((2 ^ p - 1 : Nat) : Int)).toNat = 2 ^ p - 1 := by
    rw [BitVec.ofInt_natCast, BitVec.toNat_ofNat]; exact Nat.mod_eq_of_lt (by omega)
  have ha : (BitVec.ofInt 64 n).toNat = (n % ((2 ^ 64 : Nat) : Int)).toNat := BitVec.toNat_ofInt n
  have key : (n % ((2 ^ 64 : Nat) : Int)).toNat % 2 ^ p = (n % ((2 ^ p : Nat) : Int)).toNat := by
    have h1 : 0 ≤ n % ((2 ^ 64 : Nat) : Int) := Int.emod_nonneg _ (by decide)
    have h2 : 0 ≤ n % ((2 ^ p : Nat) : Int) := Int.emod_nonneg _ (by omega)
    apply Int.ofNat.inj
    show (((n % ((2 ^ 64 : Nat) : Int)).toNat % 2 ^ p : Nat) : Int) = (((n % ((2 ^ p : Nat) : Int)).toNat : Nat) : Int)
    rw [Int.natCast_emod, Int.toNat_of_nonneg h1, Int.toNat_of_nonneg h2]
    exact Int.emod_emod_of_dvd n (Int.natCast_dvd_natCast.2 hd)
  have h2 : 0 ≤ n % ((2 ^ p : Nat) : Int) := Int.emod_nonneg _ (by omega)
  have h3 : n % ((2 ^ p : Nat) : Int) < ((2 ^ p : Nat) : Int) := Int.emod_lt_of_pos _ (by omega)
  show IntKind.i64.wrap (((BitVec.ofInt 64 n) &&& (BitVec.ofInt 64 ((2 ^ p - 1 : Nat) : Int))).toNat : Int) = _
  rw [BitVec.toNat_and, ha, hb, Nat.and_two_pow_sub_one_eq_mod, key, Int.toNat_of_nonneg h2]
  exact wraps_i64_63 _ h2 (by omega)
end Go.Proofs.YtfmljlflnpmceaaGreatDoor
/- Logs without params: copied, made longer, judged, turned. -/
namespace Go.Proofs.YtfmljlflnpmceaaGreatDoor
open Go.RowKit
set_option linter.unusedVariables false
set_option linter.unusedSimpArgs false
theorem cut_rest {P G : Prop} (h1 : Hid P → G) (h2 : P) : G := h1 h2
theorem in_nil {V V' : World} {p : Value} (h : In EP V p []) : In EP V' p [] := by
  rcases h with h | ⟨a, cap, h1, h2, h3, h4⟩
  · exact .inl h
  · exact .inr ⟨a, cap, h1, h2, h3, fun j u hu => by simp [El.cs] at hu⟩
/-- entries without params that may be judged -/
def NoP (L : List Et) : Prop := ∀ e ∈ L, Eo e ∧ e.ps = []
theorem NoP.snoc {L : List Et} {e : Et} (h : NoP L) (h1 : Eo e) (h2 : e.ps = []) : NoP (L ++ [e]) := fun x hx => (List.mem_append.1 hx).elim (h x) fun hx => by rw [List.mem_singleton.1 hx]; exact ⟨h1, h2⟩
/-- a log in memory, in a row made since w -/
def Lo (w V : World) (z : Value) (L : List Et) : Prop := ∃ ys : List Ec, R EE V z ys ∧ ys.map (·.e) = L ∧ (∀ y ∈ ys, In EP V y.p []) ∧ ∀ k, z.ownBlock = some k → w.heap.size ≤ k
theorem Lo.below {w V V' : World} {z : Value} {L : List Et} (h : Lo w V z L) (hb : Below V.heap.size V V') : Lo w V' z L := by
  obtain ⟨ys, h1, h2, h3, h4⟩ := h
  exact ⟨ys, h1.below hb, h2, fun y hy => in_nil (h3 y hy), h4⟩
theorem Lo.ty {w V : World} {z : Value} {L : List Et} (h : Lo w V z L) : ∀ k, z.ownBlock = some k → ∃ c, V.heap[k]? = some (.cells c 33 (0, 0)) := by
  obtain ⟨ys, h1, h2, h3, h4⟩ := h
  exact h1.ty
theorem lo_own (w : World) (xs : List Ec) (v : Value) (V : World) (hw : w.heap.size ≤ V.heap.size) (hv : In EE V v xs) (hp : ∀ x ∈ xs, In EP V x.p [] ∧ x.e.ps = []) (hlen : xs.length ≤ 1073741824) :
    Calls Tryz.prog 10 #[v] V fun r V' => ∃ z, r = .returned z ∧ Lo w V' z (xs.map (·.e)) ∧ (∀ k, z.ownBlock = some k → V.heap.size ≤ k) ∧ Below V.heap.size V V' := by
  refine (own_any xs v V hv (fun x hx => by rw [(hp x hx).2]; exact ⟨(hp x hx).1, by simp⟩) hlen).mono ?_
  rintro r V' ⟨z, ys, rfl, h1, h2, h3, h4, h5⟩
  rw [List.take_length] at h2
  refine ⟨z, rfl, ⟨ys, h1, h2, fun y hy => ?_, fun k hk => Nat.le_trans hw (h4 k hk)⟩, h4, h5⟩
  have hm : y.e ∈ xs.map (·.e) := by rw [← h2]; exact List.mem_map_of_mem hy
  obtain ⟨x, hx, e⟩ := List.mem_map.1 hm
  have := (h3 y hy).1.isIn
  rw [← e, (hp x hx).2] at this
  exact this
theorem lo_own' (w V : World) (z : Value) (L : List Et) (h : Lo w V z L) (hw : w.heap.size ≤ V.heap.size) (hL : NoP L) (hlen : L.length ≤ 1073741824) :
    Calls Tryz.prog 10 #[z] V fun r V' => ∃ z', r = .returned z' ∧ Lo w V' z' L ∧ (∀ k, z'.ownBlock = some k → V.heap.size ≤ k) ∧ Below V.heap.size V V' := by
  obtain ⟨ys, h1, rfl, h3, h4⟩ := h
  exact lo_own w ys z V hw h1.isIn (fun y hy => ⟨h3 y hy, (hL y.e (List.mem_map_of_mem hy)).2⟩) (by rw [List.length_map] at hlen; omega)
set_option maxRecDepth 100000 in
theorem lo_app (w V : World) (z : Value) (L : List Et) (h : Lo w V z L) (hw : w.heap.size ≤ V.heap.size) (es : List Et) (hes : ∀ e ∈ es, e.ps = []) (qv : Nat) (c : Array Value) (hq : V.heap[qv]? = some (.cells c 33 (0, 0))) (hc : c.toList = EE.cs (es.map e0)) (hlen : L.length + es.length ≤ 1073741824) :
    ∃ z' V', (Builtin.append_ #[22, 22] 22 #[z, .slice (some ⟨qv, 0, none⟩) es.length es.length]).run Tryz.prog V = .ok z' V' ∧ Lo w V' z' (L ++ es) ∧ Gr V V' z z' := by
  obtain ⟨ys, h1, rfl, h3, h4⟩ := h
  rw [List.length_map] at hlen
  have hin : In EE V (.slice (some ⟨qv, 0, none⟩) es.length es.length) (es.map e0) := by
    refine .inr ⟨_, es.length, by rw [List.length_map], by rw [List.length_map]; exact Nat.le_refl _, by omega, fun j u hu => ?_⟩
    rw [Addr.add_lit, cell_blk hq, Nat.zero_add, ← Array.getElem?_toList, hc]
    exact hu
  obtain ⟨nb, nc, V', hrun, hR, hG⟩ := app okEE V z ys h1 _ (es.map e0) hin (by
    rw [List.length_map, show EE.by' = 120 from rfl]
    omega)
  refine ⟨_, V', hrun, ⟨ys ++ es.map e0, hR, ?_, fun y hy => ?_, fun k hk => (hG.own k hk).elim (h4 k) fun e => ?_⟩, hG⟩
  · rw [List.map_append, List.map_map]
    congr 1
    exact List.map_id _
  · rcases List.mem_append.1 hy with hy | hy
    · exact in_nil (h3 y hy)
    · obtain ⟨e, _, rfl⟩ := List.mem_map.1 hy
      exact .inl ⟨rfl, rfl⟩
  · omega
theorem lo_check (w0 w V : World) (z : Value) (L : List Et) (h : Lo w V z L) (hL : NoP L) (hlen : L.length ≤ 1073741824) (hs : Std V) (hK : Fm.Kinds V) (h2 : 2 ≤ V.heap.size) (c : Bool) (q : Int × Int) (hq : checkS L c = q) :
    Calls Tryz.prog 9 #[z, .bool c] V fun r V' => r = .returned (.tuple #[.int .i64 q.1, .int .i64 q.2]) ∧ Below V.heap.size V V' := by
  obtain ⟨ys, h1, rfl, h3, h4⟩ := h
  have := check_any ys z c V h1.isIn (fun y hy => by
    have hm := hL y.e (List.mem_map_of_mem hy)
    exact hm.1.ok (by rw [hm.2]; exact h3 y hy)) hs hK h2 (by rw [List.length_map] at hlen; omega)
  rw [hq] at this
  exact this
theorem lo_turn (w V : World) (z : Value) (L : List Et) (h : Lo w V z L) (hw : w.heap.size ≤ V.heap.size) (hL : NoP L) (hlen : L.length ≤ 1073741824) :
    Calls Tryz.prog 19 #[z] V fun r V' => ∃ z', r = .returned z' ∧ Lo w V' z' (L.map Et.flip) ∧ Below V.heap.size V V' := by
  obtain ⟨ys, h1, rfl, h3, h4⟩ := h
  refine (turn_any ys z V h1.isIn (fun x hx => by
    have := (hL x.e (List.mem_map_of_mem hx)).2
    rw [this]
    exact ⟨h3 x hx, by simp⟩) (by rw [List.length_map] at hlen; omega)).mono ?_
  rintro r V' ⟨z', zs, rfl, ⟨f1, f2, f3, f4⟩, hm⟩
  refine ⟨z', rfl, ⟨zs.map Ec.flip, ?_, ?_, fun y hy => ?_, fun k hk => Nat.le_trans hw (f3 k hk)⟩, f4⟩
  · have : Tl zs.length zs = zs.map Ec.flip := by simp [Tl]
    rw [← this]
    exact f1
  · rw [List.map_map, ← hm, List.map_map]
    rfl
  · obtain ⟨x, hx, rfl⟩ := List.mem_map.1 hy
    have h5 := (f2 x hx).isIn
    have hm2 : x.e ∈ ys.map (·.e) := by rw [← hm]; exact List.mem_map_of_mem hx
    have := (hL x.e hm2).2
    rw [this] at h5
    exact h5
/-- a frame of DATA, in its box -/
abbrev fbx (fl : Int) (d : ByteArray) (pad : Int) : Array Value := #[.int .i64 0, .int .i64 fl, .int .i64 1, .string d, .int .i64 pad, .int .i64 0, .bool false, .int .i64 0, .int .i64 0, .int .i64 0, .slice none 0 0]
/-- what lies in memory behind the boxes -/
structure Wn (w V : World) (b : Nat) (u : Value) (T : List Et) (q1 q3 q6 : Nat) (d1 d3 d6 : ByteArray) (pd : Int) : Prop where
  tk : Tk w V b u T 3 2
  g1 : V.heap[q1]? = some (.cells (fbx 0 d1 0) 31 (0, 0))
  g3 : V.heap[q3]? = some (.cells (fbx 0 d3 0) 31 (0, 0))
  g6 : V.heap[q6]? = some (.cells (fbx 8 d6 pd) 31 (0, 0))
theorem Wn.below {w V V' : World} {b : Nat} {u : Value} {T : List Et} {q1 q3 q6 : Nat} {d1 d3 d6 : ByteArray} {pd : Int} (h : Wn w V b u T q1 q3 q6 d1 d3 d6 pd) (hb : Below V.heap.size V V') : Wn w V' b u T q1 q3 q6 d1 d3 d6 pd :=
  ⟨h.tk.below hb, (hb.block _ (heap_lt h.g1)).trans h.g1, (hb.block _ (heap_lt h.g3)).trans h.g3, (hb.block _ (heap_lt h.g6)).trans h.g6⟩
theorem Wn.own {w V : World} {b : Nat} {u : Value} {T : List Et} {q1 q3 q6 : Nat} {d1 d3 d6 : ByteArray} {pd : Int} (h : Wn w V b u T q1 q3 q6 d1 d3 d6 pd) (hT : NoP T) (hlen : T.length ≤ 1073741824) :
    Calls Tryz.prog 10 #[u] V fun r V' => ∃ z, r = .returned z ∧ Lo w V' z T ∧ (∀ k, z.ownBlock = some k → V.heap.size ≤ k) ∧ Below V.heap.size V V' := by
  have := lo_own w (T.map e0) u V h.tk.bel.size h.tk.row.isIn (fun x hx => by
    obtain ⟨y, hy, rfl⟩ := List.mem_map.1 hx
    exact ⟨.inl ⟨rfl, rfl⟩, (hT y hy).2⟩) (by simpa using hlen)
  rw [List.map_map, show ((fun x : Ec => x.e) ∘ e0) = id from rfl, List.map_id] at this
  exact this
theorem NoP.flip {L : List Et} (h : NoP L) (hf : ∀ e ∈ L, Eo e.flip) : NoP (L.map Et.flip) := fun x hx => by
  obtain ⟨y, hy, rfl⟩ := List.mem_map.1 hx
  exact ⟨hf y hy, (h y hy).2⟩
end Go.Proofs.YtfmljlflnpmceaaGreatDoor
/- The logs of TraceWindows and what Check says of them. -/
namespace Go.Proofs.YtfmljlflnpmceaaGreatDoor
open Go.RowKit
set_option linter.unusedVariables false
set_option linter.unusedSimpArgs false
/-- the talk as far as the body -/
def tkL (l : List ByteArray) : List Et := opL ++ heE :: l.map daE
theorem tkL_len (l : List ByteArray) : (tkL l).length = 5 + l.length := by unfold tkL; simp [opL]; omega
theorem i64_s {n : Int} (h0 : -10 ≤ n) (h1 : n ≤ 2147483647) : I64 n := by unfold I64; omega
theorem i1 : I64 1 := i64_s (by decide) (by decide)
theorem i0 : I64 0 := i64_s (by decide) (by decide)
theorem eo_da (d : ByteArray) (h : d.size ≤ 1048576) : Eo (daE d) := by rw [← mk_da]; exact eo_mk true _ i1 i0 h
theorem eo_daf (d : ByteArray) (h : d.size ≤ 1048576) : Eo (daE d).flip := by
  have := eo_mk false (frT 0 0 1 d 0 0) i1 i0 h
  unfold mkE at this
  rw [nOf_da] at this
  exact this
theorem eo_pa (d : ByteArray) (pad : Int) (hp : 0 ≤ pad ∧ pad < 256) (h : d.size ≤ 1048576) : Eo (paE d pad) := by rw [← mk_pa d pad hp]; exact eo_mk true _ i1 i0 h
theorem eo_up (st n : Int) (h : st = 0 ∨ st = 1) (hn : 0 ≤ n ∧ n < 2147483648) : Eo (upE st n) := by
  rw [← mk_up st n h hn]
  exact eo_mk false _ (i64_s (by show -10 ≤ st; omega) (by show st ≤ _; omega)) (i64_s (by show -10 ≤ n; omega) (by show n ≤ _; omega)) (by show 0 ≤ _; omega)
theorem eo_upf (st n : Int) (h : st = 0 ∨ st = 1) (hn : 0 ≤ n ∧ n < 2147483648) : Eo (upE st n).flip := by
  have := eo_mk true (frT 8 0 st ⟨#[]⟩ 0 n) (i64_s (by show -10 ≤ st; omega) (by show st ≤ _; omega)) (i64_s (by show -10 ≤ n; omega) (by show n ≤ _; omega)) (by show 0 ≤ _; omega)
  unfold mkE at this
  rw [nOf_up st n h hn] at this
  exact this
theorem eo_he (s : Bool) : Eo ⟨s, frT 1 4 1 ⟨#[104]⟩ 0 0, [], some 10⟩ := by
  have := eo_mk s (frT 1 4 1 ⟨#[104]⟩ 0 0) i1 i0 (by decide)
  unfold mkE at this
  rw [nOf_he] at this
  exact this
theorem right_se (fl : Int) (h : fl = 0 ∨ fl = 1) : Fm.Right (frT 4 fl 0 ⟨#[]⟩ 0 0) [] := by
  rcases h with rfl | rfl
  · refine ⟨by simp [frT], by simp [frT], by simp [frT], by simp [frT], by show bits .and .i64 0 (Fm.kflags 4) = 0; decide, by show Fm.kfrom 4 ≤ 0; decide, by show (0 : Int) ≤ Fm.kto 4; decide, ?_, ?_⟩
    · rw [if_neg (by show ¬ (decide ((4 : Int) < 10) && Fm.hasF 0 8) = true; decide)]
      rfl
    · show Fm.BodyR (Fm.kd 4 0).1 (Fm.kd 4 0).2.2.2 _ _
      rw [show Fm.kd 4 0 = (118, 6, 98, 99) by decide]
      unfold Fm.BodyR
      simp [frT]
  · refine ⟨by simp [frT], by simp [frT], by simp [frT], by simp [frT], by show bits .and .i64 1 (Fm.kflags 4) = 1; decide, by show Fm.kfrom 4 ≤ 0; decide, by show (0 : Int) ≤ Fm.kto 4; decide, ?_, ?_⟩
    · rw [if_neg (by show ¬ (decide ((4 : Int) < 10) && Fm.hasF 1 8) = true; decide)]
      rfl
    · show Fm.BodyR (Fm.kd 4 1).1 (Fm.kd 4 1).2.2.2 _ _
      rw [show Fm.kd 4 1 = (117, 0, 98, 99) by decide]
      unfold Fm.BodyR
      simp [frT]
theorem eo_se (s : Bool) (fl : Int) (h : fl = 0 ∨ fl = 1) : Eo (seE s fl) := by
  have h1 := eo_mk s (frT 4 fl 0 ⟨#[]⟩ 0 0) i0 i0 (by show 0 ≤ 1048576; decide)
  unfold mkE at h1
  have : P1.nOf (frT 4 fl 0 ⟨#[]⟩ 0 0) [] = some 9 := by
    refine nOf_right (right_se fl h) ?_
    rcases h with rfl | rfl <;> rw [Fm.asmB_size] <;> decide
  rw [this] at h1
  exact h1
theorem nop_op (l : List ByteArray) (h : ∀ d ∈ l, d.size ≤ 16384) : NoP (tkL l) := fun e he => by
  unfold tkL opL at he
  simp only [List.mem_append, List.mem_cons, List.not_mem_nil, or_false, List.mem_map] at he
  rcases he with (rfl | rfl | rfl | rfl) | (rfl | ⟨d, hd, rfl⟩)
  · exact ⟨eo_se _ _ (.inl rfl), rfl⟩
  · exact ⟨eo_se _ _ (.inl rfl), rfl⟩
  · exact ⟨eo_se _ _ (.inr rfl), rfl⟩
  · exact ⟨eo_se _ _ (.inr rfl), rfl⟩
  · exact ⟨eo_he true, rfl⟩
  · exact ⟨eo_da d (by have := h d hd; omega), rfl⟩
theorem nopf_op (l : List ByteArray) (h : ∀ d ∈ l, d.size ≤ 16384) : ∀ e ∈ tkL l, Eo e.flip := fun e he => by
  unfold tkL opL at he
  simp only [List.mem_append, List.mem_cons, List.not_mem_nil, or_false, List.mem_map] at he
  rcases he with (rfl | rfl | rfl | rfl) | (rfl | ⟨d, hd, rfl⟩)
  · exact eo_se false _ (.inl rfl)
  · exact eo_se true _ (.inl rfl)
  · exact eo_se false _ (.inr rfl)
  · exact eo_se true _ (.inr rfl)
  · exact eo_he false
  · exact eo_daf d (by have := h d hd; omega)
theorem upd_conn_v (a b n : Int) (h1 : 1 ≤ n) (h2 : 0 ≤ a ∧ a + n ≤ 2147483647) : (Kv a b).take ((upE 0 n).flip) = (Kv (a + n) b, 0) := by
  have hg : gvN a n = a + n ∧ gvC a n = 0 := by
    have : sf a n = true := by unfold sf; simp; omega
    have hn : ¬ n < 1 := by omega
    unfold gvN gvC sfN sfC
    simp only [if_neg hn, if_pos this]
    exact ⟨trivial, trivial⟩
  have ht : (Kv a b).take ((upE 0 n).flip) = (Kv a b).update ((upE 0 n).flip) := by
    have hu : ((Kv a b).upd true fun w => { w with bg := true }) = Kv a b := Lk.ext2 rfl fun s => by cases s <;> rfl
    show (((Kv a b).upd true fun w => { w with bg := true }).byType ((upE 0 n).flip)) = _
    rw [hu]
    rfl
  rw [ht]
  unfold Lk.update
  rw [if_neg (by show ¬ n = 0; omega), if_pos (by rfl)]
  refine Prod.ext (Lk.ext2 rfl fun s => ?_) hg.2
  cases s
  · show ({ wT a b with rm := gvN a n } : Wy) = wT (a + n) b
    rw [hg.1]
    rfl
  · rfl
theorem upd_str_v (a b n : Int) (h1 : 1 ≤ n) (h2 : 0 ≤ b ∧ b + n ≤ 2147483647) : (Kv a b).take ((upE 1 n).flip) = (Kv a (b + n), 0) := by
  have hg : gvN b n = b + n ∧ gvC b n = 0 := by
    have : sf b n = true := by unfold sf; simp; omega
    have hn : ¬ n < 1 := by omega
    unfold gvN gvC sfN sfC
    simp only [if_neg hn, if_pos this]
    exact ⟨trivial, trivial⟩
  have ht : (Kv a b).take ((upE 1 n).flip) = (Kv a b).update ((upE 1 n).flip) := by
    have hu : ((Kv a b).upd true fun w => { w with bg := true }) = Kv a b := Lk.ext2 rfl fun s => by cases s <;> rfl
    show (((Kv a b).upd true fun w => { w with bg := true }).byType ((upE 1 n).flip)) = _
    rw [hu]
    rfl
  rw [ht]
  have hh : (Kv a b).happen true 1 7 = (Kv a b, 0, false) := by
    unfold Lk.happen
    refine Prod.ext (Lk.ext2 rfl fun s => ?_) rfl
    cases s <;> rfl
  unfold Lk.update
  rw [if_neg (by show ¬ n = 0; omega), if_neg (by show ¬ (1 : Int) = 0; decide), if_neg (by show ¬ (true && (Kv a b).T.st 1 == 6) = true; exact Bool.false_ne_true)]
  have hh' : (Kv a b).happen ((upE 1 n).flip).s ((upE 1 n).flip).f.st 7 = (Kv a b, 0, false) := hh
  simp only [hh']
  rw [if_neg (by simp), if_neg (by simp)]
  have hlk : (look ((Kv a b).wy (!((upE 1 n).flip).s)).rw ((upE 1 n).flip).f.st).getD 0 = b := rfl
  rw [hlk]
  refine Prod.ext (Lk.ext2 rfl fun s => ?_) hg.2
  cases s
  · show ({ wT a b with rw := putm [(1, b)] 1 (gvN b n) } : Wy) = wT a (b + n)
    rw [hg.1]
    rfl
  · rfl
/-- the logs that are judged, and the answers -/
theorem win_all (l : List ByteArray) (f o p q : ByteArray) (pad give rest : Int) (hl : ∀ d ∈ l, d.size ≤ 16384) (hs : sumD l + rest = 65535) (hr : 0 ≤ rest ∧ rest ≤ 16383) (hf : (f.size : Int) = rest) (ho : (o.size : Int) = rest + 1) (hpad : 0 ≤ pad ∧ pad ≤ 255) (hp : (p.size : Int) = max 0 (rest - pad)) (hg : 1 ≤ give ∧ give ≤ 16384) (hq : (q.size : Int) = give) (m : Nat) (hm : 5 + l.length = m) :
    (checkS (tkL l ++ [daE f]) true = (-1, 0) ∧ checkS (tkL l ++ [daE o]) true = ((m : Int), 3) ∧ checkS ((tkL l ++ [daE o]).map Et.flip) false = ((m : Int), 3) ∧ checkS (tkL l ++ [paE p pad]) true = ((m : Int), 3) ∧ checkS (tkL l ++ [daE f] ++ [upE 0 give] ++ [daE q]) true = (((m + 2 : Nat) : Int), 3) ∧
      checkS (tkL l ++ [daE f] ++ [upE 0 give] ++ [upE 1 give, daE q]) true = (-1, 0) ∧ checkS ((tkL l ++ [daE f] ++ [upE 0 give] ++ [upE 1 give, daE q]).map Et.flip) false = (-1, 0)) ∧
    (NoP (tkL l) ∧ NoP (tkL l ++ [daE f]) ∧ NoP (tkL l ++ [daE o]) ∧ NoP ((tkL l ++ [daE o]).map Et.flip) ∧ NoP (tkL l ++ [paE p pad]) ∧ NoP (tkL l ++ [daE f] ++ [upE 0 give]) ∧ NoP (tkL l ++ [daE f] ++ [upE 0 give] ++ [daE q]) ∧ NoP (tkL l ++ [daE f] ++ [upE 0 give] ++ [upE 1 give, daE q]) ∧ NoP ((tkL l ++ [daE f] ++ [upE 0 give] ++ [upE 1 give, daE q]).map Et.flip)) := by
  obtain ⟨c1, c2, c3, c4, c5, c6⟩ := win_facts l f o p q pad give rest hl hs hr hf ho hpad hp hg hq
  rw [hm] at c2 c3 c4 c5
  have z : ∀ r, tkL l ++ r = opL ++ heE :: (l.map daE ++ r) := fun r => by unfold tkL; simp
  have l6 : tkL l ++ [daE f] ++ [upE 0 give] ++ [upE 1 give, daE q] = tkL l ++ [daE f, upE 0 give, upE 1 give, daE q] := by simp
  have l5 : tkL l ++ [daE f] ++ [upE 0 give] ++ [daE q] = tkL l ++ [daE f, upE 0 give, daE q] := by simp
  have g0 : 0 ≤ give ∧ give < 2147483648 := by omega
  have n0 := nop_op l hl
  have nf := nopf_op l hl
  have e1 := eo_da f (by omega)
  have e2 := eo_da o (by omega)
  have e3 := eo_pa p pad (by omega) (by omega)
  have e4 := eo_da q (by omega)
  have u0 := eo_up 0 give (.inl rfl) g0
  have u1 := eo_up 1 give (.inr rfl) g0
  have n1 := n0.snoc e1 rfl
  have n2 := n1.snoc u0 rfl
  have h6 : checkS (tkL l ++ [daE f] ++ [upE 0 give] ++ [upE 1 give, daE q]) true = (-1, 0) := by rw [l6, z]; exact c6
  have n6 : NoP (tkL l ++ [daE f] ++ [upE 0 give] ++ [upE 1 give, daE q]) := by
    have := (n2.snoc u1 rfl).snoc e4 rfl
    simpa using this
  have mem6 : ∀ e ∈ tkL l ++ [daE f] ++ [upE 0 give] ++ [upE 1 give, daE q], e ∈ tkL l ∨ e = daE f ∨ e = upE 0 give ∨ e = upE 1 give ∨ e = daE q := fun e he => by
    rw [l6] at he
    simpa using he
  refine ⟨⟨by rw [z]; exact c1, by rw [z]; exact c2, ?_, by rw [z]; exact c4, by rw [l5, z]; exact c5, h6, ?_⟩, ⟨n0, n1, n0.snoc e2 rfl, NoP.flip (n0.snoc e2 rfl) fun e he => ?_, n0.snoc e3 rfl, n2, n2.snoc e4 rfl, n6, NoP.flip n6 fun e he => ?_⟩⟩
  · have : (tkL l ++ [daE o]).map Et.flip = (opL ++ [heE]).map Et.flip ++ ((l.map daE).map Et.flip ++ [(daE o).flip]) := by unfold tkL; simp
    rw [this]
    exact c3
  · have e6 : (tkL l ++ [daE f] ++ [upE 0 give] ++ [upE 1 give, daE q]).map Et.flip = (opL ++ [heE]).map Et.flip ++ (((l ++ [f]).map daE).map Et.flip ++ [(upE 0 give).flip, (upE 1 give).flip, (daE q).flip]) := by unfold tkL; simp
    have hfl : ∀ d ∈ l ++ [f], d.size ≤ 16384 := fun d hd => by
      rcases List.mem_append.1 hd with hd | hd
      · exact hl d hd
      · rw [List.mem_singleton.1 hd]; omega
    have hsf : sumD (l ++ [f]) = 65535 := by
      have : sumD (l ++ [f]) = sumD l + f.size := by unfold sumD; simp
      omega
    rw [e6, open_head_v, data_all_v (l ++ [f]) _ _ _ 5 hfl (by omega) (by omega), hsf]
    have st : ∀ (k k' : Lk) (e : Et) (r : List Et) (i : Nat), k.take e = (k', 0) → chk k (e :: r) i = chk k' r (i + 1) := fun k k' e r i h0 => by rw [chk_cons1, h0, if_pos rfl]
    rw [st _ _ _ _ _ (upd_conn_v _ _ give hg.1 (by omega)), st _ _ _ _ _ (upd_str_v _ _ give hg.1 (by omega))]
    have := data_all_v [q] [] (65535 - 65535 + give) (65535 - 65535 + give) (5 + (l ++ [f]).length + 1 + 1) (fun d hd => by rw [List.mem_singleton.1 hd]; omega) (by simp [sumD]; omega) (by simp [sumD]; omega)
    simp only [List.map_cons, List.map_nil, List.append_nil] at this
    rw [this]
    rfl
  · rcases List.mem_append.1 he with h | h
    · exact nf e h
    · rw [List.mem_singleton.1 h]; exact eo_daf o (by omega)
  · rcases mem6 e he with h | rfl | rfl | rfl | rfl
    · exact nf e h
    · exact eo_daf f (by omega)
    · exact eo_upf 0 give (.inl rfl) g0
    · exact eo_upf 1 give (.inr rfl) g0
    · exact eo_daf q (by omega)
end Go.Proofs.YtfmljlflnpmceaaGreatDoor
