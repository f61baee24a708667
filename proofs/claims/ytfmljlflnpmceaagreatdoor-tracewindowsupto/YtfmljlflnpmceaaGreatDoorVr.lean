import Derived.Test.YtfmljlflnpmceaaGreatDoorFBbad
import Derived.Test.YtfmljlflnpmceaaGreatDoorFBfA
import Derived.Test.YtfmljlflnpmceaaGreatDoorFBfN
import Derived.Test.YtfmljlflnpmceaaGreatDoorFBtA
import Derived.Test.YtfmljlflnpmceaaGreatDoorFBtB
import Derived.Test.YtfmljlflnpmceaaGreatDoorFBtN
import Derived.Deep.RegionLaw
/- parse, whole. -/
namespace Go.Proofs.YtfmljlflnpmceaaGreatDoor.Fm
open Go.RowKit
set_option linter.unusedVariables false
set_option linter.unusedSimpArgs false

def tyS (b : ByteArray) : Int := (byteAt b 3 : Int)
def stS (b : ByteArray) : Int := (numS (b.extract 5 9) : Int) % 2147483648
def kiS (b : ByteArray) : Nat := (min (tyS b) 10).toNat
def flS (b : ByteArray) : Int := bits .and .i64 (byteAt b 4 : Int) (kflags (kiS b))
def pdS (b : ByteArray) : Bool := decide (tyS b < 10) && hasF (flS b) 8
/-- what parse tells -/
def parseS (b : ByteArray) : (Fr × List (Int × Int)) × Int × Int := parseB (tyS b) (stS b) (flS b) (kiS b) (pdS b) (b.extract 9 b.size) (kd (tyS b) (flS b))

theorem pad68_all : ((List.range 10).all fun n => (List.range 256).all fun x => !hasF (bits .and .i64 (x : Int) (kflags n)) 8 || (kd (n : Int) (bits .and .i64 (x : Int) (kflags n))).1 == 116) = true := by decide +kernel

theorem pad68 (b : ByteArray) (h : pdS b = true) : (kd (tyS b) (flS b)).1 = 116 := by
  unfold pdS at h
  rw [Bool.and_eq_true, decide_eq_true_eq] at h
  obtain ⟨h1, h2⟩ := h
  have hn : kiS b = byteAt b 3 := by unfold kiS tyS at *; omega
  have hlt : byteAt b 3 < 10 := by unfold tyS at h1; omega
  have ha := List.all_eq_true.1 pad68_all (byteAt b 3) (by simpa using hlt)
  have hb := List.all_eq_true.1 ha (byteAt b 4) (by simpa using byteAt_lt b 4)
  unfold flS at h2 ⊢
  unfold tyS
  rw [hn] at h2 ⊢
  rw [h2] at hb
  simpa using hb

theorem parse_any (b : ByteArray) (w : World) (hs : 9 ≤ b.size) (hw : 2 ≤ w.heap.size) (hK : Kinds w) (hlim : b.size ≤ 140737488355328) (hl2 : (kd (tyS b) (flS b)).2.2.2 = 99 → b.size / 6 * 16 ≤ 140737488355328) :
    Calls Tryz.prog 50 #[.string b] w fun e w' => PPost w (parseS b) e w' := by
  have h68 := pad68 b
  obtain ⟨k1, k2, k3, k4, hk⟩ : ∃ k1 k2 k3 k4, kd (tyS b) (flS b) = (k1, k2, k3, k4) := ⟨_, _, _, _, rfl⟩
  unfold parseS
  rw [hk] at hl2 h68 ⊢
  have hT : tyS b = (b[3].toNat : Int) := by unfold tyS; rw [byteAt_eq b 3 (by omega)]
  have hL : bits .and .i64 (b[4].toNat : Int) (kflags (kiS b)) = flS b := by unfold flS; rw [byteAt_eq b 4 (by omega)]
  by_cases hbad : stS b < kfrom (kiS b) ∨ kto (kiS b) < stS b
  · exact parse_bad b w hs hw hK hlim (tyS b) (stS b) (flS b) (kiS b) (pdS b) _ k1 k2 k3 k4 hT rfl rfl hL rfl rfl hk h68 hbad hl2
  · cases hp : pdS b with
    | false =>
      by_cases hA : ftS k1 k2 ((b.extract 9 b.size).size : Int) = true
      · exact parse_fA b w hs hw hK hlim (tyS b) (stS b) (flS b) (kiS b) false _ k1 k2 k3 k4 hT rfl rfl hL hp rfl hk (fun e => by cases e) hbad rfl hA hl2
      · exact parse_fN b w hs hw hK hlim (tyS b) (stS b) (flS b) (kiS b) false _ k1 k2 k3 k4 hT rfl rfl hL hp rfl hk (fun e => by cases e) hbad rfl (by simpa using hA) hl2
    | true =>
      have h1 : k1 = 116 := h68 hp
      by_cases hA : ftS k1 k2 (((b.extract 9 b.size).size : Int) - 1) = true
      · by_cases hB : ftS k1 k2 (((b.extract 9 b.size).size : Int) - (byteAt (b.extract 9 b.size) 0 : Int) - 1) = true
        · exact parse_tA b w hs hw hK hlim (tyS b) (stS b) (flS b) (kiS b) true _ k1 k2 k3 k4 hT rfl rfl hL hp rfl hk (fun _ => h1) hbad rfl hA hB hl2
        · exact parse_tB b w hs hw hK hlim (tyS b) (stS b) (flS b) (kiS b) true _ k1 k2 k3 k4 hT rfl rfl hL hp rfl hk (fun _ => h1) hbad rfl hA (by simpa using hB) hl2
      · exact parse_tN b w hs hw hK hlim (tyS b) (stS b) (flS b) (kiS b) true _ k1 k2 k3 k4 hT rfl rfl hL hp rfl hk (fun _ => h1) hbad rfl (by simpa using hA) hl2

end Go.Proofs.YtfmljlflnpmceaaGreatDoor.Fm
/- frame.Read. -/
namespace Go.Proofs.YtfmljlflnpmceaaGreatDoor.Fm
open Go.RowKit
set_option linter.unusedVariables false
set_option linter.unusedSimpArgs false

end Go.Proofs.YtfmljlflnpmceaaGreatDoor.Fm
/- Same of frames that are alike. -/
namespace Go.Proofs.YtfmljlflnpmceaaGreatDoor.Fm
open Go.RowKit
set_option linter.unusedVariables false
set_option linter.unusedSimpArgs false

theorem pcells_get (l : List (Int × Int)) (k : Nat) (h : k < l.length) : (pcells l)[k * 2]? = some (.int .i64 l[k].1) ∧ (pcells l)[k * 2 + 1]? = some (.int .i64 l[k].2) := by
  induction l generalizing k with
  | nil => exact absurd h (by simp)
  | cons x r ih =>
    cases k with
    | zero => exact ⟨rfl, rfl⟩
    | succ k =>
      have e : (k + 1) * 2 = k * 2 + 1 + 1 := by omega
      rw [e]
      have := ih k (by simpa using h)
      simpa [pcells] using this

theorem PRow.at {w : World} {o : Value} {l : List (Int × Int)} (h : PRow w o l) (k : Nat) (hk : k < l.length) : ∃ g cap, o = .slice (some ⟨g, 0, none⟩) l.length cap ∧ l.length ≤ cap ∧ cap ≤ 9223372036854775807 ∧
    w.cell? ⟨g, k * 2, none⟩ = some (.int .i64 l[k].1) ∧ w.cell? ⟨g, k * 2 + 1, none⟩ = some (.int .i64 l[k].2) := by
  have h' := h
  rcases h.2 with ⟨rfl, hn⟩ | ⟨g, cap, cur, rfl, _, hgg, hnc, hcm, hcs, htk⟩
  · omega
  · obtain ⟨h1, h2⟩ := pcells_get l k hk
    have d1 := World.ownsRow.cells h' (g := g) rfl _ _ h1
    have d2 := World.ownsRow.cells h' (g := g) rfl _ _ h2
    rw [Addr.add_lit, Nat.zero_add] at d1 d2
    exact ⟨g, cap, rfl, hnc, by unfold maxLen at hcm; omega, d1, d2⟩

end Go.Proofs.YtfmljlflnpmceaaGreatDoor.Fm
/- Rows of params: a part, a place set anew, made longer. -/
namespace Go.Proofs.YtfmljlflnpmceaaGreatDoor.Fm
open Go.RowKit
set_option linter.unusedVariables false
set_option linter.unusedSimpArgs false

/-- Params that an argument holds. -/
def PIn (w : World) (v : Value) (l : List (Int × Int)) : Prop :=
  (∃ b cap, v = .slice b 0 cap ∧ l = []) ∨ ∃ B off cap, v = .slice (some ⟨B, off, none⟩) l.length cap ∧ l.length ≤ cap ∧ cap ≤ 9223372036854775807 ∧ B < w.heap.size ∧
    ∀ k (h : k < l.length), w.cell? ⟨B, off + k * 2, none⟩ = some (.int .i64 l[k].1) ∧ w.cell? ⟨B, off + k * 2 + 1, none⟩ = some (.int .i64 l[k].2)
theorem PIn.below {w w' : World} {v : Value} {l : List (Int × Int)} (h : PIn w v l) (hb : Below w.heap.size w w') : PIn w' v l := by
  rcases h with h | ⟨B, off, cap, h1, h2, h3, h4, h5⟩
  · exact .inl h
  · refine .inr ⟨B, off, cap, h1, h2, h3, Nat.lt_of_lt_of_le h4 hb.size, fun k hk => ?_⟩
    have := h5 k hk
    exact ⟨(hb.cell h4).trans this.1, (hb.cell h4).trans this.2⟩

end Go.Proofs.YtfmljlflnpmceaaGreatDoor.Fm
/- assemble. -/
namespace Go.Proofs.YtfmljlflnpmceaaGreatDoor.Fm
open Go.RowKit
set_option linter.unusedVariables false
set_option linter.unusedSimpArgs false

theorem Gr.belowB {a b : World} {u v : Value} {B : Nat} (h : Gr a b u v) (hB : B ≤ a.heap.size) (hu : ∀ k, u.ownBlock = some k → B ≤ k) : Below B a b :=
  ⟨h.os, h.tape, h.output, h.size, fun k hk => h.block k (Nat.lt_of_lt_of_le hk hB) fun e => by have := hu k e; omega⟩

/-- a byte of a number -/
def b8 (x : Int) : UInt8 := UInt8.ofNat (x % 256).toNat
/-- the nine bytes ahead of a payload -/
def headS (f : Fr) (n : Nat) : List UInt8 := be 3 (n : Int) ++ [b8 f.ty, b8 f.fl] ++ be 4 (f.st % 2147483648)
theorem headS_length (f : Fr) (n : Nat) : (headS f n).length = 9 := by simp [headS, be_length]

/-- two bytes more, out of a new row -/
theorem put_two {wr : World} {o : Value} {l : List UInt8} (hR : Row wr o l) (x y : UInt8) (hl : l.length + 2 ≤ 140737488355328) :
    ∃ o' w', (Builtin.append_ #[49, 49] 49 #[o, .slice (some ⟨wr.heap.size, 0, none⟩) 2 2]).run Tryz.prog (wr.alloc (.cells #[.int .u8 (x.toNat : Int), .int .u8 (y.toNat : Int)] 5)) = .ok o' w' ∧ Row w' o' (l ++ [x, y]) ∧ Gr wr w' o o' := by
  have h := row_append (wr.alloc (.cells #[.int .u8 (x.toNat : Int), .int .u8 (y.toNat : Int)] 5)) o l (hR.alloc _) ⟨wr.heap.size, 0, none⟩ 2 [x, y] (by
    intro j u hj
    match j, hj with
    | 0, hj => simp [bs] at hj; subst hj; simp [Addr.add]
    | 1, hj => simp [bs] at hj; subst hj; simp [Addr.add]) (by simp; omega)
  obtain ⟨o', w', h1, h2, h3⟩ := h
  exact ⟨o', w', h1, h2, (Gr.alloc _ _ _).trans h3⟩

/-- string(b) of a row -/
theorem conv_row {w : World} {o : Value} {l : List UInt8} (h : Row w o l) : Sem.run Tryz.prog (convert 49 9 o) w = .ok (.string ⟨l.toArray⟩) w := by
  rcases h.2 with ⟨rfl, hn⟩ | ⟨g, cap, cur, rfl, _, hgg, hnc, hcm, hcs, htk⟩
  · obtain rfl := List.eq_nil_of_length_eq_zero hn
    simp [convert, go_sem, Tryz.underlying49, Tryz.underlying9, Tryz.underlying5, Conv.bytesToString]
    rfl
  · refine run_convert_bytes_back (P := Tryz.prog) w 49 9 5 ⟨g, 0, none⟩ cap l Tryz.underlying49 Tryz.underlying5 Tryz.underlying9 ?_
    intro j hj
    exact World.ownsRow.cells h (g := g) rfl j _ (by simp [bs, hj])

theorem field63 (x y z : Value) (W : World) : (Instr.field 125 (.agg #[x, y, z]) 1).run Tryz.prog W = .ok y W := by
  simp [Instr.field, run_underlying Tryz.underlying125, part, Tryz.isAgg122, asAgg]

set_option maxRecDepth 100000 in
set_option maxHeartbeats 1000000 in
theorem asm_plain (f : Fr) (pb : Option Addr) (pl pc : Nat) (w : World) (k1 : Nat) (k2 : Int) (k3 k4 : Nat) (D : List UInt8) (hkd : kd f.ty f.fl = (k1, k2, k3, k4)) (hpd : padS f = false)
    (hput : ∀ W : World, Below w.heap.size w W → Calls Tryz.prog k3 #[.slice none 0 0, .agg (fv f (.slice pb pl pc))] W fun e w' => ∃ o', e = .returned o' ∧ Row w' o' D ∧ Gr W w' (.slice none 0 0) o') (hlen : D.length + 100 ≤ 140737488355328) :
    Calls Tryz.prog 49 #[.agg (fv f (.slice pb pl pc))] w fun e w' => e = .returned (.string ⟨(headS f D.length ++ D).toArray⟩) ∧ Below w.heap.size w w' := by
  obtain ⟨_, hc3, _⟩ := kd_calls hkd
  have hpad : Hid (∀ W : World, Calls Tryz.prog 66 #[.agg (fv f (.slice pb pl pc))] W fun e w' => e = .returned (.bool false) ∧ w' = W.alloc (.cells (fv f (.slice pb pl pc)) 31)) := by
    intro W
    have h := padded_any f (.slice pb pl pc) W
    rw [hpd] at h
    exact h
  have hpay : Hid (∀ W : World, Calls Tryz.prog 67 #[.agg (fv f (.slice pb pl pc))] W fun e w' => e = .returned (.agg #[.func (.func k1) #[] #[.pointer (some ⟨W.heap.size + 1 + 1, 0, none⟩)], .func (.func k3) #[] #[], .func (.func k4) #[] #[]]) ∧ w' = ((W.alloc (.cells (fv f (.slice pb pl pc)) 31)).alloc (.cells #[.func (.func k1) #[] #[.pointer (some ⟨W.heap.size + 1 + 1, 0, none⟩)], .func (.func k3) #[] #[], .func (.func k4) #[] #[]] 125)).alloc (.cells #[.int .i64 k2] 3)) := by
    intro W
    have h := payloadOf_any f (.slice pb pl pc) W
    simp only [PayOf, hkd, pv] at h
    exact h
  have hfld := fun x y z W => field63 x y z W
  have HPUT : Hid _ := hput
  clear hput
  unfold fv at *
  go_enter Tryz.func49, Tryz.ntmps49
  go_upto_region 4 with (go_at_call 66; refine (hpad.out _).mono ?_; rintro e w' ⟨rfl, rfl⟩)
  go_cut [3] from 5 (fun x wx => Row wx x D ∧ (∀ k, x.ownBlock = some k → w.heap.size < k) ∧ FB wx w.heap.size f (.slice pb pl pc) ∧ Below w.heap.size w wx)
  case first =>
    go_region_law (go_simp; go_wp2_with (first | (go_at_call 67; refine (hpay.out _).mono ?_; rintro e w' ⟨rfl, rfl⟩) | (refine (HPUT.out _ (by (repeat (first | exact Below.refl _ _ | refine Below.drew ?_ | refine Below.alloc ?_ (by first | exact Nat.le_refl _ | (simp only [size_al, size_dr]; omega)) _)))).mono ?_; rintro e wz ⟨o', rfl, hz1, hz2⟩)))
    all_goals
      go_wp2_with fail
      go_meet
    all_goals
      exact ⟨hz1, fun k hk => Nat.lt_of_lt_of_le (by simp only [size_al, size_dr]; omega) (hz2.new k hk), (hz2.fresh.block _ (by simp only [size_al, size_dr]; omega)).trans (by (simp only [heap_al, heap_dr, size_al, size_dr]; repeat (first | rw [if_pos trivial] | rw [if_neg (by omega)] | rw [if_pos (by omega)])); rfl), Below.trans (by (repeat (first | exact Below.refl _ _ | refine Below.drew ?_ | refine Below.alloc ?_ (by first | exact Nat.le_refl _ | (simp only [size_al, size_dr]; omega)) _))) (hz2.fresh.mono (by simp only [size_al, size_dr]; omega))⟩
  case rest =>
    obtain ⟨hR, hfr, hF, hbel⟩ := hcut
    obtain ⟨ob, oc, rfl⟩ := hR.slice
    have hF' : Hid (FB wc w.heap.size f (.slice pb pl pc)) := hF
    obtain ⟨c0, c1, c2, c3, c4, c5, c6, c7, c8, c9, c10⟩ := hF.cells
    have hlt : w.heap.size < wc.heap.size := hF.lt
    clear hF
    go_wp2_with (first | (go_at_call 66; refine (hpad.out _).mono ?_; rintro e w' ⟨rfl, rfl⟩))
    refine (putNumber3 _ _ [] _ (Row.nil _) (by simp)).mono ?_
    rintro e w6 ⟨o2, rfl, hR2, hG2⟩
    rw [List.nil_append] at hR2
    have hb6 : Below wc.heap.size wc w6 := Below.trans ((Below.refl _ wc).alloc (Nat.le_refl _) _) (hG2.fresh.mono (by simp only [size_al]; omega))
    have hn2 : ∀ k, o2.ownBlock = some k → wc.heap.size < k := fun k hk => by have := hG2.new k hk; simp only [size_al] at this; omega
    have hF6 := hF'.out.below hb6
    have d0 := hF6.cells.1
    have d1 := hF6.cells.2.1
    obtain ⟨o3, w7, hrun3, hR3, hG3⟩ := put_two hR2 (b8 f.ty) (b8 f.fl) (by simp [be_length])
    rw [show ((b8 f.ty).toNat : Int) = f.ty % 256 from u8_int _, show ((b8 f.fl).toNat : Int) = f.fl % 256 from u8_int _] at hrun3
    replace hrun3 : Hid _ := hrun3
    have hk7 : ∀ k, k < wc.heap.size → w7.heap[k]? = w6.heap[k]? := fun k hk => hG3.block k (Nat.lt_of_lt_of_le hk hb6.size) (fun e => by have := hn2 k e; omega)
    have hF7 : FB w7 w.heap.size f (.slice pb pl pc) := (hk7 _ hlt).trans hF6
    have d2 := hF7.cells.2.2.1
    go_wp2_with (at_builtin; refine Lib.wpList_append_run _ rfl (.tmp 29) (.tmp 36) 49 49 rfl _ _ rfl rfl _ _ hrun3.out ?_)
    rw [and31]
    refine (putNumber4 w7 o3 _ _ hR3 (by simp [be_length])).mono ?_
    rintro e w8 ⟨o4, rfl, hR4, hG4⟩
    have hn3 : ∀ k, o3.ownBlock = some k → wc.heap.size ≤ k := fun k hk => (hG3.own k hk).elim (fun e => by have := hn2 k e; omega) fun hh => Nat.le_trans hb6.size hh
    have hn4 : ∀ k, o4.ownBlock = some k → wc.heap.size ≤ k := fun k hk => (hG4.own k hk).elim (hn3 k) fun hh => Nat.le_trans (Nat.le_trans hb6.size hG3.size) hh
    have hb7 : Below wc.heap.size wc w7 := hb6.trans (hG3.belowB hb6.size fun k hk => Nat.le_of_lt (hn2 k hk))
    have hb8 : Below wc.heap.size wc w8 := hb7.trans (hG4.belowB hb7.size hn3)
    obtain ⟨o5, w9, hrun5, hR5, hG5⟩ := row_append_row w8 o4 _ _ D hR4 (hR.below hb8) (by simp [be_length]; omega)
    have hb9 : Below w.heap.size w w9 := hbel.trans ((hb8.trans (hG5.belowB hb8.size hn4)).mono hbel.size)
    have hconv := conv_row hR5
    have hs : (be 3 (D.length : Int) ++ [b8 f.ty, b8 f.fl] ++ be 4 (f.st % 2147483648) ++ D) = headS f D.length ++ D := rfl
    rw [hs] at hconv
    replace hrun5 : Hid _ := hrun5
    clear hrun3 hR5 hG5 hR4 hG4 hR3 hG3 hR2 hG2 hR hs
    go_wp2_with (at_builtin; refine Lib.wpList_append_run _ rfl (.tmp 43) (.tmp 44) 49 49 rfl _ _ rfl rfl _ _ hrun5.out ?_)
    go_ret
    exact ⟨rfl, hb9⟩
end Go.Proofs.YtfmljlflnpmceaaGreatDoor.Fm
