/-
  Helper: the tables; the walk of decimal.read.
-/
import Derived.Test.YtpankmaljafnnaaGreatDoorDcOut
import Derived.Lib.ItoaMem
import Derived.Lib.LaidTab
import Derived.Lib.AtoiErrMem
import Derived.Shelf.SlSorted.Search
namespace Go.Proofs.YtpankmaljafnnaaGreatDoor
open Go.RowKit
set_option linter.unusedVariables false
set_option linter.unusedSimpArgs false

/-- the tables that the walks read: block 2 is strconv.ErrRange, block 5 the powers of ten -/
def Tabs (w : World) : Prop := 6 ≤ w.heap.size ∧ Lib.TabIs Tryz.prog w "internal/strconv.uint64pow10" .u64 Lib.pow10Tab ∧ ∃ ev, w.cell? ⟨2, 0, none⟩ = some ev ∧ (ev = .nilIface ∨ ∃ te pe, ev = .iface te pe)
theorem pow_global : Tryz.prog.globalNamed "internal/strconv.uint64pow10" = some 5 := by kernel_rfl
theorem Tabs.below {B : Nat} {w w' : World} (h : Tabs w) (hb : Below B w w') (hB : 6 ≤ B) : Tabs w' := by
  obtain ⟨h1, h4, ev, h5, h6⟩ := h
  refine ⟨Nat.le_trans h1 hb.size, ?_, ev, ?_, h6⟩
  · unfold Lib.TabIs World.var? at *
    rw [pow_global] at h4 ⊢
    simp only [Option.bind_some] at h4 ⊢
    rw [hb.block 5 (by omega)]
    exact h4
  · rw [hb.cell (p := ⟨2, 0, none⟩) (show 2 < B by omega)]; exact h5
theorem Tabs.go {w w' : World} (h : Tabs w) (hb : Below w.heap.size w w') : Tabs w' := h.below hb h.1
theorem Tabs.drewN {w : World} (h : Tabs w) (k : Nat) : Tabs (w.drewN k) := h
theorem itoa_any (z : Int) (h0 : -1000000000 ≤ z) (h1 : z ≤ 1000000000) (w : World) (hT : Tabs w) : Calls Tryz.prog 67 #[.int .i64 z] w fun e w' => e = .returned (.string (mkB (T z))) ∧ Below w.heap.size w w' := by
  refine (Tryz.strconv_Itoa z (by omega) (by omega) w hT.2.1).mono ?_
  rintro e w' ⟨h1, k, os, h2⟩
  refine ⟨?_, by rw [h2]; exact below_grown_sl _ _ _ _ (Nat.le_refl _)⟩
  rw [h1, itoa_T]; rfl
theorem atoi_ok (x : Int) (s : ByteArray) (hs : s.data.toList = T x) (hz : s.size ≤ 1000) (h : -9223372036854775808 ≤ x ∧ x ≤ 9223372036854775807) (w : World) :
    Calls Tryz.prog 70 #[.string s] w fun e w' => e = .returned (.tuple #[.int .i64 x, .nilIface]) ∧ Below w.heap.size w w' := by
  refine (Tryz.strconv_Atoi_ok s (by omega) x (by rw [hs, atoi_T, if_pos h]) w).mono ?_
  rintro e w' ⟨h1, h2⟩
  refine ⟨h1, ?_⟩
  rcases h2 with rfl | ⟨t, rfl⟩
  · exact Below.refl _ _
  · exact Lib.bytesWorld_below _ _ _
theorem atoi_no (x : Int) (s : ByteArray) (hs : s.data.toList = T x) (hz : s.size ≤ 1000) (h : ¬ (-9223372036854775808 ≤ x ∧ x ≤ 9223372036854775807)) (w : World) (hT : Tabs w) :
    Calls Tryz.prog 70 #[.string s] w fun e w' => ∃ v te pe, e = .returned (.tuple #[.int .i64 v, .iface te pe]) ∧ Below w.heap.size w w' := by
  obtain ⟨_, _, ev, h5, h6⟩ := hT
  refine (Tryz.strconv_Atoi_range s (by omega) (by rw [hs, atoi_T, if_neg h]) ev w h5 h6).mono ?_
  rintro e w' ⟨N, h1, _, _, h2⟩
  exact ⟨_, _, _, h1, h2⟩
theorem Rb.numFar {w : World} {a : Option Addr} {l : List UInt8} {N n c : Nat} {b : Bool} {a' : Option Addr} {e : Int} (h : Rb w a l) (hB : Blk w N 61 (nvl b a' n c e)) (cs : Array Value) : Rb (w.setRow N cs) a l := by
  by_cases hl : l = []
  · exact .inl hl
  · refine h.rowFar N cs (fun ad had => ?_)
    obtain ⟨g, off, rfl, _, hc⟩ := h.at 0 (List.length_pos_iff.2 hl)
    cases had
    show g ≠ N
    rintro rfl
    unfold Blk at hB
    rw [cell_of_row w g _ _ _ (0, 0) hB] at hc
    match off, hc with
    | 0, hc => simp [nvl] at hc
    | 1, hc => simp [nvl] at hc
    | 2, hc => simp [nvl] at hc
    | k + 3, hc => simp [nvl] at hc
def RdYes (z x : Int) (w : World) (en : Ending) (w' : World) : Prop := ∃ a c, en = .returned (.tuple #[.agg (nvl (neg z) a (body 10 z.natAbs).length c x).toArray, .bool true]) ∧ (body 10 z.natAbs).length ≤ c ∧ Rb w' a (body 10 z.natAbs) ∧ Below w.heap.size w w'
def RdNo (w : World) (en : Ending) (w' : World) : Prop := en = .returned (.tuple #[.agg (nvl false none 0 0 0).toArray, .bool false]) ∧ Below w.heap.size w w'
theorem fin_read (tmps : Array Value) (W : World) (N : Nat) (b : Bool) (a : Option Addr) (n c : Nat) (e : Int) (v : Value) (hp : tmps.getD 2 undef = .pointer (some ⟨N, 0, none⟩)) (hv : tmps.getD 3 undef = v) (h : Blk W N 61 (nvl b a n c e)) :
    (results Tryz.f43 tmps).run Tryz.prog W = .ok (.tuple #[.agg (nvl b a n c e).toArray, v]) W := by
  rw [results_row_tmp (p := 2) (t := 3) (ty := 61) rfl tmps W N _ hp (load_num h), hv]
/-- the box of the result -/
theorem nbox (w : World) : ∃ N W, w.heap.size = N ∧ w.alloc (.cells (nvl false none 0 0 0).toArray 61) = W ∧ Hid (Blk W N 61 (nvl false none 0 0 0)) ∧ Hid (Below w.heap.size w W) ∧ N < W.heap.size :=
  ⟨_, _, rfl, rfl, Blk.new w _ _, (Below.refl _ w).alloc (Nat.le_refl _) _, by simp⟩
/-- what the cut leaves -/
theorem cutV_parts (s : ByteArray) : ∃ (p q : ByteArray) (f : Bool), cutV s (eAt s.data.toList) = .tuple #[.string p, .string q, .bool f] ∧ (Vld p.data.toList → Vld q.data.toList → s.data.toList = p.data.toList ++ 101 :: q.data.toList) ∧ p.size ≤ s.size ∧ q.size ≤ s.size ∧
    (∀ z e, s.data.toList = tD z e → p.data.toList = T z ∧ q.data.toList = T e) := by
  have hl : s.data.toList.length = s.size := by simp
  unfold cutV
  by_cases h : eAt s.data.toList < s.size
  · rw [if_pos h]
    have hp : (s.extract 0 (eAt s.data.toList)).data.toList = cA s.data.toList := by rw [ext_list]; unfold cA; simp
    have hq : (s.extract (eAt s.data.toList + 1) s.size).data.toList = cB s.data.toList := ext_end _ _
    refine ⟨_, _, _, rfl, fun _ _ => ?_, by rw [ByteArray.size_extract]; omega, by rw [ByteArray.size_extract]; omega, fun z e he => ?_⟩
    · rw [hp, hq]; exact cut_join _ (by omega)
    · rw [hp, hq]
      unfold cA cB
      rw [he, eAt_tD]
      exact tD_take z e
  · rw [if_neg h]
    refine ⟨_, _, _, rfl, fun _ hv => absurd rfl hv.1, Nat.le_refl _, Nat.zero_le _, fun z e he => ?_⟩
    exfalso
    apply h
    rw [← hl, he, eAt_tD]
    unfold tD; simp
theorem vld_nil : ¬ Vld (⟨#[]⟩ : ByteArray).data.toList := fun h => h.1 rfl
set_option maxRecDepth 100000 in
set_option maxHeartbeats 16000000 in
/-- the prelude's facts of a text whose parts are integers -/
theorem read_late (s p q : ByteArray) (f : Bool) (z x : Int) (hV : cutV s (eAt s.data.toList) = .tuple #[.string p, .string q, .bool f]) (hs : s.size ≤ 100000) (hp : p.size ≤ s.size) (hq : q.size ≤ s.size) (w : World) (hT : Tabs w)
    (hz1 : Sh z) (hx1 : Sh x) (hpz : p.data.toList = T z) (hqx : q.data.toList = T x) (hsf : z.natAbs % 10 ≠ 0 ∨ s = ⟨#[48, 101, 48]⟩) (Po : Ending → World → Prop)
    (hPN : x < -2000 ∨ 2000 < x → Hid (∀ e w', RdNo w e w' → Po e w')) (hPY : ¬ (x < -2000 ∨ 2000 < x) → Hid (∀ e w', RdYes z x w e w' → Po e w')) :
    Calls Tryz.prog 43 #[.string s] w Po := by
  have HC := Lib.hid (fun W => cut_any s (by omega) W)
  unfold CutP at HC
  rw [hV] at HC
  obtain ⟨N, W0, hN, hW0, B0, hb0, hlt⟩ := nbox w
  have hBox : Hid (∀ W, Blk W N 61 (nvl false none 0 0 0) → Below w.heap.size w W → ∀ b a n c e, Below w.heap.size w (W.setRow N (nvl b a n c e).toArray) ∧ Blk (W.setRow N (nvl b a n c e).toArray) N 61 (nvl b a n c e)) :=
    fun W h1 h2 b a n c e => ⟨below_row h2 (Nat.le_of_eq hN) _, h1.row _⟩
  have HT : Hid (∀ W, Below w.heap.size w W → Tabs W) := fun W hb => hT.go hb
  have HV1 := Lib.hid (fun W => valid_any p W (by unfold maxLen; omega))
  have HV2 := Lib.hid (fun W => valid_any q W (by unfold maxLen; omega))
  unfold ValP at HV1 HV2
  have hzn := zero_num
  have hsuf := Lib.hid (fun W => Tryz.strings_HasSuffix p ⟨#[48]⟩ W (by omega))
  rw [vldB_yes _ (by rw [hpz]; exact vld_T z hz1)] at HV1
  rw [vldB_yes _ (by rw [hqx]; exact vld_T x hx1)] at HV2
  have e48 : (⟨#[48]⟩ : ByteArray).data.toList = [48] := rfl
  rw [hpz, e48, suf_T] at hsuf
  have hqs : q.size ≤ 1000 := by
    have h1 : q.size = (T x).length := by rw [← hqx]; simp
    have h2 := T_len x
    have h3 := (sh_body x).1 hx1
    omega
  have HA : Hid (∀ W, Tabs W → Calls Tryz.prog 70 #[.string q] W fun e w' => (¬ (-9223372036854775808 ≤ x ∧ x ≤ 9223372036854775807) ∧ ∃ v te pe, e = .returned (.tuple #[.int .i64 v, .iface te pe]) ∧ Below W.heap.size W w') ∨ (e = .returned (.tuple #[.int .i64 x, .nilIface]) ∧ Below W.heap.size W w')) := fun W hW => by
    by_cases c : -9223372036854775808 ≤ x ∧ x ≤ 9223372036854775807
    · exact (atoi_ok x q hqx hqs c W).mono fun e w' h => .inr h
    · exact (atoi_no x q hqx hqs c W hW).mono fun e w' h => .inl ⟨c, h⟩
  have HM : Hid (∀ W, Calls Tryz.prog 52 #[.string p, .string ⟨#[45]⟩] W fun e w' => e = .returned (.tuple #[.string (cutT p), .bool (neg z)]) ∧ W = w') := fun W => by
    have := cut_minus p W
    have hn : decide ((T z).head? = some 45) = neg z := by
      unfold T Tb neg
      by_cases h : z < 0
      · rw [if_pos h, decide_eq_true h]; rfl
      · rw [if_neg h, List.nil_append, decide_eq_false h, decide_eq_false (body_no_minus _)]
    rw [hpz, hn, ← hpz] at this
    exact this
  have hcp : (cutT p).data.toList = body 10 z.natAbs := by rw [cutT_list, hpz, strip_T]
  have hbl := (sh_body z).1 hz1
  have HW : Hid (∀ (W : World) (g : Nat), g < W.heap.size → W.cell? ⟨g, 0, none⟩ = some (.string (cutT p)) → Calls Tryz.prog 53 #[.bool (neg z), .int .i64 x, .slice (some ⟨g, 0, none⟩) 1 1] W (NumR (neg z) (body 10 z.natAbs) x W)) := fun W g hg hc => by
    have hcat : cat [cutT p] = body 10 z.natAbs := by unfold cat; simp [hcp]
    have := new_any (neg z) x [cutT p] g 1 W hg (Nat.le_refl _) (by simp) (fun i t hi => by
      match i, hi with
      | 0, hi => simp at hi; subst hi; exact hc) (by rw [hcat]; omega)
    rw [hcat] at this
    exact this
  have HYes : Hid (∀ w1 a c w2, RdYes z x w1 (.returned (.tuple #[.agg (nvl (neg z) a (body 10 z.natAbs).length c x).toArray, .bool true])) w2 ↔ ((body 10 z.natAbs).length ≤ c ∧ Rb w2 a (body 10 z.natAbs) ∧ Below w1.heap.size w1 w2) ∨ RdYes z x w1 (.returned (.tuple #[.agg (nvl (neg z) a (body 10 z.natAbs).length c x).toArray, .bool true])) w2) := fun w1 a c w2 => ⟨fun h => .inr h, fun h => h.elim (fun h => ⟨a, c, rfl, h⟩) id⟩
  clear hV hT hpz hqx hqs hbl hcp
  rcases hsf with hsf | hsf
  · rw [decide_eq_false hsf] at hsuf
    go_enter Tryz.func43, Tryz.ntmps43
    go_wp2_with fail
    refine (HC.out _).mono ?_
    rintro e w1 ⟨rfl, q1⟩
    have B1 := Lib.hid (B0.out.go q1 hlt)
    have hb1 := bt hb0 q1
    clear q1 HC B0 hb0
    go_wp2_with fail
    refine (HV1.out _).mono ?_
    rintro e w' ⟨rfl, rfl⟩
    go_wp2_with fail
    refine (HV2.out _).mono ?_
    rintro e w' ⟨rfl, rfl⟩
    go_wp2_with fail
    refine (hsuf.out _).mono ?_
    rintro e w' ⟨rfl, rfl⟩
    clear HV1 HV2 hsuf
    have HA1 := Lib.hid (HA.out _ (HT.out _ hb1.out))
    clear HA HT
    go_wp2_with fail
    refine HA1.out.mono ?_
    rintro e w2 (⟨hx0, v, te, pe, rfl, q2⟩ | ⟨rfl, q2⟩)
    · have HPN := hPN (by omega)
      have B2 := Lib.hid (B1.out.go q2 B1.out.lt)
      have hb2 := bt hb1 q2
      clear hPN hPY hx0
      obtain ⟨hb30, B30⟩ := hBox.out _ B2.out hb2.out false none 0 0 0
      have hfin := Lib.hid (HPN.out _ _ (show RdNo w _ _ from ⟨rfl, hb30⟩))
      have B3 := Lib.hid B30
      clear q2 B30 hb30 hBox HPN HA1 HM HW HYes hb1 hb2 B1
      go_wp2_with (refine wpList_store_row rfl 61 (.tmp 2) (.tmp 48) rfl N _ rfl rfl 61 _ B2.out (nvl_i false none 0 0 0) (nvl_z _ false _ none _ 0 _ 0 _ 0) (nvl_one false none 0 0 0) ?_)
      exact bodyPost_ret (v := .tuple #[.agg (nvl false none 0 0 0).toArray, .bool false]) (fin_read _ _ N false none 0 0 0 _ rfl rfl B3.out) rfl hfin.out
    · by_cases x1 : x < -2000
      · have HPN := hPN (.inl x1)
        have B2 := Lib.hid (B1.out.go q2 B1.out.lt)
        have hb2 := bt hb1 q2
        clear hPN hPY
        obtain ⟨hb30, B30⟩ := hBox.out _ B2.out hb2.out false none 0 0 0
        have hfin := Lib.hid (HPN.out _ _ (show RdNo w _ _ from ⟨rfl, hb30⟩))
        have B3 := Lib.hid B30
        clear q2 B30 hb30 hBox HPN HA1 HM HW HYes hb1 hb2 B1
        go_wp2_with (refine wpList_store_row rfl 61 (.tmp 2) (.tmp 48) rfl N _ rfl rfl 61 _ B2.out (nvl_i false none 0 0 0) (nvl_z _ false _ none _ 0 _ 0 _ 0) (nvl_one false none 0 0 0) ?_)
        exact bodyPost_ret (v := .tuple #[.agg (nvl false none 0 0 0).toArray, .bool false]) (fin_read _ _ N false none 0 0 0 _ rfl rfl B3.out) rfl hfin.out
      · by_cases x2 : 2000 < x
        · have HPN := hPN (.inr x2)
          have B2 := Lib.hid (B1.out.go q2 B1.out.lt)
          have hb2 := bt hb1 q2
          clear hPN hPY
          obtain ⟨hb30, B30⟩ := hBox.out _ B2.out hb2.out false none 0 0 0
          have hfin := Lib.hid (HPN.out _ _ (show RdNo w _ _ from ⟨rfl, hb30⟩))
          have B3 := Lib.hid B30
          clear q2 B30 hb30 hBox HPN HA1 HM HW HYes hb1 hb2 B1
          go_wp2_with (refine wpList_store_row rfl 61 (.tmp 2) (.tmp 48) rfl N _ rfl rfl 61 _ B2.out (nvl_i false none 0 0 0) (nvl_z _ false _ none _ 0 _ 0 _ 0) (nvl_one false none 0 0 0) ?_)
          exact bodyPost_ret (v := .tuple #[.agg (nvl false none 0 0 0).toArray, .bool false]) (fin_read _ _ N false none 0 0 0 _ rfl rfl B3.out) rfl hfin.out
        · have HPY := hPY (by omega)
          have B2 := Lib.hid (B1.out.go q2 B1.out.lt)
          have hb2 := bt hb1 q2
          clear q2 B1 hb1 hPN hPY HA1
          go_wp2_with fail
          refine (HM.out _).mono ?_
          rintro e w' ⟨rfl, rfl⟩
          clear HM
          obtain ⟨W3, hW3⟩ : ∃ W3, w2.alloc (.cells #[.string (cutT p)] 9) = W3 := ⟨_, rfl⟩
          have q3 : Below w2.heap.size w2 W3 := by rw [← hW3]; exact (Below.refl _ w2).alloc (Nat.le_refl _) _
          have hg3 : w2.heap.size < W3.heap.size := by rw [← hW3]; simp
          have hc3 : W3.cell? ⟨w2.heap.size, 0, none⟩ = some (.string (cutT p)) := by rw [← hW3]; exact cell_of_row _ _ 0 _ _ (0, 0) (heap_alloc_new w2 _)
          have HW3 := Lib.hid (HW.out W3 w2.heap.size hg3 hc3)
          have B3 := Lib.hid (B2.out.go q3 B2.out.lt)
          have hb3 := bt hb2 q3
          clear q3 hg3 hc3 HW hb2 B2
          go_wp2_with fail
          refine HW3.out.mono ?_
          rintro e w4 ⟨a, c, rfl, r1, r2, q4⟩
          have B4 := Lib.hid (B3.out.go q4 B3.out.lt)
          have hb4 := bt hb3 q4
          obtain ⟨hb50, B50⟩ := hBox.out _ B4.out hb4.out (neg z) a (body 10 z.natAbs).length c x
          have hfin := Lib.hid (HPY.out _ _ (show RdYes z x w _ _ from ⟨a, c, rfl, r1, r2.numFar B4.out _, hb50⟩))
          have B5 := Lib.hid B50
          clear q4 B50 hb50 hBox HPY HYes hb3 hb4 B3 r1 r2 HW3
          generalize (body 10 z.natAbs).length = bl at *
          go_wp2_with (refine wpList_store_row rfl 61 (.tmp 2) (.tmp 58) rfl N _ rfl rfl 61 _ B4.out (nvl_i (neg z) a bl c x) (nvl_z _ (neg z) _ a _ bl _ c _ x) (nvl_one (neg z) a bl c x) ?_)
          exact bodyPost_ret (v := .tuple #[.agg (nvl (neg z) a bl c x).toArray, .bool true]) (fin_read _ _ N (neg z) a bl c x _ rfl rfl B5.out) rfl hfin.out
  · have hse : (s.toList == [48, 101, 48]) = true := by rw [hsf]; decide +kernel
    clear hsf
    generalize decide (z.natAbs % 10 = 0) = sb at *
    cases sb
    case false =>
      go_enter Tryz.func43, Tryz.ntmps43
      go_wp2_with fail
      refine (HC.out _).mono ?_
      rintro e w1 ⟨rfl, q1⟩
      have B1 := Lib.hid (B0.out.go q1 hlt)
      have hb1 := bt hb0 q1
      clear q1 HC B0 hb0
      go_wp2_with fail
      refine (HV1.out _).mono ?_
      rintro e w' ⟨rfl, rfl⟩
      go_wp2_with fail
      refine (HV2.out _).mono ?_
      rintro e w' ⟨rfl, rfl⟩
      go_wp2_with fail
      refine (hsuf.out _).mono ?_
      rintro e w' ⟨rfl, rfl⟩
      clear HV1 HV2 hsuf
      have HA1 := Lib.hid (HA.out _ (HT.out _ hb1.out))
      clear HA HT
      go_wp2_with fail
      refine HA1.out.mono ?_
      rintro e w2 (⟨hx0, v, te, pe, rfl, q2⟩ | ⟨rfl, q2⟩)
      · have HPN := hPN (by omega)
        have B2 := Lib.hid (B1.out.go q2 B1.out.lt)
        have hb2 := bt hb1 q2
        clear hPN hPY hx0
        obtain ⟨hb30, B30⟩ := hBox.out _ B2.out hb2.out false none 0 0 0
        have hfin := Lib.hid (HPN.out _ _ (show RdNo w _ _ from ⟨rfl, hb30⟩))
        have B3 := Lib.hid B30
        clear q2 B30 hb30 hBox HPN HA1 HM HW HYes hb1 hb2 B1
        go_wp2_with (refine wpList_store_row rfl 61 (.tmp 2) (.tmp 48) rfl N _ rfl rfl 61 _ B2.out (nvl_i false none 0 0 0) (nvl_z _ false _ none _ 0 _ 0 _ 0) (nvl_one false none 0 0 0) ?_)
        exact bodyPost_ret (v := .tuple #[.agg (nvl false none 0 0 0).toArray, .bool false]) (fin_read _ _ N false none 0 0 0 _ rfl rfl B3.out) rfl hfin.out
      · by_cases x1 : x < -2000
        · have HPN := hPN (.inl x1)
          have B2 := Lib.hid (B1.out.go q2 B1.out.lt)
          have hb2 := bt hb1 q2
          clear hPN hPY
          obtain ⟨hb30, B30⟩ := hBox.out _ B2.out hb2.out false none 0 0 0
          have hfin := Lib.hid (HPN.out _ _ (show RdNo w _ _ from ⟨rfl, hb30⟩))
          have B3 := Lib.hid B30
          clear q2 B30 hb30 hBox HPN HA1 HM HW HYes hb1 hb2 B1
          go_wp2_with (refine wpList_store_row rfl 61 (.tmp 2) (.tmp 48) rfl N _ rfl rfl 61 _ B2.out (nvl_i false none 0 0 0) (nvl_z _ false _ none _ 0 _ 0 _ 0) (nvl_one false none 0 0 0) ?_)
          exact bodyPost_ret (v := .tuple #[.agg (nvl false none 0 0 0).toArray, .bool false]) (fin_read _ _ N false none 0 0 0 _ rfl rfl B3.out) rfl hfin.out
        · by_cases x2 : 2000 < x
          · have HPN := hPN (.inr x2)
            have B2 := Lib.hid (B1.out.go q2 B1.out.lt)
            have hb2 := bt hb1 q2
            clear hPN hPY
            obtain ⟨hb30, B30⟩ := hBox.out _ B2.out hb2.out false none 0 0 0
            have hfin := Lib.hid (HPN.out _ _ (show RdNo w _ _ from ⟨rfl, hb30⟩))
            have B3 := Lib.hid B30
            clear q2 B30 hb30 hBox HPN HA1 HM HW HYes hb1 hb2 B1
            go_wp2_with (refine wpList_store_row rfl 61 (.tmp 2) (.tmp 48) rfl N _ rfl rfl 61 _ B2.out (nvl_i false none 0 0 0) (nvl_z _ false _ none _ 0 _ 0 _ 0) (nvl_one false none 0 0 0) ?_)
            exact bodyPost_ret (v := .tuple #[.agg (nvl false none 0 0 0).toArray, .bool false]) (fin_read _ _ N false none 0 0 0 _ rfl rfl B3.out) rfl hfin.out
          · have HPY := hPY (by omega)
            have B2 := Lib.hid (B1.out.go q2 B1.out.lt)
            have hb2 := bt hb1 q2
            clear q2 B1 hb1 hPN hPY HA1
            go_wp2_with fail
            refine (HM.out _).mono ?_
            rintro e w' ⟨rfl, rfl⟩
            clear HM
            obtain ⟨W3, hW3⟩ : ∃ W3, w2.alloc (.cells #[.string (cutT p)] 9) = W3 := ⟨_, rfl⟩
            have q3 : Below w2.heap.size w2 W3 := by rw [← hW3]; exact (Below.refl _ w2).alloc (Nat.le_refl _) _
            have hg3 : w2.heap.size < W3.heap.size := by rw [← hW3]; simp
            have hc3 : W3.cell? ⟨w2.heap.size, 0, none⟩ = some (.string (cutT p)) := by rw [← hW3]; exact cell_of_row _ _ 0 _ _ (0, 0) (heap_alloc_new w2 _)
            have HW3 := Lib.hid (HW.out W3 w2.heap.size hg3 hc3)
            have B3 := Lib.hid (B2.out.go q3 B2.out.lt)
            have hb3 := bt hb2 q3
            clear q3 hg3 hc3 HW hb2 B2
            go_wp2_with fail
            refine HW3.out.mono ?_
            rintro e w4 ⟨a, c, rfl, r1, r2, q4⟩
            have B4 := Lib.hid (B3.out.go q4 B3.out.lt)
            have hb4 := bt hb3 q4
            obtain ⟨hb50, B50⟩ := hBox.out _ B4.out hb4.out (neg z) a (body 10 z.natAbs).length c x
            have hfin := Lib.hid (HPY.out _ _ (show RdYes z x w _ _ from ⟨a, c, rfl, r1, r2.numFar B4.out _, hb50⟩))
            have B5 := Lib.hid B50
            clear q4 B50 hb50 hBox HPY HYes hb3 hb4 B3 r1 r2 HW3
            generalize (body 10 z.natAbs).length = bl at *
            go_wp2_with (refine wpList_store_row rfl 61 (.tmp 2) (.tmp 58) rfl N _ rfl rfl 61 _ B4.out (nvl_i (neg z) a bl c x) (nvl_z _ (neg z) _ a _ bl _ c _ x) (nvl_one (neg z) a bl c x) ?_)
            exact bodyPost_ret (v := .tuple #[.agg (nvl (neg z) a bl c x).toArray, .bool true]) (fin_read _ _ N (neg z) a bl c x _ rfl rfl B5.out) rfl hfin.out
    case true =>
      go_enter Tryz.func43, Tryz.ntmps43
      go_wp2_with fail
      refine (HC.out _).mono ?_
      rintro e w1 ⟨rfl, q1⟩
      have B1 := Lib.hid (B0.out.go q1 hlt)
      have hb1 := bt hb0 q1
      clear q1 HC B0 hb0
      go_wp2_with fail
      refine (HV1.out _).mono ?_
      rintro e w' ⟨rfl, rfl⟩
      go_wp2_with fail
      refine (HV2.out _).mono ?_
      rintro e w' ⟨rfl, rfl⟩
      go_wp2_with fail
      refine (hsuf.out _).mono ?_
      rintro e w' ⟨rfl, rfl⟩
      clear HV1 HV2 hsuf
      have HA1 := Lib.hid (HA.out _ (HT.out _ hb1.out))
      clear HA HT
      go_wp2_with fail
      refine HA1.out.mono ?_
      rintro e w2 (⟨hx0, v, te, pe, rfl, q2⟩ | ⟨rfl, q2⟩)
      · have HPN := hPN (by omega)
        have B2 := Lib.hid (B1.out.go q2 B1.out.lt)
        have hb2 := bt hb1 q2
        clear hPN hPY hx0
        obtain ⟨hb30, B30⟩ := hBox.out _ B2.out hb2.out false none 0 0 0
        have hfin := Lib.hid (HPN.out _ _ (show RdNo w _ _ from ⟨rfl, hb30⟩))
        have B3 := Lib.hid B30
        clear q2 B30 hb30 hBox HPN HA1 HM HW HYes hb1 hb2 B1
        go_wp2_with (refine wpList_store_row rfl 61 (.tmp 2) (.tmp 48) rfl N _ rfl rfl 61 _ B2.out (nvl_i false none 0 0 0) (nvl_z _ false _ none _ 0 _ 0 _ 0) (nvl_one false none 0 0 0) ?_)
        exact bodyPost_ret (v := .tuple #[.agg (nvl false none 0 0 0).toArray, .bool false]) (fin_read _ _ N false none 0 0 0 _ rfl rfl B3.out) rfl hfin.out
      · by_cases x1 : x < -2000
        · have HPN := hPN (.inl x1)
          have B2 := Lib.hid (B1.out.go q2 B1.out.lt)
          have hb2 := bt hb1 q2
          clear hPN hPY
          obtain ⟨hb30, B30⟩ := hBox.out _ B2.out hb2.out false none 0 0 0
          have hfin := Lib.hid (HPN.out _ _ (show RdNo w _ _ from ⟨rfl, hb30⟩))
          have B3 := Lib.hid B30
          clear q2 B30 hb30 hBox HPN HA1 HM HW HYes hb1 hb2 B1
          go_wp2_with (refine wpList_store_row rfl 61 (.tmp 2) (.tmp 48) rfl N _ rfl rfl 61 _ B2.out (nvl_i false none 0 0 0) (nvl_z _ false _ none _ 0 _ 0 _ 0) (nvl_one false none 0 0 0) ?_)
          exact bodyPost_ret (v := .tuple #[.agg (nvl false none 0 0 0).toArray, .bool false]) (fin_read _ _ N false none 0 0 0 _ rfl rfl B3.out) rfl hfin.out
        · by_cases x2 : 2000 < x
          · have HPN := hPN (.inr x2)
            have B2 := Lib.hid (B1.out.go q2 B1.out.lt)
            have hb2 := bt hb1 q2
            clear hPN hPY
            obtain ⟨hb30, B30⟩ := hBox.out _ B2.out hb2.out false none 0 0 0
            have hfin := Lib.hid (HPN.out _ _ (show RdNo w _ _ from ⟨rfl, hb30⟩))
            have B3 := Lib.hid B30
            clear q2 B30 hb30 hBox HPN HA1 HM HW HYes hb1 hb2 B1
            go_wp2_with (refine wpList_store_row rfl 61 (.tmp 2) (.tmp 48) rfl N _ rfl rfl 61 _ B2.out (nvl_i false none 0 0 0) (nvl_z _ false _ none _ 0 _ 0 _ 0) (nvl_one false none 0 0 0) ?_)
            exact bodyPost_ret (v := .tuple #[.agg (nvl false none 0 0 0).toArray, .bool false]) (fin_read _ _ N false none 0 0 0 _ rfl rfl B3.out) rfl hfin.out
          · have HPY := hPY (by omega)
            have B2 := Lib.hid (B1.out.go q2 B1.out.lt)
            have hb2 := bt hb1 q2
            clear q2 B1 hb1 hPN hPY HA1
            go_wp2_with fail
            refine (HM.out _).mono ?_
            rintro e w' ⟨rfl, rfl⟩
            clear HM
            obtain ⟨W3, hW3⟩ : ∃ W3, w2.alloc (.cells #[.string (cutT p)] 9) = W3 := ⟨_, rfl⟩
            have q3 : Below w2.heap.size w2 W3 := by rw [← hW3]; exact (Below.refl _ w2).alloc (Nat.le_refl _) _
            have hg3 : w2.heap.size < W3.heap.size := by rw [← hW3]; simp
            have hc3 : W3.cell? ⟨w2.heap.size, 0, none⟩ = some (.string (cutT p)) := by rw [← hW3]; exact cell_of_row _ _ 0 _ _ (0, 0) (heap_alloc_new w2 _)
            have HW3 := Lib.hid (HW.out W3 w2.heap.size hg3 hc3)
            have B3 := Lib.hid (B2.out.go q3 B2.out.lt)
            have hb3 := bt hb2 q3
            clear q3 hg3 hc3 HW hb2 B2
            go_wp2_with fail
            refine HW3.out.mono ?_
            rintro e w4 ⟨a, c, rfl, r1, r2, q4⟩
            have B4 := Lib.hid (B3.out.go q4 B3.out.lt)
            have hb4 := bt hb3 q4
            obtain ⟨hb50, B50⟩ := hBox.out _ B4.out hb4.out (neg z) a (body 10 z.natAbs).length c x
            have hfin := Lib.hid (HPY.out _ _ (show RdYes z x w _ _ from ⟨a, c, rfl, r1, r2.numFar B4.out _, hb50⟩))
            have B5 := Lib.hid B50
            clear q4 B50 hb50 hBox HPY HYes hb3 hb4 B3 r1 r2 HW3
            generalize (body 10 z.natAbs).length = bl at *
            go_wp2_with (refine wpList_store_row rfl 61 (.tmp 2) (.tmp 58) rfl N _ rfl rfl 61 _ B4.out (nvl_i (neg z) a bl c x) (nvl_z _ (neg z) _ a _ bl _ c _ x) (nvl_one (neg z) a bl c x) ?_)
            exact bodyPost_ret (v := .tuple #[.agg (nvl (neg z) a bl c x).toArray, .bool true]) (fin_read _ _ N (neg z) a bl c x _ rfl rfl B5.out) rfl hfin.out
set_option maxRecDepth 100000 in
set_option maxHeartbeats 8000000 in
/-- a text that is none of a decimal: what read answers; p, q: what stands before and behind the first 'e' -/
theorem read_no (s p q : ByteArray) (f : Bool) (hV : cutV s (eAt s.data.toList) = .tuple #[.string p, .string q, .bool f]) (hs : s.size ≤ 100000) (hp : p.size ≤ s.size) (hq : q.size ≤ s.size) (w : World) (hT : Tabs w)
    (h : ¬ Vld p.data.toList ∨ (Vld p.data.toList ∧ ¬ Vld q.data.toList) ∨ (∃ z x, Sh z ∧ Sh x ∧ p.data.toList = T z ∧ q.data.toList = T x ∧ ((z.natAbs % 10 = 0 ∧ ¬ s = ⟨#[48, 101, 48]⟩) ∨ ((z.natAbs % 10 ≠ 0 ∨ s = ⟨#[48, 101, 48]⟩) ∧ (x < -2000 ∨ 2000 < x))))) :
    Calls Tryz.prog 43 #[.string s] w (RdNo w) := by
  have HC := Lib.hid (fun W => cut_any s (by omega) W)
  unfold CutP at HC
  rw [hV] at HC
  obtain ⟨N, W0, hN, hW0, B0, hb0, hlt⟩ := nbox w
  have hP : Hid (∀ W, Blk W N 61 (nvl false none 0 0 0) → Below w.heap.size w W → RdNo w (.returned (.tuple #[.agg (nvl false none 0 0 0).toArray, .bool false])) (W.setRow N (nvl false none 0 0 0).toArray) ∧ Blk (W.setRow N (nvl false none 0 0 0).toArray) N 61 (nvl false none 0 0 0)) :=
    fun W h1 h2 => ⟨⟨rfl, below_row h2 (Nat.le_of_eq hN) _⟩, h1.row _⟩
  have HT : Hid (∀ W, Below w.heap.size w W → Tabs W) := fun W hb => hT.go hb
  have HV1 := Lib.hid (fun W => valid_any p W (by unfold maxLen; omega))
  have HV2 := Lib.hid (fun W => valid_any q W (by unfold maxLen; omega))
  unfold ValP at HV1 HV2
  have hz := zero_num
  have hsuf := Lib.hid (fun W => Tryz.strings_HasSuffix p ⟨#[48]⟩ W (by omega))
  have hV0 := Lib.hid hV
  have hT0 := Lib.hid hT
  have hPo0 : Hid (∀ e w', RdNo w e w' → RdNo w e w') := fun e w' h => h
  obtain ⟨Po, hPo⟩ : ∃ Po, RdNo w = Po := ⟨_, rfl⟩
  have hPo1 : Hid (∀ e w', RdNo w e w' → Po e w') := fun e w' h => by rw [← hPo]; exact h
  rw [hPo] at hP ⊢
  clear hV hT hPo0 hPo
  rcases h with h | ⟨h1, h2⟩ | ⟨z, x, hz1, hx1, hpz, hqx, hcase⟩
  · rw [vldB_no _ h] at HV1
    clear h HV2 hsuf HT
    go_enter Tryz.func43, Tryz.ntmps43
    go_wp2_with fail
    refine (HC.out _).mono ?_
    rintro e w1 ⟨rfl, q1⟩
    have B1 := Lib.hid (B0.out.go q1 hlt)
    have hb1 := bt hb0 q1
    clear q1 HC B0 hb0
    go_wp2_with fail
    refine (HV1.out _).mono ?_
    rintro e w' ⟨rfl, rfl⟩
    obtain ⟨hfin0, B20⟩ := hP.out _ B1.out hb1.out
    have hfin := Lib.hid hfin0
    have B2 := Lib.hid B20
    clear hfin0 B20 hP HV1 hb1
    go_wp2_with (refine wpList_store_row rfl 61 (.tmp 2) (.tmp 25) rfl N _ rfl rfl 61 _ B1.out (nvl_i false none 0 0 0) (nvl_z _ false _ none _ 0 _ 0 _ 0) (nvl_one false none 0 0 0) ?_)
    exact bodyPost_ret (v := .tuple #[.agg (nvl false none 0 0 0).toArray, .bool false]) (fin_read _ _ N false none 0 0 0 _ rfl rfl B2.out) rfl hfin.out
  · rw [vldB_yes _ h1] at HV1
    rw [vldB_no _ h2] at HV2
    clear h1 h2 hsuf HT
    go_enter Tryz.func43, Tryz.ntmps43
    go_wp2_with fail
    refine (HC.out _).mono ?_
    rintro e w1 ⟨rfl, q1⟩
    have B1 := Lib.hid (B0.out.go q1 hlt)
    have hb1 := bt hb0 q1
    clear q1 HC B0 hb0
    go_wp2_with fail
    refine (HV1.out _).mono ?_
    rintro e w' ⟨rfl, rfl⟩
    go_wp2_with fail
    refine (HV2.out _).mono ?_
    rintro e w' ⟨rfl, rfl⟩
    obtain ⟨hfin0, B20⟩ := hP.out _ B1.out hb1.out
    have hfin := Lib.hid hfin0
    have B2 := Lib.hid B20
    clear hfin0 B20 hP HV1 HV2 hb1
    go_wp2_with (refine wpList_store_row rfl 61 (.tmp 2) (.tmp 25) rfl N _ rfl rfl 61 _ B1.out (nvl_i false none 0 0 0) (nvl_z _ false _ none _ 0 _ 0 _ 0) (nvl_one false none 0 0 0) ?_)
    exact bodyPost_ret (v := .tuple #[.agg (nvl false none 0 0 0).toArray, .bool false]) (fin_read _ _ N false none 0 0 0 _ rfl rfl B2.out) rfl hfin.out
  · rw [vldB_yes _ (by rw [hpz]; exact vld_T z hz1)] at HV1
    rw [vldB_yes _ (by rw [hqx]; exact vld_T x hx1)] at HV2
    have e48 : (⟨#[48]⟩ : ByteArray).data.toList = [48] := rfl
    rw [hpz, e48, suf_T] at hsuf
    have hqs : q.size ≤ 1000 := by
      have h1 : q.size = (T x).length := by rw [← hqx]; simp
      have h2 := T_len x
      have h3 := (sh_body x).1 hx1
      omega
    rcases hcase with ⟨c1, c2⟩ | ⟨c1, c2⟩
    · rw [decide_eq_true c1] at hsuf
      have hne : (s.toList == [48, 101, 48]) = false := by
        rw [beq_eq_false_iff_ne]
        intro g
        apply c2
        apply ba_ext
        rw [Lib.toList_data] at g
        exact g
      clear c1 c2 hpz hqx HT
      go_enter Tryz.func43, Tryz.ntmps43
      go_wp2_with fail
      refine (HC.out _).mono ?_
      rintro e w1 ⟨rfl, q1⟩
      have B1 := Lib.hid (B0.out.go q1 hlt)
      have hb1 := bt hb0 q1
      clear q1 HC B0 hb0
      go_wp2_with fail
      refine (HV1.out _).mono ?_
      rintro e w' ⟨rfl, rfl⟩
      go_wp2_with fail
      refine (HV2.out _).mono ?_
      rintro e w' ⟨rfl, rfl⟩
      go_wp2_with fail
      refine (hsuf.out _).mono ?_
      rintro e w' ⟨rfl, rfl⟩
      obtain ⟨hfin0, B20⟩ := hP.out _ B1.out hb1.out
      have hfin := Lib.hid hfin0
      have B2 := Lib.hid B20
      clear hfin0 B20 hP HV1 HV2 hb1 hsuf
      go_wp2_with (refine wpList_store_row rfl 61 (.tmp 2) (.tmp 32) rfl N _ rfl rfl 61 _ B1.out (nvl_i false none 0 0 0) (nvl_z _ false _ none _ 0 _ 0 _ 0) (nvl_one false none 0 0 0) ?_)
      exact bodyPost_ret (v := .tuple #[.agg (nvl false none 0 0 0).toArray, .bool false]) (fin_read _ _ N false none 0 0 0 _ rfl rfl B2.out) rfl hfin.out
    · exact read_late s p q f z x hV0.out hs hp hq w hT0.out hz1 hx1 hpz hqx c1 Po (fun _ => hPo1) (fun g => absurd c2 g)
end Go.Proofs.YtpankmaljafnnaaGreatDoor
