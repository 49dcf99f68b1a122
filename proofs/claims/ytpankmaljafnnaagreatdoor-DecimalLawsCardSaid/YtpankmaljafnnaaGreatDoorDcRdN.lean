/-
  Helper: the walk of decimal.readNumeral.
-/
import Derived.Test.YtpankmaljafnnaaGreatDoorDcRex
namespace Go.Proofs.YtpankmaljafnnaaGreatDoor
open Go.RowKit
set_option linter.unusedVariables false
set_option linter.unusedSimpArgs false

theorem satE_bd2 (l : List UInt8) (L : Int) (hL : 0 ≤ L) : -L ≤ (rexF l L).1 ∧ (rexF l L).1 ≤ L := by
  have := satE_bd L hL (expT l)
  unfold rexF
  split
  · exact ⟨by show -L ≤ 0; omega, by show (0 : Int) ≤ L; omega⟩
  split
  · exact ⟨by show -L ≤ 0; omega, by show (0 : Int) ≤ L; omega⟩
  split
  · exact ⟨by show -L ≤ 0; omega, by show (0 : Int) ≤ L; omega⟩
  · split
    · exact ⟨by show -L ≤ -_; omega, by show -_ ≤ L; omega⟩
    · exact ⟨by show -L ≤ satE L _; omega, by show satE L _ ≤ L; omega⟩
/-- the parts of a numeral: the whole digits, the rest behind them, the digits of the fraction, and what stands behind them -/
def nW (l : List UInt8) : List UInt8 := (strip l).take (cutD (strip l))
def nR (l : List UInt8) : List UInt8 := (strip l).drop (cutD (strip l))
def nP (l : List UInt8) : Bool := decide ((nR l).head? = some 46)
def nF (l : List UInt8) : List UInt8 := if nP l then (nR l).tail.take (cutD (nR l).tail) else []
def nX (l : List UInt8) : List UInt8 := if nP l then (nR l).tail.drop (cutD (nR l).tail) else nR l
def nOk (l : List UInt8) (L : Int) : Bool := !(nW l).isEmpty && !(decide (1 < (nW l).length) && decide ((nW l).head? = some 48)) && !(nP l && (nF l).isEmpty) && (rexF (nX l) L).2
def nNeg (l : List UInt8) : Bool := decide (l.head? = some 45)
def nE (l : List UInt8) (L : Int) : Int := (rexF (nX l) L).1 - ((nF l).length : Int)
def NmG (ok b : Bool) (ds : List UInt8) (x : Int) (w : World) (en : Ending) (w' : World) : Prop := ∃ b1 a n k e, en = .returned (.tuple #[.agg #[.bool b1, .slice a n k, .int .i64 e], .bool ok]) ∧ (ok = true → b1 = b ∧ n = ds.length ∧ e = x ∧ n ≤ k ∧ Rb w' a ds) ∧ Below w.heap.size w w'
theorem fin_rdn (tmps : Array Value) (W : World) (N : Nat) (b : Bool) (a : Option Addr) (n c : Nat) (e : Int) (v : Value) (hp : tmps.getD 2 undef = .pointer (some ⟨N, 0, none⟩)) (hv : tmps.getD 3 undef = v) (h : Blk W N 61 (nvl b a n c e)) :
    (results Tryz.f38 tmps).run Tryz.prog W = .ok (.tuple #[.agg (nvl b a n c e).toArray, v]) W := by
  rw [results_row_tmp (p := 2) (t := 3) (ty := 61) rfl tmps W N _ hp (load_num h), hv]
theorem cut_point (s : ByteArray) (w : World) : Calls Tryz.prog 52 #[.string s, .string ⟨#[46]⟩] w fun e w' => e = .returned (.tuple #[.string (mkB (if s.data.toList.head? = some 46 then s.data.toList.tail else s.data.toList)), .bool (decide (s.data.toList.head? = some 46))]) ∧ w = w' :=
  (Tryz.strings_CutPrefix s ⟨#[46]⟩ w).mono fun e w' ⟨he, hw⟩ => ⟨by rw [he, (pre_char s.data.toList 46).1, (pre_char s.data.toList 46).2]; rfl, hw.symm⟩
set_option maxRecDepth 100000 in
set_option maxHeartbeats 16000000 in
theorem rdn_any (s : ByteArray) (hs : s.size ≤ 100000) (w : World) :
    Calls Tryz.prog 38 #[.string s] w (NmG (nOk s.data.toList (2000 + (s.size : Int) + 1)) (nNeg s.data.toList) (nW s.data.toList ++ nF s.data.toList) (nE s.data.toList (2000 + (s.size : Int) + 1)) w) := by
  obtain ⟨N, W0, hN, hW0, B0, hb0, hlt⟩ := nbox w
  have hBox : Hid (∀ W, Blk W N 61 (nvl false none 0 0 0) → Below w.heap.size w W → ∀ b a n c e, Below w.heap.size w (W.setRow N (nvl b a n c e).toArray) ∧ Blk (W.setRow N (nvl b a n c e).toArray) N 61 (nvl b a n c e)) :=
    fun W h1 h2 b a n c e => ⟨below_row h2 (Nat.le_of_eq hN) _, h1.row _⟩
  have hzn := zero_num
  obtain ⟨L, hL⟩ : ∃ L : Int, 2000 + (s.size : Int) + 1 = L := ⟨_, rfl⟩
  rw [hL]
  -- the sign
  obtain ⟨c0, hc0⟩ : ∃ c0, cutT s = c0 := ⟨_, rfl⟩
  have hc0l : c0.data.toList = strip s.data.toList := by rw [← hc0]; rfl
  have hc0s : c0.size ≤ 100000 := by have := cutT_le s; rw [hc0] at this; omega
  have HM : Hid (∀ W, Calls Tryz.prog 52 #[.string s, .string ⟨#[45]⟩] W fun e w' => e = .returned (.tuple #[.string c0, .bool (nNeg s.data.toList)]) ∧ W = w') := fun W => by rw [← hc0]; exact cut_minus s W
  -- the whole digits
  have hk := cutD_le c0.data.toList
  obtain ⟨k, hkk⟩ : ∃ k, cutD c0.data.toList = k := ⟨_, rfl⟩
  have HC1 := Lib.hid (fun W => cutDigits_any c0 (by omega) W)
  rw [hkk] at HC1 hk
  obtain ⟨Wh, hWh⟩ : ∃ Wh, c0.extract 0 k = Wh := ⟨_, rfl⟩
  obtain ⟨R1, hR1⟩ : ∃ R1, c0.extract k c0.size = R1 := ⟨_, rfl⟩
  rw [hWh, hR1] at HC1
  have hkl : c0.data.toList.length = c0.size := by simp
  have hWl : Wh.data.toList = nW s.data.toList := by rw [← hWh, ext_list]; unfold nW; rw [← hc0l, hkk]; simp
  have hWz : Wh.size = k := by rw [← hWh, ByteArray.size_extract]; omega
  have hRl : R1.data.toList = nR s.data.toList := by rw [← hR1, ext_end]; unfold nR; rw [← hc0l, hkk]
  have hRz : R1.size ≤ 100000 := by rw [← hR1, ByteArray.size_extract]; omega
  have hR1l : R1.data.toList.length = R1.size := by simp
  have hWlen : (nW s.data.toList).length = k := by rw [← hWl, ← hWz]; simp
  -- the fraction
  obtain ⟨af, haf⟩ : ∃ af, mkB (if R1.data.toList.head? = some 46 then R1.data.toList.tail else R1.data.toList) = af := ⟨_, rfl⟩
  have HP : Hid (∀ W, Calls Tryz.prog 52 #[.string R1, .string ⟨#[46]⟩] W fun e w' => e = .returned (.tuple #[.string af, .bool (nP s.data.toList)]) ∧ W = w') := fun W => by
    have := cut_point R1 W
    unfold nP
    rw [haf, hRl] at this
    exact this
  have hafz : af.size ≤ 100000 := by
    rw [← haf, mkB_size]; split
    · rw [List.length_tail]; omega
    · omega
  have hafl : af.data.toList.length = af.size := by simp
  have hj := cutD_le af.data.toList
  obtain ⟨j, hjj⟩ : ∃ j, cutD af.data.toList = j := ⟨_, rfl⟩
  have HC2 := Lib.hid (fun W => cutDigits_any af (by omega) W)
  rw [hjj] at HC2 hj
  obtain ⟨Fr, hFr⟩ : ∃ Fr, af.extract 0 j = Fr := ⟨_, rfl⟩
  obtain ⟨R2, hR2⟩ : ∃ R2, af.extract j af.size = R2 := ⟨_, rfl⟩
  rw [hFr, hR2] at HC2
  have hFz : Fr.size = j := by rw [← hFr, ByteArray.size_extract]; omega
  have hR2z : R2.size ≤ 100000 := by rw [← hR2, ByteArray.size_extract]; omega
  have hPt : nP s.data.toList = true → Fr.data.toList = nF s.data.toList ∧ R2.data.toList = nX s.data.toList := fun h => by
    have hh : R1.data.toList.head? = some 46 := by rw [hRl]; exact of_decide_eq_true h
    have ha : af.data.toList = (nR s.data.toList).tail := by rw [← haf, if_pos hh, mkB_data, hRl]
    refine ⟨?_, ?_⟩
    · rw [← hFr, ext_list]; unfold nF; rw [if_pos h, ← ha, hjj]; simp
    · rw [← hR2, ext_end]; unfold nX; rw [if_pos h, ← ha, hjj]
  have hPf : nP s.data.toList = false → nF s.data.toList = [] ∧ R1.data.toList = nX s.data.toList := fun h => by
    refine ⟨?_, ?_⟩
    · unfold nF; rw [h]; rfl
    · unfold nX; rw [h, hRl]; rfl
  -- the exponent
  have HX1 : nP s.data.toList = false → Hid (∀ W, Calls Tryz.prog 64 #[.string R1, .int .i64 L] W (ReP (rexF (nX s.data.toList) L) W)) := fun h W => by
    have := rex_any R1 L (by omega) (by omega) hRz W
    rw [(hPf h).2] at this
    exact this
  have HX2 : nP s.data.toList = true → Hid (∀ W, Calls Tryz.prog 64 #[.string R2, .int .i64 L] W (ReP (rexF (nX s.data.toList) L) W)) := fun h W => by
    have := rex_any R2 L (by omega) (by omega) hR2z W
    rw [(hPt h).2] at this
    exact this
  have hbd := satE_bd2 (nX s.data.toList) L (by omega)
  -- the number
  have HN2 : Hid (∀ (b : Bool) (x : Int) (A B : ByteArray) (W : World) (g : Nat), A.size + B.size ≤ 300000 → g < W.heap.size → W.cell? ⟨g, 0, none⟩ = some (.string A) → W.cell? ⟨g, 1, none⟩ = some (.string B) → Calls Tryz.prog 53 #[.bool b, .int .i64 x, .slice (some ⟨g, 0, none⟩) 2 2] W (NumR b (A.data.toList ++ B.data.toList) x W)) := fun b x A B W g hz hg h0 h1 => by
    have hcat : cat [A, B] = A.data.toList ++ B.data.toList := by unfold cat; simp
    have hz1 : A.data.toList.length = A.size := by simp
    have hz2 : B.data.toList.length = B.size := by simp
    have := new_any b x [A, B] g 2 W hg (Nat.le_refl _) (by simp) (fun i t hi => by
      match i, hi with
      | 0, hi => simp at hi; subst hi; exact h0
      | 1, hi => simp at hi; subst hi; exact h1) (by rw [hcat, List.length_append]; omega)
    rw [hcat] at this
    exact this
  have HNo : Hid (nOk s.data.toList L = false → ∀ w', Below w.heap.size w w' → NmG (nOk s.data.toList L) (nNeg s.data.toList) (nW s.data.toList ++ nF s.data.toList) (nE s.data.toList L) w (.returned (.tuple #[.agg (nvl false none 0 0 0).toArray, .bool false])) w') := fun h w' hb => ⟨false, none, 0, 0, 0, by rw [h]; rfl, (fun g => by rw [h] at g; exact absurd g (by decide)), hb⟩
  have HYes : Hid (nOk s.data.toList L = true → ∀ a n c e w', n = (nW s.data.toList ++ nF s.data.toList).length → e = nE s.data.toList L → n ≤ c → Rb w' a (nW s.data.toList ++ nF s.data.toList) → Below w.heap.size w w' → NmG (nOk s.data.toList L) (nNeg s.data.toList) (nW s.data.toList ++ nF s.data.toList) (nE s.data.toList L) w (.returned (.tuple #[.agg (nvl (nNeg s.data.toList) a n c e).toArray, .bool true])) w') := fun h a n c e w' h1 h2 h3 h4 hb => ⟨nNeg s.data.toList, a, n, c, e, by rw [h]; rfl, fun _ => ⟨rfl, h1, h2, h3, h4⟩, hb⟩
  generalize NmG (nOk s.data.toList L) (nNeg s.data.toList) (nW s.data.toList ++ nF s.data.toList) (nE s.data.toList L) w = Po at *
  have hok : nOk s.data.toList L = (!(nW s.data.toList).isEmpty && !(decide (1 < (nW s.data.toList).length) && decide ((nW s.data.toList).head? = some 48)) && !(nP s.data.toList && (nF s.data.toList).isEmpty) && (rexF (nX s.data.toList) L).2) := rfl
  have hnE : nE s.data.toList L = (rexF (nX s.data.toList) L).1 - ((nF s.data.toList).length : Int) := rfl
  rw [hWlen] at hok
  obtain ⟨v, hv⟩ : ∃ v, (rexF (nX s.data.toList) L).1 = v := ⟨_, rfl⟩
  obtain ⟨f, hf⟩ : ∃ f, (rexF (nX s.data.toList) L).2 = f := ⟨_, rfl⟩
  have hrex : rexF (nX s.data.toList) L = (v, f) := by rw [← hv, ← hf]
  rw [hrex] at hok hnE hbd HX1 HX2
  have hLs : L ≤ 200000 := by omega
  have hkz : k ≤ 100000 := by omega
  have hjz : j ≤ 100000 := by omega
  have hL2 : Hid (2000 + (s.size : Int) + 1 = L) := hL
  rw [← hWl] at hok
  have hLI : 2000 + (s.size : Int) + 1 = L := hL
  generalize nE s.data.toList L = xe at *
  generalize nOk s.data.toList L = okk at *
  generalize nNeg s.data.toList = nb at *
  generalize nX s.data.toList = lx at *
  clear hv hf hrex hc0 hc0l hkk hWh hR1 hkl hRl hR1l haf hafl hjj hFr hR2 hk hj hWlen
  by_cases hk0 : k = 0
  · have hte := empty_yes Wh (by omega)
    have hno : okk = false := by
      have h2 : Wh.data.toList = [] := List.eq_nil_of_length_eq_zero (by rw [← Lib.size_eq]; omega)
      rw [hok, h2]; simp
    clear hok HYes HN2 HX1 HX2 hPt hPf hnE HP HC2
    go_enter Tryz.func38, Tryz.ntmps38
    go_wp2_with fail
    refine (HM.out _).mono ?_
    rintro e w1 ⟨rfl, rfl⟩
    clear HM
    go_wp2_with fail
    refine (HC1.out _).mono ?_
    rintro e w1 ⟨rfl, q1⟩
    have B1 := Lib.hid (B0.out.go q1 hlt)
    have hb1 := bt hb0 q1
    clear q1 HC1 B0 hb0
    obtain ⟨hb50, B50⟩ := hBox.out _ B1.out hb1.out false none 0 0 0
    have hfin := Lib.hid (HNo.out hno _ hb50)
    have B5 := Lib.hid B50
    clear B50 hb50 hBox HNo
    go_wp2_with (refine wpList_store_row rfl 61 (.tmp 2) (.tmp 34) rfl N _ rfl rfl 61 _ B1.out (nvl_i false none 0 0 0) (nvl_z _ false _ none _ 0 _ 0 _ 0) (nvl_one false none 0 0 0) ?_)
    exact bodyPost_ret (v := .tuple #[.agg (nvl false none 0 0 0).toArray, .bool false]) (fin_rdn _ _ N false none 0 0 0 _ rfl rfl B5.out) rfl hfin.out
  · have hte := empty_no Wh (by omega)
    have hpos : 0 < Wh.size := by omega
    have hwe : Wh.data.toList.isEmpty = false := by
      cases h : Wh.data.toList with
      | nil => have := congrArg List.length h; rw [← Lib.size_eq] at this; have e0 : ([] : List UInt8).length = 0 := rfl; omega
      | cons _ _ => rfl
    have hhd : Wh.data.toList.head? = some Wh[0] := by
      rw [List.head?_eq_getElem?, List.getElem?_eq_getElem (by rw [← Lib.size_eq]; exact hpos)]; rfl
    by_cases hk1 : 1 < k
    · have hk1i : (1 : Int) < (k : Int) := by omega
      by_cases h48 : Wh[0] = 48
      · have hq : ((Wh[0].toNat : Int) == 48) = true := by rw [h48]; rfl
        have hno : okk = false := by
          rw [hok, hhd, h48, decide_eq_true hk1]; simp
        clear hok HYes HN2 HX1 HX2 hPt hPf hnE HP HC2 hhd h48
        go_enter Tryz.func38, Tryz.ntmps38
        go_wp2_with fail
        refine (HM.out _).mono ?_
        rintro e w1 ⟨rfl, rfl⟩
        clear HM
        go_wp2_with fail
        refine (HC1.out _).mono ?_
        rintro e w1 ⟨rfl, q1⟩
        have B1 := Lib.hid (B0.out.go q1 hlt)
        have hb1 := bt hb0 q1
        clear q1 HC1 B0 hb0
        obtain ⟨hb50, B50⟩ := hBox.out _ B1.out hb1.out false none 0 0 0
        have hfin := Lib.hid (HNo.out hno _ hb50)
        have B5 := Lib.hid B50
        clear B50 hb50 hBox HNo
        go_wp2_with (refine wpList_store_row rfl 61 (.tmp 2) (.tmp 34) rfl N _ rfl rfl 61 _ B1.out (nvl_i false none 0 0 0) (nvl_z _ false _ none _ 0 _ 0 _ 0) (nvl_one false none 0 0 0) ?_)
        exact bodyPost_ret (v := .tuple #[.agg (nvl false none 0 0 0).toArray, .bool false]) (fin_rdn _ _ N false none 0 0 0 _ rfl rfl B5.out) rfl hfin.out
      · have hq : ((Wh[0].toNat : Int) == 48) = false := by
          rw [beq_eq_false_iff_ne]; intro e; exact h48 (UInt8.toNat_inj.1 (by have : (48 : UInt8).toNat = 48 := rfl; omega))
        have hcd : (decide (1 < k) && decide (Wh.data.toList.head? = some 48)) = false := by
          rw [hhd, decide_eq_false (fun g => h48 (Option.some.inj g)), Bool.and_false]
        rw [hcd, hwe] at hok
        clear hhd h48
        go_enter Tryz.func38, Tryz.ntmps38
        go_wp2_with fail
        refine (HM.out _).mono ?_
        rintro e w1 ⟨rfl, rfl⟩
        clear HM
        go_wp2_with fail
        refine (HC1.out _).mono ?_
        rintro e w1 ⟨rfl, q1⟩
        have B1 := Lib.hid (B0.out.go q1 hlt)
        have hb1 := bt hb0 q1
        clear q1 HC1 B0 hb0
        go_wp2_with fail
        refine (HP.out _).mono ?_
        rintro e w2 ⟨rfl, rfl⟩
        clear HP
        rcases hpb : nP s.data.toList with _ | _
        · obtain ⟨hF0, _⟩ := hPf hpb
          have HX := HX1 hpb
          rw [hpb] at hok
          rw [hF0] at hnE hok
          have hds : Wh.data.toList ++ (⟨#[]⟩ : ByteArray).data.toList = nW s.data.toList ++ nF s.data.toList := by rw [hWl, hF0]
          have hxv : v = xe := by rw [hnE]; show v = v - ((0 : Nat) : Int); omega
          have hxv2 : v - 0 = xe := by omega
          clear hPf hPt HX1 HX2 hF0 hnE HC2
          go_wp2_with fail
          refine (HX.out _).mono ?_
          rintro e w3 ⟨rfl, q3⟩
          have B3 := Lib.hid (B1.out.go q3 B1.out.lt)
          have hb3 := bt hb1 q3
          clear q3 HX B1 hb1
          cases f with
          | false =>
            have hno : okk = false := by rw [hok]; simp
            clear hok HYes HN2
            obtain ⟨hb50, B50⟩ := hBox.out _ B3.out hb3.out false none 0 0 0
            have hfin := Lib.hid (HNo.out hno _ hb50)
            have B5 := Lib.hid B50
            clear B50 hb50 hBox HNo
            go_wp2_with (refine wpList_store_row rfl 61 (.tmp 2) (.tmp 60) rfl N _ rfl rfl 61 _ B3.out (nvl_i false none 0 0 0) (nvl_z _ false _ none _ 0 _ 0 _ 0) (nvl_one false none 0 0 0) ?_)
            exact bodyPost_ret (v := .tuple #[.agg (nvl false none 0 0 0).toArray, .bool false]) (fin_rdn _ _ N false none 0 0 0 _ rfl rfl B5.out) rfl hfin.out
          | true =>
            have hyes : okk = true := by rw [hok]; simp [hwe, hcd]
            clear hok
            obtain ⟨W3, hW3⟩ : ∃ W3, w3.alloc (.cells #[.string Wh, .string ⟨#[]⟩] 9) = W3 := ⟨_, rfl⟩
            have qY : Below w3.heap.size w3 W3 := by rw [← hW3]; exact (Below.refl _ w3).alloc (Nat.le_refl _) _
            have hg3 : w3.heap.size < W3.heap.size := by rw [← hW3]; simp
            have hc3 : W3.cell? ⟨w3.heap.size, 0, none⟩ = some (.string Wh) := by rw [← hW3]; exact cell_of_row _ _ 0 _ _ (0, 0) (heap_alloc_new w3 _)
            have hc4 : W3.cell? ⟨w3.heap.size, 1, none⟩ = some (.string ⟨#[]⟩) := by rw [← hW3]; exact cell_of_row _ _ 1 _ _ (0, 0) (heap_alloc_new w3 _)
            have HW3 := Lib.hid (HN2.out nb xe Wh ⟨#[]⟩ W3 w3.heap.size (by show _ + 0 ≤ _; omega) hg3 hc3 hc4)
            rw [hds] at HW3
            unfold NumR at HW3
            have BY := Lib.hid (B3.out.go qY B3.out.lt)
            have hbY := bt hb3 qY
            clear qY hg3 hc3 hc4 HN2 hb3 B3
            go_wp2_with fail
            refine HW3.out.mono ?_
            rintro e w4 ⟨a, c, rfl, r1, r2, q4⟩
            have BZ := Lib.hid (BY.out.go q4 BY.out.lt)
            have hbZ := bt hbY q4
            obtain ⟨hb50, B50⟩ := hBox.out _ BZ.out hbZ.out nb a (nW s.data.toList ++ nF s.data.toList).length c xe
            have hfin := Lib.hid (HYes.out hyes a _ c xe _ rfl rfl r1 (r2.numFar BZ.out _) hb50)
            have B5 := Lib.hid B50
            clear q4 B50 hb50 hBox HYes hbY hbZ BY r1 r2 HW3 HNo hds
            generalize (nW s.data.toList ++ nF s.data.toList).length = bl at *
            go_wp2_with (refine wpList_store_row rfl 61 (.tmp 2) (.tmp 69) rfl N _ rfl rfl 61 _ BZ.out (nvl_i nb a bl c xe) (nvl_z _ nb _ a _ bl _ c _ xe) (nvl_one nb a bl c xe) ?_)
            exact bodyPost_ret (v := .tuple #[.agg (nvl nb a bl c xe).toArray, .bool true]) (fin_rdn _ _ N nb a bl c xe _ rfl rfl B5.out) rfl hfin.out
        · obtain ⟨hF1, _⟩ := hPt hpb
          have HX := HX2 hpb
          rw [hpb, ← hF1] at hok
          rw [← hF1] at hnE
          have hFl : Fr.data.toList.length = Fr.size := by simp
          rw [hFl] at hnE
          have hds : Wh.data.toList ++ Fr.data.toList = nW s.data.toList ++ nF s.data.toList := by rw [hWl, hF1]
          have hxv : v - (Fr.size : Int) = xe := hnE.symm
          have hxv2 : v - (j : Int) = xe := by rw [← hxv, hFz]
          have hbd2 : -L ≤ v ∧ v ≤ L := hbd
          have hwx : IntKind.i64.wrap (v - (j : Int)) = xe := by rw [wrapI _ (by omega) (by omega)]; exact hxv2
          clear hPf hPt HX1 HX2 hF1 hnE
          go_wp2_with fail
          refine (HC2.out _).mono ?_
          rintro e w3 ⟨rfl, q3⟩
          have B3 := Lib.hid (B1.out.go q3 B1.out.lt)
          have hb3 := bt hb1 q3
          clear q3 HC2 B1 hb1
          by_cases hj0 : j = 0
          · have hte2 := empty_yes Fr (by omega)
            have hno : okk = false := by
              have h2 : Fr.data.toList = [] := List.eq_nil_of_length_eq_zero (by omega)
              rw [hok, h2]; simp
            clear hok HYes HN2 HX hds
            obtain ⟨hb50, B50⟩ := hBox.out _ B3.out hb3.out false none 0 0 0
            have hfin := Lib.hid (HNo.out hno _ hb50)
            have B5 := Lib.hid B50
            clear B50 hb50 hBox HNo
            go_wp2_with (refine wpList_store_row rfl 61 (.tmp 2) (.tmp 48) rfl N _ rfl rfl 61 _ B3.out (nvl_i false none 0 0 0) (nvl_z _ false _ none _ 0 _ 0 _ 0) (nvl_one false none 0 0 0) ?_)
            exact bodyPost_ret (v := .tuple #[.agg (nvl false none 0 0 0).toArray, .bool false]) (fin_rdn _ _ N false none 0 0 0 _ rfl rfl B5.out) rfl hfin.out
          · have hte2 := empty_no Fr (by omega)
            have hfe : Fr.data.toList.isEmpty = false := by
              cases h : Fr.data.toList with
              | nil => rw [h] at hFl; have e0 : ([] : List UInt8).length = 0 := rfl; omega
              | cons _ _ => rfl
            rw [hfe] at hok
            clear hfe
            go_wp2_with fail
            refine (HX.out _).mono ?_
            rintro e w4 ⟨rfl, q4⟩
            have B4 := Lib.hid (B3.out.go q4 B3.out.lt)
            have hb4 := bt hb3 q4
            clear q4 HX B3 hb3
            cases f with
            | false =>
              have hno : okk = false := by rw [hok]; simp
              clear hok HYes HN2
              obtain ⟨hb50, B50⟩ := hBox.out _ B4.out hb4.out false none 0 0 0
              have hfin := Lib.hid (HNo.out hno _ hb50)
              have B5 := Lib.hid B50
              clear B50 hb50 hBox HNo
              go_wp2_with (refine wpList_store_row rfl 61 (.tmp 2) (.tmp 60) rfl N _ rfl rfl 61 _ B4.out (nvl_i false none 0 0 0) (nvl_z _ false _ none _ 0 _ 0 _ 0) (nvl_one false none 0 0 0) ?_)
              exact bodyPost_ret (v := .tuple #[.agg (nvl false none 0 0 0).toArray, .bool false]) (fin_rdn _ _ N false none 0 0 0 _ rfl rfl B5.out) rfl hfin.out
            | true =>
              have hyes : okk = true := by rw [hok]; simp [hwe, hcd]
              clear hok
              obtain ⟨W3, hW3⟩ : ∃ W3, w4.alloc (.cells #[.string Wh, .string Fr] 9) = W3 := ⟨_, rfl⟩
              have qY : Below w4.heap.size w4 W3 := by rw [← hW3]; exact (Below.refl _ w4).alloc (Nat.le_refl _) _
              have hg3 : w4.heap.size < W3.heap.size := by rw [← hW3]; simp
              have hc3 : W3.cell? ⟨w4.heap.size, 0, none⟩ = some (.string Wh) := by rw [← hW3]; exact cell_of_row _ _ 0 _ _ (0, 0) (heap_alloc_new w4 _)
              have hc4 : W3.cell? ⟨w4.heap.size, 1, none⟩ = some (.string Fr) := by rw [← hW3]; exact cell_of_row _ _ 1 _ _ (0, 0) (heap_alloc_new w4 _)
              have HW3 := Lib.hid (HN2.out nb xe Wh Fr W3 w4.heap.size (by omega) hg3 hc3 hc4)
              rw [hds] at HW3
              unfold NumR at HW3
              have BY := Lib.hid (B4.out.go qY B4.out.lt)
              have hbY := bt hb4 qY
              clear qY hg3 hc3 hc4 HN2 hb4 B4
              go_wp2_with fail
              refine HW3.out.mono ?_
              rintro e w4 ⟨a, c, rfl, r1, r2, q4⟩
              have BZ := Lib.hid (BY.out.go q4 BY.out.lt)
              have hbZ := bt hbY q4
              obtain ⟨hb50, B50⟩ := hBox.out _ BZ.out hbZ.out nb a (nW s.data.toList ++ nF s.data.toList).length c xe
              have hfin := Lib.hid (HYes.out hyes a _ c xe _ rfl rfl r1 (r2.numFar BZ.out _) hb50)
              have B5 := Lib.hid B50
              clear q4 B50 hb50 hBox HYes hbY hbZ BY r1 r2 HW3 HNo hds
              generalize (nW s.data.toList ++ nF s.data.toList).length = bl at *
              go_wp2_with (refine wpList_store_row rfl 61 (.tmp 2) (.tmp 69) rfl N _ rfl rfl 61 _ BZ.out (nvl_i nb a bl c xe) (nvl_z _ nb _ a _ bl _ c _ xe) (nvl_one nb a bl c xe) ?_)
              exact bodyPost_ret (v := .tuple #[.agg (nvl nb a bl c xe).toArray, .bool true]) (fin_rdn _ _ N nb a bl c xe _ rfl rfl B5.out) rfl hfin.out
    · have hk1i : ¬ (1 : Int) < (k : Int) := by omega
      have hcd : (decide (1 < k) && decide (Wh.data.toList.head? = some 48)) = false := by
        rw [decide_eq_false hk1, Bool.false_and]
      rw [hcd, hwe] at hok
      clear hhd
      go_enter Tryz.func38, Tryz.ntmps38
      go_wp2_with fail
      refine (HM.out _).mono ?_
      rintro e w1 ⟨rfl, rfl⟩
      clear HM
      go_wp2_with fail
      refine (HC1.out _).mono ?_
      rintro e w1 ⟨rfl, q1⟩
      have B1 := Lib.hid (B0.out.go q1 hlt)
      have hb1 := bt hb0 q1
      clear q1 HC1 B0 hb0
      go_wp2_with fail
      refine (HP.out _).mono ?_
      rintro e w2 ⟨rfl, rfl⟩
      clear HP
      rcases hpb : nP s.data.toList with _ | _
      · obtain ⟨hF0, _⟩ := hPf hpb
        have HX := HX1 hpb
        rw [hpb] at hok
        rw [hF0] at hnE hok
        have hds : Wh.data.toList ++ (⟨#[]⟩ : ByteArray).data.toList = nW s.data.toList ++ nF s.data.toList := by rw [hWl, hF0]
        have hxv : v = xe := by rw [hnE]; show v = v - ((0 : Nat) : Int); omega
        have hxv2 : v - 0 = xe := by omega
        clear hPf hPt HX1 HX2 hF0 hnE HC2
        go_wp2_with fail
        refine (HX.out _).mono ?_
        rintro e w3 ⟨rfl, q3⟩
        have B3 := Lib.hid (B1.out.go q3 B1.out.lt)
        have hb3 := bt hb1 q3
        clear q3 HX B1 hb1
        cases f with
        | false =>
          have hno : okk = false := by rw [hok]; simp
          clear hok HYes HN2
          obtain ⟨hb50, B50⟩ := hBox.out _ B3.out hb3.out false none 0 0 0
          have hfin := Lib.hid (HNo.out hno _ hb50)
          have B5 := Lib.hid B50
          clear B50 hb50 hBox HNo
          go_wp2_with (refine wpList_store_row rfl 61 (.tmp 2) (.tmp 60) rfl N _ rfl rfl 61 _ B3.out (nvl_i false none 0 0 0) (nvl_z _ false _ none _ 0 _ 0 _ 0) (nvl_one false none 0 0 0) ?_)
          exact bodyPost_ret (v := .tuple #[.agg (nvl false none 0 0 0).toArray, .bool false]) (fin_rdn _ _ N false none 0 0 0 _ rfl rfl B5.out) rfl hfin.out
        | true =>
          have hyes : okk = true := by rw [hok]; simp [hwe, hcd]
          clear hok
          obtain ⟨W3, hW3⟩ : ∃ W3, w3.alloc (.cells #[.string Wh, .string ⟨#[]⟩] 9) = W3 := ⟨_, rfl⟩
          have qY : Below w3.heap.size w3 W3 := by rw [← hW3]; exact (Below.refl _ w3).alloc (Nat.le_refl _) _
          have hg3 : w3.heap.size < W3.heap.size := by rw [← hW3]; simp
          have hc3 : W3.cell? ⟨w3.heap.size, 0, none⟩ = some (.string Wh) := by rw [← hW3]; exact cell_of_row _ _ 0 _ _ (0, 0) (heap_alloc_new w3 _)
          have hc4 : W3.cell? ⟨w3.heap.size, 1, none⟩ = some (.string ⟨#[]⟩) := by rw [← hW3]; exact cell_of_row _ _ 1 _ _ (0, 0) (heap_alloc_new w3 _)
          have HW3 := Lib.hid (HN2.out nb xe Wh ⟨#[]⟩ W3 w3.heap.size (by show _ + 0 ≤ _; omega) hg3 hc3 hc4)
          rw [hds] at HW3
          unfold NumR at HW3
          have BY := Lib.hid (B3.out.go qY B3.out.lt)
          have hbY := bt hb3 qY
          clear qY hg3 hc3 hc4 HN2 hb3 B3
          go_wp2_with fail
          refine HW3.out.mono ?_
          rintro e w4 ⟨a, c, rfl, r1, r2, q4⟩
          have BZ := Lib.hid (BY.out.go q4 BY.out.lt)
          have hbZ := bt hbY q4
          obtain ⟨hb50, B50⟩ := hBox.out _ BZ.out hbZ.out nb a (nW s.data.toList ++ nF s.data.toList).length c xe
          have hfin := Lib.hid (HYes.out hyes a _ c xe _ rfl rfl r1 (r2.numFar BZ.out _) hb50)
          have B5 := Lib.hid B50
          clear q4 B50 hb50 hBox HYes hbY hbZ BY r1 r2 HW3 HNo hds
          generalize (nW s.data.toList ++ nF s.data.toList).length = bl at *
          go_wp2_with (refine wpList_store_row rfl 61 (.tmp 2) (.tmp 69) rfl N _ rfl rfl 61 _ BZ.out (nvl_i nb a bl c xe) (nvl_z _ nb _ a _ bl _ c _ xe) (nvl_one nb a bl c xe) ?_)
          exact bodyPost_ret (v := .tuple #[.agg (nvl nb a bl c xe).toArray, .bool true]) (fin_rdn _ _ N nb a bl c xe _ rfl rfl B5.out) rfl hfin.out
      · obtain ⟨hF1, _⟩ := hPt hpb
        have HX := HX2 hpb
        rw [hpb, ← hF1] at hok
        rw [← hF1] at hnE
        have hFl : Fr.data.toList.length = Fr.size := by simp
        rw [hFl] at hnE
        have hds : Wh.data.toList ++ Fr.data.toList = nW s.data.toList ++ nF s.data.toList := by rw [hWl, hF1]
        have hxv : v - (Fr.size : Int) = xe := hnE.symm
        have hxv2 : v - (j : Int) = xe := by rw [← hxv, hFz]
        have hbd2 : -L ≤ v ∧ v ≤ L := hbd
        have hwx : IntKind.i64.wrap (v - (j : Int)) = xe := by rw [wrapI _ (by omega) (by omega)]; exact hxv2
        clear hPf hPt HX1 HX2 hF1 hnE
        go_wp2_with fail
        refine (HC2.out _).mono ?_
        rintro e w3 ⟨rfl, q3⟩
        have B3 := Lib.hid (B1.out.go q3 B1.out.lt)
        have hb3 := bt hb1 q3
        clear q3 HC2 B1 hb1
        by_cases hj0 : j = 0
        · have hte2 := empty_yes Fr (by omega)
          have hno : okk = false := by
            have h2 : Fr.data.toList = [] := List.eq_nil_of_length_eq_zero (by omega)
            rw [hok, h2]; simp
          clear hok HYes HN2 HX hds
          obtain ⟨hb50, B50⟩ := hBox.out _ B3.out hb3.out false none 0 0 0
          have hfin := Lib.hid (HNo.out hno _ hb50)
          have B5 := Lib.hid B50
          clear B50 hb50 hBox HNo
          go_wp2_with (refine wpList_store_row rfl 61 (.tmp 2) (.tmp 48) rfl N _ rfl rfl 61 _ B3.out (nvl_i false none 0 0 0) (nvl_z _ false _ none _ 0 _ 0 _ 0) (nvl_one false none 0 0 0) ?_)
          exact bodyPost_ret (v := .tuple #[.agg (nvl false none 0 0 0).toArray, .bool false]) (fin_rdn _ _ N false none 0 0 0 _ rfl rfl B5.out) rfl hfin.out
        · have hte2 := empty_no Fr (by omega)
          have hfe : Fr.data.toList.isEmpty = false := by
            cases h : Fr.data.toList with
            | nil => rw [h] at hFl; have e0 : ([] : List UInt8).length = 0 := rfl; omega
            | cons _ _ => rfl
          rw [hfe] at hok
          clear hfe
          go_wp2_with fail
          refine (HX.out _).mono ?_
          rintro e w4 ⟨rfl, q4⟩
          have B4 := Lib.hid (B3.out.go q4 B3.out.lt)
          have hb4 := bt hb3 q4
          clear q4 HX B3 hb3
          cases f with
          | false =>
            have hno : okk = false := by rw [hok]; simp
            clear hok HYes HN2
            obtain ⟨hb50, B50⟩ := hBox.out _ B4.out hb4.out false none 0 0 0
            have hfin := Lib.hid (HNo.out hno _ hb50)
            have B5 := Lib.hid B50
            clear B50 hb50 hBox HNo
            go_wp2_with (refine wpList_store_row rfl 61 (.tmp 2) (.tmp 60) rfl N _ rfl rfl 61 _ B4.out (nvl_i false none 0 0 0) (nvl_z _ false _ none _ 0 _ 0 _ 0) (nvl_one false none 0 0 0) ?_)
            exact bodyPost_ret (v := .tuple #[.agg (nvl false none 0 0 0).toArray, .bool false]) (fin_rdn _ _ N false none 0 0 0 _ rfl rfl B5.out) rfl hfin.out
          | true =>
            have hyes : okk = true := by rw [hok]; simp [hwe, hcd]
            clear hok
            obtain ⟨W3, hW3⟩ : ∃ W3, w4.alloc (.cells #[.string Wh, .string Fr] 9) = W3 := ⟨_, rfl⟩
            have qY : Below w4.heap.size w4 W3 := by rw [← hW3]; exact (Below.refl _ w4).alloc (Nat.le_refl _) _
            have hg3 : w4.heap.size < W3.heap.size := by rw [← hW3]; simp
            have hc3 : W3.cell? ⟨w4.heap.size, 0, none⟩ = some (.string Wh) := by rw [← hW3]; exact cell_of_row _ _ 0 _ _ (0, 0) (heap_alloc_new w4 _)
            have hc4 : W3.cell? ⟨w4.heap.size, 1, none⟩ = some (.string Fr) := by rw [← hW3]; exact cell_of_row _ _ 1 _ _ (0, 0) (heap_alloc_new w4 _)
            have HW3 := Lib.hid (HN2.out nb xe Wh Fr W3 w4.heap.size (by omega) hg3 hc3 hc4)
            rw [hds] at HW3
            unfold NumR at HW3
            have BY := Lib.hid (B4.out.go qY B4.out.lt)
            have hbY := bt hb4 qY
            clear qY hg3 hc3 hc4 HN2 hb4 B4
            go_wp2_with fail
            refine HW3.out.mono ?_
            rintro e w4 ⟨a, c, rfl, r1, r2, q4⟩
            have BZ := Lib.hid (BY.out.go q4 BY.out.lt)
            have hbZ := bt hbY q4
            obtain ⟨hb50, B50⟩ := hBox.out _ BZ.out hbZ.out nb a (nW s.data.toList ++ nF s.data.toList).length c xe
            have hfin := Lib.hid (HYes.out hyes a _ c xe _ rfl rfl r1 (r2.numFar BZ.out _) hb50)
            have B5 := Lib.hid B50
            clear q4 B50 hb50 hBox HYes hbY hbZ BY r1 r2 HW3 HNo hds
            generalize (nW s.data.toList ++ nF s.data.toList).length = bl at *
            go_wp2_with (refine wpList_store_row rfl 61 (.tmp 2) (.tmp 69) rfl N _ rfl rfl 61 _ BZ.out (nvl_i nb a bl c xe) (nvl_z _ nb _ a _ bl _ c _ xe) (nvl_one nb a bl c xe) ?_)
            exact bodyPost_ret (v := .tuple #[.agg (nvl nb a bl c xe).toArray, .bool true]) (fin_rdn _ _ N nb a bl c xe _ rfl rfl B5.out) rfl hfin.out
end Go.Proofs.YtpankmaljafnnaaGreatDoor
