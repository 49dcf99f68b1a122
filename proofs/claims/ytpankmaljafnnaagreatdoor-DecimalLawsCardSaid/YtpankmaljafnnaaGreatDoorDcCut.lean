/-
  Helper: the walks of strings.Cut at 'e', strings.TrimLeft at the digits, decimal.cutDigits, decimal.signed.
-/
import Derived.Test.YtpankmaljafnnaaGreatDoorDcTrim
import Derived.Test.YtpankmaljafnnaaGreatDoorDcBlk
import Derived.Lib.AsciiSet
namespace Go.Proofs.YtpankmaljafnnaaGreatDoor
open Go.RowKit
set_option linter.unusedVariables false
set_option linter.unusedSimpArgs false

def isD (c : UInt8) : Bool := 48 ≤ c && c ≤ 57
theorem isD_iff (c : UInt8) : isD c = true ↔ (48 ≤ c.toNat ∧ c.toNat ≤ 57) := by
  unfold isD; simp [UInt8.le_iff_toNat_le]
theorem ext_list (s : ByteArray) (a b : Nat) : (s.extract a b).data.toList = (s.data.toList.drop a).take (b - a) := by
  rw [ByteArray.data_extract, Array.toList_extract, List.extract]
theorem ext_end (s : ByteArray) (a : Nat) : (s.extract a s.size).data.toList = s.data.toList.drop a := by
  rw [ext_list, List.take_of_length_le]; simp
/-- the bytes before the first 'e' -/
def eAt (l : List UInt8) : Nat := (l.takeWhile (· != 101)).length
theorem eAt_le (l : List UInt8) : eAt l ≤ l.length := by
  unfold eAt; exact (List.takeWhile_sublist _).length_le
theorem idx_e (l : List UInt8) : Lib.indexByte l 101 = if eAt l < l.length then (eAt l : Int) else -1 := by
  induction l with
  | nil => rfl
  | cons b l ih =>
    unfold Lib.indexByte
    by_cases h : b = 101
    · subst h
      rw [if_pos (by decide)]
      have : eAt (101 :: l) = 0 := rfl
      rw [this, if_pos (by simp)]; rfl
    · have e : eAt (b :: l) = eAt l + 1 := by
        unfold eAt; rw [List.takeWhile_cons, if_pos (by simpa using h)]; rfl
      rw [if_neg (by simpa using h), ih, e, List.length_cons]
      by_cases g : eAt l < l.length
      · rw [if_pos g, if_neg (by simp), if_pos (by omega)]; omega
      · rw [if_neg g, if_pos (by decide), if_neg (by omega)]
def cutV (s : ByteArray) (k : Nat) : Value := if k < s.size then .tuple #[.string (s.extract 0 k), .string (s.extract (k + 1) s.size), .bool true] else .tuple #[.string s, .string ⟨#[]⟩, .bool false]
def CutP (s : ByteArray) (w : World) (e : Ending) (w' : World) : Prop := e = .returned (cutV s (eAt s.data.toList)) ∧ Below w.heap.size w w'
set_option maxRecDepth 100000 in
set_option maxHeartbeats 2000000 in
theorem cutI_any (s : ByteArray) (hs : s.size ≤ 1000000) (w : World) : Calls Tryz.prog 91 #[.string s, .string ⟨#[101]⟩] w (CutP s w) := by
  have HI := Lib.hid (fun W => Tryz.stringslite_Index_one s 101 W)
  have hk := eAt_le s.data.toList
  have hl : s.data.toList.length = s.size := by simp
  rw [idx_e, hl] at HI
  rw [hl] at hk
  unfold CutP
  generalize eAt s.data.toList = k at *
  clear hl
  have hF : Hid (∀ w' v, cutV s k = v → Below w.heap.size w w' → (fun e w' => e = .returned (cutV s k) ∧ Below w.heap.size w w') (Ending.returned v) w') := fun w' v h hb => ⟨by rw [h], hb⟩
  generalize (fun (e : Ending) (w' : World) => e = .returned (cutV s k) ∧ Below w.heap.size w w') = Po at *
  by_cases h : k < s.size
  · rw [if_pos h] at HI
    have hV : Hid (cutV s k = .tuple #[.string (s.extract 0 k), .string (s.extract (k + 1) s.size), .bool true]) := if_pos h
    have p0 : (0 : Int) ≤ (k : Int) := by omega
    have p1 : (k : Int) ≤ (s.size : Int) := by omega
    have p2 : (k : Int) + 1 ≤ (s.size : Int) := by omega
    clear h hk
    go_enter Tryz.func91, Tryz.ntmps91
    go_wp2_with fail
    refine (HI.out _).mono ?_
    rintro e w' ⟨rfl, rfl⟩
    have hfin := Lib.hid (hF.out w'.drew _ hV.out (Below.refl _ _).drew)
    go_wp2
    go_region
    go_wp2
    go_ret3
    exact hfin.out
  · rw [if_neg h] at HI
    have hV : Hid (cutV s k = .tuple #[.string s, .string ⟨#[]⟩, .bool false]) := if_neg h
    clear h hk
    go_enter Tryz.func91, Tryz.ntmps91
    go_wp2_with fail
    refine (HI.out _).mono ?_
    rintro e w' ⟨rfl, rfl⟩
    have hfin := Lib.hid (hF.out w' _ hV.out (Below.refl _ _))
    clear hF hV
    go_wp2
    go_ret3
    exact hfin.out
set_option maxRecDepth 100000 in
set_option maxHeartbeats 2000000 in
theorem cut_any (s : ByteArray) (hs : s.size ≤ 1000000) (w : World) : Calls Tryz.prog 68 #[.string s, .string ⟨#[101]⟩] w (CutP s w) := by
  have HI := Lib.hid (cutI_any s hs w)
  have hF : Hid (∀ a b c w', CutP s w (.returned (.tuple #[a, b, c])) w' → CutP s w (.returned (.tuple #[a, b, c])) w') := fun a b c w' h => h
  have hD : Hid (∀ e w', CutP s w e w' → ∃ a b c, e = .returned (.tuple #[a, b, c])) := fun e w' h => by
    have h1 := h.1
    unfold cutV at h1
    split at h1
    · exact ⟨_, _, _, h1⟩
    · exact ⟨_, _, _, h1⟩
  generalize CutP s w = Po at *
  go_enter Tryz.func68, Tryz.ntmps68
  go_wp2_with fail
  refine HI.out.mono ?_
  intro e w' hp
  obtain ⟨a, b, c, rfl⟩ := hD.out e w' hp
  have hfin := Lib.hid hp
  clear hp hD hF
  go_wp2
  go_ret3
  exact hfin.out
/-- a text or its negative -/
def sgnB (b : Bool) (s : ByteArray) : ByteArray := if b then ⟨#[45]⟩ ++ s else s
set_option maxHeartbeats 1000000 in
theorem signed_any (b : Bool) (s : ByteArray) (hs : s.size ≤ 1000000) (w : World) : Calls Tryz.prog 44 #[.bool b, .string s] w fun e w' => e = .returned (.string (sgnB b s)) ∧ w = w' := by
  cases b with
  | true =>
    go_enter Tryz.func44, Tryz.ntmps44
    go_wp2
    first | exact ⟨rfl, rfl⟩ | (go_ret; exact ⟨rfl, rfl⟩)
  | false =>
    go_enter Tryz.func44, Tryz.ntmps44
    go_wp2
    first | exact ⟨rfl, rfl⟩ | (go_ret; exact ⟨rfl, rfl⟩)
/-- the digits -/
def tenS : ByteArray := ⟨#[48, 49, 50, 51, 52, 53, 54, 55, 56, 57]⟩
theorem ten_isD (x : UInt8) : tenS.data.toList.contains x = isD x := by
  have h : ∀ n : Fin 256, tenS.data.toList.contains (UInt8.ofNat n.1) = isD (UInt8.ofNat n.1) := by decide +kernel
  have := h ⟨x.toNat, x.toNat_lt⟩
  simpa using this
theorem zero124 (w : World) : (zeroValue 124).run Tryz.prog w = .ok (.agg (Array.replicate 256 (.bool false))) w := by kernel_rfl
set_option maxRecDepth 100000 in
set_option maxHeartbeats 2000000 in
theorem trimASCII_any (s : ByteArray) (g : Nat) (w : World) (hs : s.size ≤ 1000000) (hg : ∀ x : UInt8, w.cell? ⟨g, x.toNat, none⟩ = some (.bool (isD x))) :
    Calls Tryz.prog 109 #[.string s, .pointer (some ⟨g, 0, none⟩)] w fun e w' => ∃ r : ByteArray, e = .returned (.string r) ∧ r.data.toList = s.data.toList.dropWhile isD ∧ w = w' := by
  have HC : Hid (∀ x : UInt8, Calls Tryz.prog 128 #[.pointer (some ⟨g, 0, none⟩), .int .u8 x.toNat] w fun e w' => e = .returned (.bool (isD x)) ∧ w = w') := fun x => (Tryz.asciiSet_contains g x (isD x) w (hg x)).mono fun e w' ⟨h1, h2⟩ => ⟨h1, h2.symm⟩
  have HF : Hid (∀ r : ByteArray, r.data.toList = s.data.toList.dropWhile isD → (fun e w' => ∃ r : ByteArray, e = .returned (.string r) ∧ r.data.toList = s.data.toList.dropWhile isD ∧ w = w') (Ending.returned (.string r)) w) := fun r h => ⟨r, rfl, h, rfl⟩
  clear hg
  generalize (fun (e : Ending) (w' : World) => ∃ r : ByteArray, e = .returned (.string r) ∧ r.data.toList = s.data.toList.dropWhile isD ∧ w = w') = Po at *
  go_enter Tryz.func109, Tryz.ntmps109
  go_wp2
  go_loop [0] (fun v => ∃ r : ByteArray, v = .string r ∧ r.size ≤ 1000000 ∧ Hid (r.data.toList.dropWhile isD = s.data.toList.dropWhile isD)) (fun v => match v with | .string r => r.size | _ => 0)
  case atStart => exact ⟨s, rfl, hs, rfl⟩
  case round =>
    obtain ⟨r, rfl, hr, HI⟩ := hrel
    by_cases h0 : r.size = 0
    · have hn : r.data.toList = [] := List.eq_nil_of_length_eq_zero (by simpa using h0)
      have hfin := Lib.hid (HF.out r (by rw [← HI.out, hn]; rfl))
      have p : ¬ (0 : Int) < (r.size : Int) := by omega
      clear HF HI hn
      go_wp2
      exact hfin.out
    · have p : (0 : Int) < (r.size : Int) := by omega
      have hpos : 0 < r.size := by omega
      have hcons : r.data.toList = r[0] :: r.data.toList.drop 1 := by
        rw [← List.drop_zero (l := r.data.toList), List.drop_eq_getElem_cons (by simpa using hpos)]; rfl
      have HC0 := Lib.hid (HC.out r[0])
      have hex := ext_end r 1
      have hsz : (r.extract 1 r.size).size = r.size - 1 := by rw [ByteArray.size_extract]; omega
      cases hd : isD r[0] with
      | true =>
        rw [hd] at HC0
        have hI2 : Hid ((r.extract 1 r.size).data.toList.dropWhile isD = s.data.toList.dropWhile isD) := by
          have h := HI.out
          rw [hcons, List.dropWhile_cons, if_pos hd] at h
          show _ = _
          rw [hex]; exact h
        have hszh := Lib.hid hsz
        clear HF HI hcons hex hsz hd h0
        go_wp2_with fail
        refine HC0.out.mono ?_
        rintro e w' ⟨rfl, rfl⟩
        have p1 : (1 : Int) ≤ (r.size : Int) := by omega
        clear HC0
        go_wp2
        go_round
        case rel => exact ⟨_, rfl, by rw [hszh.out]; omega, hI2⟩
        case measure => show (r.extract 1 r.size).size < r.size; rw [hszh.out]; omega
      | false =>
        rw [hd] at HC0
        have hfin := Lib.hid (HF.out r (by rw [← HI.out, hcons, List.dropWhile_cons, if_neg (by rw [hd]; decide)]))
        clear HF HI hcons hex hsz hd h0
        go_wp2_with fail
        refine HC0.out.mono ?_
        rintro e w' ⟨rfl, rfl⟩
        go_wp2
        exact hfin.out
def cutD (l : List UInt8) : Nat := (l.takeWhile isD).length
theorem cutD_le (l : List UInt8) : cutD l ≤ l.length := by unfold cutD; exact (List.takeWhile_sublist _).length_le
theorem drop_cutD (l : List UInt8) : l.dropWhile isD = l.drop (cutD l) := by
  unfold cutD
  induction l with
  | nil => rfl
  | cons c l ih =>
    rw [List.dropWhile_cons, List.takeWhile_cons]
    split
    · rw [List.length_cons, List.drop_succ_cons, ih]
    · rfl
theorem ba_ext (a b : ByteArray) (h : a.data.toList = b.data.toList) : a = b := ByteArray.ext (Array.toList_inj.1 h)
set_option maxRecDepth 100000 in
set_option maxHeartbeats 2000000 in
theorem trimTen_any (s : ByteArray) (hs : s.size ≤ 1000000) (w : World) : Calls Tryz.prog 81 #[.string s, .string tenS] w fun e w' => e = .returned (.string (s.extract (cutD s.data.toList) s.size)) ∧ Below w.heap.size w w' := by
  have HM := Lib.hid (fun W => Tryz.strings_makeASCIISet zero124 tenS W (by decide) (by
    intro j b hb
    have hm : b ∈ tenS.data.toList := List.mem_of_getElem? hb
    have : ∀ x ∈ tenS.data.toList, x.toNat < 128 := by decide
    exact this b hm))
  have HT := Lib.hid (fun (g : Nat) (W : World) hg => trimASCII_any s g W hs hg)
  have HF : Hid (∀ (r : ByteArray) w', r.data.toList = s.data.toList.dropWhile isD → Below w.heap.size w w' → (fun e w' => e = .returned (.string (s.extract (cutD s.data.toList) s.size)) ∧ Below w.heap.size w w') (Ending.returned (.string r)) w') := fun r w' h hb => by
    have : r = s.extract (cutD s.data.toList) s.size := ba_ext _ _ (by rw [h, drop_cutD, ext_end])
    subst this
    exact ⟨rfl, hb⟩
  have hcs := Lib.hid (fun x : UInt8 => (Lib.setCells_at tenS.data.toList x).trans (by rw [ten_isD]))
  generalize (fun (e : Ending) (w' : World) => e = .returned (.string (s.extract (cutD s.data.toList) s.size)) ∧ Below w.heap.size w w') = Po at *
  have hsz := Lib.setCells_size tenS.data.toList
  have hone0 : (Lib.setCells tenS.data.toList).all (·.oneCell') = true := by
    rw [Lib.setCells_eq, Array.all_eq_true_iff_forall_mem]
    intro v hv
    obtain ⟨j, _, rfl⟩ := Array.mem_map.1 hv
    rfl
  generalize Lib.setCells tenS.data.toList = SC at *
  have hten : tenS.toList = [48, 49, 50, 51, 52, 53, 54, 55, 56, 57] := by decide +kernel
  have htz : tenS.size = 10 := rfl
  generalize tenS = ten at *
  by_cases h0 : s.size = 0
  · have hn : s.data.toList = [] := List.eq_nil_of_length_eq_zero (by simpa using h0)
    have hte : s.toList = [] := by rw [Lib.toList_data]; exact hn
    have hfin := Lib.hid (HF.out s w (by rw [hn]; rfl) (Below.refl _ _))
    clear HF hn HM HT hcs
    go_enter Tryz.func81, Tryz.ntmps81
    go_wp2
    exact hfin.out
  · have hte : s.toList.isEmpty = false := by
      cases h : s.toList.isEmpty with
      | false => rfl
      | true => exact absurd (by rw [List.isEmpty_iff, Lib.toList_data] at h; have := congrArg List.length h; rw [← Lib.size_eq] at this; exact this) h0
    clear h0
    go_enter Tryz.func81, Tryz.ntmps81
    go_wp2_with fail
    refine (HM.out _).mono ?_
    rintro e w' ⟨rfl, rfl⟩
    have hz124 := zero124
    obtain ⟨M, W, hM, hW, B0, B1, hbl⟩ : ∃ M W, (w.alloc (.cells SC 124)).heap.size = M ∧ (w.alloc (.cells SC 124)).alloc (.cells (Array.replicate 256 (.bool false)) 124) = W ∧ Hid (W.heap[M]? = some (.cells (Array.replicate 256 (.bool false)) 124 (0, 0))) ∧ Hid (∀ x : UInt8, (W.setRow M SC).cell? ⟨M, x.toNat, none⟩ = some (.bool (isD x))) ∧ Hid (Below w.heap.size w (W.setRow M SC)) := by
      refine ⟨_, _, rfl, rfl, heap_alloc_new _ _, fun x => ?_, ?_⟩
      · rw [cell_of_row _ _ _ SC _ (0, 0) (setRow_heap _ _ _ _ _ _ (heap_alloc_new _ _))]
        exact hcs.out x
      · exact below_row (((Below.refl _ w).alloc (Nat.le_refl _) _).alloc (by simp) _) (by simp) _
    have hone : Hid (SC.all (·.oneCell') = true) := hone0
    have h256 : Hid ((Tryz.prog.info? 124).map (·.size) = some SC.size) := by show _ = _; rw [hsz]; kernel_rfl
    have hsz2 : Hid ((Array.replicate 256 (Value.bool false)).size = SC.size) := by show _ = _; rw [hsz]; simp
    have HT2 := Lib.hid (HT.out M _ B1.out)
    clear hcs hsz HT B1 hone0
    generalize Array.replicate 256 (Value.bool false) = Z at *
    go_wp2_with (refine wpList_store_row rfl 124 (.tmp 5) (.tmp 29) rfl M _ rfl rfl 124 _ B0.out h256.out hsz2.out hone.out ?_)
    refine HT2.out.mono ?_
    rintro e w' ⟨r, rfl, hr, rfl⟩
    have hfin := Lib.hid (HF.out r _ hr hbl.out)
    clear HF hr HT2
    go_wp2
    exact hfin.out
set_option maxRecDepth 100000 in
set_option maxHeartbeats 2000000 in
/-- the digits at the beginning, and the rest -/
theorem cutDigits_any (s : ByteArray) (hs : s.size ≤ 1000000) (w : World) : Calls Tryz.prog 63 #[.string s] w fun e w' => e = .returned (.tuple #[.string (s.extract 0 (cutD s.data.toList)), .string (s.extract (cutD s.data.toList) s.size)]) ∧ Below w.heap.size w w' := by
  have HT := Lib.hid (trimTen_any s hs w)
  unfold tenS at HT
  have hk := cutD_le s.data.toList
  have hl : s.data.toList.length = s.size := by simp
  rw [hl] at hk
  generalize cutD s.data.toList = k at *
  have HF : Hid (∀ w', Below w.heap.size w w' → (fun e w' => e = .returned (.tuple #[.string (s.extract 0 k), .string (s.extract k s.size)]) ∧ Below w.heap.size w w') (Ending.returned (.tuple #[.string (s.extract 0 k), .string (s.extract k s.size)])) w') := fun w' h => ⟨rfl, h⟩
  generalize (fun (e : Ending) (w' : World) => e = .returned (.tuple #[.string (s.extract 0 k), .string (s.extract k s.size)]) ∧ Below w.heap.size w w') = Po at *
  have hsz : (s.extract k s.size).size = s.size - k := by rw [ByteArray.size_extract]; omega
  have e1 : (s.size : Int) - ((s.size - k : Nat) : Int) = (k : Int) := by omega
  have p1 : (k : Int) ≤ (s.size : Int) := by omega
  generalize s.extract k s.size = t at *
  clear hl
  go_enter Tryz.func63, Tryz.ntmps63
  go_wp2_with fail
  refine HT.out.mono ?_
  rintro e w' ⟨rfl, hb⟩
  have hfin := Lib.hid (HF.out w' hb)
  rw [← hsz] at e1
  clear HF hb HT hk hsz
  go_wp2
  exact hfin.out
end Go.Proofs.YtpankmaljafnnaaGreatDoor
