/-
  Helper: the walk of Unbase64.
-/
import Derived.Test.YtaapmndfefjdcaaDoorArUnh
import Derived.Test.YtaapmndfefjdcaaDoorArNum3
namespace Go.Proofs.YtaapmndfefjdcaaDoor
open Go.RowKit
set_option linter.unusedVariables false

def UnbP (l : List UInt8) (w : World) (e : Ending) (w' : World) : Prop := (b64A (bytesOf (stream SX 6 l)) = l → PairP (bytesOf (stream SX 6 l)) 0 w e w') ∧ (b64A (bytesOf (stream SX 6 l)) ≠ l → PairP [] 3 w e w')
theorem or_u32 (B v : Nat) (hB : B < 4294967296) (hv : v < 64) : bits .or .u32 (IntKind.u32.wrap ((B : Int) * 64)) (v : Int) = (((B * 64 + v) % 4294967296 : Nat) : Int) := by
  rw [IntKind.wrap_u32', show (B : Int) * 64 % 4294967296 = ((B * 64 % 4294967296 : Nat) : Int) by omega, u32_or_nat _ _ (by omega) (by omega), nat_join 6 _ _ (by omega) (by omega)]
  congr 1; omega
/-- the state behind the first k digits -/
def NB (d : List UInt8) (k : Nat) : Nat := numB (stream SX 6 (d.take k)) 0 (6 * k) % 4294967296
theorem stream_ok (d : List UInt8) (k : Nat) (hk : k ≤ d.length) (h : ∀ i, i < k → fnd SX (d.getD i 0) < 64) : (stream SX 6 (d.take k)).length = 6 * k := by
  induction k with
  | zero => rfl
  | succ k ih =>
    rw [stream_take _ _ _ _ (by omega), List.length_append, ih (by omega) (fun i hi => h i (by omega))]
    unfold dgE; rw [if_pos (show fnd SX (d.getD k 0) < SX.length from h k (by omega)), bitE_len]; omega
theorem NB_step (d : List UInt8) (k : Nat) (hk : k < d.length) (h : ∀ i, i < k + 1 → fnd SX (d.getD i 0) < 64) : NB d (k + 1) = (NB d k * 64 + fnd SX (d.getD k 0)) % 4294967296 := by
  have h1 := stream_ok d k (by omega) (fun i hi => h i (by omega))
  have hv := h k (by omega)
  unfold NB
  rw [stream_take _ _ _ _ hk]
  unfold dgE
  rw [if_pos (show fnd SX (d.getD k 0) < SX.length from hv)]
  have := num_push (stream SX 6 (d.take k)) (fnd SX (d.getD k 0)) hv
  rw [h1] at this
  rw [show 6 * (k + 1) = 6 * k + 6 by omega, this]
  omega
/-- the bytes that are ready behind the first k digits -/
def OB (d : List UInt8) (k : Nat) : List UInt8 := bytesR (stream SX 6 (d.take k)) (6 * k / 8)
theorem OB_len (d : List UInt8) (k : Nat) : (OB d k).length = 6 * k / 8 := bytesR_len _ _
theorem OB_same (d : List UInt8) (k : Nat) (hk : k < d.length) (h : ∀ i, i < k + 1 → fnd SX (d.getD i 0) < 64) (hj : 6 * (k + 1) / 8 = 6 * k / 8) : OB d (k + 1) = OB d k := by
  have h1 := stream_ok d k (by omega) (fun i hi => h i (by omega))
  unfold OB
  rw [hj, stream_take _ _ _ _ hk, bytesR_pre _ _ _ (by omega)]
theorem OB_more (d : List UInt8) (k c : Nat) (hk : k < d.length) (h : ∀ i, i < k + 1 → fnd SX (d.getD i 0) < 64) (hj : 6 * (k + 1) / 8 = 6 * k / 8 + 1) (hc : 8 * (6 * k / 8) + 8 + c = 6 * (k + 1)) (hc8 : c ≤ 8) :
    OB d (k + 1) = OB d k ++ [UInt8.ofNat (NB d (k + 1) / 2 ^ c % 256)] := by
  have h1 := stream_ok d k (by omega) (fun i hi => h i (by omega))
  have h2 := stream_ok d (k + 1) (by omega) h
  unfold OB NB
  rw [hj, bytesR_succ, ← h2, num_byte _ (b01_stream _ _ _) (6 * k / 8) c (by rw [h2]; exact hc) hc8, stream_take _ _ _ _ hk, bytesR_pre _ _ _ (by omega)]
set_option maxRecDepth 100000 in
set_option maxHeartbeats 8000000 in
theorem unb_any (s : ByteArray) (w : World) (hs : s.size ≤ 100000) :
    Calls Tryd.prog 15 #[.string s] w (UnbP s.data.toList w) := by
  have hlen : s.data.toList.length = s.size := by simp
  have hTR := Lib.hid (fun w => Tryd.strings_TrimRight_one s 61 (by decide) w (by omega))
  obtain ⟨d, hd⟩ : ∃ d : ByteArray, d = ⟨(trm s.data.toList).toArray⟩ := ⟨_, rfl⟩
  have hdl : d.data.toList = trm s.data.toList := by rw [hd]
  have hdsz : d.size ≤ s.size := by
    have h1 : d.data.toList.length = d.size := by simp
    obtain ⟨p, h2, _⟩ := trm_split s.data.toList
    have h3 := congrArg List.length h2
    rw [List.length_append, ← hdl] at h3
    omega
  have HTR : Hid (∀ w, Calls Tryd.prog 26 #[.string s, .string ⟨#[61]⟩] w fun e w' => e = .returned (.string d) ∧ w = w') := fun w => (hTR.out w).mono fun e w' ⟨h1, h2⟩ => ⟨by rw [h1, hd]; rfl, h2.symm⟩
  have hstr : stream SX 6 s.data.toList = stream SX 6 d.data.toList := by rw [hdl]; exact stream_trm _
  have hdlen : d.data.toList.length = d.size := by simp
  have HBAD : Hid (∀ i w', i < d.size → ¬ fnd SX (d.data.toList.getD i 0) < 64 → Below w.heap.size w w' → UnbP s.data.toList w (.returned (.tuple #[.string ⟨#[]⟩, .int .i64 3])) w') := fun i w' hi hf hb => by
    have hmem : d.data.toList.getD i 0 ∈ trm s.data.toList := by
      rw [← hdl, List.getD_eq_getElem?_getD, List.getElem?_eq_getElem (by omega)]
      exact List.getElem_mem _
    have hno := b64_bad s.data.toList (bytesOf (stream SX 6 s.data.toList)) _ hmem hf
    exact ⟨fun h => absurd h hno, fun _ => ⟨rfl, hb⟩⟩
  have HYES : Hid (∀ w', (∀ i, i < d.size → fnd SX (d.data.toList.getD i 0) < 64) → b64A (OB d.data.toList d.size) = s.data.toList → Below w.heap.size w w' → UnbP s.data.toList w (.returned (.tuple #[.string ⟨(OB d.data.toList d.size).toArray⟩, .int .i64 0])) w') := fun w' h1 h2 hb => by
    have e : OB d.data.toList d.size = bytesOf (stream SX 6 s.data.toList) := by
      unfold OB bytesOf
      rw [hstr, List.take_of_length_le (by omega), ← stream_ok d.data.toList d.size (by omega) h1, List.take_of_length_le (by omega)]
    rw [e] at h2 ⊢
    exact ⟨fun _ => ⟨rfl, hb⟩, fun h => absurd h2 h⟩
  have HNO : Hid (∀ w', (∀ i, i < d.size → fnd SX (d.data.toList.getD i 0) < 64) → b64A (OB d.data.toList d.size) ≠ s.data.toList → Below w.heap.size w w' → UnbP s.data.toList w (.returned (.tuple #[.string ⟨#[]⟩, .int .i64 3])) w') := fun w' h1 h2 hb => by
    have e : OB d.data.toList d.size = bytesOf (stream SX 6 s.data.toList) := by
      unfold OB bytesOf
      rw [hstr, List.take_of_length_le (by omega), ← stream_ok d.data.toList d.size (by omega) h1, List.take_of_length_le (by omega)]
    rw [e] at h2
    exact ⟨fun h => absurd h h2, fun _ => ⟨rfl, hb⟩⟩
  have HB := Lib.hid (fun k (hk : k < d.size) => ba_getD d k hk)
  have HN : Hid (∀ k, k < d.size → (∀ i, i < k + 1 → fnd SX (d.data.toList.getD i 0) < 64) → NB d.data.toList (k + 1) = (NB d.data.toList k * 64 + fnd SX (d.data.toList.getD k 0)) % 4294967296) := fun k hk h => NB_step _ k (by omega) h
  have HOs : Hid (∀ k, k < d.size → (∀ i, i < k + 1 → fnd SX (d.data.toList.getD i 0) < 64) → 6 * (k + 1) / 8 = 6 * k / 8 → OB d.data.toList (k + 1) = OB d.data.toList k) := fun k hk h hj => OB_same _ k (by omega) h hj
  have HOm : Hid (∀ k c, k < d.size → (∀ i, i < k + 1 → fnd SX (d.data.toList.getD i 0) < 64) → 6 * (k + 1) / 8 = 6 * k / 8 + 1 → 8 * (6 * k / 8) + 8 + c = 6 * (k + 1) → c ≤ 8 → OB d.data.toList (k + 1) = OB d.data.toList k ++ [UInt8.ofNat (NB d.data.toList (k + 1) / 2 ^ c % 256)]) := fun k c hk h h1 h2 h3 => OB_more _ k c (by omega) h h1 h2 h3
  have HOl : Hid (∀ k, (OB d.data.toList k).length = 6 * k / 8) := fun k => OB_len _ k
  have HO0 : Hid (OB d.data.toList 0 = []) := rfl
  have HN0 : Hid (0 = NB d.data.toList 0) := rfl
  have HBE := Lib.hid (fun (t : List UInt8) w (h : t.length ≤ 100000) => b64_any ⟨t.toArray⟩ w (by simpa [ByteArray.size] using h))
  have HD : Hid (∀ w, Calls Tryd.prog 22 #[.string ⟨#[65, 66, 67, 68, 69, 70, 71, 72, 73, 74, 75, 76, 77, 78, 79, 80, 81, 82, 83, 84, 85, 86, 87, 88, 89, 90, 97, 98, 99, 100, 101, 102, 103, 104, 105, 106, 107, 108, 109, 110, 111, 112, 113, 114, 115, 116, 117, 118, 119, 120, 121, 122, 48, 49, 50, 51, 52, 53, 54, 55, 56, 57, 43, 47]⟩] w (ArrP (tab SX) w)) := fun w => digits_any ⟨SX.toArray⟩ w (by decide)
  have HV := Lib.hid tab_six'
  have HLt : Hid ((tab SX).length = 256) := tabk_len _ _
  have hsl : Hid (s.toList = s.data.toList) := Lib.toList_data s
  generalize hPo : UnbP s.data.toList w = Po at *
  clear hPo hlen hd hdl hstr hTR hdlen
  generalize d.data.toList = l at *
  generalize s.data.toList = ls at *
  have hz := zero_tab
  obtain ⟨m, hm⟩ : ∃ m, m = d.size / 4 * 3 + 3 := ⟨_, rfl⟩
  have hm2 : (d.size : Int) / 4 * 3 + 3 = (m : Int) := by omega
  have hm1 : m ≤ 100003 := by omega
  have hm2h := Lib.hid hm2
  clear hm hm2
  have hd1 : d.size ≤ 100000 := by omega
  go_enter Tryd.func15, Tryd.ntmps15
  go_wp2_with fail
  refine (HD.out _).mono ?_
  rintro e w1 ⟨rfl, hb1⟩
  have hr0 : Hid (Row (w1.alloc (.cells zero256 38)) w1.heap.size 38 (List.replicate 256 0)) := heap_alloc_new _ _
  have hr1 : Hid (Row ((w1.alloc (.cells zero256 38)).setRow w1.heap.size (bytes (tab SX)).toArray) w1.heap.size 38 (tab SX)) := setRow_heap _ _ _ _ _ _ hr0.out
  have hsz1 : Hid ((Tryd.prog.info? 38).map (·.size) = some (bytes (tab SX)).toArray.size) := by
    show _ = _
    rw [size_tab]; simp [bytes_len, HLt.out]
  have hsz2 : Hid ((bytes (List.replicate 256 0)).toArray.size = (bytes (tab SX)).toArray.size) := by
    show _ = _
    simp [bytes_len, HLt.out]
  have hba := Lib.hid (bytes_all (tab SX))
  have hbf : Hid (Below w.heap.size w ((w1.alloc (.cells zero256 38)).setRow w1.heap.size (bytes (tab SX)).toArray)) := below_row (hb1.alloc hb1.size _) hb1.size _
  have hsr : Hid (((w1.alloc (.cells zero256 38)).setRow w1.heap.size (bytes (tab SX)).toArray).heap.size = w1.heap.size + 1) := by
    show _ = _
    rw [size_setRow]; simp
  have hszw1 := hb1.size
  generalize tab SX = tb at *
  clear hb1
  go_wp2_with (refine wpList_store_row rfl 38 (.tmp 4) (.tmp 12) rfl w1.heap.size _ rfl rfl 38 _ hr0.out hsz1.out hsz2.out hba.out ?_)
  refine (HTR.out _).mono ?_
  rintro e wt ⟨rfl, rfl⟩
  generalize hwt : (w1.alloc (.cells zero256 38)).setRow w1.heap.size (bytes tb).toArray = wt at *
  clear hwt
  go_wp2_with (at_make; refine make_room _ rfl _ _ 40 rfl Tryd.underlying40 _ m rfl rfl ?c1 ?c2 ?_)
  case c1 => exact hm2h.out
  case c2 => omega
  intro w2 hown0 hb2
  try rw [hsr.out] at hown0
  try rw [hsr.out] at hb2
  have hr2 : Hid (Row w2 w1.heap.size 38 tb) := hr1.out.go hb2 (Nat.lt_succ_self _)
  have hbel2 : Hid (Below w.heap.size w w2) := hbf.out.trans (hb2.mono (by omega))
  have hszw1' : w.heap.size ≤ w1.heap.size + 1 := by omega
  have hsw2 : w1.heap.size + 1 ≤ w2.heap.size := by have := hb2.size; rw [hsr.out] at this; exact this
  have hown0h := Lib.hid hown0
  clear hown0 hb2
  go_wp2
  go_loopw [6, 7, 8, 23] (fun v b c i wr => ∃ (k B : Nat) (cn : Int), k ≤ d.size ∧ i = .int .i64 k ∧ b = .int .u32 (B : Int) ∧ c = .int .i64 cn ∧ Hid (cn = ((6 * k % 8 : Nat) : Int)) ∧ Hid (B = NB l k) ∧ B < 4294967296 ∧ Hid (∀ i, i < k → fnd SX (l.getD i 0) < 64) ∧ wr.ownsRow (w1.heap.size + 1) 5 1 v (6 * k / 8) (bytes (OB l k)) ∧ Below (w1.heap.size + 1) w2 wr) (fun _ _ _ i _ => d.size - (intOf i).toNat)
  case atStart => exact ⟨0, 0, 0, Nat.zero_le _, rfl, rfl, rfl, rfl, HN0, by omega, fun i hi => absurd hi (by omega), by rw [HO0.out, hsr.out]; exact hown0h.out, Below.refl _ _⟩
  case round =>
    obtain ⟨k, B, cn, hk, rfl, rfl, rfl, hcn, hB, hB32, hok, hown, hbel⟩ := hrel
    by_cases hlt : k < d.size
    · have hrow : Hid (Row wr w1.heap.size 38 tb) := hr2.out.go hbel (Nat.lt_succ_self _)
      have hc0 := hrow.out.cell (d[k]).toNat (by rw [HLt.out]; exact UInt8.toNat_lt _)
      have hl0 : ((d[k]).toNat : Int) < 256 := by have := UInt8.toNat_lt (d[k]); omega
      rw [HV.out] at hc0
      have hownh := Lib.hid hown
      have hszw := hbel.size
      have hkm : (k : Int) < (d.size : Int) := by omega
      have hb0 := Lib.hid (HB.out k hlt)
      clear hown
      by_cases f0 : fnd SX d[k] < 64
      · have v0 : val SX d[k] = fnd SX d[k] := if_pos f0
        have hok2 : Hid (∀ i, i < k + 1 → fnd SX (l.getD i 0) < 64) := fun i hi => by
          by_cases e0 : i = k
          · rw [e0, hb0.out]; exact f0
          · exact hok.out i (by omega)
        have hN := HN.out k hlt hok2.out
        rw [hb0.out, ← hB.out] at hN
        have hOs := Lib.hid (HOs.out k hlt hok2.out)
        have hOm := Lib.hid (fun c => HOm.out k c hlt hok2.out)
        rw [v0] at hc0
        clear v0 hb0 hok hB
        generalize fnd SX d[k] = v at *
        obtain ⟨B2, hB2⟩ : ∃ B2, B2 = (B * 64 + v) % 4294967296 := ⟨_, rfl⟩
        have o1 := or_u32 B v hB32 f0
        rw [← hB2] at hN o1
        have o2 := o1
        rw [IntKind.wrap_u32'] at o2
        have hB232 : B2 < 4294967296 := by omega
        have hNh := Lib.hid hN.symm
        rw [hN] at hOm
        have g0 : ((v : Int) == 255) = false := by rw [beq_eq_false_iff_ne]; omega
        have hb2h := Lib.hid hB2
        clear hN hB2
        rcases (show k % 4 = 0 ∨ k % 4 = 1 ∨ k % 4 = 2 ∨ k % 4 = 3 by omega) with hr | hr | hr | hr
        · obtain rfl : cn = 0 := by have := hcn.out; omega
          have hOe := Lib.hid (hOs.out (by omega))
          have hje : Hid (6 * (k + 1) / 8 = 6 * k / 8) := by show _ = _; omega
          have hce : Hid ((6 : Int) = ((6 * (k + 1) % 8 : Nat) : Int)) := by show _ = _; omega
          clear hr hOs hOm hcn
          go_wp2
          go_roundw
          case rel => exact ⟨k + 1, B2, 6, by omega, by go_num, rfl, rfl, hce, hNh, hB232, hok2, by rw [hOe.out, hje.out]; exact hownh.out, hbel⟩
          case measure => simp [intOf]; omega
        · obtain rfl : cn = 6 := by have := hcn.out; omega
          have hOe := Lib.hid (hOm.out 4 (by omega) (by omega) (by omega))
          have hje : Hid (6 * (k + 1) / 8 = 6 * k / 8 + 1) := by show _ = _; omega
          have hce : Hid ((4 : Int) = ((6 * (k + 1) % 8 : Nat) : Int)) := by show _ = _; omega
          have hcc0 : (((UInt8.ofNat (B2 / 2 ^ 4 % 256)).toNat : Nat) : Int) = (B2 : Int) / 16 % 256 := by
            rw [toNat_ofNat _ (by omega)]; simp only [Nat.reducePow]; omega
          generalize UInt8.ofNat (B2 / 2 ^ 4 % 256) = cc at *
          have hcc := Lib.hid hcc0.symm
          clear hcc0 hr hOs hOm hcn
          have hj9 : 6 * k / 8 ≤ 100000 := by omega
          generalize 6 * k / 8 = j at *
          go_wp2_with (at_builtin; refine append_byte rfl (.tmp 44) (.tmp 49) 40 rfl Tryd.underlying40 _ (w1.heap.size + 1) _ j (OB l k) cc rfl rfl hownh.out w2 hbel ?_ ?_ ?_ ?_)
          · omega
          · omega
          · first | exact hcc.out | (rw [IntKind.wrap_u8']; exact hcc.out) | (have := hcc.out; omega)
          intro v' w3 hown3 hb3 hsp
          clear hsp
          go_wp2
          go_roundw
          case rel => exact ⟨k + 1, B2, 4, by omega, by go_num, rfl, rfl, hce, hNh, hB232, hok2, by rw [hOe.out, hje.out]; exact hown3, hb3⟩
          case measure => simp [intOf]; omega
        · obtain rfl : cn = 4 := by have := hcn.out; omega
          have hOe := Lib.hid (hOm.out 2 (by omega) (by omega) (by omega))
          have hje : Hid (6 * (k + 1) / 8 = 6 * k / 8 + 1) := by show _ = _; omega
          have hce : Hid ((2 : Int) = ((6 * (k + 1) % 8 : Nat) : Int)) := by show _ = _; omega
          have hcc0 : (((UInt8.ofNat (B2 / 2 ^ 2 % 256)).toNat : Nat) : Int) = (B2 : Int) / 4 % 256 := by
            rw [toNat_ofNat _ (by omega)]; simp only [Nat.reducePow]; omega
          generalize UInt8.ofNat (B2 / 2 ^ 2 % 256) = cc at *
          have hcc := Lib.hid hcc0.symm
          clear hcc0 hr hOs hOm hcn
          have hj9 : 6 * k / 8 ≤ 100000 := by omega
          generalize 6 * k / 8 = j at *
          go_wp2_with (at_builtin; refine append_byte rfl (.tmp 44) (.tmp 49) 40 rfl Tryd.underlying40 _ (w1.heap.size + 1) _ j (OB l k) cc rfl rfl hownh.out w2 hbel ?_ ?_ ?_ ?_)
          · omega
          · omega
          · first | exact hcc.out | (rw [IntKind.wrap_u8']; exact hcc.out) | (have := hcc.out; omega)
          intro v' w3 hown3 hb3 hsp
          clear hsp
          go_wp2
          go_roundw
          case rel => exact ⟨k + 1, B2, 2, by omega, by go_num, rfl, rfl, hce, hNh, hB232, hok2, by rw [hOe.out, hje.out]; exact hown3, hb3⟩
          case measure => simp [intOf]; omega
        · obtain rfl : cn = 2 := by have := hcn.out; omega
          have hOe := Lib.hid (hOm.out 0 (by omega) (by omega) (by omega))
          have hje : Hid (6 * (k + 1) / 8 = 6 * k / 8 + 1) := by show _ = _; omega
          have hce : Hid ((0 : Int) = ((6 * (k + 1) % 8 : Nat) : Int)) := by show _ = _; omega
          have hcc0 : (((UInt8.ofNat (B2 / 2 ^ 0 % 256)).toNat : Nat) : Int) = (B2 : Int) % 256 := by
            rw [toNat_ofNat _ (by omega)]; simp only [Nat.pow_zero]; omega
          generalize UInt8.ofNat (B2 / 2 ^ 0 % 256) = cc at *
          have hcc := Lib.hid hcc0.symm
          clear hcc0 hr hOs hOm hcn
          have hj9 : 6 * k / 8 ≤ 100000 := by omega
          generalize 6 * k / 8 = j at *
          go_wp2_with (at_builtin; refine append_byte rfl (.tmp 44) (.tmp 49) 40 rfl Tryd.underlying40 _ (w1.heap.size + 1) _ j (OB l k) cc rfl rfl hownh.out w2 hbel ?_ ?_ ?_ ?_)
          · omega
          · omega
          · first | exact hcc.out | (rw [IntKind.wrap_u8']; exact hcc.out) | (have := hcc.out; omega)
          intro v' w3 hown3 hb3 hsp
          clear hsp
          go_wp2
          go_roundw
          case rel => exact ⟨k + 1, B2, 0, by omega, by go_num, rfl, rfl, hce, hNh, hB232, hok2, by rw [hOe.out, hje.out]; exact hown3, hb3⟩
          case measure => simp [intOf]; omega
      · have v0 : val SX d[k] = 255 := if_neg f0
        have hfin := Lib.hid (HBAD.out k wr hlt (by rw [hb0.out]; exact f0) (hbel2.out.trans (hbel.mono hszw1')))
        rw [v0] at hc0
        clear v0 hb0 hok f0
        go_wp2
        exact hfin.out
    · obtain rfl : k = d.size := by omega
      have hol := Lib.hid (HOl.out d.size)
      have hol1 : (OB l d.size).length ≤ 100000 := by rw [hol.out]; omega
      have hbe := Lib.hid (fun w => HBE.out (OB l d.size) w hol1)
      obtain ⟨a2, cap2, rfl, hq1, hq2, hrb⟩ := rb_of_row hown
      have hcv := conv_rb hrb (6 * d.size / 8) hol.out cap2
      have hbelf : Hid (Below w.heap.size w wr) := hbel2.out.trans (hbel.mono hszw1')
      have hszf := hbelf.out.size
      by_cases heq : b64A (OB l d.size) = ls
      · have hfin := Lib.hid (fun w' h => HYES.out w' hok.out heq h)
        have hbt : (b64A (OB l d.size) == s.toList) = true := by rw [beq_iff_eq, heq, hsl.out]
        have hbel2' := Lib.hid hbt
        clear heq hbt hown hrb hq1 hq2 HBAD HYES HNO HOl HO0 HOs HOm
        generalize OB l d.size = r at *
        go_wp2_with fail
        refine (hbe.out _).mono ?_
        rintro e w3 ⟨rfl, hb3⟩
        have hfin2 := Lib.hid (hfin.out w3 (hbelf.out.trans (hb3.mono hszf)))
        have hbt := hbel2'.out
        generalize b64A r = y at *
        clear hb3
        go_wp2
        exact hfin2.out
      · have hfin := Lib.hid (fun w' h => HNO.out w' hok.out heq h)
        have hbt : (b64A (OB l d.size) == s.toList) = false := by rw [beq_eq_false_iff_ne, hsl.out]; exact heq
        have hbel2' := Lib.hid hbt
        clear heq hbt hown hrb hq1 hq2 HBAD HYES HNO HOl HO0 HOs HOm
        generalize OB l d.size = r at *
        go_wp2_with fail
        refine (hbe.out _).mono ?_
        rintro e w3 ⟨rfl, hb3⟩
        have hfin2 := Lib.hid (hfin.out w3 (hbelf.out.trans (hb3.mono hszf)))
        have hbt := hbel2'.out
        generalize b64A r = y at *
        clear hb3
        go_wp2
        exact hfin2.out
end Go.Proofs.YtaapmndfefjdcaaDoor
