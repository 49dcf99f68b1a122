/-
  Helper: the walk of written.
-/
import Derived.Test.YtckeefjmamggmaaDoorInStr
namespace Go.Proofs.YtckeefjmamggmaaDoor
open Go.RowKit
set_option linter.unusedVariables false

/-- the texts of a group's fields -/
def grpT (f : List Nat) (first k : Nat) : List (List UInt8) := (List.range k).map fun j => padL (f.getD (first + j) 0) (wid (first + j))
def wrL (f : List Nat) (first k : Nat) (mark : List UInt8) : List UInt8 := Lib.join (grpT f first k) mark
def mkB (l : List UInt8) : ByteArray := ⟨l.toArray⟩
def StrP (l : List UInt8) (w : World) (e : Ending) (w' : World) : Prop := e = .returned (.string (mkB l)) ∧ Below w.heap.size w w'
theorem mkB_list (l : List UInt8) : (mkB l).data.toList = l := by simp [mkB]
theorem grpT_succ (f : List Nat) (first k : Nat) : grpT f first (k + 1) = grpT f first k ++ [padL (f.getD (first + k) 0) (wid (first + k))] := by
  unfold grpT; rw [List.range_succ, List.map_append]; rfl
theorem grpT_len (f : List Nat) (first k : Nat) : (grpT f first k).length = k := by unfold grpT; simp
theorem padL_len (n wd : Nat) (hn : n ≤ 2000000000) (hw : wd ≤ 20) : (padL n wd).length ≤ 40 := by
  have := dec_len9 n hn
  unfold padL; rw [List.length_append, List.length_replicate]; omega
theorem join_len (xs : List (List UInt8)) (sep : List UInt8) (B : Nat) (h : ∀ x ∈ xs, x.length ≤ B) : (Lib.join xs sep).length ≤ xs.length * (B + sep.length) := by
  cases xs with
  | nil => simp [Lib.join_nil]
  | cons x r =>
    rw [Lib.join_cons, List.length_append]
    have h2 : ∀ r : List (List UInt8), (∀ x ∈ r, x.length ≤ B) → (Lib.joinTail sep r).length ≤ r.length * (B + sep.length) := by
      intro r
      induction r with
      | nil => intro _; simp [Lib.joinTail]
      | cons y r ih =>
        intro hr
        have h3 := ih (fun z hz => hr z (by simp [hz]))
        have h4 := hr y (by simp)
        unfold Lib.joinTail at *
        rw [List.map_cons, List.flatten_cons, List.length_append, List.length_append, List.length_cons, Nat.succ_mul]; omega
    have h5 := h2 r (fun z hz => h z (by simp [hz]))
    have h6 := h x (by simp)
    rw [List.length_cons, Nat.succ_mul]; omega
set_option maxRecDepth 100000 in
set_option maxHeartbeats 8000000 in
theorem written_any (sh : Nat) (f : List Nat) (na zo first cnt : Nat) (mk : UInt8) (hf : f.length = 8) (hf2 : ∀ k, f.getD k 0 ≤ 1000000000) (hc : first + cnt ≤ 8) (hc0 : 0 < cnt) (w : World) (hT : Tabs w) :
    Calls Tryd.prog 34 #[tv sh f na zo, .int .i64 (first : Int), .int .i64 ((first : Int) + (cnt : Int) - 1), .string ⟨#[mk]⟩] w (StrP (wrL f first cnt [mk]) w) := by
  have HF : Hid (∀ w', Below w.heap.size w w' → StrP (wrL f first cnt [mk]) w (.returned (.string (mkB (wrL f first cnt [mk])))) w') := fun w' h => ⟨rfl, h⟩
  generalize hPo : StrP (wrL f first cnt [mk]) w = Po at *
  clear hPo
  obtain ⟨last, hlast⟩ : ∃ last : Nat, last + 1 = first + cnt := ⟨first + cnt - 1, by omega⟩
  have hl : (first : Int) + (cnt : Int) - 1 = (last : Int) := by omega
  rw [hl]
  have hB : Hid (Blk (w.alloc (.cells (tx sh f na zo).toArray 43)) w.heap.size 43 (tx sh f na zo)) := Blk.new w 43 (tx sh f na zo)
  have hbel : Hid (Below w.heap.size w (w.alloc (.cells (tx sh f na zo).toArray 43))) := (Below.refl _ w).alloc (Nat.le_refl _) _
  have hsz : Hid ((w.alloc (.cells (tx sh f na zo).toArray 43)).heap.size = w.heap.size + 1) := by show _ = _; simp
  have hTb : Hid (Tabs (w.alloc (.cells (tx sh f na zo).toArray 43))) := hT.go hbel.out
  have h4 := hT.1
  have hfh := Lib.hid hf
  have hf2h := Lib.hid hf2
  unfold tv
  clear hT hf hf2 hl
  go_enter Tryd.func34, Tryd.ntmps34
  go_wp2
  generalize w.alloc (.cells (tx sh f na zo).toArray 43) = wb at *
  generalize hn0 : w.heap.size = n0 at *
  have hn0h := Lib.hid hn0
  clear hn0
  go_loopw [9, 10] (fun v i wr => ∃ k : Nat, k ≤ cnt ∧ i = .int .i64 ((first + k : Nat) : Int) ∧ wr.ownsRow (n0 + 1) 9 1 v k (strsV ((grpT f first k).map mkB)) ∧ Below (n0 + 1) wb wr) (fun _ i _ => last + 1 - (intOf i).toNat)
  case atStart => exact ⟨0, Nat.zero_le _, rfl, World.ownsRow_nil _ _ _ _, Below.refl _ _⟩
  case round =>
    obtain ⟨k, hk, rfl, hown, hbr⟩ := hrel
    by_cases hlt : k < cnt
    · have hBr := hB.out.go hbr (Nat.lt_succ_self _)
      have c1 : wr.cell? ⟨n0, 1 + (first + k), none⟩ = some (.int .i64 (f.getD (first + k) 0 : Nat)) := hBr.cell (1 + (first + k)) _ (tx_f sh f na zo (first + k) hfh.out (by omega))
      have hfb := hf2h.out (first + k)
      have hTr : Hid (Tabs wr) := hTb.out.below hbr (by omega)
      have hgs := Lib.hid (grpT_succ f first k)
      have hszr : n0 + 1 ≤ wr.heap.size := by have := hbr.size; have := hsz.out; omega
      have hfk8 : ((first + k : Nat) : Int) < 8 := by omega
      have hfl : ((first + k : Nat) : Int) ≤ (last : Int) := by omega
      have hownh := Lib.hid hown
      have hbrh := Lib.hid hbr
      have HW := Lib.hid (fun W => width_any (first + k) W (by omega))
      have hwl := wid_le (first + k)
      have HP : Hid (Calls Tryd.prog 48 #[.int .i64 (f.getD (first + k) 0 : Nat), .int .i64 (wid (first + k) : Nat)] wr.drew fun e w' => e = .returned (.string (mkB (padL (f.getD (first + k) 0) (wid (first + k))))) ∧ Below wr.drew.heap.size wr.drew w') := padded_any _ _ (by omega) (by omega) wr.drew (show Tabs wr.drew from hTr.out) (dec_len9 _ (by omega))
      have hk8 : k ≤ 8 := by omega
      clear hown hbr hBr
      generalize f.getD (first + k) 0 = x at *
      generalize hq : first + k = q at *
      have hqh := Lib.hid hq
      clear hq
      generalize wid q = wq at *
      generalize hpb : mkB (padL x wq) = pb at *
      have hpbh := Lib.hid hpb
      clear hpb
      go_wp2_with fail
      go_region_law ((first | (go_simp; go_at_call 43; refine (HW.out _).mono ?_; rintro e w2 ⟨rfl, rfl⟩) | (go_simp; go_at_call 48; refine HP.out.mono ?_; rintro e w2 ⟨rfl, hb2⟩; have hownp : Hid (w2.ownsRow (n0 + 1) 9 1 u9 k (strsV ((grpT f first k).map mkB))) := owns_go (w := wr.drew) hownh.out hb2 (Nat.le_refl _); have hbelp : Hid (Below (n0 + 1) wb w2) := hbrh.out.drew.trans (hb2.mono (show n0 + 1 ≤ wr.drew.heap.size from hszr)); have hszp : n0 + 1 ≤ w2.heap.size := Nat.le_trans (show n0 + 1 ≤ wr.drew.heap.size from hszr) hb2.size; clear hb2) | (refine step_append_str (w := w2) rfl (.tmp 17) (.tmp 25) 72 rfl Tryd.underlying72 pb (n0 + 1) _ k ((grpT f first k).map mkB) rfl rfl hownp.out wb hbelp.out hszp (by omega) ?_; intro v' w3 hown3 hb3)))
      all_goals
        have hown3h := Lib.hid hown3
        have hb3h := Lib.hid hb3
        clear hown3 hb3
        go_wp2
        go_roundw
        case rel => exact ⟨k + 1, by omega, by rw [show first + (k + 1) = q + 1 by have := hqh.out; omega]; go_num, by rw [hgs.out, List.map_append, List.map_cons, List.map_nil, hpbh.out]; exact hown3h.out, hb3h.out⟩
        case measure => simp [intOf]; omega
    · obtain rfl : k = cnt := by omega
      obtain ⟨a, cp, rfl, q1, q2, hsb, q3, q4, q5⟩ := sb_of_row hown
      have hgl := grpT_len f first k
      have hne : (grpT f first k).map mkB ≠ [] := fun e => by
        have := congrArg List.length e
        rw [List.length_map, hgl] at this
        simp at this; omega
      obtain ⟨b, rfl, hblt, hcl⟩ := hsb.resolve_left hne
      have hxs : ((grpT f first k).map mkB).map (fun c : ByteArray => c.data.toList) = grpT f first k := by
        rw [List.map_map]
        refine (List.map_congr_left (fun y _ => ?_)).trans (List.map_id _)
        exact mkB_list y
      have hjl : (Lib.join (grpT f first k) [mk]).length ≤ 1000 := by
        have := join_len (grpT f first k) [mk] 40 (fun x hx => by
          obtain ⟨j, _, rfl⟩ := List.mem_map.1 hx
          exact padL_len _ _ (by have := hf2h.out (first + j); omega) (by have := wid_le (first + j); omega))
        rw [hgl] at this
        have h41 : k * (40 + [mk].length) ≤ 8 * 41 := Nat.mul_le_mul (by omega) (by simp)
        omega
      have HJ0 := Tryd.strings_Join b 0 cp ((grpT f first k).map mkB) ⟨#[mk]⟩ wr (fun j x h => by rw [Nat.zero_add]; exact hcl j x h) hblt (by rw [List.length_map, hgl]; omega) (by rw [← q1]; exact q2) (by rw [hxs]; show (Lib.join _ [mk]).length ≤ _; omega)
      rw [List.length_map, hgl, hxs] at HJ0
      have HJ : Hid (Calls Tryd.prog 49 #[.slice (some ⟨b, 0, none⟩) k cp, .string ⟨#[mk]⟩] wr fun e w' => e = .returned (.string (mkB (wrL f first k [mk]))) ∧ Below wr.heap.size wr w') := HJ0
      have hge : (last : Int) < ((first + k : Nat) : Int) := by omega
      have hfin : Hid (∀ w', Below wr.heap.size wr w' → Po (.returned (.string (mkB (wrL f first k [mk])))) w') := fun w' h => HF.out w' <| (hbel.out.trans (hbr.mono (Nat.le_succ _))).trans (h.mono (by have := hbr.size; have := hsz.out; omega))
      clear HF q1 q2 q3 q4 q5 hsb hcl HJ0 hjl hxs hne hgl hown hbr
      generalize mkB (wrL f first k [mk]) = rs at *
      generalize first + k = q at *
      go_wp2_with fail
      refine HJ.out.mono ?_
      rintro e w4 ⟨rfl, hb4⟩
      have hb := Lib.hid (hfin.out w4 hb4)
      clear hb4
      go_wp2
      exact hb.out
end Go.Proofs.YtckeefjmamggmaaDoor
