/- Texts of this claim, one behind the other: DFj, DFk, DLi. -/
import Derived.Test.YtgpfognglpfmoaaGreatDoorZ19
set_option linter.unusedSimpArgs false
set_option linter.unusedVariables false
section
/- Those numbers whose keep is true. -/
namespace Go.Proofs.YtgpfognglpfmoaaGreatDoor
set_option linter.unusedSimpArgs false
set_option linter.unusedVariables false
open Go.RowKit Go.Maps

/-- The slice (A, n, c) reads, in w, as bools, and lies below block top. -/
def Bi (w : World) (top : Nat) (A : Option Addr) (n c : Nat) (l : List Bool) : Prop :=
  l.length = n ∧ n ≤ c ∧ (0 < n → ∃ ad, A = some ad ∧ ad.block < top ∧ ∀ j u, l[j]? = some u → w.cell? (ad.add j) = some (.bool u))
section
variable {w w' : World} {top base n c : Nat} {A : Option Addr} {l : List Bool}
theorem Bi.nil (w : World) (top c : Nat) (A : Option Addr) : Bi w top A 0 c [] := ⟨rfl, Nat.zero_le _, fun h => absurd h (by omega)⟩
theorem Bi.keep (h : Bi w top A n c l) (hk : ∀ p : Addr, p.block < top → w'.cell? p = w.cell? p) : Bi w' top A n c l :=
  ⟨h.1, h.2.1, fun hn => by
    obtain ⟨ad, e, hb, hc⟩ := h.2.2 hn
    exact ⟨ad, e, hb, fun j u hu => (hk _ (by rw [add_block]; exact hb)).trans (hc j u hu)⟩⟩
theorem Bi.below (h : Bi w top A n c l) (hb : Below top w w') : Bi w' top A n c l := h.keep fun _ hp => hb.cell hp
theorem Bi.at_ (h : Bi w top A n c l) {k : Nat} (hk : k < n) : ∃ ad u, A = some ad ∧ l[k]? = some u ∧ w.cell? (ad.add k) = some (.bool u) := by
  obtain ⟨ad, e, hb, hc⟩ := h.2.2 (by omega)
  have hl : k < l.length := by have := h.1; omega
  exact ⟨ad, l[k], e, List.getElem?_eq_getElem hl, hc k _ (List.getElem?_eq_getElem hl)⟩
end

/-- A row of numbers of the call's own. -/
def Oi (w : World) (base : Nat) (v : Value) (l : List Nat) : Prop := w.ownsRow base 3 1 v l.length (l.map fun j : Nat => encZ (j : Int))
theorem info_i64 : (Tryz.prog.info? 3).map (fun i => (i.zero, i.size, i.bytes)) = some (some (.int .i64 0), 1, 8) := by kernel_rfl
/-- append of one number. -/
theorem wpList_appn {w : World} {ops : Array Oper} {rest : List Oper} {o : Oper} {a : Act} {Q : Exit → Act → World → Prop} (hgd : o.guard = none) (s x : Operand)
    (ho : o.op = .call { callee := .builtin .append, args := #[s, x], argTypes := #[66, 66] })
    {base : Nat} {v : Value} {xs : List Nat} (hs : a.eval s = v) (hown : Oi w base v xs) {ad : Addr} {u : Nat} (hx : a.eval x = .slice (some ad) 1 1) (hr : w.cell? ad = some (.int .i64 (u : Int)))
    (hb : xs.length ≤ 4294967296) (hbase : base ≤ w.heap.size)
    (h : ∀ v' w', Oi w' base v' (xs ++ [u]) → w.grownBy w' v.ownBlock → wpList Tryz.prog ops Q rest (a.put o.dst v') w') : wpList Tryz.prog ops Q (o :: rest) a w := by
  obtain ⟨i, hi, hz0, hz1, hz2⟩ := info_parts info_i64
  refine wpList_plain hgd fun K hK => ?_
  obtain ⟨v', w', hrun, h2, h3, _, h5⟩ := run_append_own_at (P := Tryz.prog) w base 66 o.type 3 i (.int .i64 0) 1 8 Tryz.underlying66 hi hz0 hz1 hz2 rfl (by decide) v xs.length (xs.map fun j : Nat => encZ (j : Int)) hown ad 1 1 [encZ (u : Int)]
      rfl (fun j x hj => by
        cases j with
        | zero => simp at hj; subst hj; rw [show ad.add 0 = ad by unfold Addr.add; simp]; exact hr
        | succ j => simp at hj) (fun x hx => by simp at hx; subst hx; rfl) (by simp only [maxLen]; omega) (by omega) hbase
  unfold Oper.wp execOp
  simp only [ho, resolve, invoke, builtin, Sem.run_bind, Sem.run_pure, Result.andThen_ok, List.map_toArray, List.map_cons, List.map_nil, hs, hx, hrun]
  refine hK _ _ (h v' w' ?_ h3)
  unfold Oi
  rw [List.length_append, List.map_append]
  exact h2
theorem Oi.base {w : World} {v : Value} {base : Nat} {l : List Nat} (h : Oi w base v l) : ∀ r, v.ownBlock = some r → base ≤ r := by
  intro r hr
  rcases h.2 with ⟨rfl, _⟩ | ⟨g, cap, cur, rfl, hb, _⟩
  · cases hr
  · simp only [Value.ownBlock, Option.some.injEq] at hr
    omega
theorem Oi.nil (w : World) (base : Nat) : Oi w base (.slice none 0 0) [] := ⟨rfl, .inl ⟨rfl, rfl⟩⟩
theorem Oi.ni {w : World} {base : Nat} {v : Value} {l : List Nat} (h : Oi w base v l) : ∃ A c, v = .slice A l.length c ∧ Ni w base A l.length c l := ni_of_row h

theorem chosen_step : ∀ (l : List Nat) (k : List Bool) (i u : Nat) (b : Bool), l[i]? = some u → k[i]? = some b → chosen (l.take (i + 1)) (k.take (i + 1)) = chosen (l.take i) (k.take i) ++ (if b then [u] else [])
  | [], _, i, u, b, h, _ => by simp at h
  | _ :: _, [], i, u, b, _, h => by simp at h
  | x :: l, y :: k, 0, u, b, h1, h2 => by
    simp at h1 h2
    subst h1 h2
    cases y <;> simp [chosen]
  | x :: l, y :: k, i + 1, u, b, h1, h2 => by
    have := chosen_step l k i u b (by simpa using h1) (by simpa using h2)
    simp only [List.take_succ_cons]
    cases y
    · simpa [chosen] using this
    · simpa [chosen] using this
theorem chosen_take : ∀ (l : List Nat) (k : List Bool) (n : Nat), n = min l.length k.length → chosen (l.take n) (k.take n) = chosen l k
  | [], k, n, h => by cases k <;> simp [chosen]
  | x :: l, [], n, h => by simp [chosen]
  | x :: l, y :: k, n, h => by
    obtain ⟨n, rfl⟩ : ∃ q, n = q + 1 := ⟨n - 1, by simp only [List.length_cons] at h; omega⟩
    have := chosen_take l k n (by simp only [List.length_cons] at h; omega)
    simp only [List.take_succ_cons, chosen, this]

theorem chosen_len : ∀ (l : List Nat) (k : List Bool), (chosen l k).length ≤ l.length
  | [], k => by cases k <;> simp [chosen]
  | x :: l, [] => by simp [chosen]
  | x :: l, y :: k => by
    have := chosen_len l k
    cases y <;> simp [chosen] <;> omega
section
variable {w : World}
set_option maxRecDepth 100000 in
theorem chosen_any {base : Nat} {A : Option Addr} {n c : Nat} {l : List Nat} (hr : Ni w base A n c l) {top : Nat} {A2 : Option Addr} {n2 c2 : Nat} {k : List Bool} (hk : Bi w top A2 n2 c2 k) (ht : top ≤ w.heap.size) (hn : n ≤ 16384) (hn2 : n2 ≤ 4294967296) :
    Calls Tryz.prog 72 #[.slice A n c, .slice A2 n2 c2] w fun e w' => ∃ v, e = .returned v ∧ Oi w' w.heap.size v (chosen l k) ∧ Below w.heap.size w w' := by
  have HR := Lib.hid hr
  have HK := Lib.hid hk
  have hlen := hr.1
  have hlen2 := hk.1
  have hcap := hr.2.1
  have hcap2 := hk.2.1
  clear hr hk
  go_enter Tryz.func72, Tryz.ntmps72
  obtain ⟨q, hq⟩ : ∃ q, q = min n n2 := ⟨_, rfl⟩
  have e1 : min (n : Int) (n2 : Int) = (q : Int) := by omega
  have e3 : max (q : Int) 0 = (q : Int) := by omega
  have HQ := Lib.hid hq
  have hq1 : q ≤ n := by omega
  have hq2 : q ≤ n2 := by omega
  clear hq
  go_wp2
  have HN := Lib.hid hlen
  clear hlen hlen2
  clear e1 e3
  go_loopw [5, 16] (fun v i' wr => ∃ i : Nat, i ≤ q ∧ i' = .int .i64 (i : Int) ∧ Hid (Oi wr w.heap.size v (chosen (l.take i) (k.take i))) ∧ Hid (Below w.heap.size w wr)) (fun _ i' _ => q - (RowKit.intOf i').toNat)
  case atStart => exact ⟨0, by omega, rfl, Lib.hid (by simpa [chosen] using Oi.nil w w.heap.size), Lib.hid (bl0 w)⟩
  case round =>
    obtain ⟨i, hi, rfl, HO, HB⟩ := hrel
    by_cases hlt : i < q
    · obtain ⟨ad, u, rfl, hu, hcu⟩ := (HR.out.kp (Kp.of_old (may := fun _ => False) HB.out) (fun _ h => h.elim)).at_ (show i < n by omega)
      obtain ⟨ad2, b, rfl, hb, hcb⟩ := (HK.out.below ((HB.out).mono ht)).at_ (show i < n2 by omega)
      have HS := Lib.hid (chosen_step l k i u b hu hb)
      have HU := Lib.hid (show (l.take i).length ≤ 16384 by rw [List.length_take]; omega)
      have HCL : Hid ((chosen (l.take i) (k.take i)).length ≤ 4294967296) := Lib.hid (Nat.le_trans (chosen_len _ _) (by have := HU.out; omega))
      clear hu hb
      cases b with
      | false =>
        go_wp2
        go_roundw
        case rel => exact ⟨i + 1, by omega, by go_num, Lib.hid (by rw [HS.out]; simpa using HO.out), HB⟩
        case measure => simp [RowKit.intOf]; omega
      | true =>
        go_wp2_with (at_builtin; refine wpList_appn (base := w.heap.size) (u := u) (xs := chosen (l.take i) (k.take i)) rfl _ _ rfl rfl ?qo rfl ?qr ?qb ?qh ?_)
        case qo => exact World.ownsRow.alloc HO.out _
        case qb => exact HCL.out
        case qh =>
          have := HB.out.size
          simp
          omega
        intro v3 w3 ho3 hg3
        have HO3 := Lib.hid ho3
        have HB3 := Lib.hid ((bl_alloc HB.out (.cells #[.int .i64 (u : Int)] 3)).grown hg3 (by have := HB.out.size; simp; omega) HO.out.base)
        clear ho3 hg3
        go_wp2
        go_roundw
        case rel => exact ⟨i + 1, by omega, by go_num, Lib.hid (by rw [HS.out]; simpa using HO3.out), HB3⟩
        case measure => simp [RowKit.intOf]; omega
    · obtain rfl : i = q := by omega
      go_wp2
      go_ret
      refine ⟨_, rfl, ?_, HB.out⟩
      have := HO.out
      rw [chosen_take l k i (by have := HQ.out; have := HN.out; have := HK.out.1; omega)] at this
      exact this
end
end Go.Proofs.YtgpfognglpfmoaaGreatDoor
end
section
/- Flush and Crash. -/
namespace Go.Proofs.YtgpfognglpfmoaaGreatDoor
set_option maxRecDepth 8192
set_option linter.unusedSimpArgs false
set_option linter.unusedVariables false
open Go.RowKit Go.Maps

section
variable {w : World} {p s m : Nat} {B : List UInt8} {C : Ca}
theorem flush_nil (w : World) : Calls Tryz.prog 57 #[.pointer none] w fun e w' => e = .returned (.int .i64 1) ∧ w' = w := by
  go_enter Tryz.func57, Tryz.ntmps57
  go_wp2_with (go_at_call 70; refine (made_nil _).mono ?_; rintro e w' ⟨rfl, rfl⟩)
  go_ret
  exact ⟨rfl, rfl⟩
theorem crash_nil (w : World) (v : Value) : Calls Tryz.prog 29 #[.pointer none, v] w fun e w' => e = .returned (.int .i64 1) ∧ w' = w := by
  go_enter Tryz.func29, Tryz.ntmps29
  go_wp2_with (go_at_call 70; refine (made_nil _).mono ?_; rintro e w' ⟨rfl, rfl⟩)
  go_ret
  exact ⟨rfl, rfl⟩
theorem image_nil (w : World) : Calls Tryz.prog 38 #[.pointer none] w fun e w' => e = .returned (.slice none 0 0) ∧ w' = w := by
  go_enter Tryz.func38, Tryz.ntmps38
  go_wp2_with (go_at_call 70; refine (made_nil _).mono ?_; rintro e w' ⟨rfl, rfl⟩)
  go_ret
  exact ⟨rfl, rfl⟩
theorem Kp.below {base : Nat} {may : Nat → Prop} {w w' : World} (h : Kp may w w') (hb : base ≤ w.heap.size) (hm : ∀ k, may k → base ≤ k) : Below base w w' :=
  ⟨h.os, h.tape, h.output, h.size, fun i hi => h.block i (by omega) (fun e => by have := hm i e; omega)⟩
theorem Kp.old {may : Nat → Prop} {w w' : World} (h : Below w.heap.size w w') : Kp may w w' := Kp.of_old h

theorem flush_any (h : Dk w p s m B C) : Calls Tryz.prog 57 #[ptr p] w fun e w' => e = .returned (.int .i64 0) ∧ Dk w' p s m (settle C (idx 0 C) B) (noC C.length) ∧ Kp (fun k => k = s ∨ k = m) w w' := by
  have HM := Lib.hid (made_any h)
  have HD := Lib.hid h
  have HC := Lib.hid (cached_any h)
  have HL : Hid (∀ i ∈ idx 0 C, i < C.length) := Lib.hid (fun i hi => by have := idx_lt C 0 i hi; omega)
  have HN : Hid ((idx 0 C).length ≤ 16384) := Lib.hid (by have := idx_len C 0; have := h.h1; omega)
  have HS := Lib.hid h.slt
  clear h
  go_enter Tryz.func57, Tryz.ntmps57
  go_wp2_with (first | (go_at_call 70; refine HM.out.mono ?_; rintro e w' ⟨rfl, rfl⟩) | (go_at_call 36; refine HC.out.mono ?_; rintro e w2 ⟨A, c, rfl, hn2, hb2⟩; have HN2 := Lib.hid hn2; have HB2 := Lib.hid hb2; clear hn2 hb2) | (go_at_call 71; refine (settle_any (HD.out.old HB2.out) HN2.out HL.out HS.out HN.out).mono ?_; rintro e w3 ⟨rfl, hd3, hk3⟩; have HD3 := Lib.hid hd3; have HK3 := Lib.hid hk3; clear hd3 hk3))
  go_ret
  exact ⟨rfl, HD3.out, (Kp.old HB2.out).trans HK3.out⟩
theorem crash_any (h : Dk w p s m B C) {top : Nat} {A : Option Addr} {n c : Nat} {k : List Bool} (hk : Bi w top A n c k) (ht : top ≤ w.heap.size) (hn : n ≤ 4294967296) :
    Calls Tryz.prog 29 #[ptr p, .slice A n c] w fun e w' => e = .returned (.int .i64 0) ∧ Dk w' p s m (settle C (chosen (idx 0 C) k) B) (noC C.length) ∧ Kp (fun k => k = s ∨ k = m) w w' := by
  have HM := Lib.hid (made_any h)
  have HD := Lib.hid h
  have HC := Lib.hid (cached_any h)
  have HL : Hid (∀ i ∈ chosen (idx 0 C) k, i < C.length) := Lib.hid (fun i hi => by have := idx_lt C 0 i (chosen_sub _ _ i hi); omega)
  have HN : Hid ((idx 0 C).length ≤ 16384) := Lib.hid (by have := idx_len C 0; have := h.h1; omega)
  have HN' : Hid ((chosen (idx 0 C) k).length ≤ 16384) := Lib.hid (by have := idx_len C 0; have := chosen_len (idx 0 C) k; have := h.h1; omega)
  have HS := Lib.hid h.slt
  have HK := Lib.hid hk
  have HT := Lib.hid ht
  have HZ := Lib.hid hn
  clear h hk ht hn
  go_enter Tryz.func29, Tryz.ntmps29
  go_wp2_with (first | (go_at_call 70; refine HM.out.mono ?_; rintro e w' ⟨rfl, rfl⟩) | (go_at_call 36; refine HC.out.mono ?_; rintro e w2 ⟨A', c', rfl, hn2, hb2⟩; have HN2 := Lib.hid hn2; have HB2 := Lib.hid hb2; clear hn2 hb2) | (go_at_call 72; refine (chosen_any HN2.out (HK.out.below (HB2.out.mono HT.out)) (Nat.le_trans HT.out HB2.out.size) HN.out HZ.out).mono ?_; rintro e w3 ⟨v, rfl, ho3, hb3⟩; obtain ⟨A3, c3, rfl, hn3⟩ := ho3.ni; have HN3 := Lib.hid hn3; have HB3 := Lib.hid hb3; clear ho3 hn3 hb3) | (go_at_call 71; refine (settle_any (HD.out.old (bl_call HB2.out HB3.out)) HN3.out HL.out (Nat.lt_of_lt_of_le HS.out HB2.out.size) HN'.out).mono ?_; rintro e w4 ⟨rfl, hd4, hk4⟩; have HD4 := Lib.hid hd4; have HK4 := Lib.hid hk4; clear hd4 hk4))
  go_ret
  exact ⟨rfl, HD4.out, (Kp.old (bl_call HB2.out HB3.out)).trans HK4.out⟩
end
end Go.Proofs.YtgpfognglpfmoaaGreatDoor
end
section
/- The chapter's examples live. -/
namespace Go.Proofs.YtgpfognglpfmoaaGreatDoor
set_option maxRecDepth 8192
set_option linter.unusedSimpArgs false
set_option linter.unusedVariables false
open Go.RowKit Go.Maps

/-- A disk's three blocks lie from block b on. -/
def Hi (b p s m : Nat) : Prop := b ≤ p ∧ b ≤ s ∧ b ≤ m
theorem new_any (w : World) (n : Nat) (h0 : 0 < n) (h1 : n ≤ 16384) : Calls Tryz.prog 7 #[.int .i64 (n : Int)] w fun e w' => ∃ p s m, e = .returned (.tuple #[ptr p, .int .i64 0]) ∧ Dk w' p s m (zs (n * 256)) (noC n) ∧ Hi w.heap.size p s m ∧ Below w.heap.size w w' :=
  (new_ok w n h0 h1).mono fun e w' ⟨he, hw⟩ => by
    subst hw
    exact ⟨_, _, _, he, nw_dk w n h0 h1, ⟨by omega, by omega, by omega⟩, nw_below w n⟩
/-- What changes a disk's own blocks alone leaves what lay before the call. -/
theorem bl_dk {w w1 w2 : World} {p s m : Nat} {may : Nat → Prop} (h : Below w.heap.size w w1) (k : Kp may w1 w2) (hm : ∀ k, may k → w.heap.size ≤ k) : Below w.heap.size w w2 := h.trans (k.below h.size hm)
theorem rd_row {w : World} {g : Nat} {b : UInt8} (h : Row w g (List.replicate 256 b)) : Rd w w.heap.size (some ⟨g, 0, none⟩) 256 256 (List.replicate 256 b) := by
  have := h.rd
  rw [List.length_replicate] at this
  exact this

theorem Bi.two (w : World) (a b : Bool) : Bi (w.alloc (.cells #[.bool a, .bool b] 4)) (w.heap.size + 1) (some ⟨w.heap.size, 0, none⟩) 2 2 [a, b] := by
  refine ⟨rfl, Nat.le_refl _, fun _ => ⟨_, rfl, by simp, fun j u hu => ?_⟩⟩
  rw [Addr.add_mid, cell_of_row _ w.heap.size _ _ 4 (0, 0) (heap_alloc_new w _)]
  rcases j with _ | _ | j
  · simp at hu; subst hu; rfl
  · simp at hu; subst hu; rfl
  · simp at hu

end Go.Proofs.YtgpfognglpfmoaaGreatDoor
end
