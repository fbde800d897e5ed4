package sha

import (
	"bytes"
	"crypto/sha512"
	"encoding/hex"
	"math/big"
	"strings"
	"sync"
	"testing"

	"headwater/api"
)

// named are the lengths at which the padding comes to one piece more or less.
var named = []int{0, 111, 112, 127, 128, 129, 239, 240}

// counted is bytes of which no two that stand near each other are alike.
func counted(n int) []byte {
	out := make([]byte, n)
	for i := range out {
		out[i] = byte(i*7 + i>>8 + 1)
	}
	return out
}

func unhex(t *testing.T, text string) []byte {
	t.Helper()
	b, err := hex.DecodeString(strings.ReplaceAll(text, " ", ""))
	if err != nil {
		t.Fatal(err)
	}
	return b
}

// fill writes a slice and its spare room over.
func fill(b []byte) {
	whole := b[:cap(b)]
	for i := range whole {
		whole[i] = 0x55
	}
}

// primes are the first 80, by big's own test.
func primes() []uint64 {
	var out []uint64
	for c := uint64(0); len(out) < 80; c++ {
		if new(big.Int).SetUint64(c).ProbablyPrime(0) {
			out = append(out, c)
		}
	}
	return out
}

// padded is a padding by the chapter's words: noughts one by one, and a big number.
func padded(b []byte) []byte {
	out := append(bytes.Clone(b), 128)
	for len(out)%128 != 128-16 {
		out = append(out, 0)
	}
	n := new(big.Int).Mul(big.NewInt(int64(len(b))), big.NewInt(8))
	return append(out, n.FillBytes(make([]byte, 16))...)
}

// turned and moved are made bit by bit: from the lowest on, bit i comes from bit i + n.
func turned(x uint64, n int) uint64 {
	out := uint64(0)
	for i := range 64 {
		out |= (x >> ((i + n) % 64) & 1) << i
	}
	return out
}

func moved(x uint64, n int) uint64 {
	out := uint64(0)
	for i := 0; i+n < 64; i++ {
		out |= (x >> (i + n) & 1) << i
	}
	return out
}

// behind is the eight words behind a piece by the chapter's words, one by one.
func behind(state [8]uint64, piece []byte) [8]uint64 {
	k := K()
	var w []uint64
	for t := range 80 {
		if t < 16 {
			w = append(w, new(big.Int).SetBytes(piece[8*t:8*t+8]).Uint64())
			continue
		}
		x, y := w[t-15], w[t-2]
		s0 := turned(x, 1) ^ turned(x, 8) ^ moved(x, 7)
		s1 := turned(y, 19) ^ turned(y, 61) ^ moved(y, 6)
		w = append(w, w[t-16]+s0+w[t-7]+s1)
	}
	v := state
	for t := range 80 {
		a, b, c, d, e, f, g, h := v[0], v[1], v[2], v[3], v[4], v[5], v[6], v[7]
		t1 := h + (turned(e, 14) ^ turned(e, 18) ^ turned(e, 41)) + ((e & f) ^ (^e & g)) + k[t] + w[t]
		t2 := (turned(a, 28) ^ turned(a, 34) ^ turned(a, 39)) + ((a & b) ^ (a & c) ^ (b & c))
		v = [8]uint64{t1 + t2, a, b, c, d + t1, e, f, g}
	}
	for i := range v {
		v[i] += state[i]
	}
	return v
}

func TestP21KnownSums(t *testing.T) {
	long := "abcdefghbcdefghicdefghijdefghijkefghijklfghijklmghijklmnhijklmnoijklmnopjklmnopqklmnopqrlmnopqrsmnopqrstnopqrstu"
	for _, x := range []struct{ text, whole, short string }{
		{"", "cf83e1357eefb8bdf1542850d66d8007d620e4050b5715dc83f4a921d36ce9ce47d0d13c5d85f2b0ff8318d2877eec2f63b931bd47417a81a538327af927da3e",
			"c672b8d1ef56ed28ab87c3622c5114069bdd3ad7b8f9737498d0c01ecef0967a"},
		{"abc", "ddaf35a193617abacc417349ae20413112e6fa4e89a97ea20a9eeee64b55d39a2192992a274fc1a836ba3c23a3feebbd454d4423643ce80e2a9ac94fa54ca49f",
			"53048e2681941ef99b2e29b76b4c7dabe4c2d0c634fc6d46e0e2f13107e7af23"},
		{long, "8e959b75dae313da8cf4f72814fc143f8f7779c6eb9f7fa17299aeadb6889018501d289e4900f7e4331b99dec4b5433ac7d329eeb6dd26545e96e55b874be909",
			"3928e184fb8690f840da3988121d31be65cb9d3ef83ee6146feac861e19b563a"},
	} {
		whole, short := Sum512([]byte(x.text)), Sum([]byte(x.text))
		if got := hex.EncodeToString(whole[:]); got != x.whole {
			t.Errorf("Sum512 of %q: %s", x.text, got)
		}
		if got := hex.EncodeToString(short[:]); got != x.short {
			t.Errorf("Sum of %q: %s", x.text, got)
		}
	}
}

func TestP21SumsOfAllLengths(t *testing.T) {
	lengths := append([]int{1 << 14, 1<<14 + 1, 1<<16 - 17, 1 << 20}, named...)
	for n := range 520 {
		lengths = append(lengths, n)
	}
	for _, n := range lengths {
		b := counted(n)
		if Sum512(b) != sha512.Sum512(b) {
			t.Errorf("Sum512 of %d bytes", n)
		}
		if Sum(b) != api.Digest(sha512.Sum512_256(b)) {
			t.Errorf("Sum of %d bytes", n)
		}
	}
	for _, c := range []byte{0x00, 0x80, 0xff} {
		for _, n := range named {
			b := bytes.Repeat([]byte{c}, n)
			if Sum512(b) != sha512.Sum512(b) || Sum(b) != api.Digest(sha512.Sum512_256(b)) {
				t.Errorf("sums of %d bytes %x", n, c)
			}
		}
	}
}

// TestP21SumOfManyBits has more bits than 32 bits tell.
func TestP21SumOfManyBits(t *testing.T) {
	if testing.Short() {
		t.Skip("goes over 2^29 bytes")
	}
	part := counted(1 << 20)
	list := [][]byte{[]byte("ahead")}
	want := sha512.New512_256()
	want.Write(list[0])
	for range 1 << 9 {
		list = append(list, part)
		want.Write(part)
	}
	if Sum(list...) != api.Digest(want.Sum(nil)) {
		t.Error("Sum of 2^29 bytes and five")
	}
}

func TestP21K(t *testing.T) {
	k := K()
	for i, p := range primes() {
		if k[i] != Cube(p) {
			t.Errorf("K(%d): %x, not the cube word of %d", i, k[i], p)
		}
	}
	for i, want := range map[int]uint64{
		0: 0x428a2f98d728ae22, 1: 0x7137449123ef65cd, 15: 0xc19bf174cf692694, 16: 0xe49b69c19ef14ad2,
		40: 0xa2bfe8a14cf10364, 78: 0x5fcb6fab3ad6faec, 79: 0x6c44198c4a475817,
	} {
		if k[i] != want {
			t.Errorf("K(%d): %x, want %x", i, k[i], want)
		}
	}
}

func TestP21Starts(t *testing.T) {
	start := Start()
	if start != [8]uint64{
		0x6a09e667f3bcc908, 0xbb67ae8584caa73b, 0x3c6ef372fe94f82b, 0xa54ff53a5f1d36f1,
		0x510e527fade682d1, 0x9b05688c2b3e6c1f, 0x1f83d9abfb41bd6b, 0x5be0cd19137e2179,
	} {
		t.Errorf("Start: %x", start)
	}
	for i, p := range primes()[:8] {
		if start[i] != Root(p) {
			t.Errorf("Start(%d): %x, not the root word of %d", i, start[i], p)
		}
	}
	short := StartShort()
	if short != [8]uint64{
		0x22312194fc2bf72c, 0x9f555fa3c84c64c2, 0x2393b86b6f53b151, 0x963877195940eabd,
		0x96283ee2a88effe3, 0xbe5e1e2553863992, 0x2b0199fc2c85b8aa, 0x0eb72ddc81c52ca2,
	} {
		t.Errorf("StartShort: %x", short)
	}
	state := start
	for i := range state {
		state[i] ^= 0xa5a5a5a5a5a5a5a5
	}
	if got := Piece(state, [128]byte(padded([]byte("SHA-512/256")))); got != short {
		t.Errorf("StartShort: %x, want %x", short, got)
	}
}

// TestP21WordsMadeAndWritten: what is made from the primes and what stands written out are the same, word by word.
func TestP21WordsMadeAndWritten(t *testing.T) {
	made, written := words(), wordsWritten()
	if made.k != written.k || made.start != written.start || made.short != written.short {
		t.Errorf("made %x, written %x", made, written)
	}
	if made != makeWords() {
		t.Error("words holds others than makeWords makes")
	}
	if K() != made.k || Start() != made.start || StartShort() != made.short {
		t.Error("an answer is not what was made")
	}
}

func TestP21Pad(t *testing.T) {
	for n := range 520 {
		b := counted(n)
		if got := Pad(b); !bytes.Equal(got, padded(b)) {
			t.Errorf("Pad of %d bytes: %x", n, got[n:])
		}
	}
	for _, x := range []struct {
		size, whole int
		end         string
	}{
		{0, 128, "00"}, {111, 128, "0378"}, {112, 256, "0380"}, {127, 256, "03f8"}, {128, 256, "0400"},
		{129, 256, "0408"}, {239, 256, "0778"}, {240, 384, "0780"}, {1 << 21, 1<<21 + 128, "01000000"},
	} {
		got := Pad(counted(x.size))
		end := unhex(t, strings.Repeat("0", 32-len(x.end))+x.end)
		if len(got) != x.whole || got[x.size] != 0x80 || !bytes.Equal(got[x.whole-16:], end) {
			t.Errorf("Pad of %d bytes: %d bytes, at the end %x", x.size, len(got), got[len(got)-16:])
		}
	}
	if !bytes.Equal(Pad(nil), Pad([]byte{})) {
		t.Error("Pad of nil")
	}
}

// TestP21CountOfBits: the number of bits has 16 bytes, which no slice that can be made here needs.
func TestP21CountOfBits(t *testing.T) {
	for _, x := range []struct {
		size uint64
		end  string
	}{
		{1 << 29, "0000000000000000 0000000100000000"}, {1<<61 - 1, "0000000000000000 fffffffffffffff8"},
		{1 << 61, "0000000000000001 0000000000000000"}, {1<<64 - 1, "0000000000000007 fffffffffffffff8"},
	} {
		got := padding(x.size)
		if (x.size+uint64(len(got)))%128 != 0 || len(got) < 17 || len(got) > 144 {
			t.Errorf("behind %d bytes stand %d", x.size, len(got))
		}
		if !bytes.Equal(got[len(got)-16:], unhex(t, x.end)) {
			t.Errorf("behind %d bytes: %x", x.size, got)
		}
	}
}

func TestP21Piece(t *testing.T) {
	states := [][8]uint64{{}, Start(), StartShort(), {1: 1, 7: 1 << 63}}
	ones := [8]uint64{}
	for i := range ones {
		ones[i] = ^uint64(0)
	}
	states = append(states, ones)
	for i := range 8 {
		var one [8]uint64
		one[i] = 0x0123456789abcdef
		states = append(states, one)
	}
	pieces := [][]byte{make([]byte, 128), bytes.Repeat([]byte{0xff}, 128), counted(128), padded([]byte("abc"))}
	for i := range 16 {
		one := make([]byte, 128)
		one[9*i%128] = 0x80
		pieces = append(pieces, one)
	}
	for _, state := range states {
		for _, piece := range pieces {
			if got, want := Piece(state, [128]byte(piece)), behind(state, piece); got != want {
				t.Fatalf("Piece of %x behind %x: %x, want %x", piece, state, got, want)
			}
		}
	}
}

// TestP21SumIsPiecesOfPad: piece by piece, from the start on, one comes to the sum.
func TestP21SumIsPiecesOfPad(t *testing.T) {
	for _, n := range append([]int{1, 64, 300}, named...) {
		b := counted(n)
		whole, short := Start(), StartShort()
		for rest := Pad(b); len(rest) > 0; rest = rest[128:] {
			whole = Piece(whole, [128]byte(rest))
			short = Piece(short, [128]byte(rest))
		}
		w, s := Sum512(b), Sum(b)
		for i := range 8 {
			if new(big.Int).SetBytes(w[8*i:8*i+8]).Uint64() != whole[i] {
				t.Errorf("%d bytes: word %d of Sum512", n, i)
			}
			if i < 4 && new(big.Int).SetBytes(s[8*i:8*i+8]).Uint64() != short[i] {
				t.Errorf("%d bytes: word %d of Sum", n, i)
			}
		}
	}
}

func TestP22HowBytesAreCut(t *testing.T) {
	same := func(name string, b []byte, list ...[]byte) {
		t.Helper()
		if Sum512(list...) != sha512.Sum512(b) || Sum(list...) != api.Digest(sha512.Sum512_256(b)) {
			t.Fatalf("%d bytes, %s", len(b), name)
		}
	}
	same("no slices", nil)
	same("a nil slice", nil, nil)
	same("empty slices", nil, nil, []byte{}, nil)
	for _, n := range append([]int{1, 2, 255, 256, 257, 384, 400}, named...) {
		b := counted(n)
		for at := range n + 1 {
			same("two slices", b, b[:at], b[at:])
			same("two, and empty ones", b, nil, b[:at], []byte{}, nil, b[at:], nil)
			same("three slices", b, b[:at/2], b[at/2:at], b[at:])
		}
		for size := 1; size <= 130; size++ {
			var list [][]byte
			for rest := b; len(rest) > 0; {
				wide := min(size, len(rest))
				list = append(list, rest[:wide], nil)
				rest = rest[wide:]
			}
			same("slices of one size", b, list...)
		}
	}
	for _, a := range append([]int{1, 126, 130, 256}, named...) {
		for _, b := range named {
			for _, c := range named {
				whole := counted(a + b + c)
				same("three of the named sizes", whole, whole[:a], whole[a:a+b], whole[a+b:])
			}
		}
	}
}

func TestP22OtherBytesOtherSums(t *testing.T) {
	seen := map[[64]byte]string{}
	look := func(name string, b ...[]byte) {
		s := Sum512(b...)
		if old, there := seen[s]; there {
			t.Errorf("%s and %s have one sum", old, name)
		}
		seen[s] = name
	}
	for n := range 300 {
		look("noughts", make([]byte, n))
	}
	look("80 behind nothing", []byte{0x80})
	for _, n := range named {
		look("padded already", Pad(make([]byte, n)))
	}
	look("ab", []byte("a"), []byte("b"))
	look("ba", []byte("b"), []byte("a"))
}

// TestRuleNewMemory: nothing that is handed in is changed, kept, looked at later, or handed out, nor is its spare room.
func TestRuleNewMemory(t *testing.T) {
	for _, n := range []int{0, 3, 111, 112, 128, 200} {
		whole := bytes.Repeat([]byte{0xaa}, 600)
		clean := bytes.Clone(whole)
		b := whole[100 : 100+n]
		list := [][]byte{b, nil, whole[400:400], b, {1}, {2}}
		sum, short := Sum512(list[:4]...), Sum(list[:4]...)
		one, two := Pad(b), Pad(b)
		if !bytes.Equal(whole, clean) || len(list[1]) != 0 || list[4][0] != 1 || list[5][0] != 2 {
			t.Fatalf("%d bytes: what was handed in is changed", n)
		}
		want := bytes.Clone(two)
		fill(one)
		if !bytes.Equal(whole, clean) || !bytes.Equal(two, want) {
			t.Fatalf("%d bytes: an answer shares memory", n)
		}
		fill(whole)
		if !bytes.Equal(two, want) {
			t.Fatalf("%d bytes: Pad kept what was handed in", n)
		}
		both := bytes.Repeat([]byte{0xaa}, 2*n)
		if sum != sha512.Sum512(both) || short != api.Digest(sha512.Sum512_256(both)) {
			t.Fatalf("%d bytes: a sum", n)
		}
	}
}

// TestRuleCallsApart: no call's answer hangs on the calls ahead of it, nor on what was done to theirs.
func TestRuleCallsApart(t *testing.T) {
	k, start, short := K(), Start(), StartShort()
	spoilt := K()
	clear(spoilt[:])
	state, piece := Start(), [128]byte{}
	Piece(state, piece)
	Sum512(counted(77))
	if state != start || K() != k || Start() != start || StartShort() != short {
		t.Error("the words changed")
	}
	var group sync.WaitGroup
	sums := make([]api.Digest, 16)
	for i := range sums {
		group.Go(func() { sums[i] = Sum(counted(1000 + i)) })
	}
	group.Wait()
	for i, s := range sums {
		if s != api.Digest(sha512.Sum512_256(counted(1000+i))) {
			t.Errorf("sum %d of those that were made at once", i)
		}
	}
}
