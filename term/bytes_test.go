package term

import (
	"bytes"
	"math"
	"testing"
)

func plain(head string, size int) []byte {
	return append([]byte(head), make([]byte, size-len(head))...)
}

// table has n terms.
func table(n int) *Table {
	b := New()
	for i := range n {
		b.Put(Term{Kind: Atom, N: i + 1})
	}
	return b
}

func expectPlace(t *testing.T, b *Table, p []byte, want int, is bool) {
	t.Helper()
	kept, n := bytes.Clone(p), b.Len()
	if i, ok := b.Place(p); i != want || ok != is {
		t.Fatalf("Place(%x) of %d terms = %d, %v", p, n, i, ok)
	}
	if !bytes.Equal(p, kept) || b.Len() != n {
		t.Fatalf("Place(%x) changed something", kept)
	}
}

func TestBytes(t *testing.T) {
	for i, head := range map[int]string{
		0:                  "T",
		1:                  "T\x01",
		255:                "T\xff",
		256:                "T\x00\x01",
		0x0102030405060708: "T\x08\x07\x06\x05\x04\x03\x02\x01",
		math.MaxInt64:      "T\xff\xff\xff\xff\xff\xff\xff\x7f",
		-1:                 "T\xff\xff\xff\xff\xff\xff\xff\xff",
		math.MinInt64:      "T\x00\x00\x00\x00\x00\x00\x00\x80",
	} {
		p := Bytes(i)
		if !bytes.Equal(p, plain(head, 32)) {
			t.Errorf("Bytes(%d) = %x", i, p)
		}
		clear(p)
		if !bytes.Equal(Bytes(i), plain(head, 32)) {
			t.Errorf("Bytes(%d) shares memory", i)
		}
	}
}

func TestPlace(t *testing.T) {
	b := table(300)
	for i := range 300 {
		for _, more := range []int{0, 1, 32, 500} {
			expectPlace(t, b, append(Bytes(i), make([]byte, more)...), i, true)
		}
		for n := range 32 {
			expectPlace(t, b, Bytes(i)[:n], 0, false)
		}
	}
	expectPlace(t, b, nil, 0, false)
}

func TestPlaceOfNoTerm(t *testing.T) {
	for _, n := range []int{0, 1, 2, 255, 256, 300} {
		b := table(n)
		for _, i := range []int{n, n + 1, 1000, 1 << 31, 1 << 32, math.MaxInt, -1, -2, math.MinInt} {
			expectPlace(t, b, Bytes(i), 0, false)
		}
		for bit := 16; bit < 64; bit++ { // each of the eight bytes counts
			for i := range min(n, 3) {
				expectPlace(t, b, Bytes(1<<bit+i), 0, false)
			}
		}
	}
}

// TestPlaceOfOtherBytes turns each bit of the bytes of a term.
func TestPlaceOfOtherBytes(t *testing.T) {
	const n, i = 8, 5
	b := table(n)
	p := append(Bytes(i), make([]byte, 40)...)
	for k := range 8 * len(p) {
		p[k/8] ^= 1 << (k % 8)
		if k/8 == numFrom && k%8 < 3 { // it is the bytes of another term
			expectPlace(t, b, p, i^1<<(k%8), true)
		} else {
			expectPlace(t, b, p, 0, false)
		}
		p[k/8] ^= 1 << (k % 8)
	}
	expectPlace(t, b, p, i, true)
}

func TestRead(t *testing.T) {
	b := table(3)
	for i := range 3 {
		expect(t, "Read", b.Read(Bytes(i)), i)
		expect(t, "Read of more zero bytes", b.Read(append(Bytes(i), make([]byte, 32)...)), i)
	}
	expect(t, "Len", b.Len(), 3)
	for i, s := range []string{"", "a", "T", "\x00", string(make([]byte, 32)), string(Bytes(1)[:31]), string(Bytes(1)) + "\x01", "t" + string(Bytes(1)[1:]), "\xff\xfe", string(Bytes(1000)), string(Bytes(-1))} {
		p := []byte(s)
		expect(t, "Read", b.Read(p), 3+i)
		if got, ok := b.Get(3 + i); !ok || !same(got, Term{Kind: Raw, Text: s}) || string(p) != s {
			t.Errorf("Read(%q) put %v, %v", s, got, ok)
		}
		expect(t, "Read once more", b.Read(p), 3+i)
		expect(t, "Read of its bytes", b.Read(Bytes(3+i)), 3+i)
		expect(t, "Put", b.Put(Term{Kind: Raw, Text: s}), 3+i)
		expect(t, "Len", b.Len(), 4+i)
		clear(p)
		expect(t, "Find after a change of the argument", b.Put(Term{Kind: Raw, Text: s}), 3+i)
	}
	expect(t, "Read of nil", b.Read(nil), 3)
	expect(t, "Read of no bytes", b.Read([]byte{}), 3)
}

// TestReadAhead: bytes that stand for no term yet are Raw, until they stand for one.
func TestReadAhead(t *testing.T) {
	b := table(2)
	expect(t, "Read", b.Read(Bytes(3)), 2)
	expectPlace(t, b, Bytes(3), 0, false)
	expect(t, "Put", b.Put(Term{Kind: Atom, N: 9}), 3)
	expect(t, "Read", b.Read(Bytes(3)), 3)
	if got, ok := b.Get(2); !ok || !same(got, Term{Kind: Raw, Text: string(Bytes(3))}) {
		t.Errorf("the Raw term became %v, %v", got, ok)
	}
	expect(t, "Read of the next index", b.Read(Bytes(4)), 4)
	expectPlace(t, b, Bytes(4), 4, true)
	expect(t, "Len", b.Len(), 5)
}
