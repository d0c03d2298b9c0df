package prim

import (
	"bytes"
	"slices"
	"testing"

	"pawl/api"
	"pawl/term"
)

// expectTerm holds the term for which p stands against want.
func expectTerm(t *testing.T, what string, p *Prim, got []byte, want term.Term) {
	t.Helper()
	i, ok := p.Table().Place(got)
	x, _ := p.Table().Get(i)
	if !ok || !bytes.Equal(got, term.Bytes(i)) || x.Kind != want.Kind || !slices.Equal(x.Of, want.Of) || x.Text != want.Text || x.N != want.N {
		t.Errorf("%s = %x: %v, %v, not %v", what, got, x, ok, want)
	}
}

func place(t *testing.T, p *Prim, key []byte) int {
	t.Helper()
	i, ok := p.Table().Place(key)
	if !ok {
		t.Fatalf("%x is no term", key)
	}
	return i
}

func TestFreshIsAtom(t *testing.T) {
	p := start(t, api.Terms)
	for i := range 300 {
		expectTerm(t, "Fresh", p, p.Fresh(), term.Term{Kind: term.Atom, N: i + 1})
		p.Name(filler(i))
	}
}

func TestKindsOfTerms(t *testing.T) {
	p := start(t, api.Terms)
	a, b := p.Fresh(), p.Fresh()
	i, k := place(t, p, a), place(t, p, b)
	expectTerm(t, "Public", p, p.Public(b), term.Term{Kind: term.Public, Of: []int{k}})
	expectBytes(t, "SignKey", p.SignKey(b), p.Public(b))
	expectTerm(t, "Agree", p, p.Agree(b, p.Public(a)), term.Term{Kind: term.Agreed, Of: []int{i, k}})
	expectTerm(t, "Agree", p, p.Agree(a, p.Public(b)), term.Term{Kind: term.Agreed, Of: []int{i, k}})
	expectTerm(t, "Agree with no public key", p, p.Agree(b, a), term.Term{Kind: term.Agreed, Of: []int{k, i}, N: 1})
	expectTerm(t, "Seal", p, p.Seal(a, []byte("with"), []byte("a text")), term.Term{Kind: term.Sealed, Of: []int{i}, Text: "4:with6:a text"})
	expectTerm(t, "Seal of nothing", p, p.Seal(a, nil, nil), term.Term{Kind: term.Sealed, Of: []int{i}, Text: "0:0:"})
	sig := p.Sign(a, []byte("a text"))
	expectTerm(t, "Sign", p, sig[:32], term.Term{Kind: term.Signed, Of: []int{i}, Text: "a text"})
	expectBytes(t, "the rest of it", sig[32:], make([]byte, 32))
	expectTerm(t, "Sign of nothing", p, p.Sign(a, nil)[:32], term.Term{Kind: term.Signed, Of: []int{i}})
	expectTerm(t, "Name", p, p.Name([]byte("ab"), nil, []byte("c")), term.Term{Kind: term.Raw, Text: "2:ab0:1:c"})
	expectTerm(t, "Name of nothing", p, p.Name(), term.Term{Kind: term.Raw})
	for n, key := range p.Derive(a, [][]byte{b, a, b}, "label", 9) {
		expectTerm(t, "Derive", p, key, term.Term{Kind: term.Derive, Of: []int{i, k, i, k}, Text: "label", N: n})
	}
	expectTerm(t, "Derive of a key alone", p, p.Derive(b, nil, "", 1)[0], term.Term{Kind: term.Derive, Of: []int{k}})
}

// TestRawKeys: bytes that stand for no term are Raw ones, of any length.
func TestRawKeys(t *testing.T) {
	for _, key := range []string{"", "a", "T", string(filler(31)), string(filler(32)), string(filler(33)), string(make([]byte, 32)), string(term.Bytes(1000))} {
		p := start(t, api.Terms)
		p.Fresh()
		k := []byte(key)
		expectTerm(t, "Public", p, p.Public(k), term.Term{Kind: term.Public, Of: []int{1}})
		expectTerm(t, "the key", p, term.Bytes(1), term.Term{Kind: term.Raw, Text: key})
		expectTerm(t, "Seal", p, p.Seal(k, nil, nil), term.Term{Kind: term.Sealed, Of: []int{1}, Text: "0:0:"})
		expectTerm(t, "Sign", p, p.Sign(k, nil)[:32], term.Term{Kind: term.Signed, Of: []int{1}})
		expectTerm(t, "Derive", p, p.Derive(k, [][]byte{k}, "", 1)[0], term.Term{Kind: term.Derive, Of: []int{1, 1}})
		expectTerm(t, "Agree", p, p.Agree(k, k), term.Term{Kind: term.Agreed, Of: []int{1, 1}, N: 1})
		if p.Table().Len() != 7 {
			t.Errorf("%d terms", p.Table().Len())
		}
	}
}

// TestDeriveReadsOnce: a key that comes to stand for the first of the derived terms is the same for the next ones.
func TestDeriveReadsOnce(t *testing.T) {
	p := start(t, api.Terms)
	for n, key := range p.Derive(term.Bytes(1), nil, "label", 8) {
		expectTerm(t, "Derive", p, key, term.Term{Kind: term.Derive, Of: []int{0}, Text: "label", N: n})
	}
}

// TestForeseenKey: who seals by bytes that stand for no term yet has not sealed by the key that they stand for later.
func TestForeseenKey(t *testing.T) {
	p := start(t, api.Terms)
	foreseen := term.Bytes(3)
	sealed := p.Seal(foreseen, nil, []byte("text"))
	sig := p.Sign(foreseen, nil)
	key := p.Fresh()
	expectBytes(t, "Fresh", key, foreseen)
	expectShut(t, p, key, nil, sealed, "the key is new")
	if p.Check(p.SignKey(key), nil, sig) {
		t.Error("the key is new, and has signed already")
	}
	if got, ok := p.Open(key, nil, p.Seal(key, nil, []byte("text"))); !ok || string(got) != "text" {
		t.Errorf("Open = %q, %v", got, ok)
	}
}

// TestNoTermsAreMade by Open, by Check, or by a Derive of no keys.
func TestNoTermsAreMade(t *testing.T) {
	p := start(t, api.Terms)
	key := p.Fresh()
	sealed, sig, public := p.Seal(key, nil, nil), p.Sign(key, nil), p.SignKey(key)
	n := p.Table().Len()
	for _, k := range [][]byte{key, public, nil, filler(32), term.Bytes(n), sig} {
		p.Open(k, nil, sealed)
		p.Open(key, nil, k)
		p.Open(key, k, sealed)
		p.Check(k, nil, sig)
		p.Check(public, k, sig)
		p.Check(public, nil, k)
		p.Derive(k, [][]byte{k}, "label", 0)
		p.Derive(k, [][]byte{k}, "label", -1)
	}
	if p.Table().Len() != n {
		t.Errorf("%d terms were made", p.Table().Len()-n)
	}
}

// TestKeysWithZeroBytes: term.Place takes zero bytes behind those of a term, and so do all functions that name no length.
func TestKeysWithZeroBytes(t *testing.T) {
	p := start(t, api.Terms)
	key := p.Fresh()
	long := append(bytes.Clone(key), make([]byte, 40)...)
	expectBytes(t, "Public", p.Public(long), p.Public(key))
	if got, ok := p.Open(long, nil, p.Seal(key, nil, []byte("text"))); !ok || string(got) != "text" {
		t.Errorf("Open = %q, %v", got, ok)
	}
	public, sig := append(p.SignKey(key), 0), p.Sign(key, nil)
	if !p.Check(public, nil, sig) {
		t.Error("Check")
	}
	for n := 32; n < 100; n++ {
		if p.Check(public, nil, append(bytes.Clone(sig), make([]byte, 36)...)[:n]) != (n == SigSize) {
			t.Errorf("a signature of %d bytes", n)
		}
	}
	shown := p.Seal(key, nil, nil)
	for n := 33; n < 70; n++ {
		expectShut(t, p, key, nil, append(bytes.Clone(shown), make([]byte, 40)...)[:n], "more zero bytes")
	}
}

// TestTermsOfOthers has terms in the table that this package has not made.
func TestTermsOfOthers(t *testing.T) {
	p := start(t, api.Terms)
	key := p.Fresh()
	k := place(t, p, key)
	put := func(kind byte, text string, of ...int) []byte {
		return term.Bytes(p.Table().Put(term.Term{Kind: kind, Of: of, Text: text}))
	}
	for _, text := range []string{"", "0:", "0:0:0:", "0:1:", "x", "0:0:x", "1:a0:", "00:0:"} {
		expectShut(t, p, key, nil, put(term.Sealed, text, k), text)
	}
	for _, of := range [][]int{nil, {k, k}, {-1}, {1 << 40}, {k + 1}} {
		expectShut(t, p, key, nil, put(term.Sealed, "0:0:", of...), "of other terms")
		sig := append(put(term.Signed, "", of...), make([]byte, 32)...)
		if p.Check(p.SignKey(key), nil, sig) || len(of) != 1 && p.Check(put(term.Public, "", of...), nil, sig) {
			t.Errorf("a signature of %v", of)
		}
	}
	for _, kind := range []byte{0, term.Atom, term.Raw, term.Public, term.Agreed, term.Derive, term.Signed, 255} {
		expectShut(t, p, key, nil, put(kind, "0:0:", k), "another kind")
	}
	for _, kind := range []byte{0, term.Atom, term.Raw, term.Public, term.Agreed, term.Derive, term.Sealed, 255} {
		if p.Check(p.SignKey(key), nil, append(put(kind, "", k), make([]byte, 32)...)) {
			t.Errorf("a signature of the kind %d", kind)
		}
		if kind != term.Public && p.Check(put(kind, "", k), nil, p.Sign(key, nil)) {
			t.Errorf("a public key of the kind %d", kind)
		}
	}
	if got, ok := p.Open(key, []byte("w"), put(term.Sealed, "1:w4:text", k)); !ok || string(got) != "text" {
		t.Errorf("Open = %q, %v", got, ok)
	}
}
