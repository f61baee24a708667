package script_test

import (
	"math/rand"
	"strings"
	"testing"

	"herald/script"
)

// holdQuote holds Quote to the model and to P26.4.
func holdQuote(t *testing.T, s string) string {
	t.Helper()
	got := script.Quote(s)
	if want := modelQuote(s); got != want {
		t.Fatalf("P26.4: Quote(%s) = %s, want %s", shown(s), shown(got), shown(want))
	}
	for i := range len(got) {
		if got[i] < 32 || got[i] > 126 {
			t.Fatalf("P26.4: Quote(%s) has the byte %d", shown(s), got[i])
		}
	}
	line := "forge 0 " + got
	l, e := script.Parse(line)
	switch {
	case len(line) > mostLine && e != longError:
		t.Fatalf("P26.1: Parse(%s): %d", shown(line), e)
	case len(line) <= mostLine && (e != 0 || !same(l, named(l)) || len(l) != 1 || l[0].Move.Bytes != s):
		t.Fatalf("P26.4: Parse(%s) = %s, %d", shown(line), brief(l), e)
	}
	return got
}

// TestQuotedBytes: all texts of one byte and of two, no two of which have one form.
func TestQuotedBytes(t *testing.T) {
	of := make(map[string]string)
	hold := func(s string) {
		t.Helper()
		q := holdQuote(t, s)
		if other, known := of[q]; known {
			t.Fatalf("P26.4: %q and %q have one: %s", s, other, q)
		}
		of[q] = s
	}
	hold("")
	for a := range 256 {
		hold(string([]byte{byte(a)}))
		for b := range 256 {
			hold(string([]byte{byte(a), byte(b)}))
		}
	}
	if len(of) != 1+256+65536 {
		t.Errorf("P26.4: %d forms", len(of))
	}
}

// TestQuotedLikeForms: texts that are forms, and pieces of some.
func TestQuotedLikeForms(t *testing.T) {
	of := make(map[string]string)
	pieces := []string{`"`, `\`, `x`, `4`, `1`, `A`, "\x00", ` `}
	var go3 func(s string, n int)
	go3 = func(s string, n int) {
		q := holdQuote(t, s)
		if other, known := of[q]; known {
			t.Fatalf("P26.4: %q and %q have one: %s", s, other, q)
		}
		of[q] = s
		if n > 0 {
			for _, p := range pieces {
				go3(s+p, n-1)
			}
		}
	}
	go3("", 5)
	s := "a\"\\\x00"
	for range 5 { // the form of the form of the form
		s = holdQuote(t, s)
	}
}

// TestOneForm: the escapes are just those that there must be, in small digits.
func TestOneForm(t *testing.T) {
	for s, want := range map[string]string{
		"": `""`, "a": `"a"`, " ": `" "`, "~": `"~"`, "/": `"/"`, "'": `"'"`, "x41": `"x41"`, "\"": `"\""`, "\\": `"\\"`, `\x41`: `"\\x41"`, `"a"`: `"\"a\""`,
		"\x00": `"\x00"`, "\t": `"\x09"`, "\n": `"\x0a"`, "\r": `"\x0d"`, "\x1f": `"\x1f"`, "\x7f": `"\x7f"`, "\x80": `"\x80"`, "\xab": `"\xab"`, "\xcd": `"\xcd"`, "\xef": `"\xef"`, "\xff": `"\xff"`, "\u00e9": `"\xc3\xa9"`, "\u2028": `"\xe2\x80\xa8"`, "\ufffd": `"\xef\xbf\xbd"`,
	} {
		if got := script.Quote(s); got != want {
			t.Errorf("P26.4: Quote(%q) = %s, want %s", s, got, want)
		}
		holdQuote(t, s)
	}
}

// TestRandomQuotes: any texts, with many of the bytes that are escaped, up to those
// that are too long for a line, and far above.
func TestRandomQuotes(t *testing.T) {
	r := rand.New(rand.NewSource(262))
	for range 3000 {
		holdQuote(t, randomText(r, 300))
	}
	for n := 1015; n < 1030; n++ {
		holdQuote(t, strings.Repeat("\xfe", n))
		holdQuote(t, strings.Repeat("\"", 2*n))
		holdQuote(t, strings.Repeat("q", 4*n))
	}
	for _, n := range []int{65535, 65536, 65537, 1 << 20} {
		holdQuote(t, strings.Repeat("\x01\"\\q", n/4))
	}
}
