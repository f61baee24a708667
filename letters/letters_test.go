package letters_test

import (
	"strings"
	"testing"
	"unsafe"

	"herald/letters"
)

const (
	smallOnes = "abcdefghijklmnopqrstuvwxyz"
	largeOnes = "ABCDEFGHIJKLMNOPQRSTUVWXYZ"
)

// TestEveryByte: just A to Z become others, wherever they stand.
func TestEveryByte(t *testing.T) {
	for b := range 256 {
		s := string([]byte{byte(b)})
		want := s
		if at := strings.Index(largeOnes, s); at >= 0 {
			want = smallOnes[at : at+1]
		}
		for _, around := range []struct{ ahead, behind string }{{"", ""}, {"a", ""}, {"", "z"}, {"\xc3", "\x80"}, {"-", "\xff"}} {
			if got := letters.Small(around.ahead + s + around.behind); got != around.ahead+want+around.behind {
				t.Errorf("Small(%q) = %q", around.ahead+s+around.behind, got)
			}
		}
	}
}

func TestSmall(t *testing.T) {
	for s, want := range map[string]string{
		"":                     "",
		largeOnes + smallOnes:  smallOnes + smallOnes,
		"Accept-Language":      "accept-language",
		"\u00c9\u0130\u212a":   "\u00c9\u0130\u212a",
		"K\u212aS\u017f\xffA":  "k\u212as\u017f\xffa",
		"@AZ[`az{\x00 \t\r\n0": "@az[`az{\x00 \t\r\n0",
	} {
		if got := letters.Small(s); got != want {
			t.Errorf("Small(%q) = %q, want %q", s, got, want)
		}
	}
}

// TestNew: the text that is answered stands in memory of its own, changed or not.
func TestNew(t *testing.T) {
	for _, s := range []string{"abc", "ABC"} {
		if unsafe.StringData(letters.Small(s)) == unsafe.StringData(s) {
			t.Errorf("Small(%q) shares memory with it", s)
		}
	}
}
