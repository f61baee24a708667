package origin_test

import (
	"fmt"
	"math"
	"strconv"
	"testing"
)

// TestEveryPort: all ports, and other numbers of up to five digits, with both schemes.
func TestEveryPort(t *testing.T) {
	for n := range 100000 {
		if n > 66000 && n%97 != 0 {
			continue
		}
		for scheme, usual := range usualPorts {
			o, text := of(scheme, "a.b", n), fmt.Sprintf("%s://a.b:%d", scheme, n)
			switch {
			case n < 1 || n > 65535:
				wantNoParse(t, text)
				wantNoPrint(t, o)
				wantNoSet(t, originError, o)
			case n == usual:
				wantParse(t, text, o)
				wantPrint(t, o, scheme+"://a.b")
			default:
				wantParse(t, text, o)
				wantPrint(t, o, text)
			}
		}
	}
}

// TestUsualPorts: named and not named, of both schemes.
func TestUsualPorts(t *testing.T) {
	wantParse(t, "http://a", of("http", "a", 80))
	wantParse(t, "http://a:80", of("http", "a", 80))
	wantParse(t, "http://a:443", of("http", "a", 443))
	wantParse(t, "https://a", of("https", "a", 443))
	wantParse(t, "https://a:443", of("https", "a", 443))
	wantParse(t, "https://a:80", of("https", "a", 80))
	wantPrint(t, of("http", "a", 80), "http://a")
	wantPrint(t, of("http", "a", 443), "http://a:443")
	wantPrint(t, of("https", "a", 443), "https://a")
	wantPrint(t, of("https", "a", 80), "https://a:80")

	plain, other := wantSet(t, of("http", "a", 80), of("https", "a", 443)), wantSet(t, of("http", "a", 443), of("https", "a", 80))
	for scheme, usual := range map[string]string{"http": ":80", "https": ":443"} {
		for _, named := range []string{"", ":80", ":443", ":8", ":4", ":44", ":8080", ":8443", ":65535"} {
			plain.wantHas(t, scheme, "a"+named, named == "" || named == usual)
			other.wantHas(t, scheme, "a"+named, named != usual && (named == ":80" || named == ":443"))
		}
	}
}

// TestNoPorts: what a colon and anything that is no port are.
func TestNoPorts(t *testing.T) {
	b := wantSet(t, origin80("a"), of("http", "a", 8), of("http", "a", 1), of("http", "a", 65535), origin443("a"))
	for _, s := range []string{
		"", "0", "00", "000", "00000", "000000", "01", "08", "080", "0080", "00080", "000080", "0443", "065535", "00001", "0000000001",
		"65536", "65616", "65979", "70000", "80000", "99999", "100000", "100080", "131152", "443443", "655350", "800000", "4294967376", "4294967739", "18446744073709551616", "18446744073709551696", "18446744073709552059", "99999999999999999999999999",
		"+80", "-80", "+", "-", "+0", "-0", "--80", "-1", "80-", "80+", "+1", " 80", "80 ", "8 0", "\t80", "80\n", "80\x00", "\x0080", "8_0", "_80", "80_", "0x50", "0x1", "0b1", "0o1", "1e2", "8e1", "80.", "80.0", ".80", "8,0", "a", "80a", "a80", "8a0", "http", "https", "80/", "/80", "/", "80?", "80#", "80@", "@80", "80@a", "@",
		":", ":80", "80:", "80:80", "::", ":80:", "1:2", "0:80", "80:0", "80::", "::80", "443:80", "\u0668\u0660", "\uff18\uff10", "8\u0660", "\xff", "80\xff", "*", "%38", "inf", "NaN", "nil",
	} {
		for scheme, usual := range usualPorts {
			wantNoParse(t, scheme+"://a:"+s)
			b.wantHas(t, scheme, "a:"+s, false)
			// The colon is no part of a host, and what stands behind it neither.
			wantNoPrint(t, of(scheme, "a:"+s, usual))
			wantNoSet(t, originError, of(scheme, "a:"+s, usual))
		}
	}
	for _, s := range []string{":80", ":443", ":", "::", ":80:80", ":a"} {
		wantNoParse(t, "http://"+s)
		wantNoParse(t, "http"+s)
		wantNoParse(t, "http"+s+"://a")
		b.wantHas(t, "http", s, false)
	}
}

// TestEveryByteOfPorts: alone, first, in the middle and last.
func TestEveryByteOfPorts(t *testing.T) {
	taken := 0
	b := wantSet(t, origin80("a"), of("http", "a", 1), of("http", "a", 111), of("http", "a", 11))
	for c := range 256 {
		s := string([]byte{byte(c)})
		for _, port := range []string{s, s + "11", "1" + s + "1", "11" + s, s + "1", "1" + s, "1111" + s, "11111" + s, s + "1111", s + "11111"} {
			if holdParse(t, "https://a:"+port) {
				taken++
			}
			b.holdHas(t, "http", "a:"+port)
		}
	}
	// Of the longest none is a port; of those that begin with the byte 0 isn't one,
	// and of five digits in all just those from 1 to 6.
	if want := 9 + 9 + 10 + 10 + 9 + 10 + 10 + 6; taken != want {
		t.Errorf("%d ports were taken, want %d", taken, want)
	}
}

// TestNumbersThatAreNoPort: in an origin; what they would be in fewer bits doesn't count.
func TestNumbersThatAreNoPort(t *testing.T) {
	for _, n := range []int{0, -1, -80, -443, -65535, -65536, 65536, 65537, 65536 + 80, 65536 + 443, 131072 + 80, 1<<32 + 80, 1<<32 + 443, -1<<32 + 80, 1<<48 + 80, math.MaxInt32, math.MinInt32, math.MaxInt64, math.MinInt64, math.MinInt64 + 80} {
		for scheme := range usualPorts {
			wantNoPrint(t, of(scheme, "a", n))
			wantNoSet(t, originError, of(scheme, "a", n))
			if n != 0 {
				wantNoParse(t, scheme+"://a:"+strconv.Itoa(n))
			}
		}
	}
}
