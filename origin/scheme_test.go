package origin_test

import (
	"strings"
	"testing"

	"herald/api"
)

// TestSpellingsOfSchemes: Parse takes them all, the other calls the small one alone.
func TestSpellingsOfSchemes(t *testing.T) {
	tried := 0
	for scheme, port := range usualPorts {
		b := wantSet(t, origin80("a"), origin443("a"), of("http", "a", 443), of("https", "a", 80))
		for _, s := range spellings(scheme) {
			tried++
			wantParse(t, s+"://a", of(scheme, "a", port))
			wantParse(t, s+"://B.c:7", of(scheme, "b.c", 7))
			for _, authority := range []string{"a", "A", "a:80", "a:443"} {
				b.wantHas(t, s, authority, s == scheme)
			}
			if s != scheme {
				wantNoPrint(t, of(s, "a", port))
				wantNoSet(t, originError, of(s, "a", port))
			}
		}
	}
	if tried != 16+32 {
		t.Errorf("%d spellings were tried, want %d", tried, 16+32)
	}
}

// TestNoSchemes: a scheme with a byte left out, put in or changed is none, but
// where the one is the other.
func TestNoSchemes(t *testing.T) {
	b := wantSet(t, origin80("a"), origin443("a"))
	others := []string{"", "h", "ftp", "ws", "wss", "file", "data", "httpx", "https2", "http2", "shttp", "http+https", "httphttps", "http/1.1", "//", ":", "http:", "https:", "http://", "a", "a.b", "null", "*", "80", "443"}
	for _, s := range append(append(bent("http"), bent("https")...), others...) {
		plain := inSmallLetters(s)
		if plain == "http" || plain == "https" {
			wantParse(t, s+"://a", of(plain, "a", usualPorts[plain]))
		} else {
			wantNoParse(t, s+"://a")
			wantNoParse(t, s+"://a:80")
			wantNoParse(t, s)
		}
		b.wantHas(t, s, "a", s == "http" || s == "https")
		if s != "http" && s != "https" {
			for _, port := range []int{1, 80, 443} {
				wantNoPrint(t, of(s, "a", port))
				wantNoSet(t, originError, of(s, "a", port))
			}
		}
	}
}

// TestSchemeEnds: the three bytes behind a scheme, cut short, bent or doubled.
func TestSchemeEnds(t *testing.T) {
	whole := "https://a"
	for i := range len(whole) {
		wantNoParse(t, whole[:i])
		if i > 0 {
			wantNoParse(t, whole[i:])
		}
	}
	for _, end := range []string{"", ":", "/", "//", ":/", "/:", "//:", ":/:/", ":///", "::/", "::", "/://", ":// ", " ://", ": //", ":/ /", ":\\\\", ":/\\", ":\\/", "://://", "://:", "://@", "%3a//", ":%2f%2f", "\x00://", "://\x00", ";//", "\uff1a//"} {
		for _, scheme := range []string{"http", "https", "HTTP"} {
			wantNoParse(t, scheme+end+"a")
			wantNoParse(t, scheme+end)
			wantNoParse(t, scheme+end+"a:80")
		}
	}
	wantParse(t, whole, origin443("a"))
}

// TestNothingAboutIt: nothing stands ahead of a text or behind it.
func TestNothingAboutIt(t *testing.T) {
	for _, text := range []string{"https://a", "http://a.b:8080"} {
		for _, s := range []string{" ", "\t", "\n", "\r\n", "\x00", "/", "//", "?", "#", ":", ".", "-", ",", ";", "@", "\\", "\"", "<", "\u00a0", "\xff", "://", "https://a"} {
			wantNoParse(t, text+s)
			wantNoParse(t, s+text)
		}
		wantNoParse(t, text+text)
		wantNoParse(t, text+","+text)
		wantNoParse(t, text+"/index.html")
	}
	wantNoParse(t, "")
}

// TestBentTexts: a text with any one byte wrong, against the model.
func TestBentTexts(t *testing.T) {
	taken := 0
	b := wantSet(t, of("https", "ab.c-d", 8080), of("https", "ab.c-d", 808), of("https", "ab.c-d", 443), of("http", "ab.c-d", 8080))
	for _, text := range []string{"https://ab.c-d:8080", "HTTP://x-y.Z", "http://a.bc:65535", "https://0:443"} {
		for _, s := range bent(text) {
			if holdParse(t, s) {
				taken++
			}
			scheme, authority, _ := strings.Cut(s, "://")
			b.holdHas(t, scheme, authority)
			o := api.Origin{Scheme: scheme, Host: authority, Port: 443}
			holdPrint(t, o)
			holdOf(t, []api.Origin{origin80("q"), o})
		}
	}
	if taken < 1000 {
		t.Errorf("of the bent texts %d were taken: too few to tell", taken)
	}
}
