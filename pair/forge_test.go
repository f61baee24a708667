package pair_test

import (
	"math/rand"
	"strings"
	"testing"

	"herald/api"
)

// TestForge: what lies in one pipe becomes the bytes, whatever lay there; the other
// pipe and both ends stay as they were.
func TestForge(t *testing.T) {
	texts := []string{"", "x", sheet, "\x00", "\x00\xff\n\"", strings.Repeat("long", 50000), api.Preface}
	for name, b := range moments(t) {
		for _, text := range texts {
			for n := range int64(2) {
				want := b.last
				b.all(forge(n, text))
				if n == 0 {
					want.ToClient = text
				} else {
					want.ToServer = text
				}
				want.Still = want.ToServer+want.ToClient == "" && want.Idle == [2]bool{true, true}
				if wrong := unlike(b.last, want); wrong != "" {
					t.Fatalf("P25.1: %s: Forge %d: %s", name, n, wrong)
				}
			}
		}
	}
}

// TestForgeNowhere: another N is refused, and nothing is changed.
func TestForgeNowhere(t *testing.T) {
	for _, b := range moments(t) {
		for _, n := range []int64{2, -1, 3, 10, 1 << 32, 1<<32 + 1, longest, -longest - 1} {
			b.wantRefused(forge(n, "x"), 1)
			b.wantRefused(forge(n, ""), 1)
		}
	}
}

// TestForgedAway: what lay in the pipe never comes.
func TestForgedAway(t *testing.T) {
	b := begun(t)
	b.all(ask(get("/a")), move(moveClient, 0), forge(1, ""))
	b.rounds(9)
	b.wantPipes(0, 0)
	b.wantLog()
	b.wantAnswers()
	if b.last.Flying != 1 {
		t.Errorf("P25.1: %d requests are under way", b.last.Flying)
	}
	b.wantDead(0, 0)
}

// TestForgedBetween: what is sent later comes behind what was forged.
func TestForgedBetween(t *testing.T) {
	ping := "\x00\x00\x08\x06\x00\x00\x00\x00\x00pingpong"
	pong := "\x00\x00\x08\x06\x01\x00\x00\x00\x00pingpong"
	b := begun(t)
	b.all(forge(1, ping[:5]), move(moveToServer, 3), forge(1, ping[3:]), ask(get("/a")), move(moveClient, 0))
	if !strings.HasPrefix(b.last.ToServer, ping[3:]) || len(b.last.ToServer) <= len(ping)-3 {
		t.Fatalf("P25.1: % x", b.last.ToServer)
	}
	b.all(move(moveToServer, -1), move(moveServer, 0))
	if !strings.HasPrefix(b.last.ToClient, pong) {
		t.Fatalf("P25.1: % x", b.last.ToClient)
	}
	b.all(forge(0, b.last.ToClient[len(pong):]))
	b.rounds(9)
	b.wantAnswers(answer(1, false, 1, "A"))
}

// TestAnyBytes: whatever lies in a pipe, each call ends and answers as the ends do,
// and Rounds come to an end.
func TestAnyBytes(t *testing.T) {
	r := rand.New(rand.NewSource(254))
	dead := [2]int{}
	for i := range 300 {
		k := &maker{r: r, window: 1, most: 300}
		b := newBoth(t, randomWorld(r, 1, 300))
		if i%3 > 0 {
			b.rounds(2)
		}
		for range 40 {
			if r.Intn(8) > 0 {
				b.do(k.next())
				continue
			}
			b.all(forge(r.Int63n(2), forgedBytes(r, b)))
		}
		b.rounds(1 << 30)
		b.wantPipes(0, 0)
		for n := range dead {
			if b.last.Dead[n] {
				dead[n]++
			}
		}
	}
	for i, n := range dead {
		if n < 20 || n > 280 {
			t.Errorf("end %d died %d times: too few, or too many, to tell", i, n)
		}
	}
}

// forgedBytes are any, frames of any kind, or what lies there with a byte changed.
func forgedBytes(r *rand.Rand, b *both) string {
	lies := oneOf(r, b.last.ToClient, b.last.ToServer)
	switch r.Intn(4) {
	case 0:
		text := make([]byte, r.Intn(40))
		r.Read(text)
		return string(text)
	case 1:
		if lies == "" {
			return ""
		}
		text := []byte(lies)
		text[r.Intn(len(text))] = byte(r.Intn(256))
		return string(text)
	case 2:
		return lies + lies
	}
	text := ""
	for range 1 + r.Intn(4) {
		payload := make([]byte, r.Intn(12))
		r.Read(payload)
		text += string([]byte{0, 0, byte(len(payload)), byte(r.Intn(12)), byte(r.Intn(64)), 0, 0, 0, byte(r.Intn(8))}) + string(payload)
	}
	return text
}
