package pair_test

import (
	"testing"

	"herald/api"
)

const sheet = "\x00\x00\x00\x04\x00\x00\x00\x00\x00" // SETTINGS without params

// TestFirstExample: what is there at the beginning, and the first bytes.
func TestFirstExample(t *testing.T) {
	b := newBoth(t, world())
	b.wantPipes(0, 0)
	b.wantStill(false)
	b.all(move(moveClient, 0))
	b.wantPipes(33, 0)
	if b.last.ToServer != api.Preface+sheet {
		t.Errorf("P25.1: %q", b.last.ToServer)
	}
	b.all(move(moveToServer, 10))
	b.wantPipes(23, 0)
	if b.last.ToServer != (api.Preface + sheet)[10:] {
		t.Errorf("P25.1: %q", b.last.ToServer)
	}
}

// secondExample is a pair behind the second one.
func secondExample(t *testing.T) *both {
	t.Helper()
	b := newBoth(t, world())
	b.rounds(1)
	if len(b.last.ServerTrace) < 2 || len(b.last.UserTrace) < 2 {
		t.Fatalf("P25.1: behind one round not both have the other's SETTINGS: %s, %s", shown(b.last.ServerTrace), shown(b.last.UserTrace))
	}
	b.all(ask(get("/a")))
	b.rounds(9)
	b.wantStill(true)
	b.wantAnswers(answer(1, false, 1, "A"))
	b.wantHeld(1, 48, 0)
	b.wantLog(api.Serve{Stream: 1, Version: 1}, api.Serve{Stream: 2, Version: 1, Push: true})
	return b
}

func TestSecondExample(t *testing.T) { secondExample(t) }

func TestThirdExample(t *testing.T) {
	b := secondExample(t)
	b.all(put(page("/b", "B2")), ask(get("/b")))
	b.wantAnswers(answer(1, false, 1, "A"), answer(2, true, 2, "B"))
	b.all(ask(get("/b")))
	b.rounds(9)
	b.wantAnswers(answer(1, false, 1, "A"), answer(2, true, 2, "B"), answer(3, false, 3, "B2"))
}

func TestFourthExample(t *testing.T) {
	for _, nine := range []string{"xxxxxxxxx", "\xff\xff\xff\x00\x00\x00\x00\x00\x01"} {
		b := secondExample(t)
		b.all(forge(0, nine))
		b.wantPipes(0, 9)
		b.wantDead(0, 0)
		b.all(move(moveToClient, -1))
		b.wantPipes(0, 0)
		b.wantDead(0, frameSize)
	}
}
