package run_test

import (
	"slices"
	"strings"
	"testing"

	"herald/run"
)

// bigPage is a page with as many bytes as a line has room for, or nearly.
var bigPage = `page "x" "/a" 200 "" "" "` + strings.Repeat("z", 4000) + `"`

// talkative is a script whose answers are long, and these lines behind it: there are
// so many requests, and the pair is still.
func talkative(requests int, lines ...string) []string {
	l := append(worldBut(pageA, bigPage, ruleLine, `rule "x" "/a"`), many(requests, getA)...)
	return slices.Concat(l, []string{"rounds 1000000000"}, lines)
}

func play(t *testing.T, lines []string) string {
	t.Helper()
	told, e := run.Play(lined(lines...))
	if e != 0 {
		t.Fatalf("P27.1: Play(%s): %d", shown(lined(lines...)), e)
	}
	return told
}

// filled is the script with lines behind it that change nothing, so that so many bytes
// are told of it all: five by cancel, three by dead.
func filled(t *testing.T, size int, l []string) []string {
	t.Helper()
	told := len(play(t, l))
	for _, question := range []string{"answers", "log", "still"} {
		each := len(play(t, append(slices.Clone(l), question))) - told
		n := (size - told - 20) / each // what is left is for the finer ones
		l = append(l, many(n, question)...)
		told += n * each
	}
	fives := (size - told) * 2 % 3
	l = append(l, many(fives, "cancel 99")...)
	l = append(l, many((size-told-5*fives)/3, "dead")...)
	if got := play(t, l); len(got) != size || strings.Contains(got, "no 3\n") {
		t.Fatalf("P27.1: %d bytes are told, want %d, and none refused: %s", len(got), size, shown(got[max(0, len(got)-100):]))
	}
	return l
}

// wantRest holds what is told of lines behind a script that has told all but so many
// bytes of what may be told.
func wantRest(t *testing.T, room int, full []string, lines []string, want ...string) {
	t.Helper()
	text := lined(append(slices.Clone(full), lines...)...)
	told, ok := hold(t, text)
	if !ok || len(told) < mostTold-room {
		t.Fatalf("P27.1: %d bytes, %t", len(told), ok)
	}
	if got := told[mostTold-room:]; got != lined(want...) {
		t.Errorf("P27.1: where there is room for %d bytes, %s: %s, want %s", room, shown(lined(lines...)), shown(got), shown(lined(want...)))
	}
}

// TestToldLimit: a line that fits just so, and one that is longer by a byte, with what
// comes behind it, also above the limit.
func TestToldLimit(t *testing.T) {
	for room, c := range map[int]struct{ lines, want []string }{
		0:  {[]string{"dead", "still", getA, "cancel 99", "answers", "dead"}, many(6, "no 3")},
		1:  {[]string{"dead", "dead"}, many(2, "no 3")},
		2:  {[]string{"dead", "dead"}, many(2, "no 3")},
		3:  {[]string{"still", "dead", "dead"}, many(3, "no 3")},
		4:  {[]string{"dead", "dead", "dead"}, []string{"ok", "no 3", "no 3"}},
		5:  {[]string{"cancel 99", "dead", "cancel 99"}, []string{"no 5", "no 3", "no 3"}},
		6:  {[]string{"still", "dead"}, []string{"no 3", "no 3"}},
		7:  {[]string{"still", "dead"}, []string{"ok yes", "no 3"}},
		8:  {[]string{"cache", "dead", "dead"}, []string{"no 3", "ok", "no 3"}},
		9:  {[]string{"cache", "dead"}, []string{"ok 0 0 0", "no 3"}},
		12: {[]string{"cache", "dead", "dead"}, []string{"ok 0 0 0", "ok", "no 3"}},
		13: {[]string{"answers", "cache", "dead", "dead"}, []string{"no 3", "no 3", "ok", "no 3"}},
		17: {[]string{"log", "answers", "trace client", "dead"}, []string{"no 3", "no 3", "no 3", "no 3"}},
		18: {[]string{"log", "answers", "trace client", "dead", "dead"}, []string{"no 3", "no 3", "no 3", "ok", "no 3"}},
	} {
		wantRest(t, room, filled(t, mostTold-room, talkative(20)), c.lines, c.want...)
	}
	full := filled(t, mostTold-3, talkative(20))
	wantRest(t, 3, full, []string{"dead"}, "ok")
	wantRest(t, 3, full, []string{"dead", "dead"}, "ok", "no 3")
}

// TestListsLimit: of a list that is longer by a byte nothing is told; one that fits
// just so is told whole.
func TestListsLimit(t *testing.T) {
	for _, question := range []string{"answers", "log", "trace client", "trace server"} {
		begin := talkative(9)
		ahead := play(t, begin)
		lines := strings.TrimPrefix(play(t, append(slices.Clone(begin), question)), ahead)
		if strings.Count(lines, "\n") < 10 {
			t.Fatalf("%s tells %s", question, shown(lines))
		}
		just := strings.Split(strings.TrimSuffix(lines, "\n"), "\n")
		wantRest(t, len(lines), filled(t, mostTold-len(lines), begin), []string{question, "dead"}, append(just, "no 3")...)
		wantRest(t, len(lines)-1, filled(t, mostTold-len(lines)+1, begin), []string{question, "still", "dead", question, "dead"}, "no 3", "ok yes", "ok", "no 3", "ok")
		wantRest(t, len(lines)+2, filled(t, mostTold-len(lines)-2, begin), []string{"dead", question, "dead"}, "ok", "no 3", "ok")
	}
}

// TestTooLongAtOnce: lists that are longer than all that may be told, and that all
// others are told as ever.
func TestTooLongAtOnce(t *testing.T) {
	begin := talkative(150, append(many(150, getA), "rounds 1000000000")...)
	lines := []string{"answers", "still", "answers", "trace client", "cache", "trace server", "log"}
	ahead, log := play(t, begin), play(t, append(slices.Clone(begin), "log"))
	want := ahead + "no 3\nok yes\nno 3\nno 3\nok 0 0 0\nno 3\n" + strings.TrimPrefix(log, ahead)
	if wrong := unlike(play(t, append(slices.Clone(begin), lines...)), want); wrong != "" {
		t.Errorf("P27.1: %s", wrong)
	}
	hold(t, lined(append(begin, lines...)...))
}

// TestDoneAllTheSame: what tells too much is done. Each time there is room for eight
// bytes: no 3 for what is done, and ok for what comes behind, or, if that has become
// something else by what was done, no 3 again.
func TestDoneAllTheSame(t *testing.T) {
	under := talkative(20, slices.Concat(many(4, getA), many(4, "client 0"), []string{"toserver -1"}, many(6, "server 0"))...)
	full := filled(t, mostTold-8, under)
	wantRest(t, 8, full, []string{"cancel 21"}, "ok")
	wantRest(t, 8, full, []string{"toclient -1", "cancel 21"}, "no 3", "no 3")
	wantRest(t, 8, full, []string{"toclient -1", "cancel 23"}, "no 3", "no 3")
	wantRest(t, 8, full, []string{"toclient -1", "cancel 24"}, "no 3", "ok") // its response hasn't come
	wantRest(t, 8, full, []string{"toclient 9999", "cancel 24"}, "ok 9999", "no 3")
	// What is refused is refused there too, and tells its code where that has room.
	wantRest(t, 8, full, []string{"cancel 99", "cancel 21"}, "no 5", "ok")
	wantRest(t, 4, filled(t, mostTold-4, under), []string{"cancel 99", "cancel 21"}, "no 3", "no 3")
}
