package script

import (
	"strconv"
	"strings"
)

const (
	lineEnd = "\n"
	blank   = " "
	remark  = "#"
)

// The kinds of words.
const (
	bare   = iota // a name or a number
	quoted        // its text is what it stands for
	ending        // where a line ends, of those that say something
)

type word struct {
	kind int
	text string
}

// wordsOf takes a text apart. Of a line that isn't made of words there is the end
// alone, with which nothing begins.
func wordsOf(text string) []word {
	var all []word
	for line := range strings.Lines(text) {
		line = strings.TrimSuffix(line, lineEnd)
		if line == "" || strings.HasPrefix(line, remark) {
			continue
		}
		all = append(append(all, wordsOfLine(line)...), word{kind: ending})
	}
	return all
}

func wordsOfLine(line string) []word {
	var l []word
	for {
		w, size := firstWord(line)
		l = append(l, w)
		if size == len(line) {
			return l
		}
		rest, ok := strings.CutPrefix(line[size:], blank)
		if !ok {
			return nil
		}
		line = rest
	}
}

// firstWord is the word with which a line begins, and how many bytes it has there. A
// quote that isn't a quoted text's has none.
func firstWord(line string) (word, int) {
	if strings.HasPrefix(line, `"`) {
		text, size := unquoted(line)
		return word{quoted, text}, size
	}
	name, _, _ := strings.Cut(line, blank)
	return word{bare, name}, len(name)
}

// numberOf takes a number in its one form alone.
func numberOf(s string) (int64, bool) {
	n, err := strconv.ParseInt(s, 10, 64)
	return n, err == nil && strconv.FormatInt(n, 10) == s
}
