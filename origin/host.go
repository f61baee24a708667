package origin

const (
	mostHost  = 253 // bytes
	mostLabel = 63  // bytes between two dots
)

// isHost goes through the labels with a dot behind the last one too, so that all
// of them end in the same way.
func isHost(s string) bool {
	if len(s) > mostHost {
		return false
	}
	size, last := 0, '.' // the label's bytes so far, and what stood before
	for _, r := range s + "." {
		switch {
		case r == '.' && 1 <= size && size <= mostLabel && last != '-':
			size = 0
		case isOfLabel(r), r == '-' && size > 0:
			size++
		default:
			return false
		}
		last = r
	}
	return true
}

func isOfLabel(r rune) bool { return 'a' <= r && r <= 'z' || '0' <= r && r <= '9' }
